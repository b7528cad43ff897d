/- A Writer of package wire: what was written, asked for as often as one likes, and with nothing written. -/
import Derived.Test.YtfblbholkhdldaaDoorWriter3
import Derived.BigQuiet
import Derived.BigRegion
import Derived.RegionTactic
import Derived.WalkKit
import Derived.ProofKit
import Derived.Handy
import Derived.Below
import Derived.Lib.Hide
import Derived.IntWalk
import Derived.Outline
import Derived.WalkLawsBesides
import Derived.WalkSpells
namespace Go.Proofs.YtfblbholkhdldaaDoor
open Go.RowKit
attribute [local go_sem] strV
/-- Block b is a Writer that has written l and bears err, and may have been asked for it (its row may be frozen). -/
def WRd (B b : Nat) (w : World) (l : List UInt8) (err : Int) : Prop :=
  B ≤ b ∧ ∃ p v, w.heap[b]? = some (.cells #[p, v, .int .i64 err] 118 (0, 0)) ∧ v.ownBlock ≠ some b ∧
    ((v = .slice none 0 0 ∧ l = []) ∨ ∃ g cap cur fz, v = .slice (some ⟨g, 0, none⟩) l.length cap ∧ B ≤ g ∧ w.heap[g]? = some (.cells cur 5 fz) ∧ l.length ≤ cap ∧ cap ≤ maxLen ∧ cur.size = cap ∧ cur.toList.take l.length = l.map bv)
theorem WAt.rd {B b : Nat} {w : World} {l : List UInt8} {err : Int} (h : WAt B b w l err) : WRd B b w l err := by
  obtain ⟨hB, p, v, hb, hp, hown, hne⟩ := h
  refine ⟨hB, p, v, hb, hne, ?_⟩
  rcases hown.2 with ⟨rfl, hz⟩ | ⟨g, cap, cur, rfl, hbg, hg, hnc, hcm, hcs, htake⟩
  · exact .inl ⟨rfl, List.eq_nil_of_length_eq_zero hz⟩
  · exact .inr ⟨g, cap, cur, _, rfl, hbg, hg, hnc, hcm, by simpa using hcs, by simpa using htake⟩
theorem WRd.err {B b : Nat} {w : World} {l : List UInt8} {err : Int} (h : WRd B b w l err) : w.cell? ⟨b, 2, none⟩ = some (.int .i64 err) := by
  obtain ⟨hB, p, v, h1, _⟩ := h; exact cell_heap h1 2
theorem WRd.below {B b : Nat} {w w' : World} {l : List UInt8} {err : Int} (h : WRd B b w l err) (hb : Below w.heap.size w w') : WRd B b w' l err := by
  obtain ⟨hB, p, v, h1, hne, hr⟩ := h
  refine ⟨hB, p, v, by rw [hb.block b (Array.getElem?_eq_some_iff.1 h1).1]; exact h1, hne, ?_⟩
  rcases hr with h | ⟨g, cap, cur, fz, hv, hB, hg, r⟩
  · exact .inl h
  · exact .inr ⟨g, cap, cur, fz, hv, hB, by rw [hb.block g (Array.getElem?_eq_some_iff.1 hg).1]; exact hg, r⟩
theorem WRd.lt {B b : Nat} {w : World} {l : List UInt8} {err : Int} (h : WRd B b w l err) : b < w.heap.size := by
  obtain ⟨hB, p, v, h1, _⟩ := h; exact (Array.getElem?_eq_some_iff.1 h1).1
theorem freeze_heap {w : World} {g : Nat} {cur : Array Value} {e : TypeId} {fz : Nat × Nat} (h : w.heap[g]? = some (.cells cur e fz)) (n : Nat) : ∃ fz', (w.freeze ⟨g, 0, none⟩ n).heap[g]? = some (.cells cur e fz') := by
  obtain ⟨lo, hi⟩ := fz
  unfold World.freeze
  split
  · exact ⟨_, h⟩
  · refine ⟨if lo == hi then (0, 0 + n) else (min lo 0, max hi (0 + n)), ?_⟩
    simp only [Array.getElem?_modify, if_true, h]
    rfl
theorem freeze_other {w : World} {g k : Nat} (hne : k ≠ g) (n : Nat) : (w.freeze ⟨g, 0, none⟩ n).heap[k]? = w.heap[k]? := by
  unfold World.freeze
  split
  · rfl
  · simp [Array.getElem?_modify, Ne.symm hne]
set_option maxRecDepth 100000 in
set_option maxHeartbeats 1600000 in
theorem bstr_rd (B b : Nat) (w : World) (l : List UInt8) (err : Int) (h : WRd B b w l err) (hBw : B ≤ w.heap.size) :
    Calls Tryd.prog 91 #[.pointer (some ⟨b, 0, none⟩)] w fun e w' => e = .returned (.string ⟨l.toArray⟩) ∧ WRd B b w' l err ∧ Below B w w' := by
  have hkeep := h
  obtain ⟨hB, p, v, hbk, hne, hr⟩ := h
  rcases hr with ⟨rfl, rfl⟩ | ⟨g, cap, cur, fz, rfl, hbg, hg, hnc, hcm, hcs, htake⟩
  · have c1 : w.drew.cell? ⟨b, 1, none⟩ = some (.slice none 0 0) := cell_heap (w := w.drew) hbk 1
    have hSD : (Builtin.unsafeSliceData_ #[72] 126 #[.slice none 0 0]).run Tryd.prog w.drew = .ok (.pointer none) w.drew := Lib.run_unsafeSliceData_nil _ _ _ _ _
    have hUS : (Builtin.unsafeString_ #[126, 3] 9 #[.pointer none, .int .i64 0]).run Tryd.prog w.drew = .ok (.string .empty) w.drew := Lib.run_unsafeString_none _ _ _ _ _
    go_enter Tryd.func91, Tryd.ntmps91
    go_wp2
    go_region
    all_goals (go_wp2; go_ret; exact ⟨rfl, hkeep.below ((Below.refl _ _).drew), (Below.refl _ _).drew⟩)
  by_cases h0 : l = []
  · subst h0
    by_cases hc0 : cap = 0
    · subst hc0
      have c1 : w.drew.cell? ⟨b, 1, none⟩ = some (.slice (some ⟨g, 0, none⟩) 0 0) := cell_heap (w := w.drew) hbk 1
      have hgl := (Array.getElem?_eq_some_iff.1 hg).1
      have hbl := (Array.getElem?_eq_some_iff.1 hbk).1
      have c2 : (w.alloc (.view ⟨g, 0, none⟩ 5)).drew.cell? ⟨b, 1, none⟩ = some (.slice (some ⟨g, 0, none⟩) 0 0) := by
        refine cell_heap (w := (w.alloc (.view ⟨g, 0, none⟩ 5)).drew) (c := #[p, .slice (some ⟨g, 0, none⟩) 0 0, .int .i64 err]) (e := 118) ?_ 1
        show (w.heap.push _)[b]? = _
        rw [Array.getElem?_push_lt hbl, ← Array.getElem?_eq_getElem hbl]; exact hbk
      have hSD : (Builtin.unsafeSliceData_ #[72] 126 #[.slice (some ⟨g, 0, none⟩) 0 0]).run Tryd.prog w.drew = .ok (.pointer (some ⟨w.heap.size, 0, none⟩)) (w.drew.alloc (.view ⟨g, 0, none⟩ 5)) :=
        Lib.run_unsafeSliceData_zero _ _ _ 5 Tryd.underlying126 _ _ (5, cur.size) (by show World.shape? w g = _; unfold World.shape?; rw [hg])
      have hUS : ∀ W, (Builtin.unsafeString_ #[126, 3] 9 #[.pointer (some ⟨w.heap.size, 0, none⟩), .int .i64 0]).run Tryd.prog W = .ok (.string .empty) W := fun W => Lib.run_unsafeString_none _ _ _ _ _
      have hba : Below w.heap.size w (w.alloc (.view ⟨g, 0, none⟩ 5)).drew := ((Below.refl _ _).alloc (Nat.le_refl _) _).drew
      go_enter Tryd.func91, Tryd.ntmps91
      go_wp2
      go_region
      all_goals (go_wp2; go_ret; exact ⟨rfl, hkeep.below hba, hba.mono hBw⟩)
    · have c1 : w.drew.cell? ⟨b, 1, none⟩ = some (.slice (some ⟨g, 0, none⟩) 0 cap) := cell_heap (w := w.drew) hbk 1
      have hSD : (Builtin.unsafeSliceData_ #[72] 126 #[.slice (some ⟨g, 0, none⟩) 0 cap]).run Tryd.prog w.drew = .ok (.pointer (some ⟨g, 0, none⟩)) w.drew := Lib.run_unsafeSliceData_row _ _ _ _ _ _ hc0
      have hUS : (Builtin.unsafeString_ #[126, 3] 9 #[.pointer (some ⟨g, 0, none⟩), .int .i64 0]).run Tryd.prog w.drew = .ok (.string .empty) w.drew := Lib.run_unsafeString_none _ _ _ _ _
      go_enter Tryd.func91, Tryd.ntmps91
      go_wp2
      go_region
      all_goals (go_wp2; go_ret; exact ⟨rfl, hkeep.below ((Below.refl _ _).drew), (Below.refl _ _).drew⟩)
  have hl0 : l.length ≠ 0 := by simpa using h0
  have hne' : b ≠ g := fun e => hne (by simp [Value.ownBlock, e])
  have c1 : w.drew.cell? ⟨b, 1, none⟩ = some (.slice (some ⟨g, 0, none⟩) l.length cap) := cell_heap (w := w.drew) hbk 1
  have hSD : (Builtin.unsafeSliceData_ #[72] 126 #[.slice (some ⟨g, 0, none⟩) l.length cap]).run Tryd.prog w.drew = .ok (.pointer (some ⟨g, 0, none⟩)) w.drew :=
    Lib.run_unsafeSliceData_row _ _ _ _ _ _ (by omega)
  have hUS : (Builtin.unsafeString_ #[126, 3] 9 #[.pointer (some ⟨g, 0, none⟩), .int .i64 l.length]).run Tryd.prog w.drew = .ok (.string ⟨l.toArray⟩) (w.drew.freeze ⟨g, 0, none⟩ l.length) := by
    refine Lib.run_unsafeString_row w.drew 126 3 9 5 Tryd.underlying126 (by kernel_rfl) g cur.size (by have hg' : w.drew.heap[g]? = some (.cells cur 5 fz) := hg; simp [World.shape?, hg']) l h0 (by omega) (by unfold maxLen at hcm; omega) ?_
    intro j x hx
    have hadd : (⟨g, 0, none⟩ : Addr).add j = ⟨g, j, none⟩ := by unfold Addr.add; by_cases h : j = 0 <;> simp [h]
    have hjl : j < l.length := (List.getElem?_eq_some_iff.1 hx).1
    have e1 : cur.toList[j]? = some (bv x) := by
      have := congrArg (fun q : List Value => q[j]?) htake
      simp only [List.getElem?_take, hjl, if_true, List.getElem?_map, hx, Option.map_some] at this
      exact this
    rw [hadd]
    show World.cell? w ⟨g, j, none⟩ = _
    unfold World.cell?
    simp only [hg]
    simpa [bv] using e1
  obtain ⟨fz', hg'⟩ := freeze_heap (w := w.drew) (g := g) (cur := cur) (e := 5) (fz := fz) hg l.length
  have hb' : (w.drew.freeze ⟨g, 0, none⟩ l.length).heap[b]? = _ := (freeze_other (w := w.drew) hne' l.length).trans hbk
  have hend : WRd B b (w.drew.freeze ⟨g, 0, none⟩ l.length) l err := ⟨hB, p, _, hb', hne, .inr ⟨g, cap, cur, fz', rfl, hbg, hg', hnc, hcm, hcs, htake⟩⟩
  go_enter Tryd.func91, Tryd.ntmps91
  go_wp2
  go_region
  all_goals (go_wp2; go_ret; exact ⟨rfl, hend, Lib.below_freeze (Below.drew (Below.refl B w)) (p := ⟨g, 0, none⟩) hbg _⟩)
set_option maxRecDepth 100000 in
set_option maxHeartbeats 1600000 in
theorem wbytes_rd (B b : Nat) (w : World) (l : List UInt8) (h : WRd B b w l 0) (hBw : B ≤ w.heap.size) :
    Calls Tryd.prog 67 #[.pointer (some ⟨b, 0, none⟩)] w fun e w' => e = .returned (.tuple #[.string ⟨l.toArray⟩, .int .i64 0]) ∧ WRd B b w' l 0 ∧ Below B w w' := by
  have he := h.err
  go_enter Tryd.func67, Tryd.ntmps67
  go_wp2_with (go_at_call 91; refine (bstr_rd B b _ l 0 h hBw).mono ?_; rintro e w1 ⟨rfl, h1, hb1⟩)
  go_returns
  exact ⟨rfl, h1, hb1⟩
end Go.Proofs.YtfblbholkhdldaaDoor
