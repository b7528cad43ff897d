/- A Writer of package wire: numbers, texts, what was written. -/
import Derived.Test.YtfblbholkhdldaaDoorWriter
import Derived.Test.YtfblbholkhdldaaDoorLebPut
import Derived.BigQuiet
import Derived.BigRegion
import Derived.RegionTactic
import Derived.WalkKit
import Derived.ProofKit
import Derived.Handy
import Derived.Below
import Derived.BigQuiet
import Derived.Lib.Hide
import Derived.IntWalk
import Derived.Outline
import Derived.WalkLawsBesides
import Derived.WalkSpells
namespace Go.Proofs.YtfblbholkhdldaaDoor
open Go.RowKit
attribute [local go_sem] strV
theorem own_kept {w w' : World} {B : Nat} {e : TypeId} {v : Value} {n : Nat} {xs : List Value} (h : w.ownsRow B e 1 v n xs) (hb : Below w.heap.size w w') : w'.ownsRow B e 1 v n xs := by
  obtain ⟨hl, hr⟩ := h
  refine ⟨hl, ?_⟩
  rcases hr with h | ⟨g, cap, cur, hv, hB, hg, r⟩
  · exact .inl h
  · exact .inr ⟨g, cap, cur, hv, hB, by rw [hb.block g (Array.getElem?_eq_some_iff.1 hg).1]; exact hg, r⟩
theorem WAt.below {B b : Nat} {w w' : World} {l : List UInt8} {err : Int} (h : WAt B b w l err) (hb : Below w.heap.size w w') : WAt B b w' l err := by
  obtain ⟨hB, p, v, h1, hp, hown, hne⟩ := h
  exact ⟨hB, p, v, by rw [hb.block b (Array.getElem?_eq_some_iff.1 h1).1]; exact h1, hp, own_kept hown hb, hne⟩
theorem WAt.lt {B b : Nat} {w : World} {l : List UInt8} {err : Int} (h : WAt B b w l err) : b < w.heap.size := by
  obtain ⟨hB, p, v, h1, _⟩ := h; exact (Array.getElem?_eq_some_iff.1 h1).1
theorem WAt.err {B b : Nat} {w : World} {l : List UInt8} {err : Int} (h : WAt B b w l err) : w.cell? ⟨b, 2, none⟩ = some (.int .i64 err) := by
  obtain ⟨hB, p, v, h1, _⟩ := h; exact cell_heap h1 2
theorem wnew_any (B : Nat) (w : World) (hB : B ≤ w.heap.size) :
    Calls Tryd.prog 65 #[] w fun e w' => e = .returned (.pointer (some ⟨w.heap.size, 0, none⟩)) ∧ WAt B w.heap.size w' [] 0 ∧ Below w.heap.size w w' := by
  go_enter Tryd.func65, Tryd.ntmps65
  go_wp2
  go_ret
  refine ⟨rfl, ⟨hB, _, _, by show (w.heap.push _)[w.heap.size]? = _; rw [Array.getElem?_push_size], .inl rfl, ⟨rfl, .inl ⟨rfl, rfl⟩⟩, by simp [Value.ownBlock]⟩, by repeat (first | assumption | exact Below.refl _ _ | refine bch ?_ (by assumption) | refine Below.alloc ?_ (by simp) _)⟩
set_option maxRecDepth 100000 in
set_option maxHeartbeats 1600000 in
theorem wadd_ok (B b : Nat) (w : World) (l : List UInt8) (s : ByteArray) (h : WAt B b w l 0) (hBw : B ≤ w.heap.size) (hlen : l.length + s.size ≤ 140737488355328) :
    Calls Tryd.prog 104 #[.pointer (some ⟨b, 0, none⟩), .string s] w fun e w' => e = .returned (.tuple #[]) ∧ WAt B b w' (l ++ s.data.toList) 0 ∧ Below B w w' := by
  have he := h.err
  go_enter Tryd.func104, Tryd.ntmps104
  go_wp2_with (go_at_call 113; refine (wstr_any B b _ l 0 s h hBw hlen).mono ?_; rintro e w1 ⟨rfl, h1, hb1⟩)
  go_returns
  exact ⟨rfl, h1, hb1⟩
set_option maxRecDepth 100000 in
set_option maxHeartbeats 1600000 in
theorem wnum_ok (B b : Nat) (w : World) (l : List UInt8) (x : Nat) (h : WAt B b w l 0) (hBw : B ≤ w.heap.size) (hx : x ≤ 72057594037927935) (hlen : l.length ≤ 1000000) :
    Calls Tryd.prog 89 #[.pointer (some ⟨b, 0, none⟩), .int .i64 (x : Int)] w fun e w' => e = .returned (.tuple #[]) ∧ WAt B b w' (l ++ putL x) 0 ∧ Below B w w' := by
  have henc : encB (x : Int) = true := by unfold encB; exact decide_eq_true (by omega)
  have hpos : 0 < (putL (x : Int)).length := by unfold putL; rw [henc, if_pos rfl]; exact grp_pos _ _
  have hle : (putL (x : Int)).length ≤ 8 := by unfold putL; rw [henc, if_pos rfl]; exact grp_le _ _
  obtain ⟨q, hq⟩ : ∃ q : ByteArray, q = ⟨(putL (x : Int)).toArray⟩ := ⟨_, rfl⟩
  have hql : q.data.toList = putL (x : Int) := by rw [hq]
  have hsv : strV (putL (x : Int)) = .string q := by rw [hq]; rfl
  have hqs : q.size = (putL (x : Int)).length := by rw [← str_len, hql]
  have hne := str_ne'' (show 0 < q.size by omega)
  have hne2 := str_ne' (show 0 < q.size by omega)
  rw [← hql]
  clear hq hql henc
  go_enter Tryd.func89, Tryd.ntmps89
  go_wp2_with (first | (go_at_call 103; refine (put_any _ _).mono ?_; rintro e w1 ⟨rfl, hb1⟩; rw [hsv]) | (go_at_call 104; refine (wadd_ok B b _ l q (h.below hb1) (Nat.le_trans hBw hb1.size) (by omega)).mono ?_; rintro e w2 ⟨rfl, h2, hb2⟩))
  go_returns
  exact ⟨rfl, h2, (hb1.mono hBw).trans hb2⟩
set_option maxRecDepth 100000 in
set_option maxHeartbeats 1600000 in
theorem wtext_ok (B b : Nat) (w : World) (l : List UInt8) (s : ByteArray) (h : WAt B b w l 0) (hBw : B ≤ w.heap.size) (hs : s.size ≤ 1000000) (hlen : l.length ≤ 900000) :
    Calls Tryd.prog 90 #[.pointer (some ⟨b, 0, none⟩), .string s] w fun e w' => e = .returned (.tuple #[]) ∧ WAt B b w' (l ++ putL (s.size : Int) ++ s.data.toList) 0 ∧ Below B w w' := by
  have hle : (putL (s.size : Int)).length ≤ 8 := by
    unfold putL
    split
    · exact grp_le _ _
    · simp
  go_enter Tryd.func90, Tryd.ntmps90
  go_wp2_with (first | (go_at_call 89; refine (wnum_ok B b _ l s.size h hBw (by omega) (by omega)).mono ?_; rintro e w1 ⟨rfl, h1, hb1⟩) | (go_at_call 104; refine (wadd_ok B b _ _ s h1 (Nat.le_trans hBw hb1.size) (by rw [List.length_append]; omega)).mono ?_; rintro e w2 ⟨rfl, h2, hb2⟩))
  go_returns
  exact ⟨rfl, h2, hb1.trans hb2⟩
set_option maxRecDepth 100000 in
set_option maxHeartbeats 1600000 in
theorem bstr_any (B b : Nat) (w : World) (l : List UInt8) (err : Int) (h : WAt B b w l err) (h0 : l ≠ []) :
    Calls Tryd.prog 91 #[.pointer (some ⟨b, 0, none⟩)] w fun e w' => e = .returned (.string ⟨l.toArray⟩) ∧ Below B w w' := by
  obtain ⟨hB, p, v, hbk, _, hown, hne⟩ := h
  have hl0 : l.length ≠ 0 := by simpa using h0
  obtain ⟨g, cap, cur, rfl, hbg, hg, hnc, hcm, hcs, htake⟩ : ∃ g cap cur, v = .slice (some ⟨g, 0, none⟩) l.length cap ∧ B ≤ g ∧ w.heap[g]? = some (.cells cur 5 (0, 0)) ∧ l.length ≤ cap ∧ cap ≤ maxLen ∧ cur.size = cap * 1 ∧ cur.toList.take (l.length * 1) = l.map bv := by
    rcases hown.2 with ⟨_, hz⟩ | ⟨g, cap, cur, hv, r⟩
    · exact absurd hz hl0
    · exact ⟨g, cap, cur, hv, r⟩
  have c1 : w.drew.cell? ⟨b, 1, none⟩ = some (.slice (some ⟨g, 0, none⟩) l.length cap) := by
    have : w.drew.heap[b]? = some (.cells #[p, .slice (some ⟨g, 0, none⟩) l.length cap, .int .i64 err] 118 (0, 0)) := hbk
    exact cell_heap this 1
  have hSD : (Builtin.unsafeSliceData_ #[72] 126 #[.slice (some ⟨g, 0, none⟩) l.length cap]).run Tryd.prog w.drew = .ok (.pointer (some ⟨g, 0, none⟩)) w.drew :=
    Lib.run_unsafeSliceData_row _ _ _ _ _ _ (by omega)
  have hUS : (Builtin.unsafeString_ #[126, 3] 9 #[.pointer (some ⟨g, 0, none⟩), .int .i64 l.length]).run Tryd.prog w.drew = .ok (.string ⟨l.toArray⟩) (w.drew.freeze ⟨g, 0, none⟩ l.length) := by
    refine Lib.run_unsafeString_row w.drew 126 3 9 5 Tryd.underlying126 (by kernel_rfl) g cur.size (by have hg' : w.drew.heap[g]? = some (.cells cur 5 (0, 0)) := hg; simp [World.shape?, hg']) l h0 (by omega) (by unfold maxLen at hcm; omega) ?_
    intro j x hx
    have := hown.cells (g := g) rfl j (bv x) (by simp [hx])
    exact this
  go_enter Tryd.func91, Tryd.ntmps91
  go_wp2
  go_region
  all_goals (go_wp2; go_ret; exact ⟨rfl, Lib.below_freeze (Below.drew (Below.refl B w)) (p := ⟨g, 0, none⟩) hbg _⟩)
set_option maxRecDepth 100000 in
set_option maxHeartbeats 1600000 in
theorem wbytes_ok (B b : Nat) (w : World) (l : List UInt8) (h : WAt B b w l 0) (h0 : l ≠ []) :
    Calls Tryd.prog 67 #[.pointer (some ⟨b, 0, none⟩)] w fun e w' => e = .returned (.tuple #[.string ⟨l.toArray⟩, .int .i64 0]) ∧ Below B w w' := by
  have he := h.err
  go_enter Tryd.func67, Tryd.ntmps67
  go_wp2_with (go_at_call 91; refine (bstr_any B b _ l 0 h h0).mono ?_; rintro e w1 ⟨rfl, hb1⟩)
  go_returns
  exact ⟨rfl, hb1⟩
end Go.Proofs.YtfblbholkhdldaaDoor
