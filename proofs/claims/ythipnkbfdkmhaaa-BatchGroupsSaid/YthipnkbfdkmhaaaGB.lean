/- A Writer of package wire: its builder, walked where it lies. A Writer of package wire: numbers, texts, what was written. A Reader of package wire. A Reader of package wire: a number, a hash; what the examples fix. A Reader of package wire: texts, counts, its end. The document's own reader: numbers, counts. Readers: where they end; the document's own reader: texts. -/
import Derived.Test.YthipnkbfdkmhaaaGA
import Derived.Test.YthipnkbfdkmhaaaRows
import Derived.Lib.Builder
import Derived.Lib.AppendStr
import Derived.Lib.UnsafeStr
import Derived.Laws.Externs
import Derived.Lib.Walk
import Derived.BigRegion
import Derived.RegionTactic
import Derived.WalkKit
import Derived.ProofKit
import Derived.Handy
import Derived.Below
import Derived.BigQuiet
import Derived.Lib.Hide
import Derived.IntWalk
import Derived.Outline
import Derived.WalkLawsBesides
import Derived.WalkSpells
namespace Go.Proofs.Ythipnkbfdkmhaaa
open Go.RowKit
attribute [local go_sem] strV
theorem Try.infoByteW : (Try.prog.info? 5).map (fun i => (i.zero, i.size, i.bytes)) = some (some (.int .u8 0), 1, 1) := by kernel_rfl
theorem Try.sizeBuilder : (Try.prog.info? 127).map (·.size) = some 2 := by kernel_rfl
/-- Block b is a Writer that has written the bytes l and bears the error err; what it owns lies from B on. -/
def WAt (B b : Nat) (w : World) (l : List UInt8) (err : Int) : Prop :=
  B ≤ b ∧ ∃ p v, w.heap[b]? = some (.cells #[p, v, .int .i64 err] 129 (0, 0)) ∧ (p = .pointer none ∨ p = .pointer (some ⟨b, 0, none⟩)) ∧ w.ownsRow B 5 1 v l.length (l.map bv) ∧ v.ownBlock ≠ some b
theorem cell_heap {w : World} {b : Nat} {c : Array Value} {e : TypeId} (h : w.heap[b]? = some (.cells c e (0, 0))) (k : Nat) : w.cell? ⟨b, k, none⟩ = c[k]? := by
  unfold World.cell?; rw [h]; rfl
theorem frozen_heap {w : World} {b : Nat} {c : Array Value} {e : TypeId} (h : w.heap[b]? = some (.cells c e (0, 0))) (k : Nat) : w.frozen? ⟨b, k, none⟩ = false := by
  unfold World.frozen?; rw [h]; simp
set_option maxRecDepth 100000 in
set_option maxHeartbeats 1600000 in
theorem copy_used (b : Nat) (w : World) (h0 : w.cell? ⟨b, 0, none⟩ = some (.pointer (some ⟨b, 0, none⟩))) :
    Calls Try.prog 134 #[.pointer (some ⟨b, 0, none⟩)] w fun e w' => e = .returned (.tuple #[]) ∧ w' = w := by
  obtain ⟨j, hj, _⟩ := Option.map_eq_some_iff.1 Try.sizeBuilder
  go_enter Try.func134, Try.ntmps134
  go_wp2
  rw [Lib.run_neq_ptr_same w _ Try.underlying124 hj]
  go_wp2
  go_returns
  exact ⟨rfl, rfl⟩
set_option maxRecDepth 100000 in
set_option maxHeartbeats 1600000 in
theorem copy_fresh (b : Nat) (w : World) (h0 : w.cell? ⟨b, 0, none⟩ = some (.pointer none)) (hsh : w.shape? b = some (129, 3)) (hfz : w.frozen? ⟨b, 0, none⟩ = false) :
    Calls Try.prog 134 #[.pointer (some ⟨b, 0, none⟩)] w fun e w' => e = .returned (.tuple #[]) ∧ w' = w.setCell ⟨b, 0, none⟩ (.pointer (some ⟨b, 0, none⟩)) := by
  obtain ⟨j, hj, hjs⟩ := Option.map_eq_some_iff.1 Try.sizeBuilder
  go_enter Try.func134, Try.ntmps134
  go_wp2
  rw [Lib.run_to_unsafe w ⟨b, 0, none⟩ Try.underlying124 Try.underlying167 hj (by rw [hjs]; decide) hsh (Nat.zero_lt_succ 2)]
  simp only [Result.andThen]
  rw [Oper.upon_value]
  go_wp2
  rw [run_callFunc_extern Try.func136 (by kernel_rfl) (by kernel_rfl) (by kernel_rfl) (e := Extern.AbiNoEscape.same) (by kernel_rfl)]
  rw [Lib.run_noEscape]
  simp only [Result.andThen]
  rw [Oper.upon_value]
  go_wp2
  rw [Lib.run_from_unsafe w ⟨b, 0, none⟩ Try.underlying167 Try.underlying124 hj hsh (by kernel_rfl)]
  simp only [Result.andThen]
  rw [Oper.upon_value]
  go_wp2
  go_returns
  exact ⟨rfl, rfl⟩
theorem copy_any (B b : Nat) (w : World) (l : List UInt8) (err : Int) (h : WAt B b w l err) :
    Calls Try.prog 134 #[.pointer (some ⟨b, 0, none⟩)] w fun e w' => e = .returned (.tuple #[]) ∧ Below B w w' ∧ w.heap.size = w'.heap.size ∧
      B ≤ b ∧ ∃ v, w'.heap[b]? = some (.cells #[.pointer (some ⟨b, 0, none⟩), v, .int .i64 err] 129 (0, 0)) ∧ w'.ownsRow B 5 1 v l.length (l.map bv) ∧ v.ownBlock ≠ some b := by
  obtain ⟨hB, p, v, hb, hp, hown, hne⟩ := h
  have c0 : w.cell? ⟨b, 0, none⟩ = some p := cell_heap hb 0
  rcases hp with rfl | rfl
  · refine (copy_fresh b w c0 (by unfold World.shape?; rw [hb]; rfl) (frozen_heap hb 0)).mono ?_
    rintro e w' ⟨rfl, rfl⟩
    refine ⟨rfl, (Below.refl _ _).setCell (p := ⟨b, 0, none⟩) hB _, by simp, hB, v, ?_, ownsRow_setCell_other hown (a := ⟨b, 0, none⟩) hne _, hne⟩
    simp [World.setCell, Array.getElem?_modify, hb]
  · refine (copy_used b w c0).mono ?_
    rintro e w' ⟨rfl, rfl⟩
    exact ⟨rfl, Below.refl _ _, rfl, hB, v, hb, hown, hne⟩
set_option maxRecDepth 100000 in
set_option maxHeartbeats 1600000 in
theorem wstr_any (B b : Nat) (w : World) (l : List UInt8) (err : Int) (s : ByteArray) (h : WAt B b w l err) (hBw : B ≤ w.heap.size) (hlen : l.length + s.size ≤ 140737488355328) :
    Calls Try.prog 128 #[.pointer (some ⟨b, 0, none⟩), .string s] w fun e w' => e = .returned (.tuple #[.int .i64 s.size, .nilIface]) ∧ WAt B b w' (l ++ s.data.toList) err ∧ Below B w w' := by
  obtain ⟨i0, hi, hz0, hz1, hz2⟩ := info_parts Try.infoByteW
  go_enter Try.func128, Try.ntmps128
  go_wp2_with (go_at_call 134; refine (copy_any B b _ l err h).mono ?_)
  rintro e w1 ⟨rfl, hb1, hsz1, hB, v, hbk, hown, hne⟩
  have c0 : w1.cell? ⟨b, 0, none⟩ = some (.pointer (some ⟨b, 0, none⟩)) := cell_heap hbk 0
  have c1 : w1.cell? ⟨b, 1, none⟩ = some v := cell_heap hbk 1
  go_wp2_with (at_builtin; refine Lib.wpList_append_own_string _ rfl _ _ 125 9 rfl B 5 i0 Try.underlying125 Try.underlying9 hi hz0 hz1 hz2 _ _ _ rfl hown s rfl ?c3 ?c4 ?c5 ?_)
  case c3 => unfold maxLen; omega
  case c4 => omega
  case c5 => omega
  intro v' w2 hown' hgrow _
  have hlt : b < w1.heap.size := (Array.getElem?_eq_some_iff.1 hbk).1
  have hb2 : w2.heap[b]? = some (.cells #[.pointer (some ⟨b, 0, none⟩), v, .int .i64 err] 129 (0, 0)) := by
    rw [hgrow.block b hlt (fun e => hne e.symm)]; exact hbk
  have d0 : w2.cell? ⟨b, 0, none⟩ = some (.pointer (some ⟨b, 0, none⟩)) := cell_heap hb2 0
  have d1 : w2.cell? ⟨b, 1, none⟩ = some v := cell_heap hb2 1
  have f1 : w2.frozen? ⟨b, 1, none⟩ = false := frozen_heap hb2 1
  have hne' : v'.ownBlock ≠ some b := by
    rcases hown'.2 with ⟨rfl, _⟩ | ⟨g, cap, cur, rfl, _, hg, _⟩
    · simp [Value.ownBlock]
    · intro e
      simp only [Value.ownBlock, Option.some.injEq] at e
      subst e
      rw [hb2] at hg
      simp at hg
  obtain ⟨ao, n', cap, rfl⟩ : ∃ ao n' cap, v' = .slice ao n' cap := by
    rcases hown'.2 with ⟨hv, _⟩ | ⟨g, cap, cur, hv, _⟩
    · exact ⟨_, _, _, hv⟩
    · exact ⟨_, _, _, hv⟩
  go_wp2
  go_returns
  refine ⟨rfl, ⟨hB, _, _, ?_, .inr rfl, ?_, hne'⟩, ?_⟩
  · simp only [World.setCell, Array.getElem?_modify, hb2]
    simp
    first | done | rfl
  · have := ownsRow_setCell_other hown' (a := ⟨b, 1, none⟩) hne' (.slice ao n' cap)
    rw [List.length_append, List.map_append, str_len]
    exact this
  · exact (hb1.grown hgrow (by omega) (fun k hk => (hown.lt k hk).1)).setCell (p := ⟨b, 1, none⟩) hB _
end Go.Proofs.Ythipnkbfdkmhaaa
namespace Go.Proofs.Ythipnkbfdkmhaaa
open Go.RowKit
attribute [local go_sem] strV
theorem own_kept {w w' : World} {B : Nat} {e : TypeId} {v : Value} {n : Nat} {xs : List Value} (h : w.ownsRow B e 1 v n xs) (hb : Below w.heap.size w w') : w'.ownsRow B e 1 v n xs := by
  obtain ⟨hl, hr⟩ := h
  refine ⟨hl, ?_⟩
  rcases hr with h | ⟨g, cap, cur, hv, hB, hg, r⟩
  · exact .inl h
  · exact .inr ⟨g, cap, cur, hv, hB, by rw [hb.block g (Array.getElem?_eq_some_iff.1 hg).1]; exact hg, r⟩
theorem WAt.below {B b : Nat} {w w' : World} {l : List UInt8} {err : Int} (h : WAt B b w l err) (hb : Below w.heap.size w w') : WAt B b w' l err := by
  obtain ⟨hB, p, v, h1, hp, hown, hne⟩ := h
  exact ⟨hB, p, v, by rw [hb.block b (Array.getElem?_eq_some_iff.1 h1).1]; exact h1, hp, own_kept hown hb, hne⟩
theorem WAt.lt {B b : Nat} {w : World} {l : List UInt8} {err : Int} (h : WAt B b w l err) : b < w.heap.size := by
  obtain ⟨hB, p, v, h1, _⟩ := h; exact (Array.getElem?_eq_some_iff.1 h1).1
theorem WAt.err {B b : Nat} {w : World} {l : List UInt8} {err : Int} (h : WAt B b w l err) : w.cell? ⟨b, 2, none⟩ = some (.int .i64 err) := by
  obtain ⟨hB, p, v, h1, _⟩ := h; exact cell_heap h1 2
theorem wnew_any (B : Nat) (w : World) (hB : B ≤ w.heap.size) :
    Calls Try.prog 48 #[] w fun e w' => e = .returned (.pointer (some ⟨w.heap.size, 0, none⟩)) ∧ WAt B w.heap.size w' [] 0 ∧ Below w.heap.size w w' := by
  go_enter Try.func48, Try.ntmps48
  go_wp2
  go_ret
  refine ⟨rfl, ⟨hB, _, _, by show (w.heap.push _)[w.heap.size]? = _; rw [Array.getElem?_push_size], .inl rfl, ⟨rfl, .inl ⟨rfl, rfl⟩⟩, by simp [Value.ownBlock]⟩, by repeat (first | assumption | exact Below.refl _ _ | refine bch ?_ (by assumption) | refine Below.alloc ?_ (by simp) _)⟩
set_option maxRecDepth 100000 in
set_option maxHeartbeats 1600000 in
theorem wadd_ok (B b : Nat) (w : World) (l : List UInt8) (s : ByteArray) (h : WAt B b w l 0) (hBw : B ≤ w.heap.size) (hlen : l.length + s.size ≤ 140737488355328) :
    Calls Try.prog 114 #[.pointer (some ⟨b, 0, none⟩), .string s] w fun e w' => e = .returned (.tuple #[]) ∧ WAt B b w' (l ++ s.data.toList) 0 ∧ Below B w w' := by
  have he := h.err
  go_enter Try.func114, Try.ntmps114
  go_wp2_with (go_at_call 128; refine (wstr_any B b _ l 0 s h hBw hlen).mono ?_; rintro e w1 ⟨rfl, h1, hb1⟩)
  go_returns
  exact ⟨rfl, h1, hb1⟩
set_option maxRecDepth 100000 in
set_option maxHeartbeats 1600000 in
theorem wnum_ok (B b : Nat) (w : World) (l : List UInt8) (x : Nat) (h : WAt B b w l 0) (hBw : B ≤ w.heap.size) (hx : x ≤ 72057594037927935) (hlen : l.length ≤ 1000000) :
    Calls Try.prog 76 #[.pointer (some ⟨b, 0, none⟩), .int .i64 (x : Int)] w fun e w' => e = .returned (.tuple #[]) ∧ WAt B b w' (l ++ putL x) 0 ∧ Below B w w' := by
  have henc : encB (x : Int) = true := by unfold encB; exact decide_eq_true (by omega)
  have hpos : 0 < (putL (x : Int)).length := by unfold putL; rw [henc, if_pos rfl]; exact grp_pos _ _
  have hle : (putL (x : Int)).length ≤ 8 := by unfold putL; rw [henc, if_pos rfl]; exact grp_le _ _
  obtain ⟨q, hq⟩ : ∃ q : ByteArray, q = ⟨(putL (x : Int)).toArray⟩ := ⟨_, rfl⟩
  have hql : q.data.toList = putL (x : Int) := by rw [hq]
  have hsv : strV (putL (x : Int)) = .string q := by rw [hq]; rfl
  have hqs : q.size = (putL (x : Int)).length := by rw [← str_len, hql]
  have hne := str_ne'' (show 0 < q.size by omega)
  have hne2 := str_ne' (show 0 < q.size by omega)
  rw [← hql]
  clear hq hql henc
  go_enter Try.func76, Try.ntmps76
  go_wp2_with (first | (go_at_call 113; refine (put_any _ _).mono ?_; rintro e w1 ⟨rfl, hb1⟩; rw [hsv]) | (go_at_call 114; refine (wadd_ok B b _ l q (h.below hb1) (Nat.le_trans hBw hb1.size) (by omega)).mono ?_; rintro e w2 ⟨rfl, h2, hb2⟩))
  go_returns
  exact ⟨rfl, h2, (hb1.mono hBw).trans hb2⟩
set_option maxRecDepth 100000 in
set_option maxHeartbeats 1600000 in
theorem wtext_ok (B b : Nat) (w : World) (l : List UInt8) (s : ByteArray) (h : WAt B b w l 0) (hBw : B ≤ w.heap.size) (hs : s.size ≤ 1000000) (hlen : l.length ≤ 900000) :
    Calls Try.prog 77 #[.pointer (some ⟨b, 0, none⟩), .string s] w fun e w' => e = .returned (.tuple #[]) ∧ WAt B b w' (l ++ putL (s.size : Int) ++ s.data.toList) 0 ∧ Below B w w' := by
  have hle : (putL (s.size : Int)).length ≤ 8 := by
    unfold putL
    split
    · exact grp_le _ _
    · simp
  go_enter Try.func77, Try.ntmps77
  go_wp2_with (first | (go_at_call 76; refine (wnum_ok B b _ l s.size h hBw (by omega) (by omega)).mono ?_; rintro e w1 ⟨rfl, h1, hb1⟩) | (go_at_call 114; refine (wadd_ok B b _ _ s h1 (Nat.le_trans hBw hb1.size) (by rw [List.length_append]; omega)).mono ?_; rintro e w2 ⟨rfl, h2, hb2⟩))
  go_returns
  exact ⟨rfl, h2, hb1.trans hb2⟩
set_option maxRecDepth 100000 in
set_option maxHeartbeats 1600000 in
theorem bstr_any (B b : Nat) (w : World) (l : List UInt8) (err : Int) (h : WAt B b w l err) (h0 : l ≠ []) :
    Calls Try.prog 97 #[.pointer (some ⟨b, 0, none⟩)] w fun e w' => e = .returned (.string ⟨l.toArray⟩) ∧ Below B w w' := by
  obtain ⟨hB, p, v, hbk, _, hown, hne⟩ := h
  have hl0 : l.length ≠ 0 := by simpa using h0
  obtain ⟨g, cap, cur, rfl, hbg, hg, hnc, hcm, hcs, htake⟩ : ∃ g cap cur, v = .slice (some ⟨g, 0, none⟩) l.length cap ∧ B ≤ g ∧ w.heap[g]? = some (.cells cur 5 (0, 0)) ∧ l.length ≤ cap ∧ cap ≤ maxLen ∧ cur.size = cap * 1 ∧ cur.toList.take (l.length * 1) = l.map bv := by
    rcases hown.2 with ⟨_, hz⟩ | ⟨g, cap, cur, hv, r⟩
    · exact absurd hz hl0
    · exact ⟨g, cap, cur, hv, r⟩
  have c1 : w.drew.cell? ⟨b, 1, none⟩ = some (.slice (some ⟨g, 0, none⟩) l.length cap) := by
    have : w.drew.heap[b]? = some (.cells #[p, .slice (some ⟨g, 0, none⟩) l.length cap, .int .i64 err] 129 (0, 0)) := hbk
    exact cell_heap this 1
  have hSD : (Builtin.unsafeSliceData_ #[125] 152 #[.slice (some ⟨g, 0, none⟩) l.length cap]).run Try.prog w.drew = .ok (.pointer (some ⟨g, 0, none⟩)) w.drew :=
    Lib.run_unsafeSliceData_row _ _ _ _ _ _ (by omega)
  have hUS : (Builtin.unsafeString_ #[152, 3] 9 #[.pointer (some ⟨g, 0, none⟩), .int .i64 l.length]).run Try.prog w.drew = .ok (.string ⟨l.toArray⟩) (w.drew.freeze ⟨g, 0, none⟩ l.length) := by
    refine Lib.run_unsafeString_row w.drew 152 3 9 5 Try.underlying152 (by kernel_rfl) g cur.size (by have hg' : w.drew.heap[g]? = some (.cells cur 5 (0, 0)) := hg; simp [World.shape?, hg']) l h0 (by omega) (by unfold maxLen at hcm; omega) ?_
    intro j x hx
    have := hown.cells (g := g) rfl j (bv x) (by simp [hx])
    exact this
  go_enter Try.func97, Try.ntmps97
  go_wp2
  go_region
  all_goals (go_wp2; go_ret; exact ⟨rfl, Lib.below_freeze (Below.drew (Below.refl B w)) (p := ⟨g, 0, none⟩) hbg _⟩)
set_option maxRecDepth 100000 in
set_option maxHeartbeats 1600000 in
theorem wbytes_ok (B b : Nat) (w : World) (l : List UInt8) (h : WAt B b w l 0) (h0 : l ≠ []) :
    Calls Try.prog 50 #[.pointer (some ⟨b, 0, none⟩)] w fun e w' => e = .returned (.tuple #[.string ⟨l.toArray⟩, .int .i64 0]) ∧ Below B w w' := by
  have he := h.err
  go_enter Try.func50, Try.ntmps50
  go_wp2_with (go_at_call 97; refine (bstr_any B b _ l 0 h h0).mono ?_; rintro e w1 ⟨rfl, hb1⟩)
  go_returns
  exact ⟨rfl, hb1⟩
end Go.Proofs.Ythipnkbfdkmhaaa
namespace Go.Proofs.Ythipnkbfdkmhaaa
open Go.RowKit
attribute [local go_sem] strV
/-- Block b is a Reader of s that stands at at_ and bears err. -/
def RAt (b : Nat) (w : World) (s : ByteArray) (at_ err : Int) : Prop := w.heap[b]? = some (.cells #[.string s, .int .i64 at_, .int .i64 err] 137 (0, 0))
theorem RAt.c0 {b : Nat} {w : World} {s : ByteArray} {at_ err : Int} (h : RAt b w s at_ err) : w.cell? ⟨b, 0, none⟩ = some (.string s) := cell_heap h 0
theorem RAt.c1 {b : Nat} {w : World} {s : ByteArray} {at_ err : Int} (h : RAt b w s at_ err) : w.cell? ⟨b, 1, none⟩ = some (.int .i64 at_) := cell_heap h 1
theorem RAt.c2 {b : Nat} {w : World} {s : ByteArray} {at_ err : Int} (h : RAt b w s at_ err) : w.cell? ⟨b, 2, none⟩ = some (.int .i64 err) := cell_heap h 2
theorem RAt.fr {b : Nat} {w : World} {s : ByteArray} {at_ err : Int} (h : RAt b w s at_ err) (k : Nat) : w.frozen? ⟨b, k, none⟩ = false := frozen_heap h k
theorem RAt.lt {b : Nat} {w : World} {s : ByteArray} {at_ err : Int} (h : RAt b w s at_ err) : b < w.heap.size := (Array.getElem?_eq_some_iff.1 h).1
theorem RAt.below {b B : Nat} {w w' : World} {s : ByteArray} {at_ err : Int} (h : RAt b w s at_ err) (hb : Below B w w') (hB : b < B) : RAt b w' s at_ err := by
  unfold RAt; rw [hb.block b hB]; exact h
theorem RAt.at1 {b : Nat} {w : World} {s : ByteArray} {at_ err : Int} (h : RAt b w s at_ err) (x : Int) : RAt b (w.setCell ⟨b, 1, none⟩ (.int .i64 x)) s x err := by
  unfold RAt at h ⊢; simp [World.setCell, Array.getElem?_modify, h]
theorem RAt.at2 {b : Nat} {w : World} {s : ByteArray} {at_ err : Int} (h : RAt b w s at_ err) (x : Int) : RAt b (w.setCell ⟨b, 2, none⟩ (.int .i64 x)) s at_ x := by
  unfold RAt at h ⊢; simp [World.setCell, Array.getElem?_modify, h]
set_option maxRecDepth 100000 in
set_option maxHeartbeats 800000 in
theorem rof_any (s : ByteArray) (w : World) :
    Calls Try.prog 56 #[.string s] w fun e w' => e = .returned (.pointer (some ⟨w.heap.size, 0, none⟩)) ∧ RAt w.heap.size w' s 0 0 ∧ Below w.heap.size w w' := by
  go_enter Try.func56, Try.ntmps56
  go_wp2
  go_ret
  exact ⟨rfl, by unfold RAt; show (w.heap.push _)[w.heap.size]? = _; rw [Array.getElem?_push_size], by repeat (first | assumption | exact Below.refl _ _ | refine bch ?_ (by assumption) | refine Below.alloc ?_ (by simp) _)⟩
set_option maxRecDepth 100000 in
set_option maxHeartbeats 800000 in
theorem rerr_any (b : Nat) (w : World) (s : ByteArray) (at_ err : Int) (h : RAt b w s at_ err) :
    Calls Try.prog 116 #[.pointer (some ⟨b, 0, none⟩)] w fun e w' => e = .returned (.int .i64 err) ∧ w' = w := by
  have c0 := h.c0; have c1 := h.c1; have c2 := h.c2
  go_enter Try.func116, Try.ntmps116
  go_wp2
  go_ret
  exact ⟨rfl, by first | rfl | trivial⟩

set_option maxRecDepth 100000 in
set_option maxHeartbeats 800000 in
theorem number_err (b : Nat) (w : World) (s : ByteArray) (at_ err : Int) (h : RAt b w s at_ err) (he : (err == 0) = false) :
    Calls Try.prog 115 #[.pointer (some ⟨b, 0, none⟩)] w fun e w' => e = .returned (.tuple #[.int .i64 0, .int .i64 0, .bool false]) ∧ w' = w := by
  have c0 := h.c0; have c1 := h.c1; have c2 := h.c2
  go_enter Try.func115, Try.ntmps115
  go_wp2
  go_returns
  exact ⟨rfl, by first | rfl | trivial⟩
set_option maxRecDepth 100000 in
set_option maxHeartbeats 1600000 in
theorem number_ok (b : Nat) (w : World) (s : ByteArray) (at_ v n er : Int) (h : RAt b w s at_ 0) (hs : s.size ≤ maxLen) (hx : nextS s.data.toList at_ = (v, n, er)) :
    Calls Try.prog 115 #[.pointer (some ⟨b, 0, none⟩)] w fun e w' => e = .returned (.tuple #[.int .i64 v, .int .i64 n, .bool (er == 0)]) ∧ ∃ w1, Below w.heap.size w w1 ∧ w' = w1.setCell ⟨b, 2, none⟩ (.int .i64 er) := by
  have c0 := h.c0; have c1 := h.c1; have c2 := h.c2
  have hlt := h.lt
  obtain ⟨hbc, hbf⟩ := beyond_cells (W := w)
  have C1 : ∀ n' : Beyond w, Calls Try.prog 129 #[.string s, .int .i64 at_] n'.x fun e w' => e = .returned (.tuple #[.int .i64 v, .int .i64 n, .int .i64 er]) ∧ Below n'.x.heap.size n'.x w' := fun n' => (next_any s at_ n'.x hs).mono fun e w' ⟨h1, h2⟩ => ⟨by rw [h1, hx]; rfl, by rw [← h2]; exact Below.refl _ _⟩
  clear hx
  go_enter Try.func115, Try.ntmps115
  go_wp2
  refine wp_region_below (by kernel_rfl) (by kernel_rfl) ?_
  repeat (go_big_quiet_step ((go_at_call 129; exact quiet_below (C1 _))))
  intro w9 hw9
  have hb9 := beyond_below hw9
  have h9 := h.below hb9 hlt
  have d2 := h9.c2
  have f2 := h9.fr 2
  go_wp2
  go_returns
  exact ⟨rfl, w9, hb9, rfl⟩
set_option maxRecDepth 100000 in
set_option maxHeartbeats 800000 in
theorem rnum_err (b : Nat) (w : World) (s : ByteArray) (at_ err : Int) (least most : Int) (h : RAt b w s at_ err) (he : (err == 0) = false) :
    Calls Try.prog 78 #[.pointer (some ⟨b, 0, none⟩), .int .i64 least, .int .i64 most] w fun e w' => e = .returned (.int .i64 0) ∧ Below w.heap.size w w' := by
  have CN := number_err b w s at_ err h he
  have c0 := h.c0; have c1 := h.c1; have c2 := h.c2
  go_enter Try.func78, Try.ntmps78
  go_wp2_with (go_at_call 115; refine CN.mono ?_; rintro e w1 ⟨rfl, hw1⟩; obtain rfl : _ = w1 := hw1.symm)
  go_ret
  exact ⟨rfl, by repeat (first | assumption | exact Below.refl _ _ | refine bch ?_ (by assumption) | refine Below.alloc ?_ (by simp) _)⟩
set_option maxRecDepth 100000 in
set_option maxHeartbeats 800000 in
theorem rtext_err (b : Nat) (w : World) (s : ByteArray) (at_ err : Int) (most : Int) (h : RAt b w s at_ err) (he : (err == 0) = false) :
    Calls Try.prog 103 #[.pointer (some ⟨b, 0, none⟩), .int .i64 most] w fun e w' => e = .returned (.string ⟨#[]⟩) ∧ Below w.heap.size w w' := by
  have CN := number_err b w s at_ err h he
  have c0 := h.c0; have c1 := h.c1; have c2 := h.c2
  go_enter Try.func103, Try.ntmps103
  go_wp2_with (go_at_call 115; refine CN.mono ?_; rintro e w1 ⟨rfl, hw1⟩; obtain rfl : _ = w1 := hw1.symm)
  go_ret
  exact ⟨rfl, by repeat (first | assumption | exact Below.refl _ _ | refine bch ?_ (by assumption) | refine Below.alloc ?_ (by simp) _)⟩
set_option maxRecDepth 100000 in
set_option maxHeartbeats 800000 in
theorem rcount_err (b : Nat) (w : World) (s : ByteArray) (at_ err : Int) (most : Int) (h : RAt b w s at_ err) (he : (err == 0) = false) :
    Calls Try.prog 122 #[.pointer (some ⟨b, 0, none⟩), .int .i64 most] w fun e w' => e = .returned (.int .i64 0) ∧ Below w.heap.size w w' := by
  have CN := number_err b w s at_ err h he
  have c0 := h.c0; have c1 := h.c1; have c2 := h.c2
  go_enter Try.func122, Try.ntmps122
  go_wp2_with (go_at_call 115; refine CN.mono ?_; rintro e w1 ⟨rfl, hw1⟩; obtain rfl : _ = w1 := hw1.symm)
  go_ret
  exact ⟨rfl, by repeat (first | assumption | exact Below.refl _ _ | refine bch ?_ (by assumption) | refine Below.alloc ?_ (by simp) _)⟩

set_option maxRecDepth 100000 in
set_option maxHeartbeats 800000 in
theorem rend_err (b : Nat) (w : World) (s : ByteArray) (at_ err : Int) (h : RAt b w s at_ err) (he : (err == 0) = false) :
    Calls Try.prog 58 #[.pointer (some ⟨b, 0, none⟩)] w fun e w' => e = .returned (.int .i64 err) ∧ Below w.heap.size w w' := by
  have c0 := h.c0; have c1 := h.c1; have c2 := h.c2
  go_enter Try.func58, Try.ntmps58
  go_wp2
  go_quiet (fail)
  go_wp2
  go_ret
  exact ⟨rfl, drewN_below _ _⟩
end Go.Proofs.Ythipnkbfdkmhaaa
namespace Go.Proofs.Ythipnkbfdkmhaaa
open Go.RowKit
attribute [local go_sem] strV
/-- What Num answers, where it stands behind it, which error it bears. -/
def numF (s : ByteArray) (at_ least most : Int) : Int × Int × Int :=
  let x := nextS s.data.toList at_
  if x.2.2 = 0 then (if x.1 < least ∨ most < x.1 then (0, at_, 1) else (x.1, x.2.1, 0)) else (0, at_, x.2.2)
theorem numF_err {s : ByteArray} {at_ least most v n er : Int} (hx : nextS s.data.toList at_ = (v, n, er)) (he : er ≠ 0) : numF s at_ least most = (0, at_, er) := by
  unfold numF; rw [hx]; simp [he]
theorem numF_out {s : ByteArray} {at_ least most v n : Int} (hx : nextS s.data.toList at_ = (v, n, 0)) (ho : v < least ∨ most < v) : numF s at_ least most = (0, at_, 1) := by
  unfold numF; rw [hx]; simp only [if_pos trivial]; rw [if_pos ho]
theorem numF_in {s : ByteArray} {at_ least most v n : Int} (hx : nextS s.data.toList at_ = (v, n, 0)) (ho : ¬ (v < least ∨ most < v)) : numF s at_ least most = (v, n, 0) := by
  unfold numF; rw [hx]; simp only [if_pos trivial]; rw [if_neg ho]
set_option maxRecDepth 100000 in
set_option maxHeartbeats 1600000 in
theorem rnum_any (B b : Nat) (w : World) (s : ByteArray) (at_ least most : Int) (h : RAt b w s at_ 0) (hs : s.size ≤ maxLen) (hB : B ≤ b) :
    Calls Try.prog 78 #[.pointer (some ⟨b, 0, none⟩), .int .i64 least, .int .i64 most] w fun e w' => e = .returned (.int .i64 (numF s at_ least most).1) ∧ RAt b w' s (numF s at_ least most).2.1 (numF s at_ least most).2.2 ∧ Below B w w' := by
  obtain ⟨v, n, er, hx⟩ : ∃ v n er, nextS s.data.toList at_ = (v, n, er) := ⟨_, _, _, rfl⟩
  have hlt := h.lt
  have fin : ∀ (R A E : Int), numF s at_ least most = (R, A, E) → (Calls Try.prog 78 #[.pointer (some ⟨b, 0, none⟩), .int .i64 least, .int .i64 most] w fun e w' => e = .returned (.int .i64 R) ∧ RAt b w' s A E ∧ Below B w w') →
      Calls Try.prog 78 #[.pointer (some ⟨b, 0, none⟩), .int .i64 least, .int .i64 most] w fun e w' => e = .returned (.int .i64 (numF s at_ least most).1) ∧ RAt b w' s (numF s at_ least most).2.1 (numF s at_ least most).2.2 ∧ Below B w w' := fun R A E hf hc => by rw [hf]; exact hc
  have CN := number_ok b w s at_ v n er h hs hx
  by_cases her : er = 0
  rotate_left
  · have e0 : (er == 0) = false := beq_eq_false_iff_ne.2 her
    refine fin _ _ _ (numF_err hx her) ?_
    rw [e0] at CN
    clear fin hx
    go_enter Try.func78, Try.ntmps78
    go_wp2_with (go_at_call 115; refine CN.mono ?_; rintro e w1 ⟨rfl, w0, hb0, hw1⟩)
    go_ret
    exact ⟨rfl, (h.below hb0 hlt).at2 _, (hb0.mono (by omega)).setCell (p := ⟨b, 2, none⟩) hB _⟩
  subst her
  rw [show ((0 : Int) == 0) = true from rfl] at CN
  by_cases ho : v < least ∨ most < v
  · refine fin _ _ _ (numF_out hx ho) ?_
    clear fin hx
    obtain ⟨c1, hc1⟩ : ∃ c, decide (v < least) = c := ⟨_, rfl⟩
    have hd2 : c1 = false → decide (most < v) = true := fun e => decide_eq_true (by
      rcases ho with h1 | h1
      · rw [decide_eq_true h1] at hc1; rw [← hc1] at e; cases e
      · exact h1)
    cases c1
    · have d2 := hd2 rfl
      clear hd2 ho
      go_enter Try.func78, Try.ntmps78
      go_wp2_with (go_at_call 115; refine CN.mono ?_; rintro e w1 ⟨rfl, w0, hb0, hw1⟩; have h1 : RAt b w1 s at_ 0 := (by rw [hw1]; exact (h.below hb0 hlt).at2 _); have c2 := h1.c2; have f2 := h1.fr 2; have hbB : Below B w w1 := (by rw [hw1]; exact (hb0.mono (by omega)).setCell (p := ⟨b, 2, none⟩) hB _); clear hw1)
      go_ret
      exact ⟨rfl, h1.at2 _, hbB.setCell (p := ⟨b, 2, none⟩) hB _⟩
    · clear hd2 ho
      go_enter Try.func78, Try.ntmps78
      go_wp2_with (go_at_call 115; refine CN.mono ?_; rintro e w1 ⟨rfl, w0, hb0, hw1⟩; have h1 : RAt b w1 s at_ 0 := (by rw [hw1]; exact (h.below hb0 hlt).at2 _); have c2 := h1.c2; have f2 := h1.fr 2; have hbB : Below B w w1 := (by rw [hw1]; exact (hb0.mono (by omega)).setCell (p := ⟨b, 2, none⟩) hB _); clear hw1)
      go_ret
      exact ⟨rfl, h1.at2 _, hbB.setCell (p := ⟨b, 2, none⟩) hB _⟩
  · refine fin _ _ _ (numF_in hx ho) ?_
    have d1 : decide (v < least) = false := decide_eq_false (by omega)
    have d2 : decide (most < v) = false := decide_eq_false (by omega)
    clear fin hx ho
    go_enter Try.func78, Try.ntmps78
    go_wp2_with (go_at_call 115; refine CN.mono ?_; rintro e w1 ⟨rfl, w0, hb0, hw1⟩; have h1 : RAt b w1 s at_ 0 := (by rw [hw1]; exact (h.below hb0 hlt).at2 _); have c1 := h1.c1; have f1 := h1.fr 1; have hbB : Below B w w1 := (by rw [hw1]; exact (hb0.mono (by omega)).setCell (p := ⟨b, 2, none⟩) hB _); clear hw1)
    go_ret
    exact ⟨rfl, h1.at1 _, hbB.setCell (p := ⟨b, 1, none⟩) hB _⟩
end Go.Proofs.Ythipnkbfdkmhaaa
namespace Go.Proofs.Ythipnkbfdkmhaaa
open Go.RowKit
attribute [local go_sem] strV
theorem wp_nameR {P : Program} {c : Code} {Q : Exit → Act → World → Prop} {a : Act} (E : World) (h : ∀ W, W = E → c.wp P Q a W) : c.wp P Q a E := h E rfl
/-- What Text answers, where it stands behind it, which error it bears. -/
def textF (s : ByteArray) (at_ most : Int) : ByteArray × Int × Int :=
  let x := nextS s.data.toList at_
  if x.2.2 = 0 then (if most < x.1 then (⟨#[]⟩, at_, 4) else if (s.size : Int) - x.2.1 < x.1 then (⟨#[]⟩, at_, 2) else (s.extract x.2.1.toNat (x.2.1 + x.1).toNat, x.2.1 + x.1, 0)) else (⟨#[]⟩, at_, x.2.2)
def countF (s : ByteArray) (at_ most : Int) : Int × Int × Int :=
  let x := nextS s.data.toList at_
  if x.2.2 = 0 then (if most < x.1 then (0, at_, 4) else (x.1, x.2.1, 0)) else (0, at_, x.2.2)
set_option maxRecDepth 100000 in
set_option maxHeartbeats 1600000 in
theorem rcount_any (B b : Nat) (w : World) (s : ByteArray) (at_ most : Int) (h : RAt b w s at_ 0) (hs : s.size ≤ 1000000000) (hB : B ≤ b) :
    Calls Try.prog 122 #[.pointer (some ⟨b, 0, none⟩), .int .i64 most] w fun e w' => e = .returned (.int .i64 (countF s at_ most).1) ∧ RAt b w' s (countF s at_ most).2.1 (countF s at_ most).2.2 ∧ Below B w w' := by
  have hsm : s.size ≤ maxLen := by unfold maxLen; omega
  obtain ⟨v, n, er, hx⟩ : ∃ v n er, nextS s.data.toList at_ = (v, n, er) := ⟨_, _, _, rfl⟩
  have hlt := h.lt
  have CN := number_ok b w s at_ v n er h hsm hx
  by_cases her : er = 0
  rotate_left
  · have e0 : (er == 0) = false := beq_eq_false_iff_ne.2 her
    have hF : countF s at_ most = (0, at_, er) := by unfold countF; rw [hx]; simp [her]
    rw [hF]
    rw [e0] at CN
    clear hF hx
    go_enter Try.func122, Try.ntmps122
    go_wp2_with (go_at_call 115; refine CN.mono ?_; rintro e w1 ⟨rfl, w0, hb0, hw1⟩)
    go_ret
    exact ⟨rfl, (h.below hb0 hlt).at2 _, (hb0.mono (by omega)).setCell (p := ⟨b, 2, none⟩) hB _⟩
  subst her
  rw [show ((0 : Int) == 0) = true from rfl] at CN
  obtain ⟨i, m, X, rfl, rfl, rfl, hm1, hle, _, hX, _⟩ := next_ok hx
  rw [str_len] at hle
  by_cases ho : most < (X : Int)
  · skip
    have d1 : decide (most < (X : Int)) = true := decide_eq_true ho
    have hF : countF s (i : Int) most = (0, (i : Int), 4) := by unfold countF; rw [hx]; simp [ho]
    rw [hF]
    clear hF hx
    go_enter Try.func122, Try.ntmps122
    go_wp2_with (go_at_call 115; refine CN.mono ?_; rintro e w1 ⟨rfl, w0, hb0, hw1⟩; have h1 : RAt b w1 s (i : Int) 0 := (by rw [hw1]; exact (h.below hb0 hlt).at2 _); have hbB : Below B w w1 := (by rw [hw1]; exact (hb0.mono (by omega)).setCell (p := ⟨b, 2, none⟩) hB _); clear hw1; have c0 := h1.c0; have c1 := h1.c1; have c2 := h1.c2; have f1 := h1.fr 1; have f2 := h1.fr 2)
    go_ret
    exact ⟨rfl, h1.at2 _, hbB.setCell (p := ⟨b, 2, none⟩) hB _⟩
  · skip
    have d1 : decide (most < (X : Int)) = false := decide_eq_false ho
    have hF : countF s (i : Int) most = ((X : Int), ((i + m : Nat) : Int), 0) := by unfold countF; rw [hx]; simp [ho]
    rw [hF]
    clear hF hx
    go_enter Try.func122, Try.ntmps122
    go_wp2_with (go_at_call 115; refine CN.mono ?_; rintro e w1 ⟨rfl, w0, hb0, hw1⟩; have h1 : RAt b w1 s (i : Int) 0 := (by rw [hw1]; exact (h.below hb0 hlt).at2 _); have hbB : Below B w w1 := (by rw [hw1]; exact (hb0.mono (by omega)).setCell (p := ⟨b, 2, none⟩) hB _); clear hw1; have c0 := h1.c0; have c1 := h1.c1; have c2 := h1.c2; have f1 := h1.fr 1; have f2 := h1.fr 2)
    go_ret
    exact ⟨rfl, h1.at1 _, hbB.setCell (p := ⟨b, 1, none⟩) hB _⟩
set_option maxRecDepth 100000 in
set_option maxHeartbeats 1600000 in
theorem rtext_any (B b : Nat) (w : World) (s : ByteArray) (at_ most : Int) (h : RAt b w s at_ 0) (hs : s.size ≤ 1000000000) (hB : B ≤ b) :
    Calls Try.prog 103 #[.pointer (some ⟨b, 0, none⟩), .int .i64 most] w fun e w' => e = .returned (.string (textF s at_ most).1) ∧ RAt b w' s (textF s at_ most).2.1 (textF s at_ most).2.2 ∧ Below B w w' := by
  have hsm : s.size ≤ maxLen := by unfold maxLen; omega
  obtain ⟨v, n, er, hx⟩ : ∃ v n er, nextS s.data.toList at_ = (v, n, er) := ⟨_, _, _, rfl⟩
  have hlt := h.lt
  have CN := number_ok b w s at_ v n er h hsm hx
  by_cases her : er = 0
  rotate_left
  · have e0 : (er == 0) = false := beq_eq_false_iff_ne.2 her
    have hF : textF s at_ most = (⟨#[]⟩, at_, er) := by unfold textF; rw [hx]; simp [her]
    rw [hF]
    rw [e0] at CN
    clear hF hx
    go_enter Try.func103, Try.ntmps103
    go_wp2_with (go_at_call 115; refine CN.mono ?_; rintro e w1 ⟨rfl, w0, hb0, hw1⟩)
    go_ret
    exact ⟨rfl, (h.below hb0 hlt).at2 _, (hb0.mono (by omega)).setCell (p := ⟨b, 2, none⟩) hB _⟩
  subst her
  rw [show ((0 : Int) == 0) = true from rfl] at CN
  obtain ⟨i, m, X, rfl, rfl, rfl, hm1, hle, _, hX, _⟩ := next_ok hx
  rw [str_len] at hle
  by_cases ho : most < (X : Int)
  · skip
    have d1 : decide (most < (X : Int)) = true := decide_eq_true ho
    have hF : textF s (i : Int) most = (⟨#[]⟩, (i : Int), 4) := by unfold textF; rw [hx]; simp [ho]
    rw [hF]
    clear hF hx
    go_enter Try.func103, Try.ntmps103
    go_wp2_with (go_at_call 115; refine CN.mono ?_; rintro e w1 ⟨rfl, w0, hb0, hw1⟩; have h1 : RAt b w1 s (i : Int) 0 := (by rw [hw1]; exact (h.below hb0 hlt).at2 _); have hbB : Below B w w1 := (by rw [hw1]; exact (hb0.mono (by omega)).setCell (p := ⟨b, 2, none⟩) hB _); clear hw1; have c0 := h1.c0; have c1 := h1.c1; have c2 := h1.c2; have f1 := h1.fr 1; have f2 := h1.fr 2)
    go_ret
    exact ⟨rfl, h1.at2 _, hbB.setCell (p := ⟨b, 2, none⟩) hB _⟩
  have d1 : decide (most < (X : Int)) = false := decide_eq_false ho
  by_cases hq : (s.size : Int) - ((i + m : Nat) : Int) < (X : Int)
  · skip
    have hF : textF s (i : Int) most = (⟨#[]⟩, (i : Int), 2) := by unfold textF; rw [hx]; rw [if_pos rfl, if_neg ho, if_pos hq]
    rw [hF]
    clear hF hx
    go_enter Try.func103, Try.ntmps103
    go_wp2_with (go_at_call 115; refine CN.mono ?_; rintro e w1 ⟨rfl, w0, hb0, hw1⟩; have h1 : RAt b w1 s (i : Int) 0 := (by rw [hw1]; exact (h.below hb0 hlt).at2 _); have hbB : Below B w w1 := (by rw [hw1]; exact (hb0.mono (by omega)).setCell (p := ⟨b, 2, none⟩) hB _); clear hw1; have c0 := h1.c0; have c1 := h1.c1; have c2 := h1.c2; have f1 := h1.fr 1; have f2 := h1.fr 2)
    go_ret
    exact ⟨rfl, h1.at2 _, hbB.setCell (p := ⟨b, 2, none⟩) hB _⟩
  · skip
    have hF : textF s (i : Int) most = (s.extract (i + m) (i + m + X), ((i + m : Nat) : Int) + (X : Int), 0) := by unfold textF; rw [hx]; rw [if_pos rfl, if_neg ho, if_neg hq]; simp only [Int.toNat_natCast]; rw [show (((i + m : Nat) : Int) + (X : Int)).toNat = i + m + X by omega]
    rw [hF]
    clear hF hx
    go_enter Try.func103, Try.ntmps103
    go_wp2_with (go_at_call 115; refine CN.mono ?_; rintro e w1 ⟨rfl, w0, hb0, hw1⟩; have h1 : RAt b w1 s (i : Int) 0 := (by rw [hw1]; exact (h.below hb0 hlt).at2 _); have hbB : Below B w w1 := (by rw [hw1]; exact (hb0.mono (by omega)).setCell (p := ⟨b, 2, none⟩) hB _); clear hw1; have c0 := h1.c0; have c1 := h1.c1; have c2 := h1.c2; have f1 := h1.fr 1; have f2 := h1.fr 2)
    refine wp_nameR _ (fun W hW => ?_)
    have hR : RAt b W s (((i + m : Nat) : Int) + (X : Int)) 0 := by rw [hW]; exact h1.at1 _
    have hbW : Below B w W := by rw [hW]; exact hbB.setCell (p := ⟨b, 1, none⟩) hB _
    clear hW
    have d0 := hR.c0; have d1 := hR.c1
    have b1 : ((i : Int) + (m : Int)) + (X : Int) ≤ (s.size : Int) := by omega
    have b2 : (i : Int) + (m : Int) ≤ ((i : Int) + (m : Int)) + (X : Int) := by omega
    go_quiet (fail)
    go_wp2
    go_ret
    exact ⟨rfl, hR, hbW.trans ((drewN_below _ _).mono (by have := h.lt; have := hbW.size; omega))⟩
end Go.Proofs.Ythipnkbfdkmhaaa
namespace Go.Proofs.Ythipnkbfdkmhaaa
open Go.RowKit
attribute [local go_sem] strV
/-- Block b is a reader of the document's own answer: of s, at at_, bearing err. -/
def QAt (b : Nat) (w : World) (s : ByteArray) (at_ err : Int) : Prop := w.heap[b]? = some (.cells #[.string s, .int .i64 at_, .int .i64 err] 96 (0, 0))
theorem QAt.c0 {b : Nat} {w : World} {s : ByteArray} {at_ err : Int} (h : QAt b w s at_ err) : w.cell? ⟨b, 0, none⟩ = some (.string s) := cell_heap h 0
theorem QAt.c1 {b : Nat} {w : World} {s : ByteArray} {at_ err : Int} (h : QAt b w s at_ err) : w.cell? ⟨b, 1, none⟩ = some (.int .i64 at_) := cell_heap h 1
theorem QAt.c2 {b : Nat} {w : World} {s : ByteArray} {at_ err : Int} (h : QAt b w s at_ err) : w.cell? ⟨b, 2, none⟩ = some (.int .i64 err) := cell_heap h 2
theorem QAt.fr {b : Nat} {w : World} {s : ByteArray} {at_ err : Int} (h : QAt b w s at_ err) (k : Nat) : w.frozen? ⟨b, k, none⟩ = false := frozen_heap h k
theorem QAt.lt {b : Nat} {w : World} {s : ByteArray} {at_ err : Int} (h : QAt b w s at_ err) : b < w.heap.size := (Array.getElem?_eq_some_iff.1 h).1
theorem QAt.below {b B : Nat} {w w' : World} {s : ByteArray} {at_ err : Int} (h : QAt b w s at_ err) (hb : Below B w w') (hB : b < B) : QAt b w' s at_ err := by
  unfold QAt; rw [hb.block b hB]; exact h
theorem QAt.at1 {b : Nat} {w : World} {s : ByteArray} {at_ err : Int} (h : QAt b w s at_ err) (x : Int) : QAt b (w.setCell ⟨b, 1, none⟩ (.int .i64 x)) s x err := by
  unfold QAt at h ⊢; simp [World.setCell, Array.getElem?_modify, h]
theorem QAt.at2 {b : Nat} {w : World} {s : ByteArray} {at_ err : Int} (h : QAt b w s at_ err) (x : Int) : QAt b (w.setCell ⟨b, 2, none⟩ (.int .i64 x)) s at_ x := by
  unfold QAt at h ⊢; simp [World.setCell, Array.getElem?_modify, h]

theorem refNextB (s : ByteArray) (a : Int) (w : World) (hs : s.size ≤ maxLen) :
    Calls Try.prog 107 #[.string s, .int .i64 a] w fun e w' => e = .returned (trip (nextS s.data.toList a)) ∧ Below w.heap.size w w' := (nextNum_any s a w hs).mono fun e w' ⟨h1, h2⟩ => ⟨h1, by first | exact h2 | (rw [← h2]; exact Below.refl _ _) | (rw [h2]; exact Below.refl _ _)⟩
set_option maxRecDepth 100000 in
set_option maxHeartbeats 1600000 in
theorem qnum_any (B b : Nat) (w : World) (s : ByteArray) (at_ least most : Int) (h : QAt b w s at_ 0) (hs : s.size ≤ 1000000000) (hB : B ≤ b) :
    Calls Try.prog 65 #[.pointer (some ⟨b, 0, none⟩), .int .i64 least, .int .i64 most] w fun e w' => e = .returned (.int .i64 (numF s at_ least most).1) ∧ QAt b w' s (numF s at_ least most).2.1 (numF s at_ least most).2.2 ∧ Below B w w' := by
  have hsm : s.size ≤ maxLen := by unfold maxLen; omega
  obtain ⟨v, n, er, hx⟩ : ∃ v n er, nextS s.data.toList at_ = (v, n, er) := ⟨_, _, _, rfl⟩
  have hlt := h.lt
  have hBw : B ≤ w.heap.size := by omega
  have c0 := h.c0; have c1 := h.c1; have c2 := h.c2
  obtain ⟨hbc, hbf⟩ := beyond_cells (W := w)
  have C1 : ∀ n' : Beyond w, Calls Try.prog 107 #[.string s, .int .i64 at_] n'.x fun e w' => e = .returned (.tuple #[.int .i64 v, .int .i64 n, .int .i64 er]) ∧ Below n'.x.heap.size n'.x w' := fun n' => (refNextB s at_ n'.x hsm).mono fun e w' ⟨h1, h2⟩ => ⟨by rw [h1, hx]; rfl, h2⟩
  by_cases her : er = 0
  rotate_left
  · have e0 : (er == 0) = false := beq_eq_false_iff_ne.2 her
    have hF : numF s at_ least most = (0, at_, er) := by unfold numF; rw [hx]; simp [her]
    rw [hF]
    clear hF hx
    go_enter Try.func65, Try.ntmps65
    go_wp2
    refine wp_region_below (by kernel_rfl) (by kernel_rfl) ?_
    repeat (go_big_quiet_step ((go_at_call 107; exact quiet_below (C1 _))))
    intro w9 hw9
    have hb9 := beyond_below hw9
    have h9 := h.below hb9 hlt
    have hbB : Below B w w9 := hb9.mono hBw
    have d0 := h9.c0; have d1 := h9.c1; have d2 := h9.c2; have f1 := h9.fr 1; have f2 := h9.fr 2
    go_wp2
    go_ret
    exact ⟨rfl, h9.at2 _, hbB.setCell (p := ⟨b, 2, none⟩) hB _⟩
  subst her
  by_cases ho : v < least ∨ most < v
  · rw [numF_out hx ho]
    clear hx
    obtain ⟨x1, hc1⟩ : ∃ c, decide (v < least) = c := ⟨_, rfl⟩
    have hd2 : x1 = false → decide (most < v) = true := fun e => decide_eq_true (by
      rcases ho with h1 | h1
      · rw [decide_eq_true h1] at hc1; rw [← hc1] at e; cases e
      · exact h1)
    cases x1
    · have e2 := hd2 rfl
      clear hd2 ho
      go_enter Try.func65, Try.ntmps65
      go_wp2
      refine wp_region_below (by kernel_rfl) (by kernel_rfl) ?_
      repeat (go_big_quiet_step ((go_at_call 107; exact quiet_below (C1 _))))
      intro w9 hw9
      have hb9 := beyond_below hw9
      have h9 := h.below hb9 hlt
      have hbB : Below B w w9 := hb9.mono hBw
      have d0 := h9.c0; have d1 := h9.c1; have d2 := h9.c2; have f1 := h9.fr 1; have f2 := h9.fr 2
      go_wp2
      go_ret
      exact ⟨rfl, h9.at2 _, hbB.setCell (p := ⟨b, 2, none⟩) hB _⟩
    · clear hd2 ho
      go_enter Try.func65, Try.ntmps65
      go_wp2
      refine wp_region_below (by kernel_rfl) (by kernel_rfl) ?_
      repeat (go_big_quiet_step ((go_at_call 107; exact quiet_below (C1 _))))
      intro w9 hw9
      have hb9 := beyond_below hw9
      have h9 := h.below hb9 hlt
      have hbB : Below B w w9 := hb9.mono hBw
      have d0 := h9.c0; have d1 := h9.c1; have d2 := h9.c2; have f1 := h9.fr 1; have f2 := h9.fr 2
      go_wp2
      go_ret
      exact ⟨rfl, h9.at2 _, hbB.setCell (p := ⟨b, 2, none⟩) hB _⟩
  · rw [numF_in hx ho]
    have e1 : decide (v < least) = false := decide_eq_false (by omega)
    have e2 : decide (most < v) = false := decide_eq_false (by omega)
    clear hx ho
    go_enter Try.func65, Try.ntmps65
    go_wp2
    refine wp_region_below (by kernel_rfl) (by kernel_rfl) ?_
    repeat (go_big_quiet_step ((go_at_call 107; exact quiet_below (C1 _))))
    intro w9 hw9
    have hb9 := beyond_below hw9
    have h9 := h.below hb9 hlt
    have hbB : Below B w w9 := hb9.mono hBw
    have d0 := h9.c0; have d1 := h9.c1; have d2 := h9.c2; have f1 := h9.fr 1; have f2 := h9.fr 2
    go_wp2
    go_ret
    exact ⟨rfl, h9.at1 _, hbB.setCell (p := ⟨b, 1, none⟩) hB _⟩
end Go.Proofs.Ythipnkbfdkmhaaa
namespace Go.Proofs.Ythipnkbfdkmhaaa
open Go.RowKit
attribute [local go_sem] strV
def endF (s : ByteArray) (at_ err : Int) : Int := if err = 0 then (if at_ < s.size then 3 else 0) else err
set_option maxRecDepth 100000 in
set_option maxHeartbeats 1600000 in
theorem rend_any (b : Nat) (w : World) (s : ByteArray) (at_ err : Int) (h : RAt b w s at_ err) :
    Calls Try.prog 58 #[.pointer (some ⟨b, 0, none⟩)] w fun e w' => e = .returned (.int .i64 (endF s at_ err)) ∧ Below w.heap.size w w' := by
  have c0 := h.c0; have c1 := h.c1; have c2 := h.c2
  by_cases he : err = 0
  rotate_left
  · have e0 : (err == 0) = false := beq_eq_false_iff_ne.2 he
    have hF : endF s at_ err = err := by unfold endF; rw [if_neg he]
    rw [hF]
    clear hF
    go_enter Try.func58, Try.ntmps58
    go_wp2
    go_quiet (fail)
    go_wp2
    go_ret
    exact ⟨rfl, drewN_below _ _⟩
  subst he
  cases hl : decide (at_ < (s.size : Int))
  · have hF : endF s at_ 0 = 0 := by unfold endF; rw [if_pos rfl, if_neg (of_decide_eq_false hl)]
    rw [hF]
    clear hF
    go_enter Try.func58, Try.ntmps58
    go_wp2
    go_quiet (fail)
    go_wp2
    go_ret
    exact ⟨rfl, drewN_below _ _⟩
  · have hF : endF s at_ 0 = 3 := by unfold endF; rw [if_pos rfl, if_pos (of_decide_eq_true hl)]
    rw [hF]
    clear hF
    go_enter Try.func58, Try.ntmps58
    go_wp2
    go_quiet (fail)
    go_wp2
    go_ret
    exact ⟨rfl, drewN_below _ _⟩
set_option maxRecDepth 100000 in
set_option maxHeartbeats 1600000 in
theorem qend_any (b : Nat) (w : World) (s : ByteArray) (at_ err : Int) (h : QAt b w s at_ err) :
    Calls Try.prog 70 #[.pointer (some ⟨b, 0, none⟩)] w fun e w' => e = .returned (.int .i64 (endF s at_ err)) ∧ Below w.heap.size w w' := by
  have c0 := h.c0; have c1 := h.c1; have c2 := h.c2
  by_cases he : err = 0
  rotate_left
  · have e0 : (err == 0) = false := beq_eq_false_iff_ne.2 he
    have hF : endF s at_ err = err := by unfold endF; rw [if_neg he]
    rw [hF]
    clear hF
    go_enter Try.func70, Try.ntmps70
    go_wp2
    go_ret
    exact ⟨rfl, Below.refl _ _⟩
  subst he
  cases hl : decide (at_ < (s.size : Int))
  · have hF : endF s at_ 0 = 0 := by unfold endF; rw [if_pos rfl, if_neg (of_decide_eq_false hl)]
    rw [hF]
    clear hF
    go_enter Try.func70, Try.ntmps70
    go_wp2
    go_quiet (fail)
    go_wp2
    go_ret
    exact ⟨rfl, drewN_below _ _⟩
  · have hF : endF s at_ 0 = 3 := by unfold endF; rw [if_pos rfl, if_pos (of_decide_eq_true hl)]
    rw [hF]
    clear hF
    go_enter Try.func70, Try.ntmps70
    go_wp2
    go_quiet (fail)
    go_wp2
    go_ret
    exact ⟨rfl, drewN_below _ _⟩
set_option maxRecDepth 100000 in
set_option maxHeartbeats 1600000 in
theorem qtext_any (B b : Nat) (w : World) (s : ByteArray) (at_ most : Int) (h : QAt b w s at_ 0) (hs : s.size ≤ 1000000000) (hB : B ≤ b) :
    Calls Try.prog 68 #[.pointer (some ⟨b, 0, none⟩), .int .i64 most] w fun e w' => e = .returned (.string (textF s at_ most).1) ∧ QAt b w' s (textF s at_ most).2.1 (textF s at_ most).2.2 ∧ Below B w w' := by
  have hsm : s.size ≤ maxLen := by unfold maxLen; omega
  obtain ⟨v, n, er, hx⟩ : ∃ v n er, nextS s.data.toList at_ = (v, n, er) := ⟨_, _, _, rfl⟩
  have hlt := h.lt
  have hBw : B ≤ w.heap.size := by omega
  have c0 := h.c0; have c1 := h.c1; have c2 := h.c2
  obtain ⟨hbc, hbf⟩ := beyond_cells (W := w)
  have C1 : ∀ n' : Beyond w, Calls Try.prog 107 #[.string s, .int .i64 at_] n'.x fun e w' => e = .returned (.tuple #[.int .i64 v, .int .i64 n, .int .i64 er]) ∧ Below n'.x.heap.size n'.x w' := fun n' => (refNextB s at_ n'.x hsm).mono fun e w' ⟨h1, h2⟩ => ⟨by rw [h1, hx]; rfl, h2⟩
  by_cases her : er = 0
  rotate_left
  · have e0 : (er == 0) = false := beq_eq_false_iff_ne.2 her
    have hF : textF s at_ most = (⟨#[]⟩, at_, er) := by unfold textF; rw [hx]; simp [her]
    rw [hF]
    clear hF hx
    go_enter Try.func68, Try.ntmps68
    go_wp2
    refine wp_region_below (by kernel_rfl) (by kernel_rfl) ?_
    repeat (go_big_quiet_step ((go_at_call 107; exact quiet_below (C1 _))))
    intro w9 hw9
    have hb9 := beyond_below hw9
    have h9 := h.below hb9 hlt
    have hbB : Below B w w9 := hb9.mono hBw
    have d0 := h9.c0; have d1 := h9.c1; have d2 := h9.c2; have f1 := h9.fr 1; have f2 := h9.fr 2
    go_wp2
    go_ret
    exact ⟨rfl, h9.at2 _, hbB.setCell (p := ⟨b, 2, none⟩) hB _⟩
  subst her
  obtain ⟨i, m, X, rfl, rfl, rfl, hm1, hle, _, hX, _⟩ := next_ok hx
  rw [str_len] at hle
  by_cases ho : most < (X : Int)
  · skip
    have g1 : decide (most < (X : Int)) = true := decide_eq_true ho
    have hF : textF s (i : Int) most = (⟨#[]⟩, (i : Int), 4) := by unfold textF; rw [hx]; simp [ho]
    rw [hF]
    clear hF hx
    go_enter Try.func68, Try.ntmps68
    go_wp2
    refine wp_region_below (by kernel_rfl) (by kernel_rfl) ?_
    repeat (go_big_quiet_step ((go_at_call 107; exact quiet_below (C1 _))))
    intro w9 hw9
    have hb9 := beyond_below hw9
    have h9 := h.below hb9 hlt
    have hbB : Below B w w9 := hb9.mono hBw
    have d0 := h9.c0; have d1 := h9.c1; have d2 := h9.c2; have f1 := h9.fr 1; have f2 := h9.fr 2
    go_wp2
    go_ret
    exact ⟨rfl, h9.at2 _, hbB.setCell (p := ⟨b, 2, none⟩) hB _⟩
  have g1 : decide (most < (X : Int)) = false := decide_eq_false ho
  by_cases hq : (s.size : Int) - ((i + m : Nat) : Int) < (X : Int)
  · skip
    have hF : textF s (i : Int) most = (⟨#[]⟩, (i : Int), 2) := by unfold textF; rw [hx]; rw [if_pos rfl, if_neg ho, if_pos hq]
    rw [hF]
    clear hF hx
    go_enter Try.func68, Try.ntmps68
    go_wp2
    refine wp_region_below (by kernel_rfl) (by kernel_rfl) ?_
    repeat (go_big_quiet_step ((go_at_call 107; exact quiet_below (C1 _))))
    intro w9 hw9
    have hb9 := beyond_below hw9
    have h9 := h.below hb9 hlt
    have hbB : Below B w w9 := hb9.mono hBw
    have d0 := h9.c0; have d1 := h9.c1; have d2 := h9.c2; have f1 := h9.fr 1; have f2 := h9.fr 2
    go_wp2
    go_ret
    exact ⟨rfl, h9.at2 _, hbB.setCell (p := ⟨b, 2, none⟩) hB _⟩
  · have b1 : ((i : Int) + (m : Int)) + (X : Int) ≤ (s.size : Int) := by omega
    have b2 : (i : Int) + (m : Int) ≤ ((i : Int) + (m : Int)) + (X : Int) := by omega
    have hF : textF s (i : Int) most = (s.extract (i + m) (i + m + X), ((i + m : Nat) : Int) + (X : Int), 0) := by unfold textF; rw [hx]; rw [if_pos rfl, if_neg ho, if_neg hq]; simp only [Int.toNat_natCast]; rw [show (((i + m : Nat) : Int) + (X : Int)).toNat = i + m + X by omega]
    rw [hF]
    clear hF hx
    go_enter Try.func68, Try.ntmps68
    go_wp2
    refine wp_region_below (by kernel_rfl) (by kernel_rfl) ?_
    repeat (go_big_quiet_step ((go_at_call 107; exact quiet_below (C1 _))))
    intro w9 hw9
    have hb9 := beyond_below hw9
    have h9 := h.below hb9 hlt
    have hbB : Below B w w9 := hb9.mono hBw
    have d0 := h9.c0; have d1 := h9.c1; have d2 := h9.c2; have f1 := h9.fr 1; have f2 := h9.fr 2
    go_wp2
    go_ret
    exact ⟨rfl, h9.at1 _, hbB.setCell (p := ⟨b, 1, none⟩) hB _⟩
end Go.Proofs.Ythipnkbfdkmhaaa
