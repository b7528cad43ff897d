/- A Reader of package wire. -/
import Derived.Test.YtfblbholkhdldaaDoorWriter2
import Derived.Test.YtfblbholkhdldaaDoorLebRead
import Derived.BigQuiet
import Derived.WalkKit
import Derived.ProofKit
import Derived.Handy
import Derived.Below
import Derived.BigQuiet
import Derived.Lib.Hide
import Derived.IntWalk
import Derived.Outline
import Derived.WalkLawsBesides
import Derived.WalkSpells
namespace Go.Proofs.YtfblbholkhdldaaDoor
open Go.RowKit
attribute [local go_sem] strV
/-- Block b is a Reader of s that stands at at_ and bears err. -/
def RAt (b : Nat) (w : World) (s : ByteArray) (at_ err : Int) : Prop := w.heap[b]? = some (.cells #[.string s, .int .i64 at_, .int .i64 err] 123 (0, 0))
theorem RAt.c0 {b : Nat} {w : World} {s : ByteArray} {at_ err : Int} (h : RAt b w s at_ err) : w.cell? ⟨b, 0, none⟩ = some (.string s) := cell_heap h 0
theorem RAt.c1 {b : Nat} {w : World} {s : ByteArray} {at_ err : Int} (h : RAt b w s at_ err) : w.cell? ⟨b, 1, none⟩ = some (.int .i64 at_) := cell_heap h 1
theorem RAt.c2 {b : Nat} {w : World} {s : ByteArray} {at_ err : Int} (h : RAt b w s at_ err) : w.cell? ⟨b, 2, none⟩ = some (.int .i64 err) := cell_heap h 2
theorem RAt.fr {b : Nat} {w : World} {s : ByteArray} {at_ err : Int} (h : RAt b w s at_ err) (k : Nat) : w.frozen? ⟨b, k, none⟩ = false := frozen_heap h k
theorem RAt.lt {b : Nat} {w : World} {s : ByteArray} {at_ err : Int} (h : RAt b w s at_ err) : b < w.heap.size := (Array.getElem?_eq_some_iff.1 h).1
theorem RAt.below {b B : Nat} {w w' : World} {s : ByteArray} {at_ err : Int} (h : RAt b w s at_ err) (hb : Below B w w') (hB : b < B) : RAt b w' s at_ err := by
  unfold RAt; rw [hb.block b hB]; exact h
theorem RAt.at1 {b : Nat} {w : World} {s : ByteArray} {at_ err : Int} (h : RAt b w s at_ err) (x : Int) : RAt b (w.setCell ⟨b, 1, none⟩ (.int .i64 x)) s x err := by
  unfold RAt at h ⊢; simp [World.setCell, Array.getElem?_modify, h]
theorem RAt.at2 {b : Nat} {w : World} {s : ByteArray} {at_ err : Int} (h : RAt b w s at_ err) (x : Int) : RAt b (w.setCell ⟨b, 2, none⟩ (.int .i64 x)) s at_ x := by
  unfold RAt at h ⊢; simp [World.setCell, Array.getElem?_modify, h]
set_option maxRecDepth 100000 in
set_option maxHeartbeats 800000 in
theorem rof_any (s : ByteArray) (w : World) :
    Calls Tryd.prog 69 #[.string s] w fun e w' => e = .returned (.pointer (some ⟨w.heap.size, 0, none⟩)) ∧ RAt w.heap.size w' s 0 0 ∧ Below w.heap.size w w' := by
  go_enter Tryd.func69, Tryd.ntmps69
  go_wp2
  go_ret
  exact ⟨rfl, by unfold RAt; show (w.heap.push _)[w.heap.size]? = _; rw [Array.getElem?_push_size], by repeat (first | assumption | exact Below.refl _ _ | refine bch ?_ (by assumption) | refine Below.alloc ?_ (by simp) _)⟩
set_option maxRecDepth 100000 in
set_option maxHeartbeats 800000 in
theorem number_err (b : Nat) (w : World) (s : ByteArray) (at_ err : Int) (h : RAt b w s at_ err) (he : (err == 0) = false) :
    Calls Tryd.prog 105 #[.pointer (some ⟨b, 0, none⟩)] w fun e w' => e = .returned (.tuple #[.int .i64 0, .int .i64 0, .bool false]) ∧ w' = w := by
  have c0 := h.c0; have c1 := h.c1; have c2 := h.c2
  go_enter Tryd.func105, Tryd.ntmps105
  go_wp2
  go_returns
  exact ⟨rfl, by first | rfl | trivial⟩
set_option maxRecDepth 100000 in
set_option maxHeartbeats 1600000 in
theorem number_ok (b : Nat) (w : World) (s : ByteArray) (at_ v n er : Int) (h : RAt b w s at_ 0) (hs : s.size ≤ maxLen) (hx : nextS s.data.toList at_ = (v, n, er)) :
    Calls Tryd.prog 105 #[.pointer (some ⟨b, 0, none⟩)] w fun e w' => e = .returned (.tuple #[.int .i64 v, .int .i64 n, .bool (er == 0)]) ∧ ∃ w1, Below w.heap.size w w1 ∧ w' = w1.setCell ⟨b, 2, none⟩ (.int .i64 er) := by
  have c0 := h.c0; have c1 := h.c1; have c2 := h.c2
  have hlt := h.lt
  obtain ⟨hbc, hbf⟩ := beyond_cells (W := w)
  have C1 : ∀ n' : Beyond w, Calls Tryd.prog 114 #[.string s, .int .i64 at_] n'.x fun e w' => e = .returned (.tuple #[.int .i64 v, .int .i64 n, .int .i64 er]) ∧ Below n'.x.heap.size n'.x w' := fun n' => (next_any s at_ n'.x hs).mono fun e w' ⟨h1, h2⟩ => ⟨by rw [h1, hx]; rfl, by rw [← h2]; exact Below.refl _ _⟩
  clear hx
  go_enter Tryd.func105, Tryd.ntmps105
  go_wp2
  refine wp_region_below (by kernel_rfl) (by kernel_rfl) ?_
  repeat (go_big_quiet_step ((go_at_call 114; exact quiet_below (C1 _))))
  intro w9 hw9
  have hb9 := beyond_below hw9
  have h9 := h.below hb9 hlt
  have d2 := h9.c2
  have f2 := h9.fr 2
  go_wp2
  go_returns
  exact ⟨rfl, w9, hb9, rfl⟩
set_option maxRecDepth 100000 in
set_option maxHeartbeats 800000 in
theorem rnum_err (b : Nat) (w : World) (s : ByteArray) (at_ err : Int) (least most : Int) (h : RAt b w s at_ err) (he : (err == 0) = false) :
    Calls Tryd.prog 95 #[.pointer (some ⟨b, 0, none⟩), .int .i64 least, .int .i64 most] w fun e w' => e = .returned (.int .i64 0) ∧ Below w.heap.size w w' := by
  have CN := number_err b w s at_ err h he
  have c0 := h.c0; have c1 := h.c1; have c2 := h.c2
  go_enter Tryd.func95, Tryd.ntmps95
  go_wp2_with (go_at_call 105; refine CN.mono ?_; rintro e w1 ⟨rfl, hw1⟩; obtain rfl : _ = w1 := hw1.symm)
  go_ret
  exact ⟨rfl, by repeat (first | assumption | exact Below.refl _ _ | refine bch ?_ (by assumption) | refine Below.alloc ?_ (by simp) _)⟩
set_option maxRecDepth 100000 in
set_option maxHeartbeats 800000 in
theorem rtext_err (b : Nat) (w : World) (s : ByteArray) (at_ err : Int) (most : Int) (h : RAt b w s at_ err) (he : (err == 0) = false) :
    Calls Tryd.prog 96 #[.pointer (some ⟨b, 0, none⟩), .int .i64 most] w fun e w' => e = .returned (.string ⟨#[]⟩) ∧ Below w.heap.size w w' := by
  have CN := number_err b w s at_ err h he
  have c0 := h.c0; have c1 := h.c1; have c2 := h.c2
  go_enter Tryd.func96, Tryd.ntmps96
  go_wp2_with (go_at_call 105; refine CN.mono ?_; rintro e w1 ⟨rfl, hw1⟩; obtain rfl : _ = w1 := hw1.symm)
  go_ret
  exact ⟨rfl, by repeat (first | assumption | exact Below.refl _ _ | refine bch ?_ (by assumption) | refine Below.alloc ?_ (by simp) _)⟩
set_option maxRecDepth 100000 in
set_option maxHeartbeats 800000 in
theorem rend_err (b : Nat) (w : World) (s : ByteArray) (at_ err : Int) (h : RAt b w s at_ err) (he : (err == 0) = false) :
    Calls Tryd.prog 71 #[.pointer (some ⟨b, 0, none⟩)] w fun e w' => e = .returned (.int .i64 err) ∧ Below w.heap.size w w' := by
  have c0 := h.c0; have c1 := h.c1; have c2 := h.c2
  go_enter Tryd.func71, Tryd.ntmps71
  go_wp2
  go_quiet (fail)
  go_wp2
  go_ret
  exact ⟨rfl, drewN_below _ _⟩
end Go.Proofs.YtfblbholkhdldaaDoor
