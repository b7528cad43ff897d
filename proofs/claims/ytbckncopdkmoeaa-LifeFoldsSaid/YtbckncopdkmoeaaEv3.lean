/- Events at s13: Own. -/
import Derived.Test.YtbckncopdkmoeaaEv2
import Derived.BigRegion
import Derived.RegionTactic
import Derived.BigQuiet
import Derived.Deep.QuietTactic
import Derived.Deep.MidRow
import Derived.Deep.Cut
import Derived.LoopTactic
import Derived.BigFrame
import Derived.WalkKit
import Derived.ProofKit
import Derived.Handy
import Derived.Below
import Derived.Lib.Hide
import Derived.IntWalk
import Derived.Outline
import Derived.WalkLawsBesides
import Derived.WalkSpells
namespace Go.Proofs.Ytbckncopdkmoeaa
open Go.RowKit
attribute [local go_sem] strV
set_option linter.unusedVariables false
set_option linter.unusedSimpArgs false
theorem same2 {w : World} {b : Nat} {u v : Value} (x y : Value) (h0 : w.cell? ⟨b, 0, none⟩ = some u) (h1 : w.cell? ⟨b, 1, none⟩ = some v) :
    (w.setCell ⟨b, 0, none⟩ x).cell? ⟨b, 0, none⟩ = some x ∧ ((w.setCell ⟨b, 0, none⟩ x).setCell ⟨b, 1, none⟩ y).cell? ⟨b, 0, none⟩ = some x ∧ ((w.setCell ⟨b, 0, none⟩ x).setCell ⟨b, 1, none⟩ y).cell? ⟨b, 1, none⟩ = some y := by
  have e0 := World.cell?_setCell_same w ⟨b, 0, none⟩ x h0
  have e1 : (w.setCell ⟨b, 0, none⟩ x).cell? ⟨b, 1, none⟩ = some v := (World.cell?_setCell_other _ _ _ _ (by simp)).trans h1
  exact ⟨e0, (World.cell?_setCell_other _ _ _ _ (by simp)).trans e0, World.cell?_setCell_same _ _ _ e1⟩
set_option maxRecDepth 100000 in
set_option maxHeartbeats 6400000 in
theorem own_any (kd : Int) (sp : ByteArray) (sc : Int) (dp : ByteArray) (dc : Int) (sq : Int) (da : ByteArray) (th : Int) (ta : Int) (ack : ByteArray) (ep : ByteArray) (ec : Int) (ht : Int) (w : World) (h1 : sp.size ≤ maxLen) (h2 : dp.size ≤ maxLen) (h3 : ep.size ≤ maxLen) (hM : mayEv ⟨kd, sp, sc, dp, dc, sq, da, th, ta, ack, ep, ec, ht⟩ = true) (hH : hasP kd = true) :
    Calls Try.prog 59 #[.agg #[.int .i64 kd, .string sp, .int .i64 sc, .string dp, .int .i64 dc, .int .i64 sq, .string da, .int .i64 th, .int .i64 ta, .string ack, .string ep, .int .i64 ec, .int .i64 ht]] w fun e w' => e = .returned (.tuple #[bif kd == 2 || kd == 3 then .agg #[.string dp, .int .i64 dc] else .agg #[.string sp, .int .i64 sc], .int .i64 sq, .bool true]) ∧ Below w.heap.size w w' := by
  have CM := fun W => mayEv_any kd sp sc dp dc sq da th ta ack ep ec ht W h1 h2 h3
  simp only [hM] at CM
  clear hM
  have hk5 : 1 ≤ kd ∧ kd ≤ 5 := by
    have h := hH
    unfold hasP at h
    rw [Bool.and_eq_true, decide_eq_true_eq, decide_eq_true_eq] at h
    exact h
  rcases (show kd = 1 ∨ kd = 2 ∨ kd = 3 ∨ kd = 4 ∨ kd = 5 by omega) with rfl | rfl | rfl | rfl | rfl
  · have hg0 : ((w.alloc (.cells #[.int .i64 1, .string sp, .int .i64 sc, .string dp, .int .i64 dc, .int .i64 sq, .string da, .int .i64 th, .int .i64 ta, .string ack, .string ep, .int .i64 ec, .int .i64 ht] 76)).alloc (.cells #[.string ⟨#[]⟩, .int .i64 0] 60)).heap[w.heap.size]? = some (.cells #[.int .i64 1, .string sp, .int .i64 sc, .string dp, .int .i64 dc, .int .i64 sq, .string da, .int .i64 th, .int .i64 ta, .string ack, .string ep, .int .i64 ec, .int .i64 ht] 76 (0, 0)) := by
      show ((w.heap.push _).push _)[w.heap.size]? = _
      rw [Array.getElem?_push_lt (by simp), ← Array.getElem?_eq_getElem (by simp), Array.getElem?_push_size]
    have hr0 : ((w.alloc (.cells #[.int .i64 1, .string sp, .int .i64 sc, .string dp, .int .i64 dc, .int .i64 sq, .string da, .int .i64 th, .int .i64 ta, .string ack, .string ep, .int .i64 ec, .int .i64 ht] 76)).alloc (.cells #[.string ⟨#[]⟩, .int .i64 0] 60)).heap[w.heap.size + 1]? = some (.cells #[.string ⟨#[]⟩, .int .i64 0] 60 (0, 0)) := by
      show ((w.heap.push _).push _)[w.heap.size + 1]? = _
      rw [show w.heap.size + 1 = (w.heap.push (Obj.cells #[.int .i64 1, .string sp, .int .i64 sc, .string dp, .int .i64 dc, .int .i64 sq, .string da, .int .i64 th, .int .i64 ta, .string ack, .string ep, .int .i64 ec, .int .i64 ht] 76 (0, 0))).size by simp, Array.getElem?_push_size]
    have hbA : Below w.heap.size w ((w.alloc (.cells #[.int .i64 1, .string sp, .int .i64 sc, .string dp, .int .i64 dc, .int .i64 sq, .string da, .int .i64 th, .int .i64 ta, .string ack, .string ep, .int .i64 ec, .int .i64 ht] 76)).alloc (.cells #[.string ⟨#[]⟩, .int .i64 0] 60)) := Below.alloc (Below.alloc (Below.refl _ _) (Nat.le_refl _) _) (by simp) _
    have hsz : ((w.alloc (.cells #[.int .i64 1, .string sp, .int .i64 sc, .string dp, .int .i64 dc, .int .i64 sq, .string da, .int .i64 th, .int .i64 ta, .string ack, .string ep, .int .i64 ec, .int .i64 ht] 76)).alloc (.cells #[.string ⟨#[]⟩, .int .i64 0] 60)).heap.size = w.heap.size + 2 := by simp
    go_enter Try.func59, Try.ntmps59
    go_upto_region 7 with (go_at_call 57; refine (CM _).mono ?_; rintro e w1 ⟨rfl, hb1⟩; rw [hsz] at hb1; have hg := cells_of hg0 hb1 (by omega); have hr := cells_of hr0 hb1 (by omega); have q0 := cell_heap hg 0; have q1 := cell_heap hg 1; have q2 := cell_heap hg 2; have q3 := cell_heap hg 3; have q4 := cell_heap hg 4; have q5 := cell_heap hg 5; have q6 := cell_heap hg 6; have q7 := cell_heap hg 7; have q8 := cell_heap hg 8; have q9 := cell_heap hg 9; have q10 := cell_heap hg 10; have q11 := cell_heap hg 11; have q12 := cell_heap hg 12)
    have k0 := cell_heap hr 0; have k1 := cell_heap hr 1
    have f0 := frozen_heap hr 0; have f1 := frozen_heap hr 1
    have hbel : Below w.heap.size w w1 := hbA.trans (hb1.mono (by omega))
    clear hg0 hr0 hbA hsz hb1 hg hr
    go_region
    all_goals
      go_wp2
      obtain ⟨_, p1, p2⟩ := same2 (w := w1) (.string sp) (.int .i64 sc) k0 k1
      refine bodyPost_ret (by simp [results, Try.results59, go_sem, p1, p2]; try rfl) rfl ?_
      exact ⟨rfl, ((hbel.setCell (p := ⟨w.heap.size + 1, 0, none⟩) (by show _ ≤ w.heap.size + 1; omega) _).setCell (p := ⟨w.heap.size + 1, 1, none⟩) (by show _ ≤ w.heap.size + 1; omega) _).drew⟩
  · have hg0 : ((w.alloc (.cells #[.int .i64 2, .string sp, .int .i64 sc, .string dp, .int .i64 dc, .int .i64 sq, .string da, .int .i64 th, .int .i64 ta, .string ack, .string ep, .int .i64 ec, .int .i64 ht] 76)).alloc (.cells #[.string ⟨#[]⟩, .int .i64 0] 60)).heap[w.heap.size]? = some (.cells #[.int .i64 2, .string sp, .int .i64 sc, .string dp, .int .i64 dc, .int .i64 sq, .string da, .int .i64 th, .int .i64 ta, .string ack, .string ep, .int .i64 ec, .int .i64 ht] 76 (0, 0)) := by
      show ((w.heap.push _).push _)[w.heap.size]? = _
      rw [Array.getElem?_push_lt (by simp), ← Array.getElem?_eq_getElem (by simp), Array.getElem?_push_size]
    have hr0 : ((w.alloc (.cells #[.int .i64 2, .string sp, .int .i64 sc, .string dp, .int .i64 dc, .int .i64 sq, .string da, .int .i64 th, .int .i64 ta, .string ack, .string ep, .int .i64 ec, .int .i64 ht] 76)).alloc (.cells #[.string ⟨#[]⟩, .int .i64 0] 60)).heap[w.heap.size + 1]? = some (.cells #[.string ⟨#[]⟩, .int .i64 0] 60 (0, 0)) := by
      show ((w.heap.push _).push _)[w.heap.size + 1]? = _
      rw [show w.heap.size + 1 = (w.heap.push (Obj.cells #[.int .i64 2, .string sp, .int .i64 sc, .string dp, .int .i64 dc, .int .i64 sq, .string da, .int .i64 th, .int .i64 ta, .string ack, .string ep, .int .i64 ec, .int .i64 ht] 76 (0, 0))).size by simp, Array.getElem?_push_size]
    have hbA : Below w.heap.size w ((w.alloc (.cells #[.int .i64 2, .string sp, .int .i64 sc, .string dp, .int .i64 dc, .int .i64 sq, .string da, .int .i64 th, .int .i64 ta, .string ack, .string ep, .int .i64 ec, .int .i64 ht] 76)).alloc (.cells #[.string ⟨#[]⟩, .int .i64 0] 60)) := Below.alloc (Below.alloc (Below.refl _ _) (Nat.le_refl _) _) (by simp) _
    have hsz : ((w.alloc (.cells #[.int .i64 2, .string sp, .int .i64 sc, .string dp, .int .i64 dc, .int .i64 sq, .string da, .int .i64 th, .int .i64 ta, .string ack, .string ep, .int .i64 ec, .int .i64 ht] 76)).alloc (.cells #[.string ⟨#[]⟩, .int .i64 0] 60)).heap.size = w.heap.size + 2 := by simp
    go_enter Try.func59, Try.ntmps59
    go_upto_region 10 with (go_at_call 57; refine (CM _).mono ?_; rintro e w1 ⟨rfl, hb1⟩; rw [hsz] at hb1; have hg := cells_of hg0 hb1 (by omega); have hr := cells_of hr0 hb1 (by omega); have q0 := cell_heap hg 0; have q1 := cell_heap hg 1; have q2 := cell_heap hg 2; have q3 := cell_heap hg 3; have q4 := cell_heap hg 4; have q5 := cell_heap hg 5; have q6 := cell_heap hg 6; have q7 := cell_heap hg 7; have q8 := cell_heap hg 8; have q9 := cell_heap hg 9; have q10 := cell_heap hg 10; have q11 := cell_heap hg 11; have q12 := cell_heap hg 12)
    have k0 := cell_heap hr 0; have k1 := cell_heap hr 1
    have f0 := frozen_heap hr 0; have f1 := frozen_heap hr 1
    have hbel : Below w.heap.size w w1 := hbA.trans (hb1.mono (by omega))
    clear hg0 hr0 hbA hsz hb1 hg hr
    go_region
    all_goals
      go_wp2
      obtain ⟨_, p1, p2⟩ := same2 (w := w1) (.string dp) (.int .i64 dc) k0 k1
      refine bodyPost_ret (by simp [results, Try.results59, go_sem, p1, p2]; try rfl) rfl ?_
      exact ⟨rfl, ((hbel.setCell (p := ⟨w.heap.size + 1, 0, none⟩) (by show _ ≤ w.heap.size + 1; omega) _).setCell (p := ⟨w.heap.size + 1, 1, none⟩) (by show _ ≤ w.heap.size + 1; omega) _).drew⟩
  · have hg0 : ((w.alloc (.cells #[.int .i64 3, .string sp, .int .i64 sc, .string dp, .int .i64 dc, .int .i64 sq, .string da, .int .i64 th, .int .i64 ta, .string ack, .string ep, .int .i64 ec, .int .i64 ht] 76)).alloc (.cells #[.string ⟨#[]⟩, .int .i64 0] 60)).heap[w.heap.size]? = some (.cells #[.int .i64 3, .string sp, .int .i64 sc, .string dp, .int .i64 dc, .int .i64 sq, .string da, .int .i64 th, .int .i64 ta, .string ack, .string ep, .int .i64 ec, .int .i64 ht] 76 (0, 0)) := by
      show ((w.heap.push _).push _)[w.heap.size]? = _
      rw [Array.getElem?_push_lt (by simp), ← Array.getElem?_eq_getElem (by simp), Array.getElem?_push_size]
    have hr0 : ((w.alloc (.cells #[.int .i64 3, .string sp, .int .i64 sc, .string dp, .int .i64 dc, .int .i64 sq, .string da, .int .i64 th, .int .i64 ta, .string ack, .string ep, .int .i64 ec, .int .i64 ht] 76)).alloc (.cells #[.string ⟨#[]⟩, .int .i64 0] 60)).heap[w.heap.size + 1]? = some (.cells #[.string ⟨#[]⟩, .int .i64 0] 60 (0, 0)) := by
      show ((w.heap.push _).push _)[w.heap.size + 1]? = _
      rw [show w.heap.size + 1 = (w.heap.push (Obj.cells #[.int .i64 3, .string sp, .int .i64 sc, .string dp, .int .i64 dc, .int .i64 sq, .string da, .int .i64 th, .int .i64 ta, .string ack, .string ep, .int .i64 ec, .int .i64 ht] 76 (0, 0))).size by simp, Array.getElem?_push_size]
    have hbA : Below w.heap.size w ((w.alloc (.cells #[.int .i64 3, .string sp, .int .i64 sc, .string dp, .int .i64 dc, .int .i64 sq, .string da, .int .i64 th, .int .i64 ta, .string ack, .string ep, .int .i64 ec, .int .i64 ht] 76)).alloc (.cells #[.string ⟨#[]⟩, .int .i64 0] 60)) := Below.alloc (Below.alloc (Below.refl _ _) (Nat.le_refl _) _) (by simp) _
    have hsz : ((w.alloc (.cells #[.int .i64 3, .string sp, .int .i64 sc, .string dp, .int .i64 dc, .int .i64 sq, .string da, .int .i64 th, .int .i64 ta, .string ack, .string ep, .int .i64 ec, .int .i64 ht] 76)).alloc (.cells #[.string ⟨#[]⟩, .int .i64 0] 60)).heap.size = w.heap.size + 2 := by simp
    go_enter Try.func59, Try.ntmps59
    go_upto_region 10 with (go_at_call 57; refine (CM _).mono ?_; rintro e w1 ⟨rfl, hb1⟩; rw [hsz] at hb1; have hg := cells_of hg0 hb1 (by omega); have hr := cells_of hr0 hb1 (by omega); have q0 := cell_heap hg 0; have q1 := cell_heap hg 1; have q2 := cell_heap hg 2; have q3 := cell_heap hg 3; have q4 := cell_heap hg 4; have q5 := cell_heap hg 5; have q6 := cell_heap hg 6; have q7 := cell_heap hg 7; have q8 := cell_heap hg 8; have q9 := cell_heap hg 9; have q10 := cell_heap hg 10; have q11 := cell_heap hg 11; have q12 := cell_heap hg 12)
    have k0 := cell_heap hr 0; have k1 := cell_heap hr 1
    have f0 := frozen_heap hr 0; have f1 := frozen_heap hr 1
    have hbel : Below w.heap.size w w1 := hbA.trans (hb1.mono (by omega))
    clear hg0 hr0 hbA hsz hb1 hg hr
    go_region
    all_goals
      go_wp2
      obtain ⟨_, p1, p2⟩ := same2 (w := w1) (.string dp) (.int .i64 dc) k0 k1
      refine bodyPost_ret (by simp [results, Try.results59, go_sem, p1, p2]; try rfl) rfl ?_
      exact ⟨rfl, ((hbel.setCell (p := ⟨w.heap.size + 1, 0, none⟩) (by show _ ≤ w.heap.size + 1; omega) _).setCell (p := ⟨w.heap.size + 1, 1, none⟩) (by show _ ≤ w.heap.size + 1; omega) _).drew⟩
  · have hg0 : ((w.alloc (.cells #[.int .i64 4, .string sp, .int .i64 sc, .string dp, .int .i64 dc, .int .i64 sq, .string da, .int .i64 th, .int .i64 ta, .string ack, .string ep, .int .i64 ec, .int .i64 ht] 76)).alloc (.cells #[.string ⟨#[]⟩, .int .i64 0] 60)).heap[w.heap.size]? = some (.cells #[.int .i64 4, .string sp, .int .i64 sc, .string dp, .int .i64 dc, .int .i64 sq, .string da, .int .i64 th, .int .i64 ta, .string ack, .string ep, .int .i64 ec, .int .i64 ht] 76 (0, 0)) := by
      show ((w.heap.push _).push _)[w.heap.size]? = _
      rw [Array.getElem?_push_lt (by simp), ← Array.getElem?_eq_getElem (by simp), Array.getElem?_push_size]
    have hr0 : ((w.alloc (.cells #[.int .i64 4, .string sp, .int .i64 sc, .string dp, .int .i64 dc, .int .i64 sq, .string da, .int .i64 th, .int .i64 ta, .string ack, .string ep, .int .i64 ec, .int .i64 ht] 76)).alloc (.cells #[.string ⟨#[]⟩, .int .i64 0] 60)).heap[w.heap.size + 1]? = some (.cells #[.string ⟨#[]⟩, .int .i64 0] 60 (0, 0)) := by
      show ((w.heap.push _).push _)[w.heap.size + 1]? = _
      rw [show w.heap.size + 1 = (w.heap.push (Obj.cells #[.int .i64 4, .string sp, .int .i64 sc, .string dp, .int .i64 dc, .int .i64 sq, .string da, .int .i64 th, .int .i64 ta, .string ack, .string ep, .int .i64 ec, .int .i64 ht] 76 (0, 0))).size by simp, Array.getElem?_push_size]
    have hbA : Below w.heap.size w ((w.alloc (.cells #[.int .i64 4, .string sp, .int .i64 sc, .string dp, .int .i64 dc, .int .i64 sq, .string da, .int .i64 th, .int .i64 ta, .string ack, .string ep, .int .i64 ec, .int .i64 ht] 76)).alloc (.cells #[.string ⟨#[]⟩, .int .i64 0] 60)) := Below.alloc (Below.alloc (Below.refl _ _) (Nat.le_refl _) _) (by simp) _
    have hsz : ((w.alloc (.cells #[.int .i64 4, .string sp, .int .i64 sc, .string dp, .int .i64 dc, .int .i64 sq, .string da, .int .i64 th, .int .i64 ta, .string ack, .string ep, .int .i64 ec, .int .i64 ht] 76)).alloc (.cells #[.string ⟨#[]⟩, .int .i64 0] 60)).heap.size = w.heap.size + 2 := by simp
    go_enter Try.func59, Try.ntmps59
    go_upto_region 7 with (go_at_call 57; refine (CM _).mono ?_; rintro e w1 ⟨rfl, hb1⟩; rw [hsz] at hb1; have hg := cells_of hg0 hb1 (by omega); have hr := cells_of hr0 hb1 (by omega); have q0 := cell_heap hg 0; have q1 := cell_heap hg 1; have q2 := cell_heap hg 2; have q3 := cell_heap hg 3; have q4 := cell_heap hg 4; have q5 := cell_heap hg 5; have q6 := cell_heap hg 6; have q7 := cell_heap hg 7; have q8 := cell_heap hg 8; have q9 := cell_heap hg 9; have q10 := cell_heap hg 10; have q11 := cell_heap hg 11; have q12 := cell_heap hg 12)
    have k0 := cell_heap hr 0; have k1 := cell_heap hr 1
    have f0 := frozen_heap hr 0; have f1 := frozen_heap hr 1
    have hbel : Below w.heap.size w w1 := hbA.trans (hb1.mono (by omega))
    clear hg0 hr0 hbA hsz hb1 hg hr
    go_region
    all_goals
      go_wp2
      obtain ⟨_, p1, p2⟩ := same2 (w := w1) (.string sp) (.int .i64 sc) k0 k1
      refine bodyPost_ret (by simp [results, Try.results59, go_sem, p1, p2]; try rfl) rfl ?_
      exact ⟨rfl, ((hbel.setCell (p := ⟨w.heap.size + 1, 0, none⟩) (by show _ ≤ w.heap.size + 1; omega) _).setCell (p := ⟨w.heap.size + 1, 1, none⟩) (by show _ ≤ w.heap.size + 1; omega) _).drew⟩
  · have hg0 : ((w.alloc (.cells #[.int .i64 5, .string sp, .int .i64 sc, .string dp, .int .i64 dc, .int .i64 sq, .string da, .int .i64 th, .int .i64 ta, .string ack, .string ep, .int .i64 ec, .int .i64 ht] 76)).alloc (.cells #[.string ⟨#[]⟩, .int .i64 0] 60)).heap[w.heap.size]? = some (.cells #[.int .i64 5, .string sp, .int .i64 sc, .string dp, .int .i64 dc, .int .i64 sq, .string da, .int .i64 th, .int .i64 ta, .string ack, .string ep, .int .i64 ec, .int .i64 ht] 76 (0, 0)) := by
      show ((w.heap.push _).push _)[w.heap.size]? = _
      rw [Array.getElem?_push_lt (by simp), ← Array.getElem?_eq_getElem (by simp), Array.getElem?_push_size]
    have hr0 : ((w.alloc (.cells #[.int .i64 5, .string sp, .int .i64 sc, .string dp, .int .i64 dc, .int .i64 sq, .string da, .int .i64 th, .int .i64 ta, .string ack, .string ep, .int .i64 ec, .int .i64 ht] 76)).alloc (.cells #[.string ⟨#[]⟩, .int .i64 0] 60)).heap[w.heap.size + 1]? = some (.cells #[.string ⟨#[]⟩, .int .i64 0] 60 (0, 0)) := by
      show ((w.heap.push _).push _)[w.heap.size + 1]? = _
      rw [show w.heap.size + 1 = (w.heap.push (Obj.cells #[.int .i64 5, .string sp, .int .i64 sc, .string dp, .int .i64 dc, .int .i64 sq, .string da, .int .i64 th, .int .i64 ta, .string ack, .string ep, .int .i64 ec, .int .i64 ht] 76 (0, 0))).size by simp, Array.getElem?_push_size]
    have hbA : Below w.heap.size w ((w.alloc (.cells #[.int .i64 5, .string sp, .int .i64 sc, .string dp, .int .i64 dc, .int .i64 sq, .string da, .int .i64 th, .int .i64 ta, .string ack, .string ep, .int .i64 ec, .int .i64 ht] 76)).alloc (.cells #[.string ⟨#[]⟩, .int .i64 0] 60)) := Below.alloc (Below.alloc (Below.refl _ _) (Nat.le_refl _) _) (by simp) _
    have hsz : ((w.alloc (.cells #[.int .i64 5, .string sp, .int .i64 sc, .string dp, .int .i64 dc, .int .i64 sq, .string da, .int .i64 th, .int .i64 ta, .string ack, .string ep, .int .i64 ec, .int .i64 ht] 76)).alloc (.cells #[.string ⟨#[]⟩, .int .i64 0] 60)).heap.size = w.heap.size + 2 := by simp
    go_enter Try.func59, Try.ntmps59
    go_upto_region 7 with (go_at_call 57; refine (CM _).mono ?_; rintro e w1 ⟨rfl, hb1⟩; rw [hsz] at hb1; have hg := cells_of hg0 hb1 (by omega); have hr := cells_of hr0 hb1 (by omega); have q0 := cell_heap hg 0; have q1 := cell_heap hg 1; have q2 := cell_heap hg 2; have q3 := cell_heap hg 3; have q4 := cell_heap hg 4; have q5 := cell_heap hg 5; have q6 := cell_heap hg 6; have q7 := cell_heap hg 7; have q8 := cell_heap hg 8; have q9 := cell_heap hg 9; have q10 := cell_heap hg 10; have q11 := cell_heap hg 11; have q12 := cell_heap hg 12)
    have k0 := cell_heap hr 0; have k1 := cell_heap hr 1
    have f0 := frozen_heap hr 0; have f1 := frozen_heap hr 1
    have hbel : Below w.heap.size w w1 := hbA.trans (hb1.mono (by omega))
    clear hg0 hr0 hbA hsz hb1 hg hr
    go_region
    all_goals
      go_wp2
      obtain ⟨_, p1, p2⟩ := same2 (w := w1) (.string sp) (.int .i64 sc) k0 k1
      refine bodyPost_ret (by simp [results, Try.results59, go_sem, p1, p2]; try rfl) rfl ?_
      exact ⟨rfl, ((hbel.setCell (p := ⟨w.heap.size + 1, 0, none⟩) (by show _ ≤ w.heap.size + 1; omega) _).setCell (p := ⟨w.heap.size + 1, 1, none⟩) (by show _ ≤ w.heap.size + 1; omega) _).drew⟩
end Go.Proofs.Ytbckncopdkmoeaa
