/- Events at s13: the document's MayEvent. -/
import Derived.Test.YtbckncopdkmoeaaEv2
import Derived.BigRegion
import Derived.RegionTactic
import Derived.BigQuiet
import Derived.Deep.QuietTactic
import Derived.Deep.MidRow
import Derived.Deep.Cut
import Derived.LoopTactic
import Derived.BigFrame
import Derived.WalkKit
import Derived.ProofKit
import Derived.Handy
import Derived.Below
import Derived.Lib.Hide
import Derived.IntWalk
import Derived.Outline
import Derived.WalkLawsBesides
import Derived.WalkSpells
namespace Go.Proofs.Ytbckncopdkmoeaa
open Go.RowKit
attribute [local go_sem] strV
set_option linter.unusedVariables false
set_option linter.unusedSimpArgs false
theorem evB_iff (a b : Ev) : evB a b = true ↔ a = b := by
  constructor
  · intro h
    unfold evB at h
    simp only [Bool.and_eq_true, beq_iff_eq, ByteArray.toList_eq] at h
    have ba : ∀ x y : ByteArray, x.data.toList = y.data.toList → x = y := fun x y e => by apply ByteArray.ext; apply Array.ext'; exact e
    cases a; cases b
    simp only [Ev.mk.injEq] at h ⊢
    obtain ⟨⟨⟨⟨⟨⟨⟨⟨⟨⟨⟨⟨e1, e2⟩, e3⟩, e4⟩, e5⟩, e6⟩, e7⟩, e8⟩, e9⟩, e10⟩, e11⟩, e12⟩, e13⟩ := h
    exact ⟨e1, ba _ _ e2, e3, ba _ _ e4, e5, e6, ba _ _ e7, e8, e9, ba _ _ e10, ba _ _ e11, e12, e13⟩
  · rintro rfl
    unfold evB
    simp
theorem mayEv_parts {e : Ev} (h : mayEv e = true) : e = plainE e ∧ bodyE e = true := by
  unfold mayEv at h
  rw [Bool.and_eq_true, evB_iff] at h
  exact h
theorem kd_of {e : Ev} (h : bodyE e = true) : 1 ≤ e.kd ∧ e.kd ≤ 7 := by
  unfold bodyE at h
  split at h
  · omega
  · split at h
    · omega
    · split at h
      · omega
      · rw [Bool.and_eq_true] at h
        have h2 := h.1
        unfold hasP at h2
        rw [Bool.and_eq_true, decide_eq_true_eq, decide_eq_true_eq] at h2
        omega
theorem drew_heap (w : World) : w.drew.heap = w.heap := rfl
theorem al3_0 (w : World) (a b c : Obj) : (((w.alloc a).alloc b).alloc c).heap[w.heap.size]? = some a := by
  show (((w.heap.push _).push _).push _)[w.heap.size]? = _
  rw [Array.getElem?_push_lt (by simp; omega), ← Array.getElem?_eq_getElem (by simp; omega), Array.getElem?_push_lt (by simp), ← Array.getElem?_eq_getElem (by simp), Array.getElem?_push_size]
theorem al3_2 (w : World) (a b c : Obj) : (((w.alloc a).alloc b).alloc c).heap[w.heap.size + 1 + 1]? = some c := by
  show (((w.heap.push _).push _).push _)[w.heap.size + 1 + 1]? = _
  rw [show w.heap.size + 1 + 1 = ((w.heap.push a).push b).size by simp, Array.getElem?_push_size]
set_option maxRecDepth 100000 in
set_option maxHeartbeats 12800000 in
theorem refPlain_1 (sp : ByteArray) (sc : Int) (dp : ByteArray) (dc : Int) (sq : Int) (da : ByteArray) (th : Int) (ta : Int) (ack : ByteArray) (ep : ByteArray) (ec : Int) (eh : Int) (w : World) :
    Calls Try.prog 67 #[.agg #[.int .i64 1, .string sp, .int .i64 sc, .string dp, .int .i64 dc, .int .i64 sq, .string da, .int .i64 th, .int .i64 ta, .string ack, .string ep, .int .i64 ec, .int .i64 eh]] w fun e w' => e = .returned (.agg (plainE ⟨1, sp, sc, dp, dc, sq, da, th, ta, ack, ep, ec, eh⟩).row) ∧ Below w.heap.size w w' := by
  have HR := Lib.hid (show (plainE ⟨1, sp, sc, dp, dc, sq, da, th, ta, ack, ep, ec, eh⟩).row = #[.int .i64 1, .string sp, .int .i64 sc, .string dp, .int .i64 dc, .int .i64 sq, .string da, .int .i64 th, .int .i64 ta, .string ⟨#[]⟩, .string ⟨#[]⟩, .int .i64 0, .int .i64 0] by unfold plainE Ev.row; rfl)
  go_enter Try.func67, Try.ntmps67
  go_upto_region 14 with fail
  go_wp2_with (refine wpList_storeRowTo rfl (.tmp 2) (.tmp 35) 76 rfl (by kernel_rfl) rfl rfl (alloc_mid _ _ _ _) rfl (Ev.row_one _ _ _ _ _ _ _ _ _ _ _ _ _) ?_)
  have hZ : (World.setRow _ (w.heap.size + 1) #[.int .i64 1, .string sp, .int .i64 sc, .string dp, .int .i64 dc, .int .i64 sq, .string da, .int .i64 th, .int .i64 ta, .string ⟨#[]⟩, .string ⟨#[]⟩, .int .i64 0, .int .i64 0]).heap[w.heap.size + 1]? = some (.cells #[.int .i64 1, .string sp, .int .i64 sc, .string dp, .int .i64 dc, .int .i64 sq, .string da, .int .i64 th, .int .i64 ta, .string ⟨#[]⟩, .string ⟨#[]⟩, .int .i64 0, .int .i64 0] 76 (0, 0)) := setRow_heap _ _ _ _ _ _ (alloc_mid w (.cells #[.int .i64 1, .string sp, .int .i64 sc, .string dp, .int .i64 dc, .int .i64 sq, .string da, .int .i64 th, .int .i64 ta, .string ack, .string ep, .int .i64 ec, .int .i64 eh] 76) (.cells #[.int .i64 0, .string ⟨#[]⟩, .int .i64 0, .string ⟨#[]⟩, .int .i64 0, .int .i64 0, .string ⟨#[]⟩, .int .i64 0, .int .i64 0, .string ⟨#[]⟩, .string ⟨#[]⟩, .int .i64 0, .int .i64 0] 76) (.cells #[.int .i64 1, .string sp, .int .i64 sc, .string dp, .int .i64 dc, .int .i64 sq, .string da, .int .i64 th, .int .i64 ta, .string ⟨#[]⟩, .string ⟨#[]⟩, .int .i64 0, .int .i64 0] 76))
  have hrd := run_loadVar_mid (P := Try.prog) _ (w.heap.size + 1) 0 76 (#[.int .i64 1, .string sp, .int .i64 sc, .string dp, .int .i64 dc, .int .i64 sq, .string da, .int .i64 th, .int .i64 ta, .string ⟨#[]⟩, .string ⟨#[]⟩, .int .i64 0, .int .i64 0] : Array Value).toList _ (rangeAt_row5 hZ) Try.underlying76 rfl (by kernel_rfl)
  refine bodyPost_ret (v := .agg #[.int .i64 1, .string sp, .int .i64 sc, .string dp, .int .i64 dc, .int .i64 sq, .string da, .int .i64 th, .int .i64 ta, .string ⟨#[]⟩, .string ⟨#[]⟩, .int .i64 0, .int .i64 0]) ?_ rfl ?_
  · simp [results, Try.results67, asAddr]
    exact hrd
  exact ⟨by rw [HR.out], below_setRow (alloc3_below _ _ _ _) (by omega) _⟩
set_option maxRecDepth 100000 in
set_option maxHeartbeats 12800000 in
theorem refPlain_2 (sp : ByteArray) (sc : Int) (dp : ByteArray) (dc : Int) (sq : Int) (da : ByteArray) (th : Int) (ta : Int) (ack : ByteArray) (ep : ByteArray) (ec : Int) (eh : Int) (w : World) :
    Calls Try.prog 67 #[.agg #[.int .i64 2, .string sp, .int .i64 sc, .string dp, .int .i64 dc, .int .i64 sq, .string da, .int .i64 th, .int .i64 ta, .string ack, .string ep, .int .i64 ec, .int .i64 eh]] w fun e w' => e = .returned (.agg (plainE ⟨2, sp, sc, dp, dc, sq, da, th, ta, ack, ep, ec, eh⟩).row) ∧ Below w.heap.size w w' := by
  have HR := Lib.hid (show (plainE ⟨2, sp, sc, dp, dc, sq, da, th, ta, ack, ep, ec, eh⟩).row = #[.int .i64 2, .string sp, .int .i64 sc, .string dp, .int .i64 dc, .int .i64 sq, .string da, .int .i64 th, .int .i64 ta, .string ⟨#[]⟩, .string ⟨#[]⟩, .int .i64 0, .int .i64 0] by unfold plainE Ev.row; rfl)
  go_enter Try.func67, Try.ntmps67
  go_upto_region 14 with fail
  go_wp2_with (refine wpList_storeRowTo rfl (.tmp 2) (.tmp 35) 76 rfl (by kernel_rfl) rfl rfl (alloc_mid _ _ _ _) rfl (Ev.row_one _ _ _ _ _ _ _ _ _ _ _ _ _) ?_)
  have hZ : (World.setRow _ (w.heap.size + 1) #[.int .i64 2, .string sp, .int .i64 sc, .string dp, .int .i64 dc, .int .i64 sq, .string da, .int .i64 th, .int .i64 ta, .string ⟨#[]⟩, .string ⟨#[]⟩, .int .i64 0, .int .i64 0]).heap[w.heap.size + 1]? = some (.cells #[.int .i64 2, .string sp, .int .i64 sc, .string dp, .int .i64 dc, .int .i64 sq, .string da, .int .i64 th, .int .i64 ta, .string ⟨#[]⟩, .string ⟨#[]⟩, .int .i64 0, .int .i64 0] 76 (0, 0)) := setRow_heap _ _ _ _ _ _ (alloc_mid w (.cells #[.int .i64 2, .string sp, .int .i64 sc, .string dp, .int .i64 dc, .int .i64 sq, .string da, .int .i64 th, .int .i64 ta, .string ack, .string ep, .int .i64 ec, .int .i64 eh] 76) (.cells #[.int .i64 0, .string ⟨#[]⟩, .int .i64 0, .string ⟨#[]⟩, .int .i64 0, .int .i64 0, .string ⟨#[]⟩, .int .i64 0, .int .i64 0, .string ⟨#[]⟩, .string ⟨#[]⟩, .int .i64 0, .int .i64 0] 76) (.cells #[.int .i64 2, .string sp, .int .i64 sc, .string dp, .int .i64 dc, .int .i64 sq, .string da, .int .i64 th, .int .i64 ta, .string ⟨#[]⟩, .string ⟨#[]⟩, .int .i64 0, .int .i64 0] 76))
  have hrd := run_loadVar_mid (P := Try.prog) _ (w.heap.size + 1) 0 76 (#[.int .i64 2, .string sp, .int .i64 sc, .string dp, .int .i64 dc, .int .i64 sq, .string da, .int .i64 th, .int .i64 ta, .string ⟨#[]⟩, .string ⟨#[]⟩, .int .i64 0, .int .i64 0] : Array Value).toList _ (rangeAt_row5 hZ) Try.underlying76 rfl (by kernel_rfl)
  refine bodyPost_ret (v := .agg #[.int .i64 2, .string sp, .int .i64 sc, .string dp, .int .i64 dc, .int .i64 sq, .string da, .int .i64 th, .int .i64 ta, .string ⟨#[]⟩, .string ⟨#[]⟩, .int .i64 0, .int .i64 0]) ?_ rfl ?_
  · simp [results, Try.results67, asAddr]
    exact hrd
  exact ⟨by rw [HR.out], below_setRow (alloc3_below _ _ _ _) (by omega) _⟩
set_option maxRecDepth 100000 in
set_option maxHeartbeats 12800000 in
theorem refPlain_4 (sp : ByteArray) (sc : Int) (dp : ByteArray) (dc : Int) (sq : Int) (da : ByteArray) (th : Int) (ta : Int) (ack : ByteArray) (ep : ByteArray) (ec : Int) (eh : Int) (w : World) :
    Calls Try.prog 67 #[.agg #[.int .i64 4, .string sp, .int .i64 sc, .string dp, .int .i64 dc, .int .i64 sq, .string da, .int .i64 th, .int .i64 ta, .string ack, .string ep, .int .i64 ec, .int .i64 eh]] w fun e w' => e = .returned (.agg (plainE ⟨4, sp, sc, dp, dc, sq, da, th, ta, ack, ep, ec, eh⟩).row) ∧ Below w.heap.size w w' := by
  have HR := Lib.hid (show (plainE ⟨4, sp, sc, dp, dc, sq, da, th, ta, ack, ep, ec, eh⟩).row = #[.int .i64 4, .string sp, .int .i64 sc, .string dp, .int .i64 dc, .int .i64 sq, .string da, .int .i64 th, .int .i64 ta, .string ⟨#[]⟩, .string ⟨#[]⟩, .int .i64 0, .int .i64 0] by unfold plainE Ev.row; rfl)
  go_enter Try.func67, Try.ntmps67
  go_upto_region 14 with fail
  go_wp2_with (refine wpList_storeRowTo rfl (.tmp 2) (.tmp 35) 76 rfl (by kernel_rfl) rfl rfl (alloc_mid _ _ _ _) rfl (Ev.row_one _ _ _ _ _ _ _ _ _ _ _ _ _) ?_)
  have hZ : (World.setRow _ (w.heap.size + 1) #[.int .i64 4, .string sp, .int .i64 sc, .string dp, .int .i64 dc, .int .i64 sq, .string da, .int .i64 th, .int .i64 ta, .string ⟨#[]⟩, .string ⟨#[]⟩, .int .i64 0, .int .i64 0]).heap[w.heap.size + 1]? = some (.cells #[.int .i64 4, .string sp, .int .i64 sc, .string dp, .int .i64 dc, .int .i64 sq, .string da, .int .i64 th, .int .i64 ta, .string ⟨#[]⟩, .string ⟨#[]⟩, .int .i64 0, .int .i64 0] 76 (0, 0)) := setRow_heap _ _ _ _ _ _ (alloc_mid w (.cells #[.int .i64 4, .string sp, .int .i64 sc, .string dp, .int .i64 dc, .int .i64 sq, .string da, .int .i64 th, .int .i64 ta, .string ack, .string ep, .int .i64 ec, .int .i64 eh] 76) (.cells #[.int .i64 0, .string ⟨#[]⟩, .int .i64 0, .string ⟨#[]⟩, .int .i64 0, .int .i64 0, .string ⟨#[]⟩, .int .i64 0, .int .i64 0, .string ⟨#[]⟩, .string ⟨#[]⟩, .int .i64 0, .int .i64 0] 76) (.cells #[.int .i64 4, .string sp, .int .i64 sc, .string dp, .int .i64 dc, .int .i64 sq, .string da, .int .i64 th, .int .i64 ta, .string ⟨#[]⟩, .string ⟨#[]⟩, .int .i64 0, .int .i64 0] 76))
  have hrd := run_loadVar_mid (P := Try.prog) _ (w.heap.size + 1) 0 76 (#[.int .i64 4, .string sp, .int .i64 sc, .string dp, .int .i64 dc, .int .i64 sq, .string da, .int .i64 th, .int .i64 ta, .string ⟨#[]⟩, .string ⟨#[]⟩, .int .i64 0, .int .i64 0] : Array Value).toList _ (rangeAt_row5 hZ) Try.underlying76 rfl (by kernel_rfl)
  refine bodyPost_ret (v := .agg #[.int .i64 4, .string sp, .int .i64 sc, .string dp, .int .i64 dc, .int .i64 sq, .string da, .int .i64 th, .int .i64 ta, .string ⟨#[]⟩, .string ⟨#[]⟩, .int .i64 0, .int .i64 0]) ?_ rfl ?_
  · simp [results, Try.results67, asAddr]
    exact hrd
  exact ⟨by rw [HR.out], below_setRow (alloc3_below _ _ _ _) (by omega) _⟩
set_option maxRecDepth 100000 in
set_option maxHeartbeats 12800000 in
theorem refPlain_5 (sp : ByteArray) (sc : Int) (dp : ByteArray) (dc : Int) (sq : Int) (da : ByteArray) (th : Int) (ta : Int) (ack : ByteArray) (ep : ByteArray) (ec : Int) (eh : Int) (w : World) :
    Calls Try.prog 67 #[.agg #[.int .i64 5, .string sp, .int .i64 sc, .string dp, .int .i64 dc, .int .i64 sq, .string da, .int .i64 th, .int .i64 ta, .string ack, .string ep, .int .i64 ec, .int .i64 eh]] w fun e w' => e = .returned (.agg (plainE ⟨5, sp, sc, dp, dc, sq, da, th, ta, ack, ep, ec, eh⟩).row) ∧ Below w.heap.size w w' := by
  have HR := Lib.hid (show (plainE ⟨5, sp, sc, dp, dc, sq, da, th, ta, ack, ep, ec, eh⟩).row = #[.int .i64 5, .string sp, .int .i64 sc, .string dp, .int .i64 dc, .int .i64 sq, .string da, .int .i64 th, .int .i64 ta, .string ⟨#[]⟩, .string ⟨#[]⟩, .int .i64 0, .int .i64 0] by unfold plainE Ev.row; rfl)
  go_enter Try.func67, Try.ntmps67
  go_upto_region 14 with fail
  go_wp2_with (refine wpList_storeRowTo rfl (.tmp 2) (.tmp 35) 76 rfl (by kernel_rfl) rfl rfl (alloc_mid _ _ _ _) rfl (Ev.row_one _ _ _ _ _ _ _ _ _ _ _ _ _) ?_)
  have hZ : (World.setRow _ (w.heap.size + 1) #[.int .i64 5, .string sp, .int .i64 sc, .string dp, .int .i64 dc, .int .i64 sq, .string da, .int .i64 th, .int .i64 ta, .string ⟨#[]⟩, .string ⟨#[]⟩, .int .i64 0, .int .i64 0]).heap[w.heap.size + 1]? = some (.cells #[.int .i64 5, .string sp, .int .i64 sc, .string dp, .int .i64 dc, .int .i64 sq, .string da, .int .i64 th, .int .i64 ta, .string ⟨#[]⟩, .string ⟨#[]⟩, .int .i64 0, .int .i64 0] 76 (0, 0)) := setRow_heap _ _ _ _ _ _ (alloc_mid w (.cells #[.int .i64 5, .string sp, .int .i64 sc, .string dp, .int .i64 dc, .int .i64 sq, .string da, .int .i64 th, .int .i64 ta, .string ack, .string ep, .int .i64 ec, .int .i64 eh] 76) (.cells #[.int .i64 0, .string ⟨#[]⟩, .int .i64 0, .string ⟨#[]⟩, .int .i64 0, .int .i64 0, .string ⟨#[]⟩, .int .i64 0, .int .i64 0, .string ⟨#[]⟩, .string ⟨#[]⟩, .int .i64 0, .int .i64 0] 76) (.cells #[.int .i64 5, .string sp, .int .i64 sc, .string dp, .int .i64 dc, .int .i64 sq, .string da, .int .i64 th, .int .i64 ta, .string ⟨#[]⟩, .string ⟨#[]⟩, .int .i64 0, .int .i64 0] 76))
  have hrd := run_loadVar_mid (P := Try.prog) _ (w.heap.size + 1) 0 76 (#[.int .i64 5, .string sp, .int .i64 sc, .string dp, .int .i64 dc, .int .i64 sq, .string da, .int .i64 th, .int .i64 ta, .string ⟨#[]⟩, .string ⟨#[]⟩, .int .i64 0, .int .i64 0] : Array Value).toList _ (rangeAt_row5 hZ) Try.underlying76 rfl (by kernel_rfl)
  refine bodyPost_ret (v := .agg #[.int .i64 5, .string sp, .int .i64 sc, .string dp, .int .i64 dc, .int .i64 sq, .string da, .int .i64 th, .int .i64 ta, .string ⟨#[]⟩, .string ⟨#[]⟩, .int .i64 0, .int .i64 0]) ?_ rfl ?_
  · simp [results, Try.results67, asAddr]
    exact hrd
  exact ⟨by rw [HR.out], below_setRow (alloc3_below _ _ _ _) (by omega) _⟩
set_option maxRecDepth 100000 in
set_option maxHeartbeats 12800000 in
theorem refPlain_6 (sp : ByteArray) (sc : Int) (dp : ByteArray) (dc : Int) (sq : Int) (da : ByteArray) (th : Int) (ta : Int) (ack : ByteArray) (ep : ByteArray) (ec : Int) (eh : Int) (w : World) :
    Calls Try.prog 67 #[.agg #[.int .i64 6, .string sp, .int .i64 sc, .string dp, .int .i64 dc, .int .i64 sq, .string da, .int .i64 th, .int .i64 ta, .string ack, .string ep, .int .i64 ec, .int .i64 eh]] w fun e w' => e = .returned (.agg (plainE ⟨6, sp, sc, dp, dc, sq, da, th, ta, ack, ep, ec, eh⟩).row) ∧ Below w.heap.size w w' := by
  have HR := Lib.hid (show (plainE ⟨6, sp, sc, dp, dc, sq, da, th, ta, ack, ep, ec, eh⟩).row = #[.int .i64 6, .string ⟨#[]⟩, .int .i64 0, .string ⟨#[]⟩, .int .i64 0, .int .i64 0, .string ⟨#[]⟩, .int .i64 0, .int .i64 0, .string ⟨#[]⟩, .string ep, .int .i64 ec, .int .i64 0] by unfold plainE Ev.row; rfl)
  go_enter Try.func67, Try.ntmps67
  go_upto_region 14 with fail
  go_wp2_with (refine wpList_storeRowTo rfl (.tmp 2) (.tmp 35) 76 rfl (by kernel_rfl) rfl rfl (alloc_mid _ _ _ _) rfl (Ev.row_one _ _ _ _ _ _ _ _ _ _ _ _ _) ?_)
  have hZ : (World.setRow _ (w.heap.size + 1) #[.int .i64 6, .string ⟨#[]⟩, .int .i64 0, .string ⟨#[]⟩, .int .i64 0, .int .i64 0, .string ⟨#[]⟩, .int .i64 0, .int .i64 0, .string ⟨#[]⟩, .string ep, .int .i64 ec, .int .i64 0]).heap[w.heap.size + 1]? = some (.cells #[.int .i64 6, .string ⟨#[]⟩, .int .i64 0, .string ⟨#[]⟩, .int .i64 0, .int .i64 0, .string ⟨#[]⟩, .int .i64 0, .int .i64 0, .string ⟨#[]⟩, .string ep, .int .i64 ec, .int .i64 0] 76 (0, 0)) := setRow_heap _ _ _ _ _ _ (alloc_mid w (.cells #[.int .i64 6, .string sp, .int .i64 sc, .string dp, .int .i64 dc, .int .i64 sq, .string da, .int .i64 th, .int .i64 ta, .string ack, .string ep, .int .i64 ec, .int .i64 eh] 76) (.cells #[.int .i64 0, .string ⟨#[]⟩, .int .i64 0, .string ⟨#[]⟩, .int .i64 0, .int .i64 0, .string ⟨#[]⟩, .int .i64 0, .int .i64 0, .string ⟨#[]⟩, .string ⟨#[]⟩, .int .i64 0, .int .i64 0] 76) (.cells #[.int .i64 6, .string ⟨#[]⟩, .int .i64 0, .string ⟨#[]⟩, .int .i64 0, .int .i64 0, .string ⟨#[]⟩, .int .i64 0, .int .i64 0, .string ⟨#[]⟩, .string ep, .int .i64 ec, .int .i64 0] 76))
  have hrd := run_loadVar_mid (P := Try.prog) _ (w.heap.size + 1) 0 76 (#[.int .i64 6, .string ⟨#[]⟩, .int .i64 0, .string ⟨#[]⟩, .int .i64 0, .int .i64 0, .string ⟨#[]⟩, .int .i64 0, .int .i64 0, .string ⟨#[]⟩, .string ep, .int .i64 ec, .int .i64 0] : Array Value).toList _ (rangeAt_row5 hZ) Try.underlying76 rfl (by kernel_rfl)
  refine bodyPost_ret (v := .agg #[.int .i64 6, .string ⟨#[]⟩, .int .i64 0, .string ⟨#[]⟩, .int .i64 0, .int .i64 0, .string ⟨#[]⟩, .int .i64 0, .int .i64 0, .string ⟨#[]⟩, .string ep, .int .i64 ec, .int .i64 0]) ?_ rfl ?_
  · simp [results, Try.results67, asAddr]
    exact hrd
  exact ⟨by rw [HR.out], below_setRow (alloc3_below _ _ _ _) (by omega) _⟩
set_option maxRecDepth 100000 in
set_option maxHeartbeats 12800000 in
theorem refPlain_7 (sp : ByteArray) (sc : Int) (dp : ByteArray) (dc : Int) (sq : Int) (da : ByteArray) (th : Int) (ta : Int) (ack : ByteArray) (ep : ByteArray) (ec : Int) (eh : Int) (w : World) :
    Calls Try.prog 67 #[.agg #[.int .i64 7, .string sp, .int .i64 sc, .string dp, .int .i64 dc, .int .i64 sq, .string da, .int .i64 th, .int .i64 ta, .string ack, .string ep, .int .i64 ec, .int .i64 eh]] w fun e w' => e = .returned (.agg (plainE ⟨7, sp, sc, dp, dc, sq, da, th, ta, ack, ep, ec, eh⟩).row) ∧ Below w.heap.size w w' := by
  have HR := Lib.hid (show (plainE ⟨7, sp, sc, dp, dc, sq, da, th, ta, ack, ep, ec, eh⟩).row = #[.int .i64 7, .string ⟨#[]⟩, .int .i64 0, .string ⟨#[]⟩, .int .i64 0, .int .i64 0, .string ⟨#[]⟩, .int .i64 0, .int .i64 0, .string ⟨#[]⟩, .string ⟨#[]⟩, .int .i64 0, .int .i64 eh] by unfold plainE Ev.row; rfl)
  go_enter Try.func67, Try.ntmps67
  go_upto_region 14 with fail
  go_wp2_with (refine wpList_storeRowTo rfl (.tmp 2) (.tmp 35) 76 rfl (by kernel_rfl) rfl rfl (alloc_mid _ _ _ _) rfl (Ev.row_one _ _ _ _ _ _ _ _ _ _ _ _ _) ?_)
  have hZ : (World.setRow _ (w.heap.size + 1) #[.int .i64 7, .string ⟨#[]⟩, .int .i64 0, .string ⟨#[]⟩, .int .i64 0, .int .i64 0, .string ⟨#[]⟩, .int .i64 0, .int .i64 0, .string ⟨#[]⟩, .string ⟨#[]⟩, .int .i64 0, .int .i64 eh]).heap[w.heap.size + 1]? = some (.cells #[.int .i64 7, .string ⟨#[]⟩, .int .i64 0, .string ⟨#[]⟩, .int .i64 0, .int .i64 0, .string ⟨#[]⟩, .int .i64 0, .int .i64 0, .string ⟨#[]⟩, .string ⟨#[]⟩, .int .i64 0, .int .i64 eh] 76 (0, 0)) := setRow_heap _ _ _ _ _ _ (alloc_mid w (.cells #[.int .i64 7, .string sp, .int .i64 sc, .string dp, .int .i64 dc, .int .i64 sq, .string da, .int .i64 th, .int .i64 ta, .string ack, .string ep, .int .i64 ec, .int .i64 eh] 76) (.cells #[.int .i64 0, .string ⟨#[]⟩, .int .i64 0, .string ⟨#[]⟩, .int .i64 0, .int .i64 0, .string ⟨#[]⟩, .int .i64 0, .int .i64 0, .string ⟨#[]⟩, .string ⟨#[]⟩, .int .i64 0, .int .i64 0] 76) (.cells #[.int .i64 7, .string ⟨#[]⟩, .int .i64 0, .string ⟨#[]⟩, .int .i64 0, .int .i64 0, .string ⟨#[]⟩, .int .i64 0, .int .i64 0, .string ⟨#[]⟩, .string ⟨#[]⟩, .int .i64 0, .int .i64 eh] 76))
  have hrd := run_loadVar_mid (P := Try.prog) _ (w.heap.size + 1) 0 76 (#[.int .i64 7, .string ⟨#[]⟩, .int .i64 0, .string ⟨#[]⟩, .int .i64 0, .int .i64 0, .string ⟨#[]⟩, .int .i64 0, .int .i64 0, .string ⟨#[]⟩, .string ⟨#[]⟩, .int .i64 0, .int .i64 eh] : Array Value).toList _ (rangeAt_row5 hZ) Try.underlying76 rfl (by kernel_rfl)
  refine bodyPost_ret (v := .agg #[.int .i64 7, .string ⟨#[]⟩, .int .i64 0, .string ⟨#[]⟩, .int .i64 0, .int .i64 0, .string ⟨#[]⟩, .int .i64 0, .int .i64 0, .string ⟨#[]⟩, .string ⟨#[]⟩, .int .i64 0, .int .i64 eh]) ?_ rfl ?_
  · simp [results, Try.results67, asAddr]
    exact hrd
  exact ⟨by rw [HR.out], below_setRow (alloc3_below _ _ _ _) (by omega) _⟩
set_option maxRecDepth 100000 in
set_option maxHeartbeats 12800000 in
theorem refPlain_3 (sp : ByteArray) (sc : Int) (dp : ByteArray) (dc : Int) (sq : Int) (da : ByteArray) (th : Int) (ta : Int) (ack : ByteArray) (ep : ByteArray) (ec : Int) (eh : Int) (w : World) :
    Calls Try.prog 67 #[.agg #[.int .i64 3, .string sp, .int .i64 sc, .string dp, .int .i64 dc, .int .i64 sq, .string da, .int .i64 th, .int .i64 ta, .string ack, .string ep, .int .i64 ec, .int .i64 eh]] w fun e w' => e = .returned (.agg (plainE ⟨3, sp, sc, dp, dc, sq, da, th, ta, ack, ep, ec, eh⟩).row) ∧ Below w.heap.size w w' := by
  have HR := Lib.hid (show (plainE ⟨3, sp, sc, dp, dc, sq, da, th, ta, ack, ep, ec, eh⟩).row = #[.int .i64 3, .string sp, .int .i64 sc, .string dp, .int .i64 dc, .int .i64 sq, .string da, .int .i64 th, .int .i64 ta, .string ack, .string ⟨#[]⟩, .int .i64 0, .int .i64 0] by unfold plainE Ev.row; rfl)
  have hx0 := al3_0 w (.cells #[.int .i64 3, .string sp, .int .i64 sc, .string dp, .int .i64 dc, .int .i64 sq, .string da, .int .i64 th, .int .i64 ta, .string ack, .string ep, .int .i64 ec, .int .i64 eh] 76) (.cells #[.int .i64 0, .string ⟨#[]⟩, .int .i64 0, .string ⟨#[]⟩, .int .i64 0, .int .i64 0, .string ⟨#[]⟩, .int .i64 0, .int .i64 0, .string ⟨#[]⟩, .string ⟨#[]⟩, .int .i64 0, .int .i64 0] 76) (.cells #[.int .i64 3, .string ⟨#[]⟩, .int .i64 0, .string ⟨#[]⟩, .int .i64 0, .int .i64 0, .string ⟨#[]⟩, .int .i64 0, .int .i64 0, .string ⟨#[]⟩, .string ⟨#[]⟩, .int .i64 0, .int .i64 0] 76)
  have hr0 := alloc_mid w (.cells #[.int .i64 3, .string sp, .int .i64 sc, .string dp, .int .i64 dc, .int .i64 sq, .string da, .int .i64 th, .int .i64 ta, .string ack, .string ep, .int .i64 ec, .int .i64 eh] 76) (.cells #[.int .i64 0, .string ⟨#[]⟩, .int .i64 0, .string ⟨#[]⟩, .int .i64 0, .int .i64 0, .string ⟨#[]⟩, .int .i64 0, .int .i64 0, .string ⟨#[]⟩, .string ⟨#[]⟩, .int .i64 0, .int .i64 0] 76) (.cells #[.int .i64 3, .string ⟨#[]⟩, .int .i64 0, .string ⟨#[]⟩, .int .i64 0, .int .i64 0, .string ⟨#[]⟩, .int .i64 0, .int .i64 0, .string ⟨#[]⟩, .string ⟨#[]⟩, .int .i64 0, .int .i64 0] 76)
  have hy0 := al3_2 w (.cells #[.int .i64 3, .string sp, .int .i64 sc, .string dp, .int .i64 dc, .int .i64 sq, .string da, .int .i64 th, .int .i64 ta, .string ack, .string ep, .int .i64 ec, .int .i64 eh] 76) (.cells #[.int .i64 0, .string ⟨#[]⟩, .int .i64 0, .string ⟨#[]⟩, .int .i64 0, .int .i64 0, .string ⟨#[]⟩, .int .i64 0, .int .i64 0, .string ⟨#[]⟩, .string ⟨#[]⟩, .int .i64 0, .int .i64 0] 76) (.cells #[.int .i64 3, .string ⟨#[]⟩, .int .i64 0, .string ⟨#[]⟩, .int .i64 0, .int .i64 0, .string ⟨#[]⟩, .int .i64 0, .int .i64 0, .string ⟨#[]⟩, .string ⟨#[]⟩, .int .i64 0, .int .i64 0] 76)
  have hbA := alloc3_below w (.cells #[.int .i64 3, .string sp, .int .i64 sc, .string dp, .int .i64 dc, .int .i64 sq, .string da, .int .i64 th, .int .i64 ta, .string ack, .string ep, .int .i64 ec, .int .i64 eh] 76) (.cells #[.int .i64 0, .string ⟨#[]⟩, .int .i64 0, .string ⟨#[]⟩, .int .i64 0, .int .i64 0, .string ⟨#[]⟩, .int .i64 0, .int .i64 0, .string ⟨#[]⟩, .string ⟨#[]⟩, .int .i64 0, .int .i64 0] 76) (.cells #[.int .i64 3, .string ⟨#[]⟩, .int .i64 0, .string ⟨#[]⟩, .int .i64 0, .int .i64 0, .string ⟨#[]⟩, .int .i64 0, .int .i64 0, .string ⟨#[]⟩, .string ⟨#[]⟩, .int .i64 0, .int .i64 0] 76)
  go_enter Try.func67, Try.ntmps67
  go_upto_region 9 with fail
  refine wp_nameE _ (fun W1 hX => ?_)
  have hx : W1.heap[w.heap.size]? = some (.cells #[.int .i64 3, .string sp, .int .i64 sc, .string dp, .int .i64 dc, .int .i64 sq, .string da, .int .i64 th, .int .i64 ta, .string ack, .string ep, .int .i64 ec, .int .i64 eh] 76 (0, 0)) := by rw [hX]; exact hx0
  have hr : W1.heap[w.heap.size + 1]? = some (.cells #[.int .i64 0, .string ⟨#[]⟩, .int .i64 0, .string ⟨#[]⟩, .int .i64 0, .int .i64 0, .string ⟨#[]⟩, .int .i64 0, .int .i64 0, .string ⟨#[]⟩, .string ⟨#[]⟩, .int .i64 0, .int .i64 0] 76 (0, 0)) := by rw [hX]; exact hr0
  have hy : W1.heap[w.heap.size + 1 + 1]? = some (.cells #[.int .i64 3, .string ⟨#[]⟩, .int .i64 0, .string ⟨#[]⟩, .int .i64 0, .int .i64 0, .string ⟨#[]⟩, .int .i64 0, .int .i64 0, .string ⟨#[]⟩, .string ⟨#[]⟩, .int .i64 0, .int .i64 0] 76 (0, 0)) := by rw [hX]; exact hy0
  have hbel : Below w.heap.size w W1 := by rw [hX]; exact hbA
  clear hX hx0 hr0 hy0 hbA
  have p0 := cell_heap hx 0; have p1 := cell_heap hx 1; have p2 := cell_heap hx 2; have p3 := cell_heap hx 3; have p4 := cell_heap hx 4; have p5 := cell_heap hx 5; have p6 := cell_heap hx 6; have p7 := cell_heap hx 7; have p8 := cell_heap hx 8; have p9 := cell_heap hx 9; have p10 := cell_heap hx 10; have p11 := cell_heap hx 11; have p12 := cell_heap hx 12
  have y0 := cell_heap hy 0; have y1 := cell_heap hy 1; have y2 := cell_heap hy 2; have y3 := cell_heap hy 3; have y4 := cell_heap hy 4; have y5 := cell_heap hy 5; have y6 := cell_heap hy 6; have y7 := cell_heap hy 7; have y8 := cell_heap hy 8; have y9 := cell_heap hy 9; have y10 := cell_heap hy 10; have y11 := cell_heap hy 11; have y12 := cell_heap hy 12
  have f1 := frozen_heap hy 1; have f2 := frozen_heap hy 2; have f3 := frozen_heap hy 3; have f4 := frozen_heap hy 4; have f5 := frozen_heap hy 5; have f6 := frozen_heap hy 6; have f7 := frozen_heap hy 7; have f8 := frozen_heap hy 8; have f9 := frozen_heap hy 9
  go_region
  all_goals
    go_upto_region 14 with fail
    refine wp_nameE _ (fun W2 hX => ?_)
    have u1 := row_put5 (k := 1) (v := .string sp) hy
    have u2 := row_put5 (k := 2) (v := .int .i64 sc) u1
    have u3 := row_put5 (k := 3) (v := .string dp) u2
    have u4 := row_put5 (k := 4) (v := .int .i64 dc) u3
    have u5 := row_put5 (k := 5) (v := .int .i64 sq) u4
    have u6 := row_put5 (k := 6) (v := .string da) u5
    have u7 := row_put5 (k := 7) (v := .int .i64 th) u6
    have u8 := row_put5 (k := 8) (v := .int .i64 ta) u7
    have u9 := row_put5 (k := 9) (v := .string ack) u8
    have v1 := row_oth (g := w.heap.size + 1 + 1) (k := 1) (v := .string sp) hr (by omega)
    have v2 := row_oth (g := w.heap.size + 1 + 1) (k := 2) (v := .int .i64 sc) v1 (by omega)
    have v3 := row_oth (g := w.heap.size + 1 + 1) (k := 3) (v := .string dp) v2 (by omega)
    have v4 := row_oth (g := w.heap.size + 1 + 1) (k := 4) (v := .int .i64 dc) v3 (by omega)
    have v5 := row_oth (g := w.heap.size + 1 + 1) (k := 5) (v := .int .i64 sq) v4 (by omega)
    have v6 := row_oth (g := w.heap.size + 1 + 1) (k := 6) (v := .string da) v5 (by omega)
    have v7 := row_oth (g := w.heap.size + 1 + 1) (k := 7) (v := .int .i64 th) v6 (by omega)
    have v8 := row_oth (g := w.heap.size + 1 + 1) (k := 8) (v := .int .i64 ta) v7 (by omega)
    have v9 := row_oth (g := w.heap.size + 1 + 1) (k := 9) (v := .string ack) v8 (by omega)
    have hr2 : W2.heap[w.heap.size + 1]? = some (.cells #[.int .i64 0, .string ⟨#[]⟩, .int .i64 0, .string ⟨#[]⟩, .int .i64 0, .int .i64 0, .string ⟨#[]⟩, .int .i64 0, .int .i64 0, .string ⟨#[]⟩, .string ⟨#[]⟩, .int .i64 0, .int .i64 0] 76 (0, 0)) := by rw [hX, drew_heap]; exact v9
    have hy2 : W2.heap[w.heap.size + 1 + 1]? = some (.cells #[.int .i64 3, .string sp, .int .i64 sc, .string dp, .int .i64 dc, .int .i64 sq, .string da, .int .i64 th, .int .i64 ta, .string ack, .string ⟨#[]⟩, .int .i64 0, .int .i64 0] 76 (0, 0)) := by rw [hX, drew_heap]; simp only [List.setIfInBounds_toArray, List.set_cons_succ, List.set_cons_zero] at u9; exact u9
    have hb2 : Below w.heap.size w W2 := by rw [hX]; exact (((((((((hbel.setCell (p := ⟨w.heap.size + 1 + 1, 1, none⟩) (by show _ ≤ w.heap.size + 1 + 1; omega) _).setCell (p := ⟨w.heap.size + 1 + 1, 2, none⟩) (by show _ ≤ w.heap.size + 1 + 1; omega) _).setCell (p := ⟨w.heap.size + 1 + 1, 3, none⟩) (by show _ ≤ w.heap.size + 1 + 1; omega) _).setCell (p := ⟨w.heap.size + 1 + 1, 4, none⟩) (by show _ ≤ w.heap.size + 1 + 1; omega) _).setCell (p := ⟨w.heap.size + 1 + 1, 5, none⟩) (by show _ ≤ w.heap.size + 1 + 1; omega) _).setCell (p := ⟨w.heap.size + 1 + 1, 6, none⟩) (by show _ ≤ w.heap.size + 1 + 1; omega) _).setCell (p := ⟨w.heap.size + 1 + 1, 7, none⟩) (by show _ ≤ w.heap.size + 1 + 1; omega) _).setCell (p := ⟨w.heap.size + 1 + 1, 8, none⟩) (by show _ ≤ w.heap.size + 1 + 1; omega) _).setCell (p := ⟨w.heap.size + 1 + 1, 9, none⟩) (by show _ ≤ w.heap.size + 1 + 1; omega) _).drew
    clear hX hx hr hy hbel u1 v1 u2 v2 u3 v3 u4 v4 u5 v5 u6 v6 u7 v7 u8 v8 u9 v9 f1 f2 f3 f4 f5 f6 f7 f8 f9 p0 y0 p1 y1 p2 y2 p3 y3 p4 y4 p5 y5 p6 y6 p7 y7 p8 y8 p9 y9 p10 y10 p11 y11 p12 y12
    have y0 := cell_heap hy2 0; have y1 := cell_heap hy2 1; have y2 := cell_heap hy2 2; have y3 := cell_heap hy2 3; have y4 := cell_heap hy2 4; have y5 := cell_heap hy2 5; have y6 := cell_heap hy2 6; have y7 := cell_heap hy2 7; have y8 := cell_heap hy2 8; have y9 := cell_heap hy2 9; have y10 := cell_heap hy2 10; have y11 := cell_heap hy2 11; have y12 := cell_heap hy2 12
    go_wp2_with (refine wpList_storeRowTo rfl (.tmp 2) (.tmp 35) 76 rfl (by kernel_rfl) rfl rfl hr2 rfl (Ev.row_one _ _ _ _ _ _ _ _ _ _ _ _ _) ?_)
    have hZ : (World.setRow W2 (w.heap.size + 1) #[.int .i64 3, .string sp, .int .i64 sc, .string dp, .int .i64 dc, .int .i64 sq, .string da, .int .i64 th, .int .i64 ta, .string ack, .string ⟨#[]⟩, .int .i64 0, .int .i64 0]).heap[w.heap.size + 1]? = some (.cells #[.int .i64 3, .string sp, .int .i64 sc, .string dp, .int .i64 dc, .int .i64 sq, .string da, .int .i64 th, .int .i64 ta, .string ack, .string ⟨#[]⟩, .int .i64 0, .int .i64 0] 76 (0, 0)) := setRow_heap _ _ _ _ _ _ hr2
    have hrd := run_loadVar_mid (P := Try.prog) _ (w.heap.size + 1) 0 76 (#[.int .i64 3, .string sp, .int .i64 sc, .string dp, .int .i64 dc, .int .i64 sq, .string da, .int .i64 th, .int .i64 ta, .string ack, .string ⟨#[]⟩, .int .i64 0, .int .i64 0] : Array Value).toList _ (rangeAt_row5 hZ) Try.underlying76 rfl (by kernel_rfl)
    refine bodyPost_ret (v := .agg #[.int .i64 3, .string sp, .int .i64 sc, .string dp, .int .i64 dc, .int .i64 sq, .string da, .int .i64 th, .int .i64 ta, .string ack, .string ⟨#[]⟩, .int .i64 0, .int .i64 0]) ?_ rfl ?_
    · simp [results, Try.results67, asAddr]
      exact hrd
    exact ⟨by rw [HR.out], below_setRow hb2 (by omega) _⟩
set_option maxRecDepth 100000 in
set_option maxHeartbeats 12800000 in
theorem refPlain_0 (kd : Int) (sp : ByteArray) (sc : Int) (dp : ByteArray) (dc : Int) (sq : Int) (da : ByteArray) (th : Int) (ta : Int) (ack : ByteArray) (ep : ByteArray) (ec : Int) (eh : Int) (w : World) (e1 : (kd == 1) = false) (e2 : (kd == 2) = false) (e3 : (kd == 3) = false) (e4 : (kd == 4) = false) (e5 : (kd == 5) = false) (e6 : (kd == 6) = false) (e7 : (kd == 7) = false) :
    Calls Try.prog 67 #[.agg #[.int .i64 kd, .string sp, .int .i64 sc, .string dp, .int .i64 dc, .int .i64 sq, .string da, .int .i64 th, .int .i64 ta, .string ack, .string ep, .int .i64 ec, .int .i64 eh]] w fun e w' => e = .returned (.agg (plainE ⟨kd, sp, sc, dp, dc, sq, da, th, ta, ack, ep, ec, eh⟩).row) ∧ Below w.heap.size w w' := by
  have hh : hasP kd = false := by have k1 := beq_eq_false_iff_ne.1 e1; have k2 := beq_eq_false_iff_ne.1 e2; have k3 := beq_eq_false_iff_ne.1 e3; have k4 := beq_eq_false_iff_ne.1 e4; have k5 := beq_eq_false_iff_ne.1 e5; unfold hasP; simp only [Bool.and_eq_false_iff, decide_eq_false_iff_not]; omega
  have HR := Lib.hid (show (plainE ⟨kd, sp, sc, dp, dc, sq, da, th, ta, ack, ep, ec, eh⟩).row = #[.int .i64 kd, .string ⟨#[]⟩, .int .i64 0, .string ⟨#[]⟩, .int .i64 0, .int .i64 0, .string ⟨#[]⟩, .int .i64 0, .int .i64 0, .string ⟨#[]⟩, .string ⟨#[]⟩, .int .i64 0, .int .i64 0] by unfold plainE Ev.row; simp only [hh, e3, e6, e7, cond_false])
  go_enter Try.func67, Try.ntmps67
  go_upto_region 14 with fail
  go_wp2_with (refine wpList_storeRowTo rfl (.tmp 2) (.tmp 35) 76 rfl (by kernel_rfl) rfl rfl (alloc_mid _ _ _ _) rfl (Ev.row_one _ _ _ _ _ _ _ _ _ _ _ _ _) ?_)
  have hZ : (World.setRow _ (w.heap.size + 1) #[.int .i64 kd, .string ⟨#[]⟩, .int .i64 0, .string ⟨#[]⟩, .int .i64 0, .int .i64 0, .string ⟨#[]⟩, .int .i64 0, .int .i64 0, .string ⟨#[]⟩, .string ⟨#[]⟩, .int .i64 0, .int .i64 0]).heap[w.heap.size + 1]? = some (.cells #[.int .i64 kd, .string ⟨#[]⟩, .int .i64 0, .string ⟨#[]⟩, .int .i64 0, .int .i64 0, .string ⟨#[]⟩, .int .i64 0, .int .i64 0, .string ⟨#[]⟩, .string ⟨#[]⟩, .int .i64 0, .int .i64 0] 76 (0, 0)) := setRow_heap _ _ _ _ _ _ (alloc_mid w (.cells #[.int .i64 kd, .string sp, .int .i64 sc, .string dp, .int .i64 dc, .int .i64 sq, .string da, .int .i64 th, .int .i64 ta, .string ack, .string ep, .int .i64 ec, .int .i64 eh] 76) (.cells #[.int .i64 0, .string ⟨#[]⟩, .int .i64 0, .string ⟨#[]⟩, .int .i64 0, .int .i64 0, .string ⟨#[]⟩, .int .i64 0, .int .i64 0, .string ⟨#[]⟩, .string ⟨#[]⟩, .int .i64 0, .int .i64 0] 76) (.cells #[.int .i64 kd, .string ⟨#[]⟩, .int .i64 0, .string ⟨#[]⟩, .int .i64 0, .int .i64 0, .string ⟨#[]⟩, .int .i64 0, .int .i64 0, .string ⟨#[]⟩, .string ⟨#[]⟩, .int .i64 0, .int .i64 0] 76))
  have hrd := run_loadVar_mid (P := Try.prog) _ (w.heap.size + 1) 0 76 (#[.int .i64 kd, .string ⟨#[]⟩, .int .i64 0, .string ⟨#[]⟩, .int .i64 0, .int .i64 0, .string ⟨#[]⟩, .int .i64 0, .int .i64 0, .string ⟨#[]⟩, .string ⟨#[]⟩, .int .i64 0, .int .i64 0] : Array Value).toList _ (rangeAt_row5 hZ) Try.underlying76 rfl (by kernel_rfl)
  refine bodyPost_ret (v := .agg #[.int .i64 kd, .string ⟨#[]⟩, .int .i64 0, .string ⟨#[]⟩, .int .i64 0, .int .i64 0, .string ⟨#[]⟩, .int .i64 0, .int .i64 0, .string ⟨#[]⟩, .string ⟨#[]⟩, .int .i64 0, .int .i64 0]) ?_ rfl ?_
  · simp [results, Try.results67, asAddr]
    exact hrd
  exact ⟨by rw [HR.out], below_setRow (alloc3_below _ _ _ _) (by omega) _⟩
set_option maxRecDepth 100000 in
set_option maxHeartbeats 12800000 in
theorem refPlain_any (kd : Int) (sp : ByteArray) (sc : Int) (dp : ByteArray) (dc : Int) (sq : Int) (da : ByteArray) (th : Int) (ta : Int) (ack : ByteArray) (ep : ByteArray) (ec : Int) (eh : Int) (w : World) :
    Calls Try.prog 67 #[.agg #[.int .i64 kd, .string sp, .int .i64 sc, .string dp, .int .i64 dc, .int .i64 sq, .string da, .int .i64 th, .int .i64 ta, .string ack, .string ep, .int .i64 ec, .int .i64 eh]] w fun e w' => e = .returned (.agg (plainE ⟨kd, sp, sc, dp, dc, sq, da, th, ta, ack, ep, ec, eh⟩).row) ∧ Below w.heap.size w w' := by
  by_cases k1 : kd = 1
  · subst k1; exact refPlain_1 sp sc dp dc sq da th ta ack ep ec eh w
  by_cases k2 : kd = 2
  · subst k2; exact refPlain_2 sp sc dp dc sq da th ta ack ep ec eh w
  by_cases k3 : kd = 3
  · subst k3; exact refPlain_3 sp sc dp dc sq da th ta ack ep ec eh w
  by_cases k4 : kd = 4
  · subst k4; exact refPlain_4 sp sc dp dc sq da th ta ack ep ec eh w
  by_cases k5 : kd = 5
  · subst k5; exact refPlain_5 sp sc dp dc sq da th ta ack ep ec eh w
  by_cases k6 : kd = 6
  · subst k6; exact refPlain_6 sp sc dp dc sq da th ta ack ep ec eh w
  by_cases k7 : kd = 7
  · subst k7; exact refPlain_7 sp sc dp dc sq da th ta ack ep ec eh w
  exact refPlain_0 kd sp sc dp dc sq da th ta ack ep ec eh w (beq_eq_false_iff_ne.2 k1) (beq_eq_false_iff_ne.2 k2) (beq_eq_false_iff_ne.2 k3) (beq_eq_false_iff_ne.2 k4) (beq_eq_false_iff_ne.2 k5) (beq_eq_false_iff_ne.2 k6) (beq_eq_false_iff_ne.2 k7)
theorem mayEv_off {e : Ev} (h : e.kd < 1 ∨ 7 < e.kd) : mayEv e = false := by
  cases h9 : mayEv e
  · rfl
  · have := kd_of (mayEv_parts h9).2
    omega
set_option maxRecDepth 100000 in
set_option maxHeartbeats 12800000 in
theorem refMayEv_any (kd : Int) (sp : ByteArray) (sc : Int) (dp : ByteArray) (dc : Int) (sq : Int) (da : ByteArray) (th : Int) (ta : Int) (ack : ByteArray) (ep : ByteArray) (ec : Int) (eh : Int) (w : World) (h1 : sp.size ≤ maxLen) (h2 : dp.size ≤ maxLen) (h3 : ep.size ≤ maxLen) :
    Calls Try.prog 39 #[.agg #[.int .i64 kd, .string sp, .int .i64 sc, .string dp, .int .i64 dc, .int .i64 sq, .string da, .int .i64 th, .int .i64 ta, .string ack, .string ep, .int .i64 ec, .int .i64 eh]] w fun e w' => e = .returned (.bool (mayEv ⟨kd, sp, sc, dp, dc, sq, da, th, ta, ack, ep, ec, eh⟩)) ∧ Below w.heap.size w w' := by
  have hg0 := heap_push w #[.int .i64 kd, .string sp, .int .i64 sc, .string dp, .int .i64 dc, .int .i64 sq, .string da, .int .i64 th, .int .i64 ta, .string ack, .string ep, .int .i64 ec, .int .i64 eh] 76
  have hbA : Below w.heap.size w (w.alloc (.cells #[.int .i64 kd, .string sp, .int .i64 sc, .string dp, .int .i64 dc, .int .i64 sq, .string da, .int .i64 th, .int .i64 ta, .string ack, .string ep, .int .i64 ec, .int .i64 eh] 76)) := Below.alloc (Below.refl _ _) (Nat.le_refl _) _
  by_cases lo : kd < 1
  · have d1 : decide (kd < 1) = true := decide_eq_true lo
    rw [mayEv_off (.inl lo)]
    go_enter Try.func39, Try.ntmps39
    go_wp2
    refine wp_nameE _ (fun W1 hW => ?_)
    have hg : W1.heap[w.heap.size]? = some (.cells #[.int .i64 kd, .string sp, .int .i64 sc, .string dp, .int .i64 dc, .int .i64 sq, .string da, .int .i64 th, .int .i64 ta, .string ack, .string ep, .int .i64 ec, .int .i64 eh] 76 (0, 0)) := by rw [hW]; exact hg0
    have hbel : Below w.heap.size w W1 := by rw [hW]; exact hbA
    clear hW hg0 hbA
    have hgl := (Array.getElem?_eq_some_iff.1 hg).1
    have q0 := cell_heap hg 0; have q1 := cell_heap hg 1; have q2 := cell_heap hg 2; have q3 := cell_heap hg 3; have q4 := cell_heap hg 4; have q5 := cell_heap hg 5; have q6 := cell_heap hg 6; have q7 := cell_heap hg 7; have q8 := cell_heap hg 8; have q9 := cell_heap hg 9; have q10 := cell_heap hg 10; have q11 := cell_heap hg 11; have q12 := cell_heap hg 12
    obtain ⟨hcb, hfb⟩ := beyond_cells (W := W1)
    refine wp_region_below (by kernel_rfl) (by kernel_rfl) ?_
    repeat (go_big_quiet_step (fail))
    intro w9 hw9
    have hb9 := beyond_below hw9
    have hg := cells_of hg hb9 hgl
    have hgl := Nat.lt_of_lt_of_le hgl hb9.size
    have hbel := hbel.trans (hb9.mono hbel.size)
    clear hcb hfb hw9
    have q0 := cell_heap hg 0; have q1 := cell_heap hg 1; have q2 := cell_heap hg 2; have q3 := cell_heap hg 3; have q4 := cell_heap hg 4; have q5 := cell_heap hg 5; have q6 := cell_heap hg 6; have q7 := cell_heap hg 7; have q8 := cell_heap hg 8; have q9 := cell_heap hg 9; have q10 := cell_heap hg 10; have q11 := cell_heap hg 11; have q12 := cell_heap hg 12
    go_wp2
    go_ret
    exact ⟨rfl, hbel⟩
  have d1 : decide (kd < 1) = false := decide_eq_false lo
  by_cases hi : 7 < kd
  · have d2 : decide (7 < kd) = true := decide_eq_true hi
    rw [mayEv_off (.inr hi)]
    go_enter Try.func39, Try.ntmps39
    go_wp2
    refine wp_nameE _ (fun W1 hW => ?_)
    have hg : W1.heap[w.heap.size]? = some (.cells #[.int .i64 kd, .string sp, .int .i64 sc, .string dp, .int .i64 dc, .int .i64 sq, .string da, .int .i64 th, .int .i64 ta, .string ack, .string ep, .int .i64 ec, .int .i64 eh] 76 (0, 0)) := by rw [hW]; exact hg0
    have hbel : Below w.heap.size w W1 := by rw [hW]; exact hbA
    clear hW hg0 hbA
    have hgl := (Array.getElem?_eq_some_iff.1 hg).1
    have q0 := cell_heap hg 0; have q1 := cell_heap hg 1; have q2 := cell_heap hg 2; have q3 := cell_heap hg 3; have q4 := cell_heap hg 4; have q5 := cell_heap hg 5; have q6 := cell_heap hg 6; have q7 := cell_heap hg 7; have q8 := cell_heap hg 8; have q9 := cell_heap hg 9; have q10 := cell_heap hg 10; have q11 := cell_heap hg 11; have q12 := cell_heap hg 12
    obtain ⟨hcb, hfb⟩ := beyond_cells (W := W1)
    refine wp_region_below (by kernel_rfl) (by kernel_rfl) ?_
    repeat (go_big_quiet_step (fail))
    intro w9 hw9
    have hb9 := beyond_below hw9
    have hg := cells_of hg hb9 hgl
    have hgl := Nat.lt_of_lt_of_le hgl hb9.size
    have hbel := hbel.trans (hb9.mono hbel.size)
    clear hcb hfb hw9
    have q0 := cell_heap hg 0; have q1 := cell_heap hg 1; have q2 := cell_heap hg 2; have q3 := cell_heap hg 3; have q4 := cell_heap hg 4; have q5 := cell_heap hg 5; have q6 := cell_heap hg 6; have q7 := cell_heap hg 7; have q8 := cell_heap hg 8; have q9 := cell_heap hg 9; have q10 := cell_heap hg 10; have q11 := cell_heap hg 11; have q12 := cell_heap hg 12
    go_wp2
    go_ret
    exact ⟨rfl, hbel⟩
  have d2 : decide (7 < kd) = false := decide_eq_false hi
  have CP := fun W => refPlain_any kd sp sc dp dc sq da th ta ack ep ec eh W
  have CM := fun W => refMayPk_any sp sc dp dc sq da th ta W h1 h2
  have CE := fun W => refMayEnd_any ep ec W h3
  have hEQ : ∀ W, (Op.equalIn 10000 76 (.agg #[.int .i64 kd, .string sp, .int .i64 sc, .string dp, .int .i64 dc, .int .i64 sq, .string da, .int .i64 th, .int .i64 ta, .string ack, .string ep, .int .i64 ec, .int .i64 eh]) (.agg (plainE ⟨kd, sp, sc, dp, dc, sq, da, th, ta, ack, ep, ec, eh⟩).row)).run Try.prog W = .ok (evB ⟨kd, sp, sc, dp, dc, sq, da, th, ta, ack, ep, ec, eh⟩ (plainE ⟨kd, sp, sc, dp, dc, sq, da, th, ta, ack, ep, ec, eh⟩)) W := fun W => by
    cases hpl : plainE ⟨kd, sp, sc, dp, dc, sq, da, th, ta, ack, ep, ec, eh⟩ with
    | mk kd2 sp2 sc2 dp2 dc2 sq2 da2 th2 ta2 ack2 ep2 ec2 eh2 => exact run_equal_ev kd kd2 sp sp2 sc sc2 dp dp2 dc dc2 sq sq2 da da2 th th2 ta ta2 ack ack2 ep ep2 ec ec2 eh eh2 W
  obtain ⟨PR, hPR⟩ : ∃ r, (plainE ⟨kd, sp, sc, dp, dc, sq, da, th, ta, ack, ep, ec, eh⟩).row = r := ⟨_, rfl⟩
  rw [hPR] at hEQ CP
  have hM : mayEv ⟨kd, sp, sc, dp, dc, sq, da, th, ta, ack, ep, ec, eh⟩ = (evB ⟨kd, sp, sc, dp, dc, sq, da, th, ta, ack, ep, ec, eh⟩ (plainE ⟨kd, sp, sc, dp, dc, sq, da, th, ta, ack, ep, ec, eh⟩) && bodyE ⟨kd, sp, sc, dp, dc, sq, da, th, ta, ack, ep, ec, eh⟩) := rfl
  obtain ⟨r, hr⟩ : ∃ b, bodyE ⟨kd, sp, sc, dp, dc, sq, da, th, ta, ack, ep, ec, eh⟩ = b := ⟨_, rfl⟩
  obtain ⟨eb, heb⟩ : ∃ b, evB ⟨kd, sp, sc, dp, dc, sq, da, th, ta, ack, ep, ec, eh⟩ (plainE ⟨kd, sp, sc, dp, dc, sq, da, th, ta, ack, ep, ec, eh⟩) = b := ⟨_, rfl⟩
  rw [hM, heb, hr]
  have HB := Lib.hid hr
  clear hr
  rw [heb] at hEQ
  clear hM heb hPR
  go_enter Try.func39, Try.ntmps39
  go_wp2
  refine wp_nameE _ (fun W1 hW => ?_)
  have hg : W1.heap[w.heap.size]? = some (.cells #[.int .i64 kd, .string sp, .int .i64 sc, .string dp, .int .i64 dc, .int .i64 sq, .string da, .int .i64 th, .int .i64 ta, .string ack, .string ep, .int .i64 ec, .int .i64 eh] 76 (0, 0)) := by rw [hW]; exact hg0
  have hbel : Below w.heap.size w W1 := by rw [hW]; exact hbA
  clear hW hg0 hbA
  have hgl := (Array.getElem?_eq_some_iff.1 hg).1
  have q0 := cell_heap hg 0; have q1 := cell_heap hg 1; have q2 := cell_heap hg 2; have q3 := cell_heap hg 3; have q4 := cell_heap hg 4; have q5 := cell_heap hg 5; have q6 := cell_heap hg 6; have q7 := cell_heap hg 7; have q8 := cell_heap hg 8; have q9 := cell_heap hg 9; have q10 := cell_heap hg 10; have q11 := cell_heap hg 11; have q12 := cell_heap hg 12
  obtain ⟨hcb, hfb⟩ := beyond_cells (W := W1)
  refine wp_region_below (by kernel_rfl) (by kernel_rfl) ?_
  repeat (go_big_quiet_step ((go_at_call 67; exact quiet_below (CP _))))
  intro w9 hw9
  have hb9 := beyond_below hw9
  have hg := cells_of hg hb9 hgl
  have hgl := Nat.lt_of_lt_of_le hgl hb9.size
  have hbel := hbel.trans (hb9.mono hbel.size)
  clear hcb hfb hw9
  have q0 := cell_heap hg 0; have q1 := cell_heap hg 1; have q2 := cell_heap hg 2; have q3 := cell_heap hg 3; have q4 := cell_heap hg 4; have q5 := cell_heap hg 5; have q6 := cell_heap hg 6; have q7 := cell_heap hg 7; have q8 := cell_heap hg 8; have q9 := cell_heap hg 9; have q10 := cell_heap hg 10; have q11 := cell_heap hg 11; have q12 := cell_heap hg 12
  cases eb
  · go_wp2
    go_ret
    exact ⟨rfl, hbel⟩
  by_cases k6 : kd = 6
  · subst k6
    have hr : mayE ep ec = r := HB.out
    rw [hr] at CE
    clear hr HB CM
    go_wp2_with (go_at_call 68; refine (CE _).mono ?_; rintro e w2 ⟨rfl, hb⟩)
    go_ret
    exact ⟨rfl, hbel.trans (hb.mono hbel.size)⟩
  have e6 : (kd == 6) = false := beq_eq_false_iff_ne.2 k6
  by_cases k7 : kd = 7
  · subst k7
    have hr : (decide (1 ≤ eh) && decide (eh ≤ 1099511627776)) = r := HB.out
    clear HB CM CE
    cases hd : decide (1 ≤ eh)
    all_goals
      rw [hd] at hr
      obtain rfl := hr
      go_wp2
      go_ret
      exact ⟨by first | rfl | (simp; done), hbel⟩
  have e7 : (kd == 7) = false := beq_eq_false_iff_ne.2 k7
  obtain ⟨mk, hmk⟩ : ∃ b, mayK sp sc dp dc sq da th ta = b := ⟨_, rfl⟩
  rw [hmk] at CM
  by_cases k3 : kd = 3
  · subst k3
    have hsz : (ack.toList == []) = decide (ack.size = 0) := by
      rw [Bool.eq_iff_iff, beq_iff_eq, decide_eq_true_iff, ByteArray.toList_eq, ← str_len]
      exact List.length_eq_zero_iff.symm
    have hr : (mk && !decide (ack.size = 0) && decide ((ack.size : Int) ≤ 32)) = r := by rw [← hmk, ← hsz]; exact HB.out
    clear HB CE hmk hsz
    cases mk
    · obtain rfl : false = r := hr
      go_wp2_with (go_at_call 69; refine (CM _).mono ?_; rintro e w2 ⟨rfl, hb⟩)
      go_ret
      exact ⟨rfl, hbel.trans (hb.mono hbel.size)⟩
    by_cases ab : ack.size = 0
    · have p1 : decide (1 ≤ (ack.size : Int)) = false := decide_eq_false (by omega)
      have p2 : decide (1 ≤ ack.size) = false := decide_eq_false (by omega)
      have p3 : decide (0 < ack.size) = false := decide_eq_false (by omega)
      obtain rfl : false = r := by rw [← hr, decide_eq_true ab]; rfl
      clear hr ab
      go_wp2_with (go_at_call 69; refine (CM _).mono ?_; rintro e w2 ⟨rfl, hb⟩; have hg := cells_of hg hb hgl; have hgl := Nat.lt_of_lt_of_le hgl hb.size; have hbel := hbel.trans (hb.mono hbel.size); have q0 := cell_heap hg 0; have q1 := cell_heap hg 1; have q2 := cell_heap hg 2; have q3 := cell_heap hg 3; have q4 := cell_heap hg 4; have q5 := cell_heap hg 5; have q6 := cell_heap hg 6; have q7 := cell_heap hg 7; have q8 := cell_heap hg 8; have q9 := cell_heap hg 9; have q10 := cell_heap hg 10; have q11 := cell_heap hg 11; have q12 := cell_heap hg 12)
      go_ret
      exact ⟨rfl, hbel⟩
    · have p1 : decide (1 ≤ (ack.size : Int)) = true := decide_eq_true (by omega)
      have p2 : decide (1 ≤ ack.size) = true := decide_eq_true (by omega)
      have p3 : decide (0 < ack.size) = true := decide_eq_true (by omega)
      obtain rfl : decide ((ack.size : Int) ≤ 32) = r := by rw [← hr, decide_eq_false ab]; rfl
      clear hr ab
      go_wp2_with (go_at_call 69; refine (CM _).mono ?_; rintro e w2 ⟨rfl, hb⟩; have hg := cells_of hg hb hgl; have hgl := Nat.lt_of_lt_of_le hgl hb.size; have hbel := hbel.trans (hb.mono hbel.size); have q0 := cell_heap hg 0; have q1 := cell_heap hg 1; have q2 := cell_heap hg 2; have q3 := cell_heap hg 3; have q4 := cell_heap hg 4; have q5 := cell_heap hg 5; have q6 := cell_heap hg 6; have q7 := cell_heap hg 7; have q8 := cell_heap hg 8; have q9 := cell_heap hg 9; have q10 := cell_heap hg 10; have q11 := cell_heap hg 11; have q12 := cell_heap hg 12)
      go_ret
      exact ⟨by first | rfl | (simp; done), hbel⟩
  have e3 : (kd == 3) = false := beq_eq_false_iff_ne.2 k3
  have hp : hasP kd = true := by unfold hasP; rw [Bool.and_eq_true, decide_eq_true_iff, decide_eq_true_iff]; omega
  have hr : mk = r := by rw [← hmk, ← HB.out]; unfold bodyE; simp only; rw [if_neg k6, if_neg k7, if_neg k3, hp]; rfl
  subst hr
  clear HB CE hmk hp
  go_wp2_with (go_at_call 69; refine (CM _).mono ?_; rintro e w3 ⟨rfl, hb3⟩)
  go_ret
  exact ⟨rfl, hbel.trans (hb3.mono hbel.size)⟩
end Go.Proofs.Ytbckncopdkmoeaa
