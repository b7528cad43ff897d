/- Events: Plain. -/
import Derived.Test.YtcbacchelabljaaEvF
import Derived.Test.YtcbacchelabljaaGD
import Derived.Deep.MidRow
import Derived.Deep.Cut
import Derived.WalkKit
import Derived.ProofKit
import Derived.Handy
import Derived.Below
import Derived.BigQuiet
import Derived.Lib.Hide
import Derived.IntWalk
import Derived.Outline
import Derived.WalkLawsBesides
import Derived.WalkSpells
namespace Go.Proofs.Ytcbacchelabljaa
open Go.RowKit
attribute [local go_sem] strV
set_option linter.unusedVariables false
def hasP (k : Int) : Bool := decide (1 ≤ k) && decide (k ≤ 5)
def plainE (e : Ev) : Ev := ⟨e.kd, bif hasP e.kd then e.sp else ⟨#[]⟩, bif hasP e.kd then e.sc else 0, bif hasP e.kd then e.dp else ⟨#[]⟩, bif hasP e.kd then e.dc else 0, bif hasP e.kd then e.sq else 0, bif hasP e.kd then e.da else ⟨#[]⟩, bif hasP e.kd then e.th else 0, bif hasP e.kd then e.ta else 0, bif e.kd == 3 then e.ack else ⟨#[]⟩, bif e.kd == 6 then e.ep else ⟨#[]⟩, bif e.kd == 6 then e.ec else 0, bif e.kd == 7 then e.ht else 0⟩
def Ev.row (e : Ev) : Array Value := #[.int .i64 e.kd, .string e.sp, .int .i64 e.sc, .string e.dp, .int .i64 e.dc, .int .i64 e.sq, .string e.da, .int .i64 e.th, .int .i64 e.ta, .string e.ack, .string e.ep, .int .i64 e.ec, .int .i64 e.ht]
theorem alloc_mid (w : World) (a b c : Obj) : (((w.alloc a).alloc b).alloc c).heap[w.heap.size + 1]? = some b := by
  show (((w.heap.push a).push b).push c)[w.heap.size + 1]? = _
  rw [Array.getElem?_push_lt (by simp), ← Array.getElem?_eq_getElem (by simp), show w.heap.size + 1 = (w.heap.push a).size by simp, Array.getElem?_push_size]
theorem alloc3_below (w : World) (a b c : Obj) : Below w.heap.size w (((w.alloc a).alloc b).alloc c) := Below.alloc (Below.alloc (Below.alloc (Below.refl _ _) (Nat.le_refl _) _) (by simp) _) (by simp; omega) _
theorem Ev.row_one (kd : Int) (sp : ByteArray) (sc : Int) (dp : ByteArray) (dc : Int) (sq : Int) (da : ByteArray) (th : Int) (ta : Int) (ack : ByteArray) (ep : ByteArray) (ec : Int) (ht : Int) : (#[.int .i64 kd, .string sp, .int .i64 sc, .string dp, .int .i64 dc, .int .i64 sq, .string da, .int .i64 th, .int .i64 ta, .string ack, .string ep, .int .i64 ec, .int .i64 ht] : Array Value).all (·.oneCell') = true := by
  rw [Array.all_eq_true_iff_forall_mem]; intro v hv; simp at hv; rcases hv with rfl | rfl | rfl | rfl | rfl | rfl | rfl | rfl | rfl | rfl | rfl | rfl | rfl <;> rfl
set_option maxRecDepth 100000 in
set_option maxHeartbeats 1600000 in
theorem hasP_any (k : Int) (w : World) :
    Calls Try.prog 51 #[.int .i64 k] w fun e w' => e = .returned (.bool (hasP k)) ∧ w' = w := by
  unfold hasP
  cases h1 : decide (1 ≤ k)
  all_goals
    go_enter Try.func51, Try.ntmps51
    go_wp2
    go_ret
    exact ⟨by first | rfl | simp, rfl⟩
set_option maxRecDepth 100000 in
set_option maxHeartbeats 6400000 in
theorem plain_any (kd : Int) (sp : ByteArray) (sc : Int) (dp : ByteArray) (dc : Int) (sq : Int) (da : ByteArray) (th : Int) (ta : Int) (ack : ByteArray) (ep : ByteArray) (ec : Int) (ht : Int) (w : World) :
    Calls Try.prog 62 #[.agg #[.int .i64 kd, .string sp, .int .i64 sc, .string dp, .int .i64 dc, .int .i64 sq, .string da, .int .i64 th, .int .i64 ta, .string ack, .string ep, .int .i64 ec, .int .i64 ht]] w fun e w' => e = .returned (.agg (plainE ⟨kd, sp, sc, dp, dc, sq, da, th, ta, ack, ep, ec, ht⟩).row) ∧ Below w.heap.size w w' := by
  have CH := fun W => hasP_any kd W
  by_cases h3 : kd = 3
  · subst h3
    rw [show hasP 3 = true from rfl] at CH
    have HR := Lib.hid (show (plainE ⟨3, sp, sc, dp, dc, sq, da, th, ta, ack, ep, ec, ht⟩).row = #[.int .i64 3, .string sp, .int .i64 sc, .string dp, .int .i64 dc, .int .i64 sq, .string da, .int .i64 th, .int .i64 ta, .string ack, .string ⟨#[]⟩, .int .i64 0, .int .i64 0] by unfold plainE Ev.row; rfl)
    go_enter Try.func62, Try.ntmps62
    go_upto_region 11 with (go_at_call 51; refine (CH _).mono ?_; rintro e wx ⟨rfl, hwx⟩; obtain rfl : _ = wx := hwx.symm)
    go_wp2_with (refine wpList_storeRowTo rfl (.tmp 2) (.tmp 30) 43 rfl (by kernel_rfl) rfl rfl (alloc_mid _ _ _ _) rfl (Ev.row_one _ _ _ _ _ _ _ _ _ _ _ _ _ ) ?_)
    have hZ : (World.setRow _ (w.heap.size + 1) #[.int .i64 3, .string sp, .int .i64 sc, .string dp, .int .i64 dc, .int .i64 sq, .string da, .int .i64 th, .int .i64 ta, .string ack, .string ⟨#[]⟩, .int .i64 0, .int .i64 0]).heap[w.heap.size + 1]? = some (.cells #[.int .i64 3, .string sp, .int .i64 sc, .string dp, .int .i64 dc, .int .i64 sq, .string da, .int .i64 th, .int .i64 ta, .string ack, .string ⟨#[]⟩, .int .i64 0, .int .i64 0] 43 (0, 0)) := setRow_heap _ _ _ _ _ _ (alloc_mid w (.cells #[.int .i64 3, .string sp, .int .i64 sc, .string dp, .int .i64 dc, .int .i64 sq, .string da, .int .i64 th, .int .i64 ta, .string ack, .string ep, .int .i64 ec, .int .i64 ht] 43) (.cells #[.int .i64 0, .string ⟨#[]⟩, .int .i64 0, .string ⟨#[]⟩, .int .i64 0, .int .i64 0, .string ⟨#[]⟩, .int .i64 0, .int .i64 0, .string ⟨#[]⟩, .string ⟨#[]⟩, .int .i64 0, .int .i64 0] 43) (.cells #[.int .i64 3, .string sp, .int .i64 sc, .string dp, .int .i64 dc, .int .i64 sq, .string da, .int .i64 th, .int .i64 ta, .string ack, .string ⟨#[]⟩, .int .i64 0, .int .i64 0] 43))
    have hrd := run_loadVar_mid (P := Try.prog) _ (w.heap.size + 1) 0 43 (#[.int .i64 3, .string sp, .int .i64 sc, .string dp, .int .i64 dc, .int .i64 sq, .string da, .int .i64 th, .int .i64 ta, .string ack, .string ⟨#[]⟩, .int .i64 0, .int .i64 0] : Array Value).toList _ (rangeAt_row5 hZ) Try.underlying43 rfl (by kernel_rfl)
    refine bodyPost_ret (v := .agg #[.int .i64 3, .string sp, .int .i64 sc, .string dp, .int .i64 dc, .int .i64 sq, .string da, .int .i64 th, .int .i64 ta, .string ack, .string ⟨#[]⟩, .int .i64 0, .int .i64 0]) ?_ rfl ?_
    · simp [results, Try.results62, asAddr]
      exact hrd
    exact ⟨by rw [HR.out], below_setRow (alloc3_below _ _ _ _) (by omega) _⟩
  have e3 : (kd == 3) = false := beq_eq_false_iff_ne.2 h3
  by_cases h6 : kd = 6
  · subst h6
    rw [show hasP 6 = false from rfl] at CH
    have HR := Lib.hid (show (plainE ⟨6, sp, sc, dp, dc, sq, da, th, ta, ack, ep, ec, ht⟩).row = #[.int .i64 6, .string ⟨#[]⟩, .int .i64 0, .string ⟨#[]⟩, .int .i64 0, .int .i64 0, .string ⟨#[]⟩, .int .i64 0, .int .i64 0, .string ⟨#[]⟩, .string ep, .int .i64 ec, .int .i64 0] by unfold plainE Ev.row; rfl)
    go_enter Try.func62, Try.ntmps62
    go_upto_region 11 with (go_at_call 51; refine (CH _).mono ?_; rintro e wx ⟨rfl, hwx⟩; obtain rfl : _ = wx := hwx.symm)
    go_wp2_with (refine wpList_storeRowTo rfl (.tmp 2) (.tmp 30) 43 rfl (by kernel_rfl) rfl rfl (alloc_mid _ _ _ _) rfl (Ev.row_one _ _ _ _ _ _ _ _ _ _ _ _ _ ) ?_)
    have hZ : (World.setRow _ (w.heap.size + 1) #[.int .i64 6, .string ⟨#[]⟩, .int .i64 0, .string ⟨#[]⟩, .int .i64 0, .int .i64 0, .string ⟨#[]⟩, .int .i64 0, .int .i64 0, .string ⟨#[]⟩, .string ep, .int .i64 ec, .int .i64 0]).heap[w.heap.size + 1]? = some (.cells #[.int .i64 6, .string ⟨#[]⟩, .int .i64 0, .string ⟨#[]⟩, .int .i64 0, .int .i64 0, .string ⟨#[]⟩, .int .i64 0, .int .i64 0, .string ⟨#[]⟩, .string ep, .int .i64 ec, .int .i64 0] 43 (0, 0)) := setRow_heap _ _ _ _ _ _ (alloc_mid w (.cells #[.int .i64 6, .string sp, .int .i64 sc, .string dp, .int .i64 dc, .int .i64 sq, .string da, .int .i64 th, .int .i64 ta, .string ack, .string ep, .int .i64 ec, .int .i64 ht] 43) (.cells #[.int .i64 0, .string ⟨#[]⟩, .int .i64 0, .string ⟨#[]⟩, .int .i64 0, .int .i64 0, .string ⟨#[]⟩, .int .i64 0, .int .i64 0, .string ⟨#[]⟩, .string ⟨#[]⟩, .int .i64 0, .int .i64 0] 43) (.cells #[.int .i64 6, .string ⟨#[]⟩, .int .i64 0, .string ⟨#[]⟩, .int .i64 0, .int .i64 0, .string ⟨#[]⟩, .int .i64 0, .int .i64 0, .string ⟨#[]⟩, .string ep, .int .i64 ec, .int .i64 0] 43))
    have hrd := run_loadVar_mid (P := Try.prog) _ (w.heap.size + 1) 0 43 (#[.int .i64 6, .string ⟨#[]⟩, .int .i64 0, .string ⟨#[]⟩, .int .i64 0, .int .i64 0, .string ⟨#[]⟩, .int .i64 0, .int .i64 0, .string ⟨#[]⟩, .string ep, .int .i64 ec, .int .i64 0] : Array Value).toList _ (rangeAt_row5 hZ) Try.underlying43 rfl (by kernel_rfl)
    refine bodyPost_ret (v := .agg #[.int .i64 6, .string ⟨#[]⟩, .int .i64 0, .string ⟨#[]⟩, .int .i64 0, .int .i64 0, .string ⟨#[]⟩, .int .i64 0, .int .i64 0, .string ⟨#[]⟩, .string ep, .int .i64 ec, .int .i64 0]) ?_ rfl ?_
    · simp [results, Try.results62, asAddr]
      exact hrd
    exact ⟨by rw [HR.out], below_setRow (alloc3_below _ _ _ _) (by omega) _⟩
  have e6 : (kd == 6) = false := beq_eq_false_iff_ne.2 h6
  by_cases h7 : kd = 7
  · subst h7
    rw [show hasP 7 = false from rfl] at CH
    have HR := Lib.hid (show (plainE ⟨7, sp, sc, dp, dc, sq, da, th, ta, ack, ep, ec, ht⟩).row = #[.int .i64 7, .string ⟨#[]⟩, .int .i64 0, .string ⟨#[]⟩, .int .i64 0, .int .i64 0, .string ⟨#[]⟩, .int .i64 0, .int .i64 0, .string ⟨#[]⟩, .string ⟨#[]⟩, .int .i64 0, .int .i64 ht] by unfold plainE Ev.row; rfl)
    go_enter Try.func62, Try.ntmps62
    go_upto_region 11 with (go_at_call 51; refine (CH _).mono ?_; rintro e wx ⟨rfl, hwx⟩; obtain rfl : _ = wx := hwx.symm)
    go_wp2_with (refine wpList_storeRowTo rfl (.tmp 2) (.tmp 30) 43 rfl (by kernel_rfl) rfl rfl (alloc_mid _ _ _ _) rfl (Ev.row_one _ _ _ _ _ _ _ _ _ _ _ _ _ ) ?_)
    have hZ : (World.setRow _ (w.heap.size + 1) #[.int .i64 7, .string ⟨#[]⟩, .int .i64 0, .string ⟨#[]⟩, .int .i64 0, .int .i64 0, .string ⟨#[]⟩, .int .i64 0, .int .i64 0, .string ⟨#[]⟩, .string ⟨#[]⟩, .int .i64 0, .int .i64 ht]).heap[w.heap.size + 1]? = some (.cells #[.int .i64 7, .string ⟨#[]⟩, .int .i64 0, .string ⟨#[]⟩, .int .i64 0, .int .i64 0, .string ⟨#[]⟩, .int .i64 0, .int .i64 0, .string ⟨#[]⟩, .string ⟨#[]⟩, .int .i64 0, .int .i64 ht] 43 (0, 0)) := setRow_heap _ _ _ _ _ _ (alloc_mid w (.cells #[.int .i64 7, .string sp, .int .i64 sc, .string dp, .int .i64 dc, .int .i64 sq, .string da, .int .i64 th, .int .i64 ta, .string ack, .string ep, .int .i64 ec, .int .i64 ht] 43) (.cells #[.int .i64 0, .string ⟨#[]⟩, .int .i64 0, .string ⟨#[]⟩, .int .i64 0, .int .i64 0, .string ⟨#[]⟩, .int .i64 0, .int .i64 0, .string ⟨#[]⟩, .string ⟨#[]⟩, .int .i64 0, .int .i64 0] 43) (.cells #[.int .i64 7, .string ⟨#[]⟩, .int .i64 0, .string ⟨#[]⟩, .int .i64 0, .int .i64 0, .string ⟨#[]⟩, .int .i64 0, .int .i64 0, .string ⟨#[]⟩, .string ⟨#[]⟩, .int .i64 0, .int .i64 ht] 43))
    have hrd := run_loadVar_mid (P := Try.prog) _ (w.heap.size + 1) 0 43 (#[.int .i64 7, .string ⟨#[]⟩, .int .i64 0, .string ⟨#[]⟩, .int .i64 0, .int .i64 0, .string ⟨#[]⟩, .int .i64 0, .int .i64 0, .string ⟨#[]⟩, .string ⟨#[]⟩, .int .i64 0, .int .i64 ht] : Array Value).toList _ (rangeAt_row5 hZ) Try.underlying43 rfl (by kernel_rfl)
    refine bodyPost_ret (v := .agg #[.int .i64 7, .string ⟨#[]⟩, .int .i64 0, .string ⟨#[]⟩, .int .i64 0, .int .i64 0, .string ⟨#[]⟩, .int .i64 0, .int .i64 0, .string ⟨#[]⟩, .string ⟨#[]⟩, .int .i64 0, .int .i64 ht]) ?_ rfl ?_
    · simp [results, Try.results62, asAddr]
      exact hrd
    exact ⟨by rw [HR.out], below_setRow (alloc3_below _ _ _ _) (by omega) _⟩
  have e7 : (kd == 7) = false := beq_eq_false_iff_ne.2 h7
  cases hh : hasP kd
  · rw [hh] at CH
    have HR := Lib.hid (show (plainE ⟨kd, sp, sc, dp, dc, sq, da, th, ta, ack, ep, ec, ht⟩).row = #[.int .i64 kd, .string ⟨#[]⟩, .int .i64 0, .string ⟨#[]⟩, .int .i64 0, .int .i64 0, .string ⟨#[]⟩, .int .i64 0, .int .i64 0, .string ⟨#[]⟩, .string ⟨#[]⟩, .int .i64 0, .int .i64 0] by unfold plainE Ev.row; simp only [hh, e3, e6, e7, cond_false])
    go_enter Try.func62, Try.ntmps62
    go_upto_region 11 with (go_at_call 51; refine (CH _).mono ?_; rintro e wx ⟨rfl, hwx⟩; obtain rfl : _ = wx := hwx.symm)
    go_wp2_with (refine wpList_storeRowTo rfl (.tmp 2) (.tmp 30) 43 rfl (by kernel_rfl) rfl rfl (alloc_mid _ _ _ _) rfl (Ev.row_one _ _ _ _ _ _ _ _ _ _ _ _ _ ) ?_)
    have hZ : (World.setRow _ (w.heap.size + 1) #[.int .i64 kd, .string ⟨#[]⟩, .int .i64 0, .string ⟨#[]⟩, .int .i64 0, .int .i64 0, .string ⟨#[]⟩, .int .i64 0, .int .i64 0, .string ⟨#[]⟩, .string ⟨#[]⟩, .int .i64 0, .int .i64 0]).heap[w.heap.size + 1]? = some (.cells #[.int .i64 kd, .string ⟨#[]⟩, .int .i64 0, .string ⟨#[]⟩, .int .i64 0, .int .i64 0, .string ⟨#[]⟩, .int .i64 0, .int .i64 0, .string ⟨#[]⟩, .string ⟨#[]⟩, .int .i64 0, .int .i64 0] 43 (0, 0)) := setRow_heap _ _ _ _ _ _ (alloc_mid w (.cells #[.int .i64 kd, .string sp, .int .i64 sc, .string dp, .int .i64 dc, .int .i64 sq, .string da, .int .i64 th, .int .i64 ta, .string ack, .string ep, .int .i64 ec, .int .i64 ht] 43) (.cells #[.int .i64 0, .string ⟨#[]⟩, .int .i64 0, .string ⟨#[]⟩, .int .i64 0, .int .i64 0, .string ⟨#[]⟩, .int .i64 0, .int .i64 0, .string ⟨#[]⟩, .string ⟨#[]⟩, .int .i64 0, .int .i64 0] 43) (.cells #[.int .i64 kd, .string ⟨#[]⟩, .int .i64 0, .string ⟨#[]⟩, .int .i64 0, .int .i64 0, .string ⟨#[]⟩, .int .i64 0, .int .i64 0, .string ⟨#[]⟩, .string ⟨#[]⟩, .int .i64 0, .int .i64 0] 43))
    have hrd := run_loadVar_mid (P := Try.prog) _ (w.heap.size + 1) 0 43 (#[.int .i64 kd, .string ⟨#[]⟩, .int .i64 0, .string ⟨#[]⟩, .int .i64 0, .int .i64 0, .string ⟨#[]⟩, .int .i64 0, .int .i64 0, .string ⟨#[]⟩, .string ⟨#[]⟩, .int .i64 0, .int .i64 0] : Array Value).toList _ (rangeAt_row5 hZ) Try.underlying43 rfl (by kernel_rfl)
    refine bodyPost_ret (v := .agg #[.int .i64 kd, .string ⟨#[]⟩, .int .i64 0, .string ⟨#[]⟩, .int .i64 0, .int .i64 0, .string ⟨#[]⟩, .int .i64 0, .int .i64 0, .string ⟨#[]⟩, .string ⟨#[]⟩, .int .i64 0, .int .i64 0]) ?_ rfl ?_
    · simp [results, Try.results62, asAddr]
      exact hrd
    exact ⟨by rw [HR.out], below_setRow (alloc3_below _ _ _ _) (by omega) _⟩
  · rw [hh] at CH
    have HR := Lib.hid (show (plainE ⟨kd, sp, sc, dp, dc, sq, da, th, ta, ack, ep, ec, ht⟩).row = #[.int .i64 kd, .string sp, .int .i64 sc, .string dp, .int .i64 dc, .int .i64 sq, .string da, .int .i64 th, .int .i64 ta, .string ⟨#[]⟩, .string ⟨#[]⟩, .int .i64 0, .int .i64 0] by unfold plainE Ev.row; simp only [hh, e3, e6, e7, cond_false, cond_true])
    go_enter Try.func62, Try.ntmps62
    go_upto_region 11 with (go_at_call 51; refine (CH _).mono ?_; rintro e wx ⟨rfl, hwx⟩; obtain rfl : _ = wx := hwx.symm)
    go_wp2_with (refine wpList_storeRowTo rfl (.tmp 2) (.tmp 30) 43 rfl (by kernel_rfl) rfl rfl (alloc_mid _ _ _ _) rfl (Ev.row_one _ _ _ _ _ _ _ _ _ _ _ _ _ ) ?_)
    have hZ : (World.setRow _ (w.heap.size + 1) #[.int .i64 kd, .string sp, .int .i64 sc, .string dp, .int .i64 dc, .int .i64 sq, .string da, .int .i64 th, .int .i64 ta, .string ⟨#[]⟩, .string ⟨#[]⟩, .int .i64 0, .int .i64 0]).heap[w.heap.size + 1]? = some (.cells #[.int .i64 kd, .string sp, .int .i64 sc, .string dp, .int .i64 dc, .int .i64 sq, .string da, .int .i64 th, .int .i64 ta, .string ⟨#[]⟩, .string ⟨#[]⟩, .int .i64 0, .int .i64 0] 43 (0, 0)) := setRow_heap _ _ _ _ _ _ (alloc_mid w (.cells #[.int .i64 kd, .string sp, .int .i64 sc, .string dp, .int .i64 dc, .int .i64 sq, .string da, .int .i64 th, .int .i64 ta, .string ack, .string ep, .int .i64 ec, .int .i64 ht] 43) (.cells #[.int .i64 0, .string ⟨#[]⟩, .int .i64 0, .string ⟨#[]⟩, .int .i64 0, .int .i64 0, .string ⟨#[]⟩, .int .i64 0, .int .i64 0, .string ⟨#[]⟩, .string ⟨#[]⟩, .int .i64 0, .int .i64 0] 43) (.cells #[.int .i64 kd, .string sp, .int .i64 sc, .string dp, .int .i64 dc, .int .i64 sq, .string da, .int .i64 th, .int .i64 ta, .string ⟨#[]⟩, .string ⟨#[]⟩, .int .i64 0, .int .i64 0] 43))
    have hrd := run_loadVar_mid (P := Try.prog) _ (w.heap.size + 1) 0 43 (#[.int .i64 kd, .string sp, .int .i64 sc, .string dp, .int .i64 dc, .int .i64 sq, .string da, .int .i64 th, .int .i64 ta, .string ⟨#[]⟩, .string ⟨#[]⟩, .int .i64 0, .int .i64 0] : Array Value).toList _ (rangeAt_row5 hZ) Try.underlying43 rfl (by kernel_rfl)
    refine bodyPost_ret (v := .agg #[.int .i64 kd, .string sp, .int .i64 sc, .string dp, .int .i64 dc, .int .i64 sq, .string da, .int .i64 th, .int .i64 ta, .string ⟨#[]⟩, .string ⟨#[]⟩, .int .i64 0, .int .i64 0]) ?_ rfl ?_
    · simp [results, Try.results62, asAddr]
      exact hrd
    exact ⟨by rw [HR.out], below_setRow (alloc3_below _ _ _ _) (by omega) _⟩
end Go.Proofs.Ytcbacchelabljaa
