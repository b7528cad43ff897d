/- Events at s13: May, LightEvents. -/
import Derived.Test.YtbckncopdkmoeaaEv1
import Derived.BigRegion
import Derived.RegionTactic
import Derived.BigQuiet
import Derived.Deep.QuietTactic
import Derived.Deep.MidRow
import Derived.Deep.Cut
import Derived.LoopTactic
import Derived.BigFrame
import Derived.WalkKit
import Derived.ProofKit
import Derived.Handy
import Derived.Below
import Derived.Lib.Hide
import Derived.IntWalk
import Derived.Outline
import Derived.WalkLawsBesides
import Derived.WalkSpells
namespace Go.Proofs.Ytbckncopdkmoeaa
open Go.RowKit
attribute [local go_sem] strV
set_option linter.unusedVariables false
set_option linter.unusedSimpArgs false
theorem frozen_heap {w : World} {b : Nat} {c : Array Value} {e : TypeId} (h : w.heap[b]? = some (.cells c e (0, 0))) (k : Nat) : w.frozen? ⟨b, k, none⟩ = false := by
  unfold World.frozen?; rw [h]; simp
structure Ev where
  kd : Int
  sp : ByteArray
  sc : Int
  dp : ByteArray
  dc : Int
  sq : Int
  da : ByteArray
  th : Int
  ta : Int
  ack : ByteArray
  ep : ByteArray
  ec : Int
  ht : Int
def evB (a b : Ev) : Bool := (a.kd == b.kd) && (a.sp.toList == b.sp.toList) && (a.sc == b.sc) && (a.dp.toList == b.dp.toList) && (a.dc == b.dc) && (a.sq == b.sq) && (a.da.toList == b.da.toList) && (a.th == b.th) && (a.ta == b.ta) && (a.ack.toList == b.ack.toList) && (a.ep.toList == b.ep.toList) && (a.ec == b.ec) && (a.ht == b.ht)
set_option maxRecDepth 100000 in
set_option maxHeartbeats 1600000 in
theorem run_equal_ev (kd1 kd2 : Int) (sp1 sp2 : ByteArray) (sc1 sc2 : Int) (dp1 dp2 : ByteArray) (dc1 dc2 : Int) (sq1 sq2 : Int) (da1 da2 : ByteArray) (th1 th2 : Int) (ta1 ta2 : Int) (ack1 ack2 : ByteArray) (ep1 ep2 : ByteArray) (ec1 ec2 : Int) (ht1 ht2 : Int) (W : World) :
    (Op.equalIn 10000 76 (.agg #[.int .i64 kd1, .string sp1, .int .i64 sc1, .string dp1, .int .i64 dc1, .int .i64 sq1, .string da1, .int .i64 th1, .int .i64 ta1, .string ack1, .string ep1, .int .i64 ec1, .int .i64 ht1]) (.agg #[.int .i64 kd2, .string sp2, .int .i64 sc2, .string dp2, .int .i64 dc2, .int .i64 sq2, .string da2, .int .i64 th2, .int .i64 ta2, .string ack2, .string ep2, .int .i64 ec2, .int .i64 ht2])).run Try.prog W = .ok (evB ⟨kd1, sp1, sc1, dp1, dc1, sq1, da1, th1, ta1, ack1, ep1, ec1, ht1⟩ ⟨kd2, sp2, sc2, dp2, dc2, sq2, da2, th2, ta2, ack2, ep2, ec2, ht2⟩) W := by
  unfold evB
  simp only
  cases hkd : (kd1 == kd2)
  · simp [go_sem, hkd]
  cases hsp : (sp1.toList == sp2.toList)
  · simp [go_sem, hkd, hsp]
  cases hsc : (sc1 == sc2)
  · simp [go_sem, hkd, hsp, hsc]
  cases hdp : (dp1.toList == dp2.toList)
  · simp [go_sem, hkd, hsp, hsc, hdp]
  cases hdc : (dc1 == dc2)
  · simp [go_sem, hkd, hsp, hsc, hdp, hdc]
  cases hsq : (sq1 == sq2)
  · simp [go_sem, hkd, hsp, hsc, hdp, hdc, hsq]
  cases hda : (da1.toList == da2.toList)
  · simp [go_sem, hkd, hsp, hsc, hdp, hdc, hsq, hda]
  cases hth : (th1 == th2)
  · simp [go_sem, hkd, hsp, hsc, hdp, hdc, hsq, hda, hth]
  cases hta : (ta1 == ta2)
  · simp [go_sem, hkd, hsp, hsc, hdp, hdc, hsq, hda, hth, hta]
  cases hack : (ack1.toList == ack2.toList)
  · simp [go_sem, hkd, hsp, hsc, hdp, hdc, hsq, hda, hth, hta, hack]
  cases hep : (ep1.toList == ep2.toList)
  · simp [go_sem, hkd, hsp, hsc, hdp, hdc, hsq, hda, hth, hta, hack, hep]
  cases hec : (ec1 == ec2)
  · simp [go_sem, hkd, hsp, hsc, hdp, hdc, hsq, hda, hth, hta, hack, hep, hec]
  cases hht : (ht1 == ht2)
  · simp [go_sem, hkd, hsp, hsc, hdp, hdc, hsq, hda, hth, hta, hack, hep, hec, hht]
  simp [go_sem, hkd, hsp, hsc, hdp, hdc, hsq, hda, hth, hta, hack, hep, hec, hht]
theorem row_put5 {w : World} {g k : Nat} {cur : Array Value} {t : TypeId} {v : Value} (h : w.heap[g]? = some (.cells cur t (0, 0))) : (w.setCell ⟨g, k, none⟩ v).heap[g]? = some (.cells (cur.setIfInBounds k v) t (0, 0)) := by
  show (w.heap.modify g _)[g]? = _
  rw [Array.getElem?_modify, if_pos rfl, h]; rfl
theorem row_oth {w : World} {g k b : Nat} {X : Obj} {v : Value} (h : w.heap[b]? = some X) (hne : g ≠ b) : (w.setCell ⟨g, k, none⟩ v).heap[b]? = some X := by
  show (w.heap.modify g _)[b]? = _
  rw [Array.getElem?_modify, if_neg hne]; exact h
def hasP (k : Int) : Bool := decide (1 ≤ k) && decide (k ≤ 5)
def plainE (e : Ev) : Ev := ⟨e.kd, bif hasP e.kd then e.sp else ⟨#[]⟩, bif hasP e.kd then e.sc else 0, bif hasP e.kd then e.dp else ⟨#[]⟩, bif hasP e.kd then e.dc else 0, bif hasP e.kd then e.sq else 0, bif hasP e.kd then e.da else ⟨#[]⟩, bif hasP e.kd then e.th else 0, bif hasP e.kd then e.ta else 0, bif e.kd == 3 then e.ack else ⟨#[]⟩, bif e.kd == 6 then e.ep else ⟨#[]⟩, bif e.kd == 6 then e.ec else 0, bif e.kd == 7 then e.ht else 0⟩
def Ev.row (e : Ev) : Array Value := #[.int .i64 e.kd, .string e.sp, .int .i64 e.sc, .string e.dp, .int .i64 e.dc, .int .i64 e.sq, .string e.da, .int .i64 e.th, .int .i64 e.ta, .string e.ack, .string e.ep, .int .i64 e.ec, .int .i64 e.ht]
theorem alloc_mid (w : World) (a b c : Obj) : (((w.alloc a).alloc b).alloc c).heap[w.heap.size + 1]? = some b := by
  show (((w.heap.push a).push b).push c)[w.heap.size + 1]? = _
  rw [Array.getElem?_push_lt (by simp), ← Array.getElem?_eq_getElem (by simp), show w.heap.size + 1 = (w.heap.push a).size by simp, Array.getElem?_push_size]
theorem alloc3_below (w : World) (a b c : Obj) : Below w.heap.size w (((w.alloc a).alloc b).alloc c) := Below.alloc (Below.alloc (Below.alloc (Below.refl _ _) (Nat.le_refl _) _) (by simp) _) (by simp; omega) _
theorem Ev.row_one (kd : Int) (sp : ByteArray) (sc : Int) (dp : ByteArray) (dc : Int) (sq : Int) (da : ByteArray) (th : Int) (ta : Int) (ack : ByteArray) (ep : ByteArray) (ec : Int) (ht : Int) : (#[.int .i64 kd, .string sp, .int .i64 sc, .string dp, .int .i64 dc, .int .i64 sq, .string da, .int .i64 th, .int .i64 ta, .string ack, .string ep, .int .i64 ec, .int .i64 ht] : Array Value).all (·.oneCell') = true := by
  rw [Array.all_eq_true_iff_forall_mem]; intro v hv; simp at hv; rcases hv with rfl | rfl | rfl | rfl | rfl | rfl | rfl | rfl | rfl | rfl | rfl | rfl | rfl <;> rfl
set_option maxRecDepth 100000 in
set_option maxHeartbeats 1600000 in
theorem hasP_any (k : Int) (w : World) :
    Calls Try.prog 93 #[.int .i64 k] w fun e w' => e = .returned (.bool (hasP k)) ∧ w' = w := by
  unfold hasP
  cases h1 : decide (1 ≤ k)
  all_goals
    go_enter Try.func93, Try.ntmps93
    go_wp2
    go_ret
    exact ⟨by first | rfl | simp, rfl⟩
set_option maxRecDepth 100000 in
set_option maxHeartbeats 6400000 in
theorem plain_any (kd : Int) (sp : ByteArray) (sc : Int) (dp : ByteArray) (dc : Int) (sq : Int) (da : ByteArray) (th : Int) (ta : Int) (ack : ByteArray) (ep : ByteArray) (ec : Int) (ht : Int) (w : World) :
    Calls Try.prog 90 #[.agg #[.int .i64 kd, .string sp, .int .i64 sc, .string dp, .int .i64 dc, .int .i64 sq, .string da, .int .i64 th, .int .i64 ta, .string ack, .string ep, .int .i64 ec, .int .i64 ht]] w fun e w' => e = .returned (.agg (plainE ⟨kd, sp, sc, dp, dc, sq, da, th, ta, ack, ep, ec, ht⟩).row) ∧ Below w.heap.size w w' := by
  have CH := fun W => hasP_any kd W
  by_cases h3 : kd = 3
  · subst h3
    rw [show hasP 3 = true from rfl] at CH
    have HR := Lib.hid (show (plainE ⟨3, sp, sc, dp, dc, sq, da, th, ta, ack, ep, ec, ht⟩).row = #[.int .i64 3, .string sp, .int .i64 sc, .string dp, .int .i64 dc, .int .i64 sq, .string da, .int .i64 th, .int .i64 ta, .string ack, .string ⟨#[]⟩, .int .i64 0, .int .i64 0] by unfold plainE Ev.row; rfl)
    go_enter Try.func90, Try.ntmps90
    go_upto_region 11 with (go_at_call 93; refine (CH _).mono ?_; rintro e wx ⟨rfl, hwx⟩; obtain rfl : _ = wx := hwx.symm)
    go_wp2_with (refine wpList_storeRowTo rfl (.tmp 2) (.tmp 30) 76 rfl (by kernel_rfl) rfl rfl (alloc_mid _ _ _ _) rfl (Ev.row_one _ _ _ _ _ _ _ _ _ _ _ _ _ ) ?_)
    have hZ : (World.setRow _ (w.heap.size + 1) #[.int .i64 3, .string sp, .int .i64 sc, .string dp, .int .i64 dc, .int .i64 sq, .string da, .int .i64 th, .int .i64 ta, .string ack, .string ⟨#[]⟩, .int .i64 0, .int .i64 0]).heap[w.heap.size + 1]? = some (.cells #[.int .i64 3, .string sp, .int .i64 sc, .string dp, .int .i64 dc, .int .i64 sq, .string da, .int .i64 th, .int .i64 ta, .string ack, .string ⟨#[]⟩, .int .i64 0, .int .i64 0] 76 (0, 0)) := setRow_heap _ _ _ _ _ _ (alloc_mid w (.cells #[.int .i64 3, .string sp, .int .i64 sc, .string dp, .int .i64 dc, .int .i64 sq, .string da, .int .i64 th, .int .i64 ta, .string ack, .string ep, .int .i64 ec, .int .i64 ht] 76) (.cells #[.int .i64 0, .string ⟨#[]⟩, .int .i64 0, .string ⟨#[]⟩, .int .i64 0, .int .i64 0, .string ⟨#[]⟩, .int .i64 0, .int .i64 0, .string ⟨#[]⟩, .string ⟨#[]⟩, .int .i64 0, .int .i64 0] 76) (.cells #[.int .i64 3, .string sp, .int .i64 sc, .string dp, .int .i64 dc, .int .i64 sq, .string da, .int .i64 th, .int .i64 ta, .string ack, .string ⟨#[]⟩, .int .i64 0, .int .i64 0] 76))
    have hrd := run_loadVar_mid (P := Try.prog) _ (w.heap.size + 1) 0 76 (#[.int .i64 3, .string sp, .int .i64 sc, .string dp, .int .i64 dc, .int .i64 sq, .string da, .int .i64 th, .int .i64 ta, .string ack, .string ⟨#[]⟩, .int .i64 0, .int .i64 0] : Array Value).toList _ (rangeAt_row5 hZ) Try.underlying76 rfl (by kernel_rfl)
    refine bodyPost_ret (v := .agg #[.int .i64 3, .string sp, .int .i64 sc, .string dp, .int .i64 dc, .int .i64 sq, .string da, .int .i64 th, .int .i64 ta, .string ack, .string ⟨#[]⟩, .int .i64 0, .int .i64 0]) ?_ rfl ?_
    · simp [results, Try.results90, asAddr]
      exact hrd
    exact ⟨by rw [HR.out], below_setRow (alloc3_below _ _ _ _) (by omega) _⟩
  have e3 : (kd == 3) = false := beq_eq_false_iff_ne.2 h3
  by_cases h6 : kd = 6
  · subst h6
    rw [show hasP 6 = false from rfl] at CH
    have HR := Lib.hid (show (plainE ⟨6, sp, sc, dp, dc, sq, da, th, ta, ack, ep, ec, ht⟩).row = #[.int .i64 6, .string ⟨#[]⟩, .int .i64 0, .string ⟨#[]⟩, .int .i64 0, .int .i64 0, .string ⟨#[]⟩, .int .i64 0, .int .i64 0, .string ⟨#[]⟩, .string ep, .int .i64 ec, .int .i64 0] by unfold plainE Ev.row; rfl)
    go_enter Try.func90, Try.ntmps90
    go_upto_region 11 with (go_at_call 93; refine (CH _).mono ?_; rintro e wx ⟨rfl, hwx⟩; obtain rfl : _ = wx := hwx.symm)
    go_wp2_with (refine wpList_storeRowTo rfl (.tmp 2) (.tmp 30) 76 rfl (by kernel_rfl) rfl rfl (alloc_mid _ _ _ _) rfl (Ev.row_one _ _ _ _ _ _ _ _ _ _ _ _ _ ) ?_)
    have hZ : (World.setRow _ (w.heap.size + 1) #[.int .i64 6, .string ⟨#[]⟩, .int .i64 0, .string ⟨#[]⟩, .int .i64 0, .int .i64 0, .string ⟨#[]⟩, .int .i64 0, .int .i64 0, .string ⟨#[]⟩, .string ep, .int .i64 ec, .int .i64 0]).heap[w.heap.size + 1]? = some (.cells #[.int .i64 6, .string ⟨#[]⟩, .int .i64 0, .string ⟨#[]⟩, .int .i64 0, .int .i64 0, .string ⟨#[]⟩, .int .i64 0, .int .i64 0, .string ⟨#[]⟩, .string ep, .int .i64 ec, .int .i64 0] 76 (0, 0)) := setRow_heap _ _ _ _ _ _ (alloc_mid w (.cells #[.int .i64 6, .string sp, .int .i64 sc, .string dp, .int .i64 dc, .int .i64 sq, .string da, .int .i64 th, .int .i64 ta, .string ack, .string ep, .int .i64 ec, .int .i64 ht] 76) (.cells #[.int .i64 0, .string ⟨#[]⟩, .int .i64 0, .string ⟨#[]⟩, .int .i64 0, .int .i64 0, .string ⟨#[]⟩, .int .i64 0, .int .i64 0, .string ⟨#[]⟩, .string ⟨#[]⟩, .int .i64 0, .int .i64 0] 76) (.cells #[.int .i64 6, .string ⟨#[]⟩, .int .i64 0, .string ⟨#[]⟩, .int .i64 0, .int .i64 0, .string ⟨#[]⟩, .int .i64 0, .int .i64 0, .string ⟨#[]⟩, .string ep, .int .i64 ec, .int .i64 0] 76))
    have hrd := run_loadVar_mid (P := Try.prog) _ (w.heap.size + 1) 0 76 (#[.int .i64 6, .string ⟨#[]⟩, .int .i64 0, .string ⟨#[]⟩, .int .i64 0, .int .i64 0, .string ⟨#[]⟩, .int .i64 0, .int .i64 0, .string ⟨#[]⟩, .string ep, .int .i64 ec, .int .i64 0] : Array Value).toList _ (rangeAt_row5 hZ) Try.underlying76 rfl (by kernel_rfl)
    refine bodyPost_ret (v := .agg #[.int .i64 6, .string ⟨#[]⟩, .int .i64 0, .string ⟨#[]⟩, .int .i64 0, .int .i64 0, .string ⟨#[]⟩, .int .i64 0, .int .i64 0, .string ⟨#[]⟩, .string ep, .int .i64 ec, .int .i64 0]) ?_ rfl ?_
    · simp [results, Try.results90, asAddr]
      exact hrd
    exact ⟨by rw [HR.out], below_setRow (alloc3_below _ _ _ _) (by omega) _⟩
  have e6 : (kd == 6) = false := beq_eq_false_iff_ne.2 h6
  by_cases h7 : kd = 7
  · subst h7
    rw [show hasP 7 = false from rfl] at CH
    have HR := Lib.hid (show (plainE ⟨7, sp, sc, dp, dc, sq, da, th, ta, ack, ep, ec, ht⟩).row = #[.int .i64 7, .string ⟨#[]⟩, .int .i64 0, .string ⟨#[]⟩, .int .i64 0, .int .i64 0, .string ⟨#[]⟩, .int .i64 0, .int .i64 0, .string ⟨#[]⟩, .string ⟨#[]⟩, .int .i64 0, .int .i64 ht] by unfold plainE Ev.row; rfl)
    go_enter Try.func90, Try.ntmps90
    go_upto_region 11 with (go_at_call 93; refine (CH _).mono ?_; rintro e wx ⟨rfl, hwx⟩; obtain rfl : _ = wx := hwx.symm)
    go_wp2_with (refine wpList_storeRowTo rfl (.tmp 2) (.tmp 30) 76 rfl (by kernel_rfl) rfl rfl (alloc_mid _ _ _ _) rfl (Ev.row_one _ _ _ _ _ _ _ _ _ _ _ _ _ ) ?_)
    have hZ : (World.setRow _ (w.heap.size + 1) #[.int .i64 7, .string ⟨#[]⟩, .int .i64 0, .string ⟨#[]⟩, .int .i64 0, .int .i64 0, .string ⟨#[]⟩, .int .i64 0, .int .i64 0, .string ⟨#[]⟩, .string ⟨#[]⟩, .int .i64 0, .int .i64 ht]).heap[w.heap.size + 1]? = some (.cells #[.int .i64 7, .string ⟨#[]⟩, .int .i64 0, .string ⟨#[]⟩, .int .i64 0, .int .i64 0, .string ⟨#[]⟩, .int .i64 0, .int .i64 0, .string ⟨#[]⟩, .string ⟨#[]⟩, .int .i64 0, .int .i64 ht] 76 (0, 0)) := setRow_heap _ _ _ _ _ _ (alloc_mid w (.cells #[.int .i64 7, .string sp, .int .i64 sc, .string dp, .int .i64 dc, .int .i64 sq, .string da, .int .i64 th, .int .i64 ta, .string ack, .string ep, .int .i64 ec, .int .i64 ht] 76) (.cells #[.int .i64 0, .string ⟨#[]⟩, .int .i64 0, .string ⟨#[]⟩, .int .i64 0, .int .i64 0, .string ⟨#[]⟩, .int .i64 0, .int .i64 0, .string ⟨#[]⟩, .string ⟨#[]⟩, .int .i64 0, .int .i64 0] 76) (.cells #[.int .i64 7, .string ⟨#[]⟩, .int .i64 0, .string ⟨#[]⟩, .int .i64 0, .int .i64 0, .string ⟨#[]⟩, .int .i64 0, .int .i64 0, .string ⟨#[]⟩, .string ⟨#[]⟩, .int .i64 0, .int .i64 ht] 76))
    have hrd := run_loadVar_mid (P := Try.prog) _ (w.heap.size + 1) 0 76 (#[.int .i64 7, .string ⟨#[]⟩, .int .i64 0, .string ⟨#[]⟩, .int .i64 0, .int .i64 0, .string ⟨#[]⟩, .int .i64 0, .int .i64 0, .string ⟨#[]⟩, .string ⟨#[]⟩, .int .i64 0, .int .i64 ht] : Array Value).toList _ (rangeAt_row5 hZ) Try.underlying76 rfl (by kernel_rfl)
    refine bodyPost_ret (v := .agg #[.int .i64 7, .string ⟨#[]⟩, .int .i64 0, .string ⟨#[]⟩, .int .i64 0, .int .i64 0, .string ⟨#[]⟩, .int .i64 0, .int .i64 0, .string ⟨#[]⟩, .string ⟨#[]⟩, .int .i64 0, .int .i64 ht]) ?_ rfl ?_
    · simp [results, Try.results90, asAddr]
      exact hrd
    exact ⟨by rw [HR.out], below_setRow (alloc3_below _ _ _ _) (by omega) _⟩
  have e7 : (kd == 7) = false := beq_eq_false_iff_ne.2 h7
  cases hh : hasP kd
  · rw [hh] at CH
    have HR := Lib.hid (show (plainE ⟨kd, sp, sc, dp, dc, sq, da, th, ta, ack, ep, ec, ht⟩).row = #[.int .i64 kd, .string ⟨#[]⟩, .int .i64 0, .string ⟨#[]⟩, .int .i64 0, .int .i64 0, .string ⟨#[]⟩, .int .i64 0, .int .i64 0, .string ⟨#[]⟩, .string ⟨#[]⟩, .int .i64 0, .int .i64 0] by unfold plainE Ev.row; simp only [hh, e3, e6, e7, cond_false])
    go_enter Try.func90, Try.ntmps90
    go_upto_region 11 with (go_at_call 93; refine (CH _).mono ?_; rintro e wx ⟨rfl, hwx⟩; obtain rfl : _ = wx := hwx.symm)
    go_wp2_with (refine wpList_storeRowTo rfl (.tmp 2) (.tmp 30) 76 rfl (by kernel_rfl) rfl rfl (alloc_mid _ _ _ _) rfl (Ev.row_one _ _ _ _ _ _ _ _ _ _ _ _ _ ) ?_)
    have hZ : (World.setRow _ (w.heap.size + 1) #[.int .i64 kd, .string ⟨#[]⟩, .int .i64 0, .string ⟨#[]⟩, .int .i64 0, .int .i64 0, .string ⟨#[]⟩, .int .i64 0, .int .i64 0, .string ⟨#[]⟩, .string ⟨#[]⟩, .int .i64 0, .int .i64 0]).heap[w.heap.size + 1]? = some (.cells #[.int .i64 kd, .string ⟨#[]⟩, .int .i64 0, .string ⟨#[]⟩, .int .i64 0, .int .i64 0, .string ⟨#[]⟩, .int .i64 0, .int .i64 0, .string ⟨#[]⟩, .string ⟨#[]⟩, .int .i64 0, .int .i64 0] 76 (0, 0)) := setRow_heap _ _ _ _ _ _ (alloc_mid w (.cells #[.int .i64 kd, .string sp, .int .i64 sc, .string dp, .int .i64 dc, .int .i64 sq, .string da, .int .i64 th, .int .i64 ta, .string ack, .string ep, .int .i64 ec, .int .i64 ht] 76) (.cells #[.int .i64 0, .string ⟨#[]⟩, .int .i64 0, .string ⟨#[]⟩, .int .i64 0, .int .i64 0, .string ⟨#[]⟩, .int .i64 0, .int .i64 0, .string ⟨#[]⟩, .string ⟨#[]⟩, .int .i64 0, .int .i64 0] 76) (.cells #[.int .i64 kd, .string ⟨#[]⟩, .int .i64 0, .string ⟨#[]⟩, .int .i64 0, .int .i64 0, .string ⟨#[]⟩, .int .i64 0, .int .i64 0, .string ⟨#[]⟩, .string ⟨#[]⟩, .int .i64 0, .int .i64 0] 76))
    have hrd := run_loadVar_mid (P := Try.prog) _ (w.heap.size + 1) 0 76 (#[.int .i64 kd, .string ⟨#[]⟩, .int .i64 0, .string ⟨#[]⟩, .int .i64 0, .int .i64 0, .string ⟨#[]⟩, .int .i64 0, .int .i64 0, .string ⟨#[]⟩, .string ⟨#[]⟩, .int .i64 0, .int .i64 0] : Array Value).toList _ (rangeAt_row5 hZ) Try.underlying76 rfl (by kernel_rfl)
    refine bodyPost_ret (v := .agg #[.int .i64 kd, .string ⟨#[]⟩, .int .i64 0, .string ⟨#[]⟩, .int .i64 0, .int .i64 0, .string ⟨#[]⟩, .int .i64 0, .int .i64 0, .string ⟨#[]⟩, .string ⟨#[]⟩, .int .i64 0, .int .i64 0]) ?_ rfl ?_
    · simp [results, Try.results90, asAddr]
      exact hrd
    exact ⟨by rw [HR.out], below_setRow (alloc3_below _ _ _ _) (by omega) _⟩
  · rw [hh] at CH
    have HR := Lib.hid (show (plainE ⟨kd, sp, sc, dp, dc, sq, da, th, ta, ack, ep, ec, ht⟩).row = #[.int .i64 kd, .string sp, .int .i64 sc, .string dp, .int .i64 dc, .int .i64 sq, .string da, .int .i64 th, .int .i64 ta, .string ⟨#[]⟩, .string ⟨#[]⟩, .int .i64 0, .int .i64 0] by unfold plainE Ev.row; simp only [hh, e3, e6, e7, cond_false, cond_true])
    go_enter Try.func90, Try.ntmps90
    go_upto_region 11 with (go_at_call 93; refine (CH _).mono ?_; rintro e wx ⟨rfl, hwx⟩; obtain rfl : _ = wx := hwx.symm)
    go_wp2_with (refine wpList_storeRowTo rfl (.tmp 2) (.tmp 30) 76 rfl (by kernel_rfl) rfl rfl (alloc_mid _ _ _ _) rfl (Ev.row_one _ _ _ _ _ _ _ _ _ _ _ _ _ ) ?_)
    have hZ : (World.setRow _ (w.heap.size + 1) #[.int .i64 kd, .string sp, .int .i64 sc, .string dp, .int .i64 dc, .int .i64 sq, .string da, .int .i64 th, .int .i64 ta, .string ⟨#[]⟩, .string ⟨#[]⟩, .int .i64 0, .int .i64 0]).heap[w.heap.size + 1]? = some (.cells #[.int .i64 kd, .string sp, .int .i64 sc, .string dp, .int .i64 dc, .int .i64 sq, .string da, .int .i64 th, .int .i64 ta, .string ⟨#[]⟩, .string ⟨#[]⟩, .int .i64 0, .int .i64 0] 76 (0, 0)) := setRow_heap _ _ _ _ _ _ (alloc_mid w (.cells #[.int .i64 kd, .string sp, .int .i64 sc, .string dp, .int .i64 dc, .int .i64 sq, .string da, .int .i64 th, .int .i64 ta, .string ack, .string ep, .int .i64 ec, .int .i64 ht] 76) (.cells #[.int .i64 0, .string ⟨#[]⟩, .int .i64 0, .string ⟨#[]⟩, .int .i64 0, .int .i64 0, .string ⟨#[]⟩, .int .i64 0, .int .i64 0, .string ⟨#[]⟩, .string ⟨#[]⟩, .int .i64 0, .int .i64 0] 76) (.cells #[.int .i64 kd, .string sp, .int .i64 sc, .string dp, .int .i64 dc, .int .i64 sq, .string da, .int .i64 th, .int .i64 ta, .string ⟨#[]⟩, .string ⟨#[]⟩, .int .i64 0, .int .i64 0] 76))
    have hrd := run_loadVar_mid (P := Try.prog) _ (w.heap.size + 1) 0 76 (#[.int .i64 kd, .string sp, .int .i64 sc, .string dp, .int .i64 dc, .int .i64 sq, .string da, .int .i64 th, .int .i64 ta, .string ⟨#[]⟩, .string ⟨#[]⟩, .int .i64 0, .int .i64 0] : Array Value).toList _ (rangeAt_row5 hZ) Try.underlying76 rfl (by kernel_rfl)
    refine bodyPost_ret (v := .agg #[.int .i64 kd, .string sp, .int .i64 sc, .string dp, .int .i64 dc, .int .i64 sq, .string da, .int .i64 th, .int .i64 ta, .string ⟨#[]⟩, .string ⟨#[]⟩, .int .i64 0, .int .i64 0]) ?_ rfl ?_
    · simp [results, Try.results90, asAddr]
      exact hrd
    exact ⟨by rw [HR.out], below_setRow (alloc3_below _ _ _ _) (by omega) _⟩
/-- An event that may be. -/
def bodyE (e : Ev) : Bool := if e.kd = 6 then mayE e.ep e.ec else if e.kd = 7 then decide (1 ≤ e.ht) && decide (e.ht ≤ 1099511627776) else if e.kd = 3 then mayK e.sp e.sc e.dp e.dc e.sq e.da e.th e.ta && !(e.ack.toList == []) && decide ((e.ack.size : Int) ≤ 32) else hasP e.kd && mayK e.sp e.sc e.dp e.dc e.sq e.da e.th e.ta
def mayEv (e : Ev) : Bool := evB e (plainE e) && bodyE e
set_option maxRecDepth 100000 in
set_option maxHeartbeats 6400000 in
theorem mayEv_any (kd : Int) (sp : ByteArray) (sc : Int) (dp : ByteArray) (dc : Int) (sq : Int) (da : ByteArray) (th : Int) (ta : Int) (ack : ByteArray) (ep : ByteArray) (ec : Int) (ht : Int) (w : World) (h1 : sp.size ≤ maxLen) (h2 : dp.size ≤ maxLen) (h3 : ep.size ≤ maxLen) :
    Calls Try.prog 57 #[.agg #[.int .i64 kd, .string sp, .int .i64 sc, .string dp, .int .i64 dc, .int .i64 sq, .string da, .int .i64 th, .int .i64 ta, .string ack, .string ep, .int .i64 ec, .int .i64 ht]] w fun e w' => e = .returned (.bool (mayEv ⟨kd, sp, sc, dp, dc, sq, da, th, ta, ack, ep, ec, ht⟩)) ∧ Below w.heap.size w w' := by
  have CP := fun W => plain_any kd sp sc dp dc sq da th ta ack ep ec ht W
  have CM := fun W => mayPk_any sp sc dp dc sq da th ta W h1 h2
  have CE := fun W => mayEnd_any ep ec W h3
  have CH := fun W => (hasP_any kd W).mono (fun e w' (h : e = .returned (.bool (hasP kd)) ∧ w' = W) => (⟨h.1, h.2 ▸ Below.refl _ _⟩ : e = .returned (.bool (hasP kd)) ∧ Below W.heap.size W w'))
  have hEQ : ∀ W, (Op.equalIn 10000 76 (.agg #[.int .i64 kd, .string sp, .int .i64 sc, .string dp, .int .i64 dc, .int .i64 sq, .string da, .int .i64 th, .int .i64 ta, .string ack, .string ep, .int .i64 ec, .int .i64 ht]) (.agg (plainE ⟨kd, sp, sc, dp, dc, sq, da, th, ta, ack, ep, ec, ht⟩).row)).run Try.prog W = .ok (evB ⟨kd, sp, sc, dp, dc, sq, da, th, ta, ack, ep, ec, ht⟩ (plainE ⟨kd, sp, sc, dp, dc, sq, da, th, ta, ack, ep, ec, ht⟩)) W := fun W => by
    cases hpl : plainE ⟨kd, sp, sc, dp, dc, sq, da, th, ta, ack, ep, ec, ht⟩ with
    | mk kd2 sp2 sc2 dp2 dc2 sq2 da2 th2 ta2 ack2 ep2 ec2 ht2 => exact run_equal_ev kd kd2 sp sp2 sc sc2 dp dp2 dc dc2 sq sq2 da da2 th th2 ta ta2 ack ack2 ep ep2 ec ec2 ht ht2 W
  obtain ⟨PR, hPR⟩ : ∃ r, (plainE ⟨kd, sp, sc, dp, dc, sq, da, th, ta, ack, ep, ec, ht⟩).row = r := ⟨_, rfl⟩
  rw [hPR] at hEQ CP
  have hM : mayEv ⟨kd, sp, sc, dp, dc, sq, da, th, ta, ack, ep, ec, ht⟩ = (evB ⟨kd, sp, sc, dp, dc, sq, da, th, ta, ack, ep, ec, ht⟩ (plainE ⟨kd, sp, sc, dp, dc, sq, da, th, ta, ack, ep, ec, ht⟩) && bodyE ⟨kd, sp, sc, dp, dc, sq, da, th, ta, ack, ep, ec, ht⟩) := rfl
  obtain ⟨r, hr⟩ : ∃ b, bodyE ⟨kd, sp, sc, dp, dc, sq, da, th, ta, ack, ep, ec, ht⟩ = b := ⟨_, rfl⟩
  obtain ⟨eb, heb⟩ : ∃ b, evB ⟨kd, sp, sc, dp, dc, sq, da, th, ta, ack, ep, ec, ht⟩ (plainE ⟨kd, sp, sc, dp, dc, sq, da, th, ta, ack, ep, ec, ht⟩) = b := ⟨_, rfl⟩
  rw [hM, heb, hr]
  have HB := Lib.hid hr
  clear hr
  rw [heb] at hEQ
  clear hM heb hPR
  have hg0 : (w.alloc (.cells #[.int .i64 kd, .string sp, .int .i64 sc, .string dp, .int .i64 dc, .int .i64 sq, .string da, .int .i64 th, .int .i64 ta, .string ack, .string ep, .int .i64 ec, .int .i64 ht] 76)).heap[w.heap.size]? = some (.cells #[.int .i64 kd, .string sp, .int .i64 sc, .string dp, .int .i64 dc, .int .i64 sq, .string da, .int .i64 th, .int .i64 ta, .string ack, .string ep, .int .i64 ec, .int .i64 ht] 76 (0, 0)) := by
    show (w.heap.push _)[w.heap.size]? = _
    rw [Array.getElem?_push_size]
  have hbA : Below w.heap.size w (w.alloc (.cells #[.int .i64 kd, .string sp, .int .i64 sc, .string dp, .int .i64 dc, .int .i64 sq, .string da, .int .i64 th, .int .i64 ta, .string ack, .string ep, .int .i64 ec, .int .i64 ht] 76)) := Below.alloc (Below.refl _ _) (Nat.le_refl _) _
  go_enter Try.func57, Try.ntmps57
  go_wp2
  refine wp_nameE _ (fun W1 hW => ?_)
  have hg : W1.heap[w.heap.size]? = some (.cells #[.int .i64 kd, .string sp, .int .i64 sc, .string dp, .int .i64 dc, .int .i64 sq, .string da, .int .i64 th, .int .i64 ta, .string ack, .string ep, .int .i64 ec, .int .i64 ht] 76 (0, 0)) := by rw [hW]; exact hg0
  have hbel : Below w.heap.size w W1 := by rw [hW]; exact hbA
  clear hW hg0 hbA
  have hgl := (Array.getElem?_eq_some_iff.1 hg).1
  have q0 := cell_heap hg 0; have q1 := cell_heap hg 1; have q2 := cell_heap hg 2; have q3 := cell_heap hg 3; have q4 := cell_heap hg 4; have q5 := cell_heap hg 5; have q6 := cell_heap hg 6; have q7 := cell_heap hg 7; have q8 := cell_heap hg 8; have q9 := cell_heap hg 9; have q10 := cell_heap hg 10; have q11 := cell_heap hg 11; have q12 := cell_heap hg 12
  obtain ⟨hcb, hfb⟩ := beyond_cells (W := W1)
  refine wp_region_below (by kernel_rfl) (by kernel_rfl) ?_
  repeat (go_big_quiet_step ((go_at_call 90; exact quiet_below (CP _))))
  intro w9 hw9
  have hb9 := beyond_below hw9
  have hg := cells_of hg hb9 hgl
  have hgl := Nat.lt_of_lt_of_le hgl hb9.size
  have hbel := hbel.trans (hb9.mono hbel.size)
  clear hcb hfb hw9
  have q0 := cell_heap hg 0; have q1 := cell_heap hg 1; have q2 := cell_heap hg 2; have q3 := cell_heap hg 3; have q4 := cell_heap hg 4; have q5 := cell_heap hg 5; have q6 := cell_heap hg 6; have q7 := cell_heap hg 7; have q8 := cell_heap hg 8; have q9 := cell_heap hg 9; have q10 := cell_heap hg 10; have q11 := cell_heap hg 11; have q12 := cell_heap hg 12
  cases eb
  · go_wp2
    go_ret
    exact ⟨rfl, hbel⟩
  by_cases k6 : kd = 6
  · subst k6
    have hr : mayE ep ec = r := HB.out
    rw [hr] at CE
    clear hr HB CM CH
    go_wp2_with (go_at_call 91; refine (CE _).mono ?_; rintro e w2 ⟨rfl, hb⟩)
    go_ret
    exact ⟨rfl, hbel.trans (hb.mono hbel.size)⟩
  have e6 : (kd == 6) = false := beq_eq_false_iff_ne.2 k6
  by_cases k7 : kd = 7
  · subst k7
    have hr : (decide (1 ≤ ht) && decide (ht ≤ 1099511627776)) = r := HB.out
    clear HB CM CH CE
    cases hd : decide (1 ≤ ht)
    all_goals
      rw [hd] at hr
      obtain rfl := hr
      go_wp2
      go_ret
      exact ⟨by first | rfl | (simp; done), hbel⟩
  have e7 : (kd == 7) = false := beq_eq_false_iff_ne.2 k7
  obtain ⟨mk, hmk⟩ : ∃ b, mayK sp sc dp dc sq da th ta = b := ⟨_, rfl⟩
  rw [hmk] at CM
  by_cases k3 : kd = 3
  · subst k3
    obtain ⟨ab, hab⟩ : ∃ b, (ack.toList == []) = b := ⟨_, rfl⟩
    have hr : (mk && !ab && decide ((ack.size : Int) ≤ 32)) = r := by rw [← hmk, ← hab]; exact HB.out
    clear HB CH CE hmk
    cases mk
    · obtain rfl : false = r := hr
      go_wp2_with (go_at_call 92; refine (CM _).mono ?_; rintro e w2 ⟨rfl, hb⟩)
      go_ret
      exact ⟨rfl, hbel.trans (hb.mono hbel.size)⟩
    cases ab
    · obtain rfl : decide ((ack.size : Int) ≤ 32) = r := hr
      go_wp2_with (go_at_call 92; refine (CM _).mono ?_; rintro e w2 ⟨rfl, hb⟩; have hg := cells_of hg hb hgl; have hbel := hbel.trans (hb.mono hbel.size); have q0 := cell_heap hg 0; have q1 := cell_heap hg 1; have q2 := cell_heap hg 2; have q3 := cell_heap hg 3; have q4 := cell_heap hg 4; have q5 := cell_heap hg 5; have q6 := cell_heap hg 6; have q7 := cell_heap hg 7; have q8 := cell_heap hg 8; have q9 := cell_heap hg 9; have q10 := cell_heap hg 10; have q11 := cell_heap hg 11; have q12 := cell_heap hg 12)
      go_ret
      exact ⟨by first | rfl | (simp; done), hbel⟩
    · obtain rfl : false = r := hr
      go_wp2_with (go_at_call 92; refine (CM _).mono ?_; rintro e w2 ⟨rfl, hb⟩; have hg := cells_of hg hb hgl; have hbel := hbel.trans (hb.mono hbel.size); have q0 := cell_heap hg 0; have q1 := cell_heap hg 1; have q2 := cell_heap hg 2; have q3 := cell_heap hg 3; have q4 := cell_heap hg 4; have q5 := cell_heap hg 5; have q6 := cell_heap hg 6; have q7 := cell_heap hg 7; have q8 := cell_heap hg 8; have q9 := cell_heap hg 9; have q10 := cell_heap hg 10; have q11 := cell_heap hg 11; have q12 := cell_heap hg 12)
      go_ret
      exact ⟨rfl, hbel⟩
  have e3 : (kd == 3) = false := beq_eq_false_iff_ne.2 k3
  obtain ⟨hp, hhp⟩ : ∃ b, hasP kd = b := ⟨_, rfl⟩
  rw [hhp] at CH
  have hr : (hp && mk) = r := by rw [← hmk, ← hhp, ← HB.out]; unfold bodyE; simp only; rw [if_neg k6, if_neg k7, if_neg k3]
  clear HB CE hmk hhp
  cases hp
  · obtain rfl : false = r := hr
    go_wp2_with (go_at_call 93; refine (CH _).mono ?_; rintro e w2 ⟨rfl, hb⟩; have hg := cells_of hg hb hgl; have hbel := hbel.trans (hb.mono hbel.size); have q0 := cell_heap hg 0; have q1 := cell_heap hg 1; have q2 := cell_heap hg 2; have q3 := cell_heap hg 3; have q4 := cell_heap hg 4; have q5 := cell_heap hg 5; have q6 := cell_heap hg 6; have q7 := cell_heap hg 7; have q8 := cell_heap hg 8; have q9 := cell_heap hg 9; have q10 := cell_heap hg 10; have q11 := cell_heap hg 11; have q12 := cell_heap hg 12)
    go_ret
    exact ⟨rfl, hbel⟩
  · obtain rfl : mk = r := hr
    go_wp2_with (first | (go_at_call 93; refine (CH _).mono ?_; rintro e w2 ⟨rfl, hb⟩; have hgl2 := Nat.lt_of_lt_of_le hgl hb.size; have hg := cells_of hg hb hgl; have hbel := hbel.trans (hb.mono hbel.size); have q0 := cell_heap hg 0; have q1 := cell_heap hg 1; have q2 := cell_heap hg 2; have q3 := cell_heap hg 3; have q4 := cell_heap hg 4; have q5 := cell_heap hg 5; have q6 := cell_heap hg 6; have q7 := cell_heap hg 7; have q8 := cell_heap hg 8; have q9 := cell_heap hg 9; have q10 := cell_heap hg 10; have q11 := cell_heap hg 11; have q12 := cell_heap hg 12) | (go_at_call 92; refine (CM _).mono ?_; rintro e w3 ⟨rfl, hb3⟩))
    go_ret
    exact ⟨rfl, hbel.trans (hb3.mono hbel.size)⟩
def lightP (sp dp da : ByteArray) : Bool := decide ((sp.size : Int) ≤ 60) && decide ((dp.size : Int) ≤ 60) && decide ((da.size : Int) ≤ 600)
def lightE (e : Ev) : Bool := lightP e.sp e.dp e.da && decide ((e.ack.size : Int) ≤ 100) && decide ((e.ep.size : Int) ≤ 60)
def lightL (es : List Ev) : Bool := decide (es.length ≤ 60) && es.all lightE
def Ev.cells (e : Ev) : List Value := e.row.toList
theorem Ev.cells_len (e : Ev) : e.cells.length = 13 := rfl
set_option maxRecDepth 100000 in
set_option maxHeartbeats 1600000 in
theorem lightP_any (sp : ByteArray) (sc : Int) (dp : ByteArray) (dc sq : Int) (da : ByteArray) (th ta : Int) (w : World) :
    Calls Try.prog 56 #[.agg #[.string sp, .int .i64 sc, .string dp, .int .i64 dc, .int .i64 sq, .string da, .int .i64 th, .int .i64 ta]] w fun e w' => e = .returned (.bool (lightP sp dp da)) ∧ Below w.heap.size w w' := by
  unfold lightP
  cases x1 : decide ((sp.size : Int) ≤ 60)
  all_goals cases x2 : decide ((dp.size : Int) ≤ 60)
  all_goals
    go_enter Try.func56, Try.ntmps56
    go_wp2
    go_ret
    exact ⟨by first | rfl | (simp; done), Below.alloc (Below.refl _ _) (Nat.le_refl _) _⟩
theorem ev_at {w : World} {a : Option Addr} {es : List Ev} (h : RowAt w a (es.flatMap Ev.cells)) {k : Nat} (hk : k < es.length) :
    ∃ b off, a = some ⟨b, off, none⟩ ∧ b < w.heap.size ∧ ∀ j, j < 13 → w.cell? ⟨b, off + k * 13 + j, none⟩ = es[k].cells[j]? := by
  obtain ⟨b, off, ha, hb, hc⟩ := h.elem Ev.cells_len hk (by omega)
  exact ⟨b, off, ha, hb, fun j hj => by rw [Nat.add_assoc]; exact hc j hj⟩
set_option maxRecDepth 100000 in
set_option maxHeartbeats 6400000 in
theorem lightL_any (a : Option Addr) (n cap : Nat) (es : List Ev) (w : World) (hr : RowAt w a (es.flatMap Ev.cells)) (hn : es.length = n) :
    Calls Try.prog 30 #[.slice a n cap] w fun e w' => e = .returned (.bool (lightL es)) ∧ Below w.heap.size w w' := by
  have HN := Lib.hid hn
  by_cases h60 : 60 < n
  · have hF : lightL es = false := by unfold lightL; rw [decide_eq_false (by omega)]; rfl
    rw [hF]; clear hF hn
    go_enter Try.func30, Try.ntmps30
    go_wp2
    go_ret
    exact ⟨rfl, Below.refl _ _⟩
  obtain ⟨r, hF⟩ : ∃ r, (es.all lightE) = r := ⟨_, rfl⟩
  have hF2 : lightL es = r := by unfold lightL; rw [decide_eq_true (by omega)]; exact hF
  rw [hF2]; clear hn hF2
  have HF := Lib.hid hF
  clear hF
  go_enter Try.func30, Try.ntmps30
  go_wp2
  go_loopw [3] (fun i W => ∃ k : Nat, k ≤ n ∧ ((es.take k).all lightE) = true ∧ i = .int .i64 k ∧ Below w.heap.size w W) (fun i _ => n - (intOf i).toNat)
  case atStart => exact ⟨0, by omega, by simp, rfl, Below.refl _ _⟩
  case round =>
    obtain ⟨k, hk, hall, rfl, hbel⟩ := hrel
    by_cases hlt : k < n
    · have hkl : k < es.length := by rw [HN.out]; exact hlt
      obtain ⟨b, off, rfl, hb, hc⟩ := ev_at (hr.below hbel) hkl
      obtain ⟨⟨kd, sp, sc, dp, dc, sq, da, th, ta, ack, ep, ec, ht⟩, hp⟩ : ∃ p, es[k] = p := ⟨_, rfl⟩
      rw [hp] at hc
      have c9 : wr.cell? ⟨b, off + k * 13 + 9, none⟩ = some (.string ack) := hc 9 (by omega)
      have c10 : wr.cell? ⟨b, off + k * 13 + 10, none⟩ = some (.string ep) := hc 10 (by omega)
      have hrp : wr.rangeAt b (off + k * 13 + 1) [.string sp, .int .i64 sc, .string dp, .int .i64 dc, .int .i64 sq, .string da, .int .i64 th, .int .i64 ta] := fun j v hv => by
        have hj : j < 8 := by have := (List.getElem?_eq_some_iff.1 hv).1; simpa using this
        rw [show off + k * 13 + 1 + j = off + k * 13 + (1 + j) by omega, hc (1 + j) (by omega), ← hv]
        rcases j with _ | _ | _ | _ | _ | _ | _ | _ | j
        all_goals first | rfl | omega
      have CL := fun W => lightP_any sp sc dp dc sq da th ta W
      obtain ⟨lp, hlp⟩ : ∃ b, lightP sp dp da = b := ⟨_, rfl⟩
      simp only [hlp] at CL
      have hle : lightE ⟨kd, sp, sc, dp, dc, sq, da, th, ta, ack, ep, ec, ht⟩ = (lp && decide ((ack.size : Int) ≤ 100) && decide ((ep.size : Int) ≤ 60)) := by unfold lightE; simp only; rw [hlp]
      have hbad : lightE ⟨kd, sp, sc, dp, dc, sq, da, th, ta, ack, ep, ec, ht⟩ = false → r = false := fun h => by
        rw [← HF.out, List.all_eq_false]; exact ⟨_, List.getElem_mem hkl, by rw [hp, h]; decide⟩
      have hgood : lightE ⟨kd, sp, sc, dp, dc, sq, da, th, ta, ack, ep, ec, ht⟩ = true → ((es.take (k + 1)).all lightE) = true := fun h => by
        rw [List.take_add_one, List.all_append, hall, List.getElem?_eq_getElem hkl, hp]; simp [h]
      have HG := hgood
      clear hgood hlp hp hc hall hr hkl
      cases lp
      · obtain rfl := hbad (by rw [hle]; rfl)
        clear hle hbad HG
        go_upto_region 6 with fail
        go_wp2_with (first | (refine wpList_load_mid rfl 74 (.tmp 16) rfl b _ rfl _ _ hrp Try.underlying74 rfl (by kernel_rfl) ?_) | (go_at_call 56; refine (CL _).mono ?_; rintro e w2 ⟨rfl, hb2⟩))
        go_ret
        exact ⟨rfl, hbel.trans (hb2.mono hbel.size)⟩
      by_cases x1 : 100 < ack.size
      · obtain rfl := hbad (by rw [hle, decide_eq_false (by omega)]; rfl)
        clear hle hbad HG
        go_upto_region 6 with fail
        go_wp2_with (first | (refine wpList_load_mid rfl 74 (.tmp 16) rfl b _ rfl _ _ hrp Try.underlying74 rfl (by kernel_rfl) ?_) | (go_at_call 56; refine (CL _).mono ?_; rintro e w2 ⟨rfl, hb2⟩; obtain ⟨hx, _⟩ := bcell hb2))
        go_ret
        exact ⟨rfl, hbel.trans (hb2.mono hbel.size)⟩
      by_cases x2 : 60 < ep.size
      · obtain rfl := hbad (by rw [hle, decide_eq_true (p := (ack.size : Int) ≤ 100) (by omega), decide_eq_false (by omega)]; rfl)
        clear hle hbad HG
        go_upto_region 6 with fail
        go_wp2_with (first | (refine wpList_load_mid rfl 74 (.tmp 16) rfl b _ rfl _ _ hrp Try.underlying74 rfl (by kernel_rfl) ?_) | (go_at_call 56; refine (CL _).mono ?_; rintro e w2 ⟨rfl, hb2⟩; obtain ⟨hx, _⟩ := bcell hb2))
        go_ret
        exact ⟨rfl, hbel.trans (hb2.mono hbel.size)⟩
      have HG2 := HG (by rw [hle, decide_eq_true (p := (ack.size : Int) ≤ 100) (by omega), decide_eq_true (by omega)]; rfl)
      clear hle hbad HG
      have HG3 := Lib.hid HG2
      clear HG2
      go_upto_region 6 with fail
      go_wp2_with (first | (refine wpList_load_mid rfl 74 (.tmp 16) rfl b _ rfl _ _ hrp Try.underlying74 rfl (by kernel_rfl) ?_) | (go_at_call 56; refine (CL _).mono ?_; rintro e w2 ⟨rfl, hb2⟩; obtain ⟨hx, _⟩ := bcell hb2))
      go_roundw
      case rel => exact ⟨k + 1, by omega, HG3.out, by go_num, hbel.trans (hb2.mono hbel.size)⟩
      case measure => (simp [intOf]) <;> omega
    · have hF : (es.all lightE) = true := by
        rw [← hall, List.take_of_length_le (by rw [HN.out]; omega)]
      obtain rfl : true = r := hF.symm.trans HF.out
      clear hF
      go_wp2
      go_ret
      exact ⟨rfl, hbel⟩
end Go.Proofs.Ytbckncopdkmoeaa
