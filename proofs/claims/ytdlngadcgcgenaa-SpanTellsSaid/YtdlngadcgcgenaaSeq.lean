/- slices.Sorted(slices.Values(l)): a new slice that holds l's numbers, sorted. -/
import Derived.Test.YtdlngadcgcgenaaGen
import Derived.Test.YtdlngadcgcgenaaShelf
import Derived.RangeFuncNested
import Derived.RangeFuncBound
import Derived.RangeFuncCalls
import Derived.RangeFuncLeaves
import Derived.RangeFuncBox
import Derived.Shelf.Abstract
import Derived.Shelf.RegionOpen
import Derived.WalkKit
import Derived.OwnWalkIn
import Derived.TacticsInMore
import Derived.LoopNIn
import Derived.LoopIn
import Derived.Maps.AppendAt
namespace Go.Proofs.Ytdlngadcgcgenaa
open Go.RowKit Go.Shelf
attribute [local go_sem] Oper.semAt_some
set_option linter.unusedVariables false
set_option maxRecDepth 100000 in
set_option maxHeartbeats 4000000 in
/-- slices.Values's closure. -/
theorem seq1_in (n : Nat) (hn : 1 ≤ n) (l Bs n0 : Nat) (a : Option Addr) (len cap : Nat) (zs : List Int) (hzl : zs.length = len) (hreach : len ≤ 1000000) (J Jx : List Int → World → Prop)
    (hY : ∀ pre x W, J pre W → pre.length < len → YieldAt Fence.wide (n - 1) Try.prog l #[.int .i64 x] W fun e W' =>
      (e = .returned (.bool true) ∧ J (pre ++ [x]) W' ∧ Below n0 W W') ∨ (e = .returned (.bool false) ∧ Jx (pre ++ [x]) W'))
    (W : World) (hBs : W.cell? ⟨Bs, 0, none⟩ = some (.slice a len cap)) (hrow : ∀ W', Below n0 W W' → RowAt W' a (zs.map (Value.int .i64))) (h0 : J [] W) :
    CallsIn Fence.wide n Try.prog 54 #[.func (.yield l) #[] #[], .pointer (some ⟨Bs, 0, none⟩)] W fun e W' => (∃ v, e = .returned v) ∧
      ((∃ ys, ys = zs ∧ J ys W') ∨ (∃ pre, pre <+: zs ∧ Jx pre W')) := by
  have HZ := Lib.hid hzl
  clear hzl
  refine callsIn_of_wp Try.func54 rfl trivial ?_ rfl
  simp only [Try.ntmps54, List.size_toArray, List.length_cons, List.length_nil, Nat.reduceAdd, Nat.reduceSub, Array.replicate_succ, Array.replicate_zero, List.push_toArray, List.append_toArray, List.nil_append, List.cons_append]
  gi_wp2
  gi_loopw [7] (fun i wr => ∃ k : Nat, k ≤ len ∧ i = .int .i64 k ∧ J (zs.take k) wr ∧ Below n0 W wr) (fun i _ => len - (intOf i).toNat)
  case atStart => exact ⟨0, Nat.zero_le _, rfl, h0, Below.refl _ _⟩
  case round =>
    obtain ⟨k, hk, rfl, hJs, hnx⟩ := hrel
    by_cases hlt : k < len
    · have hkl : k < zs.length := by rw [HZ.out]; exact hlt
      obtain ⟨b, off, rfl, hb, hcx⟩ := row_get (hrow wr hnx) hkl
      have htk := List.take_succ_eq_append_getElem hkl
      obtain ⟨x, hx⟩ : ∃ x, zs[k] = x := ⟨_, rfl⟩
      rw [hx] at hcx htk
      have HTK := Lib.hid htk
      obtain ⟨fn, tmps, assign, body, hy, hR⟩ := hY _ x wr hJs (by rw [List.length_take, HZ.out]; omega)
      clear htk hx
      have d1 : decide ((k : Int) < (len : Int)) = true := decide_eq_true (by omega)
      have d1n : decide (k < len) = true := decide_eq_true hlt
      have n0' : (0 : Int) ≤ (k : Int) := by omega
      have n1' : (k : Int) < (len : Int) := by omega
      have n2' : ((k : Nat) : Int).toNat = k := by omega
      gi_wp2
      refine hR.mono ?_
      rintro e W3 (⟨rfl, hJ3, hk3⟩ | ⟨rfl, hJx3⟩)
      · gi_wp2
        go_roundw
        case rel => exact ⟨k + 1, by omega, by simp, by rw [HTK.out]; exact hJ3, hnx.trans hk3⟩
        case measure => simp [intOf]; omega
      · gi_wp2
        refine bodyPost_ret (results_none rfl _ _ _) rfl ?_
        exact ⟨⟨_, rfl⟩, .inr ⟨zs.take (k + 1), List.take_prefix _ _, by rw [HTK.out]; exact hJx3⟩⟩
    · obtain rfl : k = len := by omega
      have d1 : decide ((k : Int) < (k : Int)) = false := decide_eq_false (by omega)
      have d1n : decide (k < k) = false := decide_eq_false hlt
      gi_wp2
      go_end0
      exact ⟨⟨_, rfl⟩, .inl ⟨_, rfl, by rw [List.take_of_length_le (by rw [HZ.out]; omega)] at hJs; exact hJs⟩⟩
set_option maxHeartbeats 1000000 in
theorem values_any (a : Option Addr) (len cap : Nat) (w : World) :
    Calls Try.prog 37 #[.slice a len cap] w fun e w' => e = .returned (.func (.func 54) #[] #[.pointer (some ⟨w.heap.size, 0, none⟩)]) ∧ w' = w.alloc (.cells #[.slice a len cap] 29) := by
  refine (callsIn_wide (n := 3)).1 ?_
  refine callsIn_of_wp Try.func37 rfl trivial ?_ rfl
  simp only [Try.ntmps37, List.size_toArray, List.length_cons, List.length_nil, Nat.reduceAdd, Nat.reduceSub, Array.replicate_succ, Array.replicate_zero, List.push_toArray, List.append_toArray, List.nil_append, List.cons_append]
  gi_wp2
  go_ret
  exact ⟨rfl, rfl⟩
theorem seq_stops (n : Nat) (hn : 1 ≤ n) (Bs : Nat) (a : Option Addr) (len cap : Nat) (zs : List Int) (hzl : zs.length = len) (hreach : len ≤ 1000000) (w : World) (hBs : Bs < w.heap.size)
    (hc : w.cell? ⟨Bs, 0, none⟩ = some (.slice a len cap)) (hr : RowAt w a (zs.map (Value.int .i64))) :
    SeqStopsK Fence.wide n Try.prog 54 #[.pointer (some ⟨Bs, 0, none⟩)] (fun x : Int => #[Value.int .i64 x]) (Below w.heap.size) (fun ys => ys = zs) (fun pre => pre <+: zs) zs.length w := fun l J Jx W hW _ _ hY h0 =>
  seq1_in n hn l Bs w.heap.size a len cap zs hzl hreach J Jx (by rw [← hzl]; exact hY) W ((hW.cell (p := ⟨Bs, 0, none⟩) hBs).trans hc) (fun W' hb => hr.below (hW.trans hb)) h0
set_option maxRecDepth 100000 in
set_option maxHeartbeats 4000000 in
/-- slices.AppendSeq(nil, seq). -/
theorem appendSeq_in (n : Nat) (hn : 3 ≤ n) (Bs : Nat) (a : Option Addr) (len cap : Nat) (zs : List Int) (hzl : zs.length = len) (hreach : len ≤ 1000000) (w : World) (hBs : Bs < w.heap.size)
    (hc : w.cell? ⟨Bs, 0, none⟩ = some (.slice a len cap)) (hr : RowAt w a (zs.map (Value.int .i64))) :
    CallsIn Fence.wide n Try.prog 66 #[.slice none 0 0, .func (.func 54) #[] #[.pointer (some ⟨Bs, 0, none⟩)]] w fun e W' => ∃ v, e = .returned v ∧ W'.ownsRow w.heap.size 3 1 v zs.length (zs.map (Value.int .i64)) ∧ Below w.heap.size w W' := by
  have h1 : 1 ≤ n := by omega
  obtain ⟨i0, hi, hz0, hz1, hz2⟩ := info_parts Try.infoI
  refine callsIn_of_wp_marks Try.func66 rfl trivial ?_ rfl
  simp only [Try.ntmps66, List.size_toArray, List.length_cons, List.length_nil, Nat.reduceAdd, Nat.reduceSub, Array.replicate_succ, Array.replicate_zero, List.push_toArray, List.append_toArray, List.nil_append, List.cons_append]
  gi_wp2
  have bO := Boxed.new w 29 (.slice none 0 0)
  have hB0 : Below w.heap.size w (w.alloc (.cells #[.slice none 0 0] 29)) := (Below.refl _ w).alloc (Nat.le_refl _) _
  have hcW : (w.alloc (.cells #[.slice none 0 0] 29)).cell? ⟨Bs, 0, none⟩ = some (.slice a len cap) := (hB0.cell (p := ⟨Bs, 0, none⟩) hBs).trans hc
  refine wpIn_rangeFunc_ownG rfl h1 (gf := 54) (lb := #[.pointer (some ⟨Bs, 0, none⟩)]) rfl trivial (enters_of Try.func54 (by kernel_rfl) rfl)
    (seq_stops (n - 1) (by omega) Bs a len cap zs hzl hreach w hBs hc hr) belowK_t (belowK_b (by simp)) hB0 (fun _ => rfl)
    (fun pre W => (∃ v, Boxed W w.heap.size 29 v ∧ W.ownsRow w.heap.size 3 1 v pre.length (pre.map (Value.int .i64)) ∧ (v = .slice none 0 0 ↔ pre = [])) ∧ Below w.heap.size w W)
    (fun _ _ _ => False)
    (OwnFrom.and (Own.from (holdsRow_own w.heap.size w.heap.size 29 3 1 (fun pre => pre.length) (fun pre => pre.map (Value.int .i64)) (fun pre v => v = .slice none 0 0 ↔ pre = [])) _) (ownFrom_below (Nat.le_refl _) (by simp)))
    (fun _ _ _ _ _ hs _ _ => hs)
    ⟨⟨_, bO, World.ownsRow_nil _ _ _ _, by simp⟩, hB0⟩
    (fun x => { tmps := #[.slice none 0 0, .func (.func 54) #[] #[.pointer (some ⟨Bs, 0, none⟩)], .pointer (some ⟨w.heap.size, 0, none⟩), undef, .slice none 0 0, .int .i64 x, .func (.func 54) #[] #[.pointer (some ⟨Bs, 0, none⟩)], .int .i64 x, undef, undef, undef, undef, undef], defers := [] }) ?assign ?body ?done ?stop
  case assign =>
    intro l x W K hK
    gi_wp2
    exact hK
  case body =>
    rintro l pre x W ⟨⟨v, hv, hrow, hnil⟩, hB⟩ hlt
    have hc := hv.cell
    have hpl : pre.length ≤ 1000000 := by omega
    gi_wp2_with (gi_at_builtin; refine wpListIn_append_own _ rfl _ _ 29 rfl w.heap.size 3 i0 (.int .i64 0) 1 8 Try.underlying29 hi hz0 hz1 hz2 rfl (by decide) _ _ _ rfl (hrow.alloc _) ⟨W.heap.size, 0, none⟩ 1 1 [.int .i64 x] rfl rfl (cell_one_new _ _ _) (by simp [Value.oneCell']) (by unfold maxLen; omega) (by omega) (by have := hB.size; simp; omega) ?_; intro v' w1 hown' hgrow _; obtain ⟨g', cap', rfl⟩ := ownsRow_succ hown'; obtain ⟨hv1, hv2, hr2, hk2, hb2⟩ := hv.appended (by decide) hrow hB.size (Nat.le_refl _) hown' hgrow; have hc1 := hv1.cell; have hf1 := hv1.frozen)
    exact ⟨hk2.from _, hb2, ⟨_, hv2, by simpa using hr2, by simp⟩, hB.trans hb2⟩
  case done =>
    rintro D ys W hD rfl ⟨⟨v, hv, hrow, hnil⟩, hB⟩ hK
    have hc := hv.cell
    gi_wp2
    refine ⟨by simp, .inl ⟨_, _, rfl, run_takeDeferred hK, ?_⟩⟩
    exact ⟨_, results_tmp rfl _ _ _, v, rfl, ownsRow_putObj hrow _ hK rfl, hB.trans (belowK_b (w := w) (Nat.le_refl _) W D _ _ (by simp at hD; omega) hK rfl rfl)⟩
  case stop =>
    rintro D c pre W _ _ h _
    exact h.elim
set_option maxHeartbeats 1000000 in
theorem collect_any (Bs : Nat) (a : Option Addr) (len cap : Nat) (zs : List Int) (hzl : zs.length = len) (hreach : len ≤ 1000000) (w : World) (hBs : Bs < w.heap.size)
    (hc : w.cell? ⟨Bs, 0, none⟩ = some (.slice a len cap)) (hr : RowAt w a (zs.map (Value.int .i64))) :
    Calls Try.prog 52 #[.func (.func 54) #[] #[.pointer (some ⟨Bs, 0, none⟩)]] w fun e W' => ∃ v, e = .returned v ∧ W'.ownsRow w.heap.size 3 1 v zs.length (zs.map (Value.int .i64)) ∧ Below w.heap.size w W' := by
  refine (callsIn_wide (n := 4)).1 ?_
  refine callsIn_of_wp Try.func52 rfl trivial ?_ rfl
  simp only [Try.ntmps52, List.size_toArray, List.length_cons, List.length_nil, Nat.reduceAdd, Nat.reduceSub, Array.replicate_succ, Array.replicate_zero, List.push_toArray, List.append_toArray, List.nil_append, List.cons_append]
  gi_wp2_with (refine ⟨trivial, ?_⟩; gi_at_call 66; refine (appendSeq_in 3 (by omega) Bs a len cap zs hzl hreach w hBs hc hr).mono ?_; rintro e w' ⟨v, rfl, hown, hb⟩)
  go_ret
  exact ⟨v, rfl, hown, hb⟩
end Go.Proofs.Ytdlngadcgcgenaa
