/- Headers of the same list; ClientCopies walked. -/
import Derived.Test.YtbckncopdkmoeaaCn4
import Derived.BigRegion
import Derived.RegionTactic
import Derived.BigQuiet
import Derived.Deep.QuietTactic
import Derived.Deep.MidRow
import Derived.Deep.RegionLaw
import Derived.LoopTactic
import Derived.BigFrame
import Derived.OwnWalk
import Derived.OneCell
import Derived.Laws.OwnMore
import Derived.WalkKit
import Derived.ProofKit
import Derived.Handy
import Derived.Below
import Derived.Lib.Hide
import Derived.IntWalk
import Derived.Outline
import Derived.WalkLawsBesides
import Derived.WalkSpells
namespace Go.Proofs.Ytbckncopdkmoeaa
open Go.RowKit
attribute [local go_sem] strV
set_option linter.unusedVariables false
set_option maxRecDepth 100000 in
set_option maxHeartbeats 3200000 in
theorem hdsSame_any (a a2 : Option Addr) (n cap cap2 : Nat) (l : List Hd) (w : World) (hr : RowAt w a (l.flatMap Hd.L)) (hr2 : RowAt w a2 (l.flatMap Hd.L)) (hn : l.length = n) (hn6 : n ≤ 100000) :
    Calls Try.prog 27 #[.slice a n cap, .slice a2 n cap2] w fun e w' => e = .returned (.bool true) ∧ Below w.heap.size w w' := by
  have HN := Lib.hid hn
  have hq : ((n : Int) != (n : Int)) = false := by simp
  clear hn
  go_enter Try.func27, Try.ntmps27
  go_upto_region 4 with fail
  go_loopw [5] (fun i wr => ∃ k : Nat, k ≤ n ∧ i = .int .i64 k ∧ Below w.heap.size w wr) (fun i _ => n - (intOf i).toNat)
  case atStart => exact ⟨0, Nat.zero_le _, rfl, Below.refl _ _⟩
  case round =>
    obtain ⟨k, hk, rfl, hbel⟩ := hrel
    by_cases hlt : k < n
    rotate_left
    · have d9 : decide ((k : Int) < (n : Int)) = false := decide_eq_false (by omega)
      have d9n : decide (k < n) = false := decide_eq_false hlt
      go_wp2
      go_ret
      exact ⟨by first | rfl | simp, hbel⟩
    have d9 : decide ((k : Int) < (n : Int)) = true := decide_eq_true (by omega)
    have d9n : decide (k < n) = true := decide_eq_true hlt
    have hkl : k < l.length := by rw [HN.out]; exact hlt
    obtain ⟨b1, o1, rfl, hbx, hg1⟩ := hds_at (hr.below hbel) hkl
    obtain ⟨b2, o2, rfl, hby, hg2⟩ := hds_at (hr2.below hbel) hkl
    obtain ⟨x, hx9⟩ : ∃ x, l[k] = x := ⟨_, rfl⟩
    rw [hx9] at hg1 hg2
    have hne := fun W => run_equal_hd x x W
    rw [decide_eq_true (rfl : x = x)] at hne
    have n0 : (0 : Int) ≤ (k : Int) := by omega
    have n1 : (k : Int) < (n : Int) := by omega
    have n2 : ((k : Nat) : Int).toNat = k := by omega
    clear hx9
    go_upto_region 6 with fail
    refine wp_region_any (by kernel_rfl) ?_
    change wpAny _ _ _ _ _ _ _ (World.drew _)
    refine wpAny_take (i := 0) (v := .slice (some ⟨b1, o1, none⟩) n cap) rfl (by kernel_rfl) (by kernel_rfl) (by kernel_rfl) (fun _ _ _ h => h) (Or.inl ⟨by rfl, fun w9 => by (go_simp; try with_reducible rfl)⟩) ?_
    change wpAny _ _ _ _ _ _ (Act.put _ (some 17) _) _; dsimp only [Act.put]; simp only [List.setIfInBounds_toArray, List.set_cons_succ, List.set_cons_zero]
    refine wpAny_take (i := 1) (v := .int .i64 (k : Int)) rfl (by kernel_rfl) (by kernel_rfl) (by kernel_rfl) (fun _ _ _ h => h) (Or.inl ⟨by rfl, fun w9 => by (go_simp; try with_reducible rfl)⟩) ?_
    change wpAny _ _ _ _ _ _ (Act.put _ (some 18) _) _; dsimp only [Act.put]; simp only [List.setIfInBounds_toArray, List.set_cons_succ, List.set_cons_zero]
    refine wpAny_take (i := 2) (v := .pointer (some ⟨b1, o1 + k * 34, none⟩)) rfl (by kernel_rfl) (by kernel_rfl) (by kernel_rfl) (fun _ _ _ h => h) (Or.inl ⟨by rfl, fun w9 => by (go_simp; try with_reducible rfl)⟩) ?_
    change wpAny _ _ _ _ _ _ (Act.put _ (some 19) _) _; dsimp only [Act.put]; simp only [List.setIfInBounds_toArray, List.set_cons_succ, List.set_cons_zero]
    refine wpAny_take (i := 4) (v := .slice (some ⟨b2, o2, none⟩) n cap2) rfl (by kernel_rfl) (by kernel_rfl) (by kernel_rfl) (fun _ _ _ h => h) (Or.inl ⟨by rfl, fun w9 => by (go_simp; try with_reducible rfl)⟩) ?_
    change wpAny _ _ _ _ _ _ (Act.put _ (some 21) _) _; dsimp only [Act.put]; simp only [List.setIfInBounds_toArray, List.set_cons_succ, List.set_cons_zero]
    refine wpAny_take (i := 5) (v := .int .i64 (k : Int)) rfl (by kernel_rfl) (by kernel_rfl) (by kernel_rfl) (fun _ _ _ h => h) (Or.inl ⟨by rfl, fun w9 => by (go_simp; try with_reducible rfl)⟩) ?_
    change wpAny _ _ _ _ _ _ (Act.put _ (some 22) _) _; dsimp only [Act.put]; simp only [List.setIfInBounds_toArray, List.set_cons_succ, List.set_cons_zero]
    refine wpAny_take (i := 6) (v := .pointer (some ⟨b2, o2 + k * 34, none⟩)) rfl (by kernel_rfl) (by kernel_rfl) (by kernel_rfl) (fun _ _ _ h => h) (Or.inl ⟨by rfl, fun w9 => by (go_simp; try with_reducible rfl)⟩) ?_
    change wpAny _ _ _ _ _ _ (Act.put _ (some 23) _) _; dsimp only [Act.put]; simp only [List.setIfInBounds_toArray, List.set_cons_succ, List.set_cons_zero]
    refine wpAny_ready (rs := [3, 7]) (by kernel_rfl) (by simp) ?_
    refine (AllReady.cons rfl (fun K hK => ?_) (AllReady.cons rfl (fun K hK => ?_) AllReady.nil))
    · refine step_loadHd (.tmp 19) rfl (by rfl) b1 (o1 + k * 34) (by first | rfl | simp [Act.eval, Act.put]) x (show wr.drew.rangeAt _ _ _ from hg1) ?_
      refine hK _ _ ?_
      clear hK K
      change wpAny _ _ _ _ _ _ (Act.put _ (some 20) _) _; dsimp only [Act.put]; simp only [List.setIfInBounds_toArray, List.set_cons_succ, List.set_cons_zero]
      refine wpAny_ready (rs := [7]) (by kernel_rfl) (by simp) ?_
      refine (AllReady.cons rfl (fun K hK => ?_) AllReady.nil)
      refine step_loadHd (.tmp 23) rfl (by rfl) b2 (o2 + k * 34) (by first | rfl | simp [Act.eval, Act.put]) x (show wr.drew.rangeAt _ _ _ from hg2) ?_
      refine hK _ _ ?_
      clear hK K
      change wpAny _ _ _ _ _ _ (Act.put _ (some 24) _) _; dsimp only [Act.put]; simp only [List.setIfInBounds_toArray, List.set_cons_succ, List.set_cons_zero]
      refine wpAny_ready (rs := [8]) (by kernel_rfl) (by simp) ?_
      refine (AllReady.cons rfl (fun K hK => ?_) AllReady.nil)
      go_simp
      refine hK _ _ ?_
      clear hK K
      refine wpAny_done (by kernel_rfl) ?_ _
      go_wp2
      go_roundw
      case rel => exact ⟨k + 1, by omega, by go_num, hbel.drew⟩
      case measure => (simp [intOf]) <;> omega
    · refine step_loadHd (.tmp 23) rfl (by rfl) b2 (o2 + k * 34) (by first | rfl | simp [Act.eval, Act.put]) x (show wr.drew.rangeAt _ _ _ from hg2) ?_
      refine hK _ _ ?_
      clear hK K
      change wpAny _ _ _ _ _ _ (Act.put _ (some 24) _) _; dsimp only [Act.put]; simp only [List.setIfInBounds_toArray, List.set_cons_succ, List.set_cons_zero]
      refine wpAny_ready (rs := [3]) (by kernel_rfl) (by simp) ?_
      refine (AllReady.cons rfl (fun K hK => ?_) AllReady.nil)
      refine step_loadHd (.tmp 19) rfl (by rfl) b1 (o1 + k * 34) (by first | rfl | simp [Act.eval, Act.put]) x (show wr.drew.rangeAt _ _ _ from hg1) ?_
      refine hK _ _ ?_
      clear hK K
      change wpAny _ _ _ _ _ _ (Act.put _ (some 20) _) _; dsimp only [Act.put]; simp only [List.setIfInBounds_toArray, List.set_cons_succ, List.set_cons_zero]
      refine wpAny_ready (rs := [8]) (by kernel_rfl) (by simp) ?_
      refine (AllReady.cons rfl (fun K hK => ?_) AllReady.nil)
      go_simp
      refine hK _ _ ?_
      clear hK K
      refine wpAny_done (by kernel_rfl) ?_ _
      go_wp2
      go_roundw
      case rel => exact ⟨k + 1, by omega, by go_num, hbel.drew⟩
      case measure => (simp [intOf]) <;> omega
def updFrom (told : List Hd) (M l : List Hd) : List Hd := l.foldl (fun m h => updM m h told) M
theorem updFrom_take {told M l : List Hd} {k : Nat} (hk : k < l.length) : updFrom told M (l.take (k + 1)) = updM (updFrom told M (l.take k)) l[k] told := by
  unfold updFrom
  rw [List.take_succ_eq_append_getElem hk, List.foldl_append]; rfl
theorem range_below {w W : World} {b off : Nat} {L : List Value} (hb : Below w.heap.size w W) (hlt : b < w.heap.size) (h : w.rangeAt b off L) : W.rangeAt b off L := fun j v hv => (hb.cell (p := ⟨b, off + j, none⟩) hlt).trans (h j v hv)
def updAll (told l : List Hd) : List Hd := l.foldl (fun m h => updM m h told) []
theorem updAll_take {told l : List Hd} {k : Nat} (hk : k < l.length) : updAll told (l.take (k + 1)) = updM (updAll told (l.take k)) l[k] told := by
  unfold updAll
  rw [List.take_succ_eq_append_getElem hk, List.foldl_append]; rfl
set_option maxRecDepth 100000 in
set_option maxHeartbeats 12800000 in
theorem walkClientCopies (a0 : Option Addr) (n0 c0 : Nat) (l : List Hd) (a1 : Option Addr) (n1 c1 : Nat) (m : List Hd) (a2 : Option Addr) (n2 c2 : Nat) (t : List Hd) (w : World)
    (hr0 : RowAt w a0 (l.flatMap Hd.L)) (hn0 : l.length = n0) (hc0 : n0 ≤ c0) (hm0 : c0 ≤ maxLen) (hq0 : ∀ p ∈ l, p.wf)
    (hr1 : RowAt w a1 (m.flatMap Hd.L)) (hn1 : m.length = n1) (hc1 : n1 ≤ c1) (hm1 : c1 ≤ maxLen) (hq1 : ∀ p ∈ m, p.wf)
    (hr2 : RowAt w a2 (t.flatMap Hd.L)) (hn2 : t.length = n2) (hc2 : n2 ≤ c2) (hm2 : c2 ≤ maxLen) (hq2 : ∀ p ∈ t, p.wf) :
    Calls Try.prog 6 #[.slice a0 n0 c0, .slice a1 n1 c1, .slice a2 n2 c2] w fun e w' => e = .returned (.bool true) ∧ Below w.heap.size w w' := by
  have HN0 := Lib.hid hn0; have HN1 := Lib.hid hn1; have HN2 := Lib.hid hn2
  have HQ0 := Lib.hid hq0; have HQ1 := Lib.hid hq1; have HQ2 := Lib.hid hq2
  clear hn0 hn1 hn2 hq0 hq1 hq2 hc0 hc1 hc2 hm0 hm1 hm2
  have C1 := fun W => first14_any W
  by_cases h0 : n0 ≤ 20
  rotate_left
  · have d0 : decide ((n0 : Int) > 20) = true := decide_eq_true (by omega)
    have d0g : decide (20 < (n0 : Int)) = true := decide_eq_true (by omega)
    have d0n : decide (20 < n0) = true := decide_eq_true (by omega)
    clear h0
    go_enter Try.func6, Try.ntmps6
    go_wp2_with (first | (go_at_call 17; refine (C1 w).mono ?_; rintro e w1 ⟨rfl, hb1⟩) | (go_at_call 17; refine (C1 w1).mono ?_; rintro e w2 ⟨rfl, hb2⟩))
    go_ret
    exact ⟨by first | rfl | simp, hb1.trans (hb2.mono hb1.size)⟩
  have d0 : decide ((n0 : Int) > 20) = false := decide_eq_false (by omega)
  have d0g : decide (20 < (n0 : Int)) = false := decide_eq_false (by omega)
  have d0n : decide (20 < n0) = false := decide_eq_false (by omega)
  by_cases h1 : n1 ≤ 20
  rotate_left
  · have d1 : decide ((n1 : Int) > 20) = true := decide_eq_true (by omega)
    have d1g : decide (20 < (n1 : Int)) = true := decide_eq_true (by omega)
    have d1n : decide (20 < n1) = true := decide_eq_true (by omega)
    clear h1
    go_enter Try.func6, Try.ntmps6
    go_wp2_with (first | (go_at_call 17; refine (C1 w).mono ?_; rintro e w1 ⟨rfl, hb1⟩) | (go_at_call 17; refine (C1 w1).mono ?_; rintro e w2 ⟨rfl, hb2⟩))
    go_ret
    exact ⟨by first | rfl | simp, hb1.trans (hb2.mono hb1.size)⟩
  have d1 : decide ((n1 : Int) > 20) = false := decide_eq_false (by omega)
  have d1g : decide (20 < (n1 : Int)) = false := decide_eq_false (by omega)
  have d1n : decide (20 < n1) = false := decide_eq_false (by omega)
  by_cases h2 : n2 ≤ 40
  rotate_left
  · have d2 : decide ((n2 : Int) > 40) = true := decide_eq_true (by omega)
    have d2g : decide (40 < (n2 : Int)) = true := decide_eq_true (by omega)
    have d2n : decide (40 < n2) = true := decide_eq_true (by omega)
    clear h2
    go_enter Try.func6, Try.ntmps6
    go_wp2_with (first | (go_at_call 17; refine (C1 w).mono ?_; rintro e w1 ⟨rfl, hb1⟩) | (go_at_call 17; refine (C1 w1).mono ?_; rintro e w2 ⟨rfl, hb2⟩))
    go_ret
    exact ⟨by first | rfl | simp, hb1.trans (hb2.mono hb1.size)⟩
  have d2 : decide ((n2 : Int) > 40) = false := decide_eq_false (by omega)
  have d2g : decide (40 < (n2 : Int)) = false := decide_eq_false (by omega)
  have d2n : decide (40 < n2) = false := decide_eq_false (by omega)
  go_enter Try.func6, Try.ntmps6
  go_upto_region 9 with (first | (go_at_call 17; refine (C1 w).mono ?_; rintro e w1 ⟨rfl, hb1⟩; have CNa := clNew_any w1) | (go_at_call 18; refine CNa.mono ?_; rintro e w2 ⟨rfl, ca2, hb2⟩; have CNb := clNew_any w2; clear CNa) | (go_at_call 18; refine CNb.mono ?_; rintro e w3 ⟨rfl, cb3, hb3⟩))
  have ca3 := ca2.kept hb3
  have z2 : Below w.heap.size w w2 := hb1.trans (hb2.mono hb1.size)
  have z3 : Below w.heap.size w w3 := z2.trans (hb3.mono z2.size)
  have hlt1 := hb1.size
  have hlt2 := ca2.lt
  obtain ⟨ga, hga⟩ : ∃ g, w1.heap.size + 1 = g := ⟨_, rfl⟩
  obtain ⟨ba, hba⟩ : ∃ g, w1.heap.size = g := ⟨_, rfl⟩
  obtain ⟨gb, hgb⟩ : ∃ g, w2.heap.size + 1 = g := ⟨_, rfl⟩
  obtain ⟨bb, hbb⟩ : ∃ g, w2.heap.size = g := ⟨_, rfl⟩
  simp only [hga, hgb] at ca3 cb3 hlt2 ⊢
  simp only [hba, hbb] at ca3 cb3 hlt2 hlt1
  have HNE : Hid (ga ≠ bb ∧ ba ≠ bb ∧ gb ≠ ba ∧ bb ≠ ba ∧ w.heap.size ≤ ba ∧ w.heap.size ≤ bb) := Lib.hid (by omega)
  clear hga hba hgb hbb hlt1 hlt2 ca2
  go_loopw [9] (fun i wr => ∃ k : Nat, k ≤ n0 ∧ i = .int .i64 k ∧ ClAt wr ga ba k (updAll t (l.take k)) ∧ ClAt wr gb bb k (updAll t (l.take k)) ∧ Below w.heap.size w wr) (fun i _ => n0 - (intOf i).toNat)
  case atStart => exact ⟨0, Nat.zero_le _, rfl, ca3, cb3, z3⟩
  case round =>
    obtain ⟨k, hk, rfl, sa, sb, hbel⟩ := hrel
    by_cases hlt : k < n0
    · have e1 : decide ((k : Int) < (n0 : Int)) = true := decide_eq_true (by omega)
      have e1n : decide (k < n0) = true := decide_eq_true hlt
      have hkl : k < l.length := by rw [HN0.out]; exact hlt
      obtain ⟨b1, o1, rfl, hbx, hg1⟩ := hds_at hr0 hkl
      have hwx := HQ0.out l[k] (List.getElem_mem hkl)
      have HTK := Lib.hid (updAll_take (told := t) hkl)
      obtain ⟨x, hx9⟩ : ∃ x, l[k] = x := ⟨_, rfl⟩
      rw [hx9] at hg1 hwx HTK
      clear hx9
      obtain ⟨M, hM⟩ : ∃ M, updAll t (l.take k) = M := ⟨_, rfl⟩
      rw [hM] at sa sb HTK
      clear hM
      have CUa := clUpd_any ga ba k M x hwx a2 n2 c2 t wr sa (by unfold maxLen; omega) (hr2.below hbel) HN2.out (by omega) HQ2.out
      have CUb := fun W (hs : ClAt W gb bb k M) (hb : Below w.heap.size w W) => clUpd_any gb bb k M x hwx a2 n2 c2 t W hs (by unfold maxLen; omega) (hr2.below hb) HN2.out (by omega) HQ2.out
      obtain ⟨r1, hr1x⟩ : ∃ r, updB M x t = r := ⟨_, rfl⟩
      obtain ⟨r2, hr2x⟩ : ∃ r, chkF M x t = r := ⟨_, rfl⟩
      simp only [hr1x, hr2x] at CUa CUb
      clear hr1x hr2x
      have k0 : (0 : Int) ≤ (k : Int) := by omega
      have k1 : (k : Int) < (n0 : Int) := by omega
      have k2 : ((k : Nat) : Int).toNat = k := by omega
      go_wp2_with (first | (refine wpList_loadHd (.tmp 50) rfl b1 (o1 + k * 34) rfl x (range_below hbel hbx hg1) (by rfl) ?_) | (go_at_call 21; refine CUa.mono ?_; rintro e w4 ⟨rfl, sa4, hg4⟩; have hbel4 := hbel.grown hg4 hbel.size (fun j hj => by cases hj; exact HNE.out.2.2.2.2.1); have sb4 := sb.grown hg4 HNE.out.2.2.1 HNE.out.2.2.2.1; clear CUa) | (refine wpList_loadHd (.tmp 57) rfl b1 (o1 + k * 34) rfl x (range_below hbel4 hbx hg1) (by rfl) ?_) | (go_at_call 21; refine (CUb w4 sb4 hbel4).mono ?_; rintro e w5 ⟨rfl, sb5, hg5⟩))
      have hbel5 := hbel4.grown hg5 hbel4.size (fun j hj => by cases hj; exact HNE.out.2.2.2.2.2)
      have sa5 := sa4.grown hg5 HNE.out.1 HNE.out.2.1
      go_roundw
      case rel => exact ⟨k + 1, by omega, by go_num, by rw [HTK.out]; exact sa5, by rw [HTK.out]; exact sb5, hbel5⟩
      case measure => (simp [intOf]) <;> omega
    · obtain rfl : k = n0 := by omega
      have e1 : decide ((k : Int) < (k : Int)) = false := decide_eq_false (by omega)
      have e1n : decide (k < k) = false := decide_eq_false hlt
      rw [List.take_of_length_le (by rw [HN0.out]; exact Nat.le_refl _)] at sa sb
      obtain ⟨M, hM⟩ : ∃ M, updAll t l = M := ⟨_, rfl⟩
      rw [hM] at sa sb
      clear hM
      have CC := clCopy_any ga ba k M wr sa
      go_upto_region 18 with (first | (go_at_call 25; refine CC.mono ?_; rintro e w6 ⟨gc, bc, rfl, sc6, hgc6, hbc6, hb6⟩; have sa6 := sa.kept hb6; have sb6 := sb.kept hb6; have hbel6 := hbel.trans (hb6.mono hbel.size); have CST := clStates_any ga ba k M w6 sa6 (by omega); clear CC) | (go_at_call 28; refine CST.mono ?_; rintro e w7 ⟨v7, rfl, hown7, hb7⟩; obtain ⟨a7, c7, rfl, hr7, hc7, hm7, _⟩ := own_sliceN hown7))
      have hbel7 := hbel6.trans (hb7.mono hbel6.size)
      have sa7 := sa6.kept hb7
      have sb7 := sb6.kept hb7
      have sc7 := sc6.kept hb7
      have hLTa := sa.lt
      have hLTb := sb.lt
      have hs6 := hb6.size
      have HLc := sc6.lt
      have HN2' : Hid (gc ≠ bb ∧ bc ≠ bb ∧ gb ≠ bc ∧ bb ≠ bc ∧ ga ≠ bc ∧ ba ≠ bc ∧ w.heap.size ≤ bc) := Lib.hid (by have := hbel.size; omega)
      have HOB : Hid (∀ j, (Value.slice a7 M.length c7).ownBlock = some j → j ≠ bb ∧ j ≠ bc) := Lib.hid (fun j hj => by have := (hown7.lt j hj).1; omega)
      have hMl : M.length ≤ k := sa.2.2.1
      clear hLTa hLTb hs6 HLc sa6 sb6 sc6 sa sb hr7 hc7 hm7
      go_loopw [12] (fun i wr => ∃ j : Nat, j ≤ n1 ∧ i = .int .i64 j ∧ ClAt wr ga ba k M ∧ ClAt wr gb bb (k + j) (updFrom t M (m.take j)) ∧ ClAt wr gc bc (k + j) (updFrom t M (m.take j)) ∧ wr.ownsRow w6.heap.size 43 34 (.slice a7 M.length c7) M.length (M.flatMap Hd.L) ∧ Below w.heap.size w wr) (fun i _ => n1 - (intOf i).toNat)
      case atStart => exact ⟨0, Nat.zero_le _, rfl, sa7, sb7, sc7, hown7, hbel7⟩
      case round =>
        obtain ⟨j, hj, rfl, sa, sb, sc, hown, hbe⟩ := hrel
        by_cases hlj : j < n1
        · have e1 : decide ((j : Int) < (n1 : Int)) = true := decide_eq_true (by omega)
          have e1n : decide (j < n1) = true := decide_eq_true hlj
          have hkl : j < m.length := by rw [HN1.out]; exact hlj
          obtain ⟨b1, o1, rfl, hbx, hg1⟩ := hds_at hr1 hkl
          have hwx := HQ1.out m[j] (List.getElem_mem hkl)
          have HTK := Lib.hid (updFrom_take (told := t) (M := M) hkl)
          obtain ⟨x, hx9⟩ : ∃ x, m[j] = x := ⟨_, rfl⟩
          rw [hx9] at hg1 hwx HTK
          clear hx9
          obtain ⟨N, hN⟩ : ∃ N, updFrom t M (m.take j) = N := ⟨_, rfl⟩
          rw [hN] at sb sc HTK
          clear hN
          have CUb := clUpd_any gb bb (k + j) N x hwx a2 n2 c2 t wr sb (by unfold maxLen; omega) (hr2.below hbe) HN2.out (by omega) HQ2.out
          have CUc := fun W (hs : ClAt W gc bc (k + j) N) (hb : Below w.heap.size w W) => clUpd_any gc bc (k + j) N x hwx a2 n2 c2 t W hs (by unfold maxLen; omega) (hr2.below hb) HN2.out (by omega) HQ2.out
          obtain ⟨r1, hr1x⟩ : ∃ r, updB N x t = r := ⟨_, rfl⟩
          obtain ⟨r2, hr2x⟩ : ∃ r, chkF N x t = r := ⟨_, rfl⟩
          simp only [hr1x, hr2x] at CUb CUc
          clear hr1x hr2x
          have q1 : (r1 != r1) = false := by simp
          have q2 : (r2 != r2) = false := by simp
          have k0 : (0 : Int) ≤ (j : Int) := by omega
          have k1 : (j : Int) < (n1 : Int) := by omega
          have k2 : ((j : Nat) : Int).toNat = j := by omega
          go_wp2_with (first | (refine wpList_loadHd (.tmp 77) rfl b1 (o1 + j * 34) rfl x (range_below hbe hbx hg1) (by rfl) ?_) | (go_at_call 21; refine CUb.mono ?_; rintro e w4 ⟨rfl, sb4, hg4⟩; have hbe4 := hbe.grown hg4 hbe.size (fun q hq => by cases hq; exact HNE.out.2.2.2.2.2); have sc4 := sc.grown hg4 HN2'.out.1 HN2'.out.2.1; clear CUb) | (refine wpList_loadHd (.tmp 87) rfl b1 (o1 + j * 34) rfl x (range_below hbe4 hbx hg1) (by rfl) ?_) | (go_at_call 21; refine (CUc w4 sc4 hbe4).mono ?_; rintro e w5 ⟨rfl, sc5, hg5⟩))
          have hbe5 := hbe4.grown hg5 hbe4.size (fun q hq => by cases hq; exact HN2'.out.2.2.2.2.2.2)
          have sb5 := sb4.grown hg5 HN2'.out.2.2.1 HN2'.out.2.2.2.1
          have sa5 := (sa.grown hg4 HNE.out.1 HNE.out.2.1).grown hg5 HN2'.out.2.2.2.2.1 HN2'.out.2.2.2.2.2.1
          have hown5 := (hown.kept hg4 (.inr (fun e => (HOB.out _ e).1 rfl))).kept hg5 (.inr (fun e => (HOB.out _ e).2 rfl))
          go_roundw
          case rel => exact ⟨j + 1, by omega, by go_num, sa5, by rw [HTK.out]; exact sb5, by rw [HTK.out]; exact sc5, hown5, hbe5⟩
          case measure => (simp [intOf]) <;> omega
        · obtain rfl : j = n1 := by omega
          have e1 : decide ((j : Int) < (j : Int)) = false := decide_eq_false (by omega)
          have e1n : decide (j < j) = false := decide_eq_false hlj
          rw [List.take_of_length_le (by rw [HN1.out]; exact Nat.le_refl _)] at sb sc
          obtain ⟨N, hN⟩ : ∃ N, updFrom t M m = N := ⟨_, rfl⟩
          rw [hN] at sb sc
          clear hN
          have hNl : N.length ≤ k + j := sb.2.2.1
          have CSa := clStates_any ga ba k M wr sa (by omega)
          have CSc := fun W (h : Below wr.heap.size wr W) => clStates_any gc bc (k + j) N W (sc.kept h) (by omega)
          have CSb := fun W (h : Below wr.heap.size wr W) => clStates_any gb bb (k + j) N W (sb.kept h) (by omega)
          have CLc := fun W (h : Below wr.heap.size wr W) => clLast_any gc bc (k + j) N W (sc.kept h)
          have CLb := fun W (h : Below wr.heap.size wr W) => clLast_any gb bb (k + j) N W (sb.kept h)
          obtain ⟨r, hrr⟩ : ∃ r, lastH N = r := ⟨_, rfl⟩
          simp only [hrr] at CLc CLb
          clear hrr
          have hrw := (RowAt.own hown)
          go_wp2_with (first | (go_at_call 28; with_reducible refine CSa.mono ?_; rintro e w8 ⟨v8, rfl, hown8, hb8⟩; obtain ⟨a8, c8, rfl, hr8, _, _, _⟩ := own_sliceN hown8; obtain ⟨a7', c7', hv7, hr7', _⟩ := own_sliceN hown; simp only [Value.slice.injEq, true_and] at hv7; obtain ⟨rfl, rfl⟩ := hv7; have CH := hdsSame_any a8 a7 M.length c8 c7 M w8 hr8 (hr7'.below hb8) rfl (by omega); clear CSa) | (go_at_call 27; with_reducible refine CH.mono ?_; rintro e w9 ⟨rfl, hb9⟩; have hz9 := hb8.trans (hb9.mono hb8.size); clear CH) | (go_at_call 28; with_reducible refine (CSc _ hz9).mono ?_; rintro e w10 ⟨v10, rfl, hown10, hb10⟩; have hz10 := hz9.trans (hb10.mono hz9.size); obtain ⟨a10, c10, rfl, hr10, _, _, _⟩ := own_sliceN hown10) | (go_at_call 28; with_reducible refine (CSb _ hz10).mono ?_; rintro e w11 ⟨v11, rfl, hown11, hb11⟩; have hz11 := hz10.trans (hb11.mono hz10.size); obtain ⟨a11, c11, rfl, hr11, _, _, _⟩ := own_sliceN hown11; have CH := hdsSame_any a10 a11 N.length c10 c11 N w11 (hr10.below hb11) hr11 rfl (by omega)) | (go_at_call 27; with_reducible refine CH.mono ?_; rintro e w12 ⟨rfl, hb12⟩; have hz12 := hz11.trans (hb12.mono hz11.size)) | (go_at_call 26; with_reducible refine (CLc _ hz12).mono ?_; rintro e w13 ⟨rfl, hb13⟩; have hz13 := hz12.trans (hb13.mono hz12.size)) | (go_at_call 26; with_reducible refine (CLb _ hz13).mono ?_; rintro e w14 ⟨rfl, hb14⟩; have hz14 := hz13.trans (hb14.mono hz13.size)))
          go_ret
          exact ⟨by first | rfl | simp, hbe.trans (hz14.mono hbe.size)⟩
end Go.Proofs.Ytbckncopdkmoeaa
