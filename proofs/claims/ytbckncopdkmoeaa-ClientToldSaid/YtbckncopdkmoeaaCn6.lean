/- ClientTold walked. -/
import Derived.Test.YtbckncopdkmoeaaCn4
import Derived.BigRegion
import Derived.RegionTactic
import Derived.BigQuiet
import Derived.Deep.QuietTactic
import Derived.Deep.MidRow
import Derived.Deep.RegionLaw
import Derived.Deep.CutRange
import Derived.LoopTactic
import Derived.BigFrame
import Derived.OwnWalk
import Derived.OneCell
import Derived.Laws.OwnMore
import Derived.Deep.RegionHeld
import Derived.WalkKit
import Derived.ProofKit
import Derived.Handy
import Derived.Below
import Derived.Lib.Hide
import Derived.IntWalk
import Derived.Outline
import Derived.WalkLawsBesides
import Derived.WalkSpells
namespace Go.Proofs.Ytbckncopdkmoeaa
open Go.RowKit
attribute [local go_sem] strV
set_option linter.unusedVariables false
theorem exec_loadHd {o : Oper} {a : Act} {w : World} (x : Operand) (ho : o.op = .load 43 x) (b off : Nat) (hx : a.eval x = .pointer (some ⟨b, off, none⟩)) (h : Hd) (hc : w.rangeAt b off h.L) : (execOp a.eval o).run Try.prog w = .ok (.value (.agg h.row)) w := by
  have h1 := run_loadAt_mid (P := Try.prog) w b off 43 h.L _ hc Try.underlying43 rfl (by rw [h.L_len]; exact Try.infoHd)
  simp [execOp, ho, hx, h1, Result.andThen]
  rfl
theorem range_belowT {w W : World} {b off : Nat} {L : List Value} (hb : Below w.heap.size w W) (hlt : b < w.heap.size) (h : w.rangeAt b off L) : W.rangeAt b off L := fun j v hv => (hb.cell (p := ⟨b, off + j, none⟩) hlt).trans (h j v hv)
theorem hds_take {w : World} {a : Option Addr} {l : List Hd} (h : RowAt w a (l.flatMap Hd.L)) (k : Nat) : RowAt w a ((l.take k).flatMap Hd.L) := by
  have := h.take (k * 34)
  rwa [take_flat Hd.L 34 Hd.L_len] at this
/-- What a told header does, in four cases. -/
theorem told_cases {M : List Hd} (hr : risesH M) (x : Hd) (t : List Hd) :
    (chkF M x t ≠ 0 ∧ updB M x t = false ∧ updM M x t = M) ∨
    (chkF M x t = 0 ∧ knownB M x.ht = false ∧ updB M x t = true ∧ updM M x t = insH M x ∧ x ∈ t ∧ mayHd x = true) ∨
    (chkF M x t = 0 ∧ knownB M x.ht = true ∧ knownV M x.ht = x ∧ updB M x t = false ∧ updM M x t = M ∧ x ∈ t) := by
  by_cases h0 : chkF M x t = 0
  · have hm : mayHd x = true := by
      cases h9 : mayHd x with
      | true => rfl
      | false => unfold chkF at h0; rw [h9] at h0; simp at h0
    have hi : x ∈ t := by
      apply Classical.byContradiction
      intro h9
      unfold chkF at h0
      rw [if_pos hm, if_neg h9] at h0
      omega
    cases hk : knownB M x.ht with
    | false => exact .inr (.inl ⟨h0, rfl, by unfold updB; rw [decide_eq_true h0, hk]; rfl, if_pos h0, hi, hm⟩)
    | true =>
      have hv : knownV M x.ht = x := by
        apply Classical.byContradiction
        intro h9
        unfold chkF at h0
        rw [if_pos hm, if_pos hi, if_pos ⟨hk, h9⟩] at h0
        omega
      obtain ⟨y, hy, hyx⟩ := knownB_iff.1 hk
      have : y = x := by rw [← hv, ← hyx, knownV_of hr hy]
      subst this
      exact .inr (.inr ⟨h0, rfl, hv, by unfold updB; rw [decide_eq_true h0, hk]; rfl, by unfold updM; rw [if_pos h0, insH_had hr hy], hi⟩)
  · exact .inl ⟨h0, by unfold updB; rw [decide_eq_false h0]; rfl, if_neg h0⟩
set_option maxRecDepth 100000 in
set_option maxHeartbeats 12800000 in
theorem walkClientTold (a0 : Option Addr) (n0 c0 : Nat) (l : List Hd) (a1 : Option Addr) (n1 c1 : Nat) (t : List Hd) (a2 : Option Addr) (n2 c2 : Nat) (zs : List Int) (w : World)
    (hr0 : RowAt w a0 (l.flatMap Hd.L)) (hn0 : l.length = n0) (hc0 : n0 ≤ c0) (hm0 : c0 ≤ maxLen) (hq0 : ∀ p ∈ l, p.wf)
    (hr1 : RowAt w a1 (t.flatMap Hd.L)) (hn1 : t.length = n1) (hc1 : n1 ≤ c1) (hm1 : c1 ≤ maxLen) (hq1 : ∀ p ∈ t, p.wf) (hz : IntsAt w a2 n2 zs) :
    Calls Try.prog 5 #[.slice a0 n0 c0, .slice a1 n1 c1, .slice a2 n2 c2] w fun e w' => e = .returned (.bool true) ∧ Below w.heap.size w w' := by
  have hr2 := hz.row
  have hn2 := hz.length
  have HN0 := Lib.hid hn0; have HN1 := Lib.hid hn1; have HN2 := Lib.hid hn2
  have HQ0 := Lib.hid hq0; have HQ1 := Lib.hid hq1
  unfold maxLen at hm1
  clear hn0 hn1 hn2 hq0 hq1 hc0 hm0 hz
  have C1 := fun W => first14_any W
  by_cases h0 : n0 ≤ 30
  rotate_left
  · have d0 : decide ((n0 : Int) > 30) = true := decide_eq_true (by omega)
    have d0g : decide (30 < (n0 : Int)) = true := decide_eq_true (by omega)
    have d0n : decide (30 < n0) = true := decide_eq_true (by omega)
    clear h0
    go_enter Try.func5, Try.ntmps5
    go_wp2_with (first | (go_at_call 17; with_reducible refine (C1 w).mono ?_; rintro e w1 ⟨rfl, hb1⟩) | (go_at_call 17; with_reducible refine (C1 w1).mono ?_; rintro e w2 ⟨rfl, hb2⟩))
    go_ret
    exact ⟨by first | rfl | simp, hb1.trans (hb2.mono hb1.size)⟩
  have d0 : decide ((n0 : Int) > 30) = false := decide_eq_false (by omega)
  have d0g : decide (30 < (n0 : Int)) = false := decide_eq_false (by omega)
  have d0n : decide (30 < n0) = false := decide_eq_false (by omega)
  by_cases h1 : n1 ≤ 30
  rotate_left
  · have d1 : decide ((n1 : Int) > 30) = true := decide_eq_true (by omega)
    have d1g : decide (30 < (n1 : Int)) = true := decide_eq_true (by omega)
    have d1n : decide (30 < n1) = true := decide_eq_true (by omega)
    clear h1
    go_enter Try.func5, Try.ntmps5
    go_wp2_with (first | (go_at_call 17; with_reducible refine (C1 w).mono ?_; rintro e w1 ⟨rfl, hb1⟩) | (go_at_call 17; with_reducible refine (C1 w1).mono ?_; rintro e w2 ⟨rfl, hb2⟩))
    go_ret
    exact ⟨by first | rfl | simp, hb1.trans (hb2.mono hb1.size)⟩
  have d1 : decide ((n1 : Int) > 30) = false := decide_eq_false (by omega)
  have d1g : decide (30 < (n1 : Int)) = false := decide_eq_false (by omega)
  have d1n : decide (30 < n1) = false := decide_eq_false (by omega)
  by_cases h2 : n2 ≤ 30
  rotate_left
  · have d2 : decide ((n2 : Int) > 30) = true := decide_eq_true (by omega)
    have d2g : decide (30 < (n2 : Int)) = true := decide_eq_true (by omega)
    have d2n : decide (30 < n2) = true := decide_eq_true (by omega)
    clear h2
    go_enter Try.func5, Try.ntmps5
    go_wp2_with (first | (go_at_call 17; with_reducible refine (C1 w).mono ?_; rintro e w1 ⟨rfl, hb1⟩) | (go_at_call 17; with_reducible refine (C1 w1).mono ?_; rintro e w2 ⟨rfl, hb2⟩))
    go_ret
    exact ⟨by first | rfl | simp, hb1.trans (hb2.mono hb1.size)⟩
  have d2 : decide ((n2 : Int) > 30) = false := decide_eq_false (by omega)
  have d2g : decide (30 < (n2 : Int)) = false := decide_eq_false (by omega)
  have d2n : decide (30 < n2) = false := decide_eq_false (by omega)
  go_enter Try.func5, Try.ntmps5
  go_upto_region 9 with (first | (go_at_call 17; refine (C1 w).mono ?_; rintro e w1 ⟨rfl, hb1⟩; have CN := clNew_any w1) | (go_at_call 18; refine CN.mono ?_; rintro e w2 ⟨rfl, ca2, hb2⟩))
  have z2 : Below w.heap.size w w2 := hb1.trans (hb2.mono hb1.size)
  have hbs := hb1.size
  obtain ⟨g, hg⟩ : ∃ g, w1.heap.size + 1 = g := ⟨_, rfl⟩
  obtain ⟨b, hb⟩ : ∃ g, w1.heap.size = g := ⟨_, rfl⟩
  simp only [hg] at ca2 ⊢
  simp only [hb] at ca2 hbs
  have HWB := Lib.hid hbs
  clear hg hb hbs
  go_loopw [8] (fun i wr => ∃ k : Nat, k ≤ n0 ∧ i = .int .i64 k ∧ (∃ M, ClAt wr g b k M) ∧ Below w.heap.size w wr) (fun i _ => n0 - (intOf i).toNat)
  case atStart => exact ⟨0, Nat.zero_le _, rfl, ⟨_, ca2⟩, z2⟩
  case round =>
    obtain ⟨i, hi, rfl, ⟨M, sa⟩, hbel⟩ := hrel
    by_cases hlt : i < n0
    · have e1 : decide ((i : Int) < (n0 : Int)) = true := decide_eq_true (by omega)
      have e1n : decide (i < n0) = true := decide_eq_true hlt
      have hkl : i < l.length := by rw [HN0.out]; exact hlt
      obtain ⟨b1, o1, rfl, hbx, hg1⟩ := hds_at hr0 hkl
      have hwx := HQ0.out l[i] (List.getElem_mem hkl)
      obtain ⟨x, hx9⟩ : ∃ x, l[i] = x := ⟨_, rfl⟩
      rw [hx9] at hg1 hwx
      clear hx9
      have i0 : (0 : Int) ≤ (i : Int) := by omega
      have i1 : (i : Int) < (n0 : Int) := by omega
      have i2 : ((i : Nat) : Int).toNat = i := by omega
      go_upto_region 12 with fail
      go_cut [56] from 46 to 56 (fun v wx => (∃ q, v = .bool q ∧ (q = true → i < n2 ∧ ∃ z, zs[i]? = some z ∧ 0 < z)) ∧ wx = wr)
      case first =>
        by_cases hin : i < n2
        · have f1 : decide ((i : Int) < (n2 : Int)) = true := decide_eq_true (by omega)
          have f1n : decide (i < n2) = true := decide_eq_true hin
          have hzl : i < zs.length := by rw [HN2.out]; exact hin
          obtain ⟨b2, o2, rfl, hby, hcy⟩ := row_get (hr2.below hbel) hzl
          have HZ := Lib.hid (List.getElem?_eq_getElem hzl)
          obtain ⟨z, hz9⟩ : ∃ z, zs[i] = z := ⟨_, rfl⟩
          rw [hz9] at hcy HZ
          clear hz9
          have i3 : (i : Int) < (n2 : Int) := by omega
          by_cases hz0 : 0 < z
          · have f2 : decide (z > 0) = true := decide_eq_true (by omega)
            have f2g : decide (0 < z) = true := decide_eq_true (by omega)
            go_wp2
            go_meet
            exact ⟨⟨true, rfl, fun _ => ⟨hin, z, HZ.out, hz0⟩⟩, rfl⟩
          · have f2 : decide (z > 0) = false := decide_eq_false (by omega)
            have f2g : decide (0 < z) = false := decide_eq_false (by omega)
            go_wp2
            go_meet
            exact ⟨⟨false, rfl, fun h => by cases h⟩, rfl⟩
        · have f1 : decide ((i : Int) < (n2 : Int)) = false := decide_eq_false (by omega)
          have f1n : decide (i < n2) = false := decide_eq_false hin
          go_wp2
          go_meet
          exact ⟨⟨false, rfl, fun h => by cases h⟩, rfl⟩
      case rest =>
        obtain ⟨⟨q, rfl, HQ⟩, hwc⟩ := hcut
        obtain rfl : _ = wc := hwc.symm
        go_upto_if 56 with fail
        go_cut [9] from 57 to 63 (fun v wx => (∃ k : Nat, k ≤ n1 ∧ v = .int .i64 k) ∧ wx = wr)
        case first =>
          cases q
          · go_wp2
            go_meet
            exact ⟨⟨0, Nat.zero_le _, rfl⟩, rfl⟩
          · obtain ⟨hin, z, hz, hz0⟩ := HQ rfl
            obtain ⟨b2, o2, rfl, hby, hcy⟩ := row_get (hr2.below hbel) (List.getElem?_eq_some_iff.1 hz).1
            rw [(List.getElem?_eq_some_iff.1 hz).2] at hcy
            have i3 : (i : Int) < (n2 : Int) := by omega
            clear hz HQ
            go_wp2
            go_meet
            exact ⟨⟨(min z (n1 : Int)).toNat, by omega, by first | (rw [show (((min z (n1 : Int)).toNat : Nat) : Int) = min z (n1 : Int) by omega]; try rfl) | (trace_state; sorry)⟩, rfl⟩
        case rest =>
        clear HQ
        obtain ⟨⟨k, hk, rfl⟩, hwc⟩ := hcut
        obtain rfl : _ = wc := hwc.symm
        have CS := clState_any g b i M x.ht wr sa hwx.1
        have CT := fun W (h : Below wr.heap.size wr W) => clStates_any g b i M W (sa.kept h) (by omega)
        have TC := told_cases sa.1 x (t.take k)
        have HRS := Lib.hid sa.1
        obtain ⟨kb, hkb⟩ : ∃ q, knownB M x.ht = q := ⟨_, rfl⟩
        obtain ⟨kv, hkv⟩ : ∃ q, knownV M x.ht = q := ⟨_, rfl⟩
        obtain ⟨ub, hub⟩ : ∃ q, updB M x (t.take k) = q := ⟨_, rfl⟩
        obtain ⟨ck, hck⟩ : ∃ q, chkF M x (t.take k) = q := ⟨_, rfl⟩
        obtain ⟨M2, hM2⟩ : ∃ q, updM M x (t.take k) = q := ⟨_, rfl⟩
        have CU0 := fun W (h : Below wr.heap.size wr W) (hb : Below w.heap.size w W) => clUpd_any g b i M x hwx a1 k c1 (t.take k) W (sa.kept h) (by unfold maxLen; omega) (hds_take (hr1.below hb) k) (by rw [List.length_take, HN1.out]; omega) (by omega) (fun p hp => HQ1.out p (List.mem_of_mem_take hp))
        simp only [hkb, hkv] at CS
        simp only [hub, hck, hM2] at CU0
        rw [hkb, hkv, hub, hck, hM2] at TC
        have HTC := Lib.hid TC
        have HKB := Lib.hid hkb
        have HKV := Lib.hid hkv
        clear hkb hkv hub hck hM2 TC
        obtain ⟨ml, hml⟩ : ∃ n, M.length = n := ⟨_, rfl⟩
        simp only [hml] at CT
        have HML := Lib.hid hml
        have hml30 : ml ≤ i := by rw [← hml]; exact sa.2.2.1
        clear hml
        have kk0 : (0 : Int) ≤ (k : Int) := by omega
        have kk1 : (k : Int) ≤ (c1 : Int) := by omega
        have kk2 : ((k : Nat) : Int).toNat = k := by omega
        have kk3 : (k : Int) ≤ (n1 : Int) := by omega
        have hcx : wr.cell? ⟨b1, o1 + i * 34, none⟩ = some (.int .i64 x.ht) := range_belowT hbel hbx hg1 0 _ rfl
        go_wp2_with (first | (go_at_call 23; refine CS.mono ?_; rintro e w3 ⟨rfl, hb3⟩; have hA3 := heap_push w3 zeroHd.row 43; have hz3 := setRow_heap _ _ zeroHd.row kv.row _ _ hA3; have hbw3 : Below w3.heap.size w3 ((w3.alloc (.cells zeroHd.row 43)).setRow w3.heap.size kv.row) := below_setRow ((Below.refl _ _).alloc (Nat.le_refl _) _) (Nat.le_refl _) _; have hbx3 := hb3.trans (hbw3.mono hb3.size)) | (refine wpList_storeRowTo rfl (.tmp 10) (.tmp 72) 43 rfl (infoHd_row _) rfl rfl hA3 (by rw [Hd.row_size, Hd.row_size]) (Hd.row_one _) ?_) | (go_at_call 28; refine (CT _ hbx3).mono ?_; rintro e W5 ⟨v5, rfl, hown5, hb5⟩; have hz5 := cells_of hz3 hb5 (row_lt hz3); obtain ⟨a5, c5, rfl, _⟩ := own_sliceN hown5))
        have hbr5 : Below wr.heap.size wr W5 := hbx3.trans (hb5.mono hbx3.size)
        have hbel5 : Below w.heap.size w W5 := hbel.trans (hbr5.mono hbel.size)
        have hp3 : wr.heap.size ≤ w3.heap.size := hb3.size
        have CU := CU0 W5.drew hbr5.drew hbel5.drew
        clear CS CT CU0 hA3 hz3 hbw3 hb3 hbx3 hown5 hcx
        refine wp_region_any (by kernel_rfl) ?_
        change wpAny _ _ _ _ _ _ _ (World.drew _)
        refine wpAny_take (i := 0) (v := .pointer (some ⟨g, 0, none⟩)) rfl (by kernel_rfl) (by kernel_rfl) (by kernel_rfl) (fun _ _ _ h => h) (Or.inl ⟨by rfl, fun w9 => by (go_simp; try with_reducible rfl)⟩) ?_
        change wpAny _ _ _ _ _ _ (Act.put _ (some 78) _) _; dsimp only [Act.put]; simp only [List.setIfInBounds_toArray, List.set_cons_succ, List.set_cons_zero]
        refine wpAny_take (i := 1) (v := .slice (some ⟨b1, o1, none⟩) n0 c0) rfl (by kernel_rfl) (by kernel_rfl) (by kernel_rfl) (fun _ _ _ h => h) (Or.inl ⟨by rfl, fun w9 => by (go_simp; try with_reducible rfl)⟩) ?_
        change wpAny _ _ _ _ _ _ (Act.put _ (some 79) _) _; dsimp only [Act.put]; simp only [List.setIfInBounds_toArray, List.set_cons_succ, List.set_cons_zero]
        refine wpAny_take (i := 2) (v := .int .i64 (i : Int)) rfl (by kernel_rfl) (by kernel_rfl) (by kernel_rfl) (fun _ _ _ h => h) (Or.inl ⟨by rfl, fun w9 => by (go_simp; try with_reducible rfl)⟩) ?_
        change wpAny _ _ _ _ _ _ (Act.put _ (some 80) _) _; dsimp only [Act.put]; simp only [List.setIfInBounds_toArray, List.set_cons_succ, List.set_cons_zero]
        refine wpAny_take (i := 3) (v := .pointer (some ⟨b1, o1 + i * 34, none⟩)) rfl (by kernel_rfl) (by kernel_rfl) (by kernel_rfl) (fun _ _ _ h => h) (Or.inl ⟨by rfl, fun w9 => by (go_simp; try with_reducible rfl)⟩) ?_
        change wpAny _ _ _ _ _ _ (Act.put _ (some 81) _) _; dsimp only [Act.put]; simp only [List.setIfInBounds_toArray, List.set_cons_succ, List.set_cons_zero]
        refine wpAny_take (i := 5) (v := .slice a1 n1 c1) rfl (by kernel_rfl) (by kernel_rfl) (by kernel_rfl) (fun _ _ _ h => h) (Or.inl ⟨by rfl, fun w9 => by (go_simp; try with_reducible rfl)⟩) ?_
        change wpAny _ _ _ _ _ _ (Act.put _ (some 83) _) _; dsimp only [Act.put]; simp only [List.setIfInBounds_toArray, List.set_cons_succ, List.set_cons_zero]
        refine wpAny_take (i := 6) (v := .int .i64 (k : Int)) rfl (by kernel_rfl) (by kernel_rfl) (by kernel_rfl) (fun _ _ _ h => h) (Or.inl ⟨by rfl, fun w9 => by (go_simp; try with_reducible rfl)⟩) ?_
        change wpAny _ _ _ _ _ _ (Act.put _ (some 84) _) _; dsimp only [Act.put]; simp only [List.setIfInBounds_toArray, List.set_cons_succ, List.set_cons_zero]
        refine wpAny_take (i := 7) (v := .slice a1 k c1) rfl (by kernel_rfl) (by kernel_rfl) (by kernel_rfl) (fun _ _ _ h => h) (Or.inl ⟨by rfl, fun w9 => by (go_simp; try with_reducible rfl)⟩) ?_
        change wpAny _ _ _ _ _ _ (Act.put _ (some 85) _) _; dsimp only [Act.put]; simp only [List.setIfInBounds_toArray, List.set_cons_succ, List.set_cons_zero]
        refine wpAny_ready (rs := [4]) (by kernel_rfl) (by simp) ?_
        refine (AllReady.cons rfl (fun K hK => ?_) AllReady.nil)
        refine step_loadHd (.tmp 81) rfl (by rfl) b1 (o1 + i * 34) (by first | rfl | simp [Act.eval, Act.put]) x (show W5.drew.rangeAt _ _ _ from range_belowT hbel5.drew hbx hg1) ?_
        refine hK _ _ ?_
        clear hK K
        change wpAny _ _ _ _ _ _ (Act.put _ (some 82) _) _; dsimp only [Act.put]; simp only [List.setIfInBounds_toArray, List.set_cons_succ, List.set_cons_zero]
        refine wpAny_ready (rs := [8]) (by kernel_rfl) (by simp) ?_
        refine (AllReady.cons rfl (fun K hK => ?_) AllReady.nil)
        go_simp
        refine CU.mono ?_
        rintro e w6 ⟨rfl, sa6, hg6⟩
        refine hK _ _ ?_
        clear hK K
        refine wpAny_take (i := 9) (v := .tuple #[.bool ub, .int .i64 ck]) rfl (by kernel_rfl) (by kernel_rfl) (by kernel_rfl) (fun _ _ _ h => h) (Or.inl ⟨by rfl, fun w9 => by (go_simp; try with_reducible rfl)⟩) ?_
        change wpAny _ _ _ _ _ _ (Act.put _ (some 77) _) _; dsimp only [Act.put]; simp only [List.setIfInBounds_toArray, List.set_cons_succ, List.set_cons_zero]
        refine wpAny_take (i := 10) (v := .bool ub) rfl (by kernel_rfl) (by kernel_rfl) (by kernel_rfl) (fun _ _ _ h => h) (Or.inl ⟨by rfl, fun w9 => by (go_simp; try with_reducible rfl)⟩) ?_
        change wpAny _ _ _ _ _ _ (Act.put _ (some 87) _) _; dsimp only [Act.put]; simp only [List.setIfInBounds_toArray, List.set_cons_succ, List.set_cons_zero]
        refine wpAny_take (i := 11) (v := .int .i64 ck) rfl (by kernel_rfl) (by kernel_rfl) (by kernel_rfl) (fun _ _ _ h => h) (Or.inl ⟨by rfl, fun w9 => by (go_simp; try with_reducible rfl)⟩) ?_
        change wpAny _ _ _ _ _ _ (Act.put _ (some 88) _) _; dsimp only [Act.put]; simp only [List.setIfInBounds_toArray, List.set_cons_succ, List.set_cons_zero]
        refine wpAny_take (i := 12) (v := .bool ub) rfl (by kernel_rfl) (by kernel_rfl) (by kernel_rfl) (fun _ _ _ h => h) (Or.inl ⟨by rfl, fun w9 => by (go_simp; try with_reducible rfl)⟩) ?_
        change wpAny _ _ _ _ _ _ (Act.put _ (some 13) _) _; dsimp only [Act.put]; simp only [List.setIfInBounds_toArray, List.set_cons_succ, List.set_cons_zero]
        refine wpAny_take (i := 13) (v := .int .i64 ck) rfl (by kernel_rfl) (by kernel_rfl) (by kernel_rfl) (fun _ _ _ h => h) (Or.inl ⟨by rfl, fun w9 => by (go_simp; try with_reducible rfl)⟩) ?_
        change wpAny _ _ _ _ _ _ (Act.put _ (some 14) _) _; dsimp only [Act.put]; simp only [List.setIfInBounds_toArray, List.set_cons_succ, List.set_cons_zero]
        refine wpAny_done (by kernel_rfl) ?_ _
        have hbl := sa.lt
        have hq6 := grown_at hg6 (show W5.drew.heap[w3.heap.size]? = _ from hz5) (by simp; omega)
        have hbel6 : Below w.heap.size w w6 := hbel5.drew.grown hg6 hbel5.size (fun j hj => by cases hj; exact HWB.out)
        have CS6 := clState_any g b (i + 1) M2 x.ht w6 sa6 hwx.1
        obtain ⟨kb2, hkb2⟩ : ∃ q, knownB M2 x.ht = q := ⟨_, rfl⟩
        obtain ⟨kv2, hkv2⟩ : ∃ q, knownV M2 x.ht = q := ⟨_, rfl⟩
        simp only [hkb2, hkv2] at CS6
        have HKB2 := Lib.hid hkb2
        have HKV2 := Lib.hid hkv2
        clear hkb2 hkv2 CU hz5 hbr5 hp3 hbl hg6
        have hcx6 : w6.cell? ⟨b1, o1 + i * 34, none⟩ = some (.int .i64 x.ht) := range_belowT hbel6 hbx hg1 0 _ rfl
        go_wp2_with (first | (go_at_call 23; refine CS6.mono ?_; rintro e w7 ⟨rfl, hb7⟩; have hA7 := heap_push w7 zeroHd.row 43; have hz7 := setRow_heap _ _ zeroHd.row kv2.row _ _ hA7; have hbw7 : Below w7.heap.size w7 ((w7.alloc (.cells zeroHd.row 43)).setRow w7.heap.size kv2.row) := below_setRow ((Below.refl _ _).alloc (Nat.le_refl _) _) (Nat.le_refl _) _; have hbx7 := hb7.trans (hbw7.mono hb7.size)) | (refine wpList_storeRowTo rfl (.tmp 15) (.tmp 97) 43 rfl (infoHd_row _) rfl rfl hA7 (by rw [Hd.row_size, Hd.row_size]) (Hd.row_one _) ?_))
        refine wp_nameE _ (fun W8 hW8 => ?_)
        have hb8 : Below w6.heap.size w6 W8 := by rw [hW8]; exact hbx7
        have hz8 : W8.heap[w7.heap.size]? = some (.cells kv2.row 43 (0, 0)) := by rw [hW8]; exact hz7
        have hq8 := cells_of hq6 hb8 (row_lt hq6)
        have sa8 := sa6.kept hb8
        have hbel8 : Below w.heap.size w W8 := hbel6.trans (hb8.mono hbel6.size)
        clear hW8 hA7 hz7 hbw7 hbx7 CS6 hb7 hcx6 hq6 sa6 hb8
        go_loopw [17, 18] (fun v j wr => ∃ q : Nat, q ≤ k ∧ j = .int .i64 q ∧ v = .bool (decide (x ∈ t.take q)) ∧ Below W8.heap.size W8 wr) (fun _ j _ => k - (intOf j).toNat)
        case atStart => exact ⟨0, Nat.zero_le _, rfl, by simp, Below.refl _ _⟩
        case round =>
          obtain ⟨q, hq, rfl, rfl, hbe⟩ := hrel
          by_cases hqt : q < k
          · have e3 : decide ((q : Int) < (k : Int)) = true := decide_eq_true (by omega)
            have e3n : decide (q < k) = true := decide_eq_true hqt
            have hql : q < t.length := by rw [HN1.out]; omega
            obtain ⟨b3, o3, rfl, hb3x, hg3⟩ := hds_at hr1 hql
            have HST0 := Lib.hid (show decide (x ∈ t.take (q + 1)) = (decide (x ∈ t.take q) || decide (t[q] = x)) by
              rw [List.take_succ_eq_append_getElem hql, Bool.eq_iff_iff]; simp only [List.mem_append, List.mem_singleton, Bool.or_eq_true, decide_eq_true_eq]; exact ⟨fun h => h.imp id Eq.symm, fun h => h.imp id Eq.symm⟩)
            obtain ⟨y, hy9⟩ : ∃ y, t[q] = y := ⟨_, rfl⟩
            rw [hy9] at hg3 HST0
            clear hy9
            have hbeW : Below w.heap.size w wr := hbel8.trans (hbe.mono hbel8.size)
            obtain ⟨inq, hinq⟩ : ∃ r, decide (x ∈ t.take q) = r := ⟨_, rfl⟩
            rw [hinq] at HST0
            simp only [hinq]
            clear hinq
            have q0 : (0 : Int) ≤ (q : Int) := by omega
            have q1 : (q : Int) < (n1 : Int) := by omega
            have q2 : ((q : Nat) : Int).toNat = q := by omega
            cases inq
            rotate_left
            · go_upto_region 22 with fail
              go_quiet (fail)
              go_wp2
              go_roundw
              case rel => exact ⟨q + 1, by omega, by go_num, by rw [HST0.out]; rfl, hbe.trans ((drewN_below _ _).mono hbe.size)⟩
              case measure => (simp [intOf]) <;> omega
            · have hne := fun W => run_equal_hd y x W
              obtain ⟨r, hrr⟩ : ∃ r, decide (y = x) = r := ⟨_, rfl⟩
              rw [hrr] at HST0
              simp only [hrr] at hne
              have HST := Lib.hid (show decide (x ∈ t.take (q + 1)) = r by rw [HST0.out]; rfl)
              clear hrr HST0
              go_upto_region 22 with fail
              refine wp_region_any (by kernel_rfl) ?_
              change wpAny _ _ _ _ _ _ _ (World.drew _)
              refine wpAny_take (i := 0) (v := .bool false) rfl (by kernel_rfl) (by kernel_rfl) (by kernel_rfl) (fun _ _ _ h => h) (Or.inl ⟨by rfl, fun w9 => by (go_simp; try with_reducible rfl)⟩) ?_
              change wpAny _ _ _ _ _ _ (Act.put _ (some 104) _) _; dsimp only [Act.put]; simp only [List.setIfInBounds_toArray, List.set_cons_succ, List.set_cons_zero]
              refine wpAny_take (i := 1) (v := .bool false) rfl (by kernel_rfl) (by kernel_rfl) (by kernel_rfl) (fun _ _ _ h => h) (Or.inl ⟨by rfl, fun w9 => by (go_simp; try with_reducible rfl)⟩) ?_
              change wpAny _ _ _ _ _ _ (Act.put _ (some 105) _) _; dsimp only [Act.put]; simp only [List.setIfInBounds_toArray, List.set_cons_succ, List.set_cons_zero]
              refine wpAny_take (i := 2) (v := .slice (some ⟨b3, o3, none⟩) n1 c1) rfl (by kernel_rfl) (by kernel_rfl) (by kernel_rfl) (fun _ _ _ h => h) (Or.inl ⟨by rfl, fun w9 => by (go_simp; try with_reducible rfl)⟩) ?_
              change wpAny _ _ _ _ _ _ (Act.put _ (some 106) _) _; dsimp only [Act.put]; simp only [List.setIfInBounds_toArray, List.set_cons_succ, List.set_cons_zero]
              refine wpAny_take (i := 3) (v := .int .i64 (q : Int)) rfl (by kernel_rfl) (by kernel_rfl) (by kernel_rfl) (fun _ _ _ h => h) (Or.inl ⟨by rfl, fun w9 => by (go_simp; try with_reducible rfl)⟩) ?_
              change wpAny _ _ _ _ _ _ (Act.put _ (some 107) _) _; dsimp only [Act.put]; simp only [List.setIfInBounds_toArray, List.set_cons_succ, List.set_cons_zero]
              refine wpAny_take (i := 4) (v := .pointer (some ⟨b3, o3 + q * 34, none⟩)) rfl (by kernel_rfl) (by kernel_rfl) (by kernel_rfl) (fun _ _ _ h => h) (Or.inl ⟨by rfl, fun w9 => by (go_simp; try with_reducible rfl)⟩) ?_
              change wpAny _ _ _ _ _ _ (Act.put _ (some 108) _) _; dsimp only [Act.put]; simp only [List.setIfInBounds_toArray, List.set_cons_succ, List.set_cons_zero]
              refine wpAny_take (i := 6) (v := .slice (some ⟨b1, o1, none⟩) n0 c0) rfl (by kernel_rfl) (by kernel_rfl) (by kernel_rfl) (fun _ _ _ h => h) (Or.inl ⟨by rfl, fun w9 => by (go_simp; try with_reducible rfl)⟩) ?_
              change wpAny _ _ _ _ _ _ (Act.put _ (some 110) _) _; dsimp only [Act.put]; simp only [List.setIfInBounds_toArray, List.set_cons_succ, List.set_cons_zero]
              refine wpAny_take (i := 7) (v := .int .i64 (i : Int)) rfl (by kernel_rfl) (by kernel_rfl) (by kernel_rfl) (fun _ _ _ h => h) (Or.inl ⟨by rfl, fun w9 => by (go_simp; try with_reducible rfl)⟩) ?_
              change wpAny _ _ _ _ _ _ (Act.put _ (some 111) _) _; dsimp only [Act.put]; simp only [List.setIfInBounds_toArray, List.set_cons_succ, List.set_cons_zero]
              refine wpAny_take (i := 8) (v := .pointer (some ⟨b1, o1 + i * 34, none⟩)) rfl (by kernel_rfl) (by kernel_rfl) (by kernel_rfl) (fun _ _ _ h => h) (Or.inl ⟨by rfl, fun w9 => by (go_simp; try with_reducible rfl)⟩) ?_
              change wpAny _ _ _ _ _ _ (Act.put _ (some 112) _) _; dsimp only [Act.put]; simp only [List.setIfInBounds_toArray, List.set_cons_succ, List.set_cons_zero]
              refine wpAny_ready (rs := [5, 9]) (by kernel_rfl) (by simp) ?_
              refine (AllReady.cons rfl (fun K hK => ?_) (AllReady.cons rfl (fun K hK => ?_) AllReady.nil))
              · refine step_loadHd (.tmp 108) rfl (by rfl) b3 (o3 + q * 34) (by first | rfl | simp [Act.eval, Act.put]) y (show wr.drew.rangeAt _ _ _ from range_belowT hbeW.drew hb3x hg3) ?_
                refine hK _ _ ?_
                clear hK K
                change wpAny _ _ _ _ _ _ (Act.put _ (some 109) _) _; dsimp only [Act.put]; simp only [List.setIfInBounds_toArray, List.set_cons_succ, List.set_cons_zero]
                refine wpAny_ready (rs := [9]) (by kernel_rfl) (by simp) ?_
                refine (AllReady.cons rfl (fun K hK => ?_) AllReady.nil)
                refine step_loadHd (.tmp 112) rfl (by rfl) b1 (o1 + i * 34) (by first | rfl | simp [Act.eval, Act.put]) x (show wr.drew.rangeAt _ _ _ from range_belowT hbeW.drew hbx hg1) ?_
                refine hK _ _ ?_
                clear hK K
                change wpAny _ _ _ _ _ _ (Act.put _ (some 113) _) _; dsimp only [Act.put]; simp only [List.setIfInBounds_toArray, List.set_cons_succ, List.set_cons_zero]
                refine wpAny_ready (rs := [10]) (by kernel_rfl) (by simp) ?_
                refine (AllReady.cons rfl (fun K hK => ?_) AllReady.nil)
                go_simp
                refine hK _ _ ?_
                clear hK K
                refine wpAny_take (i := 11) (v := .bool r) rfl (by kernel_rfl) (by kernel_rfl) (by kernel_rfl) (fun _ _ _ h => h) (Or.inl ⟨by rfl, fun w9 => by (go_simp; try with_reducible rfl)⟩) ?_
                change wpAny _ _ _ _ _ _ (Act.put _ (some 115) _) _; dsimp only [Act.put]; simp only [List.setIfInBounds_toArray, List.set_cons_succ, List.set_cons_zero]
                refine wpAny_take (i := 12) (v := .bool r) rfl (by kernel_rfl) (by kernel_rfl) (by kernel_rfl) (fun _ _ _ h => h) (Or.inl ⟨by rfl, fun w9 => by (go_simp; try with_reducible rfl)⟩) ?_
                change wpAny _ _ _ _ _ _ (Act.put _ (some 17) _) _; dsimp only [Act.put]; simp only [List.setIfInBounds_toArray, List.set_cons_succ, List.set_cons_zero]
                refine wpAny_done (by kernel_rfl) ?_ _
                go_wp2
                go_roundw
                case rel => exact ⟨q + 1, by omega, by go_num, by rw [HST.out], hbe.drew⟩
                case measure => (simp [intOf]) <;> omega
              · refine step_loadHd (.tmp 112) rfl (by rfl) b1 (o1 + i * 34) (by first | rfl | simp [Act.eval, Act.put]) x (show wr.drew.rangeAt _ _ _ from range_belowT hbeW.drew hbx hg1) ?_
                refine hK _ _ ?_
                clear hK K
                change wpAny _ _ _ _ _ _ (Act.put _ (some 113) _) _; dsimp only [Act.put]; simp only [List.setIfInBounds_toArray, List.set_cons_succ, List.set_cons_zero]
                refine wpAny_ready (rs := [5]) (by kernel_rfl) (by simp) ?_
                refine (AllReady.cons rfl (fun K hK => ?_) AllReady.nil)
                refine step_loadHd (.tmp 108) rfl (by rfl) b3 (o3 + q * 34) (by first | rfl | simp [Act.eval, Act.put]) y (show wr.drew.rangeAt _ _ _ from range_belowT hbeW.drew hb3x hg3) ?_
                refine hK _ _ ?_
                clear hK K
                change wpAny _ _ _ _ _ _ (Act.put _ (some 109) _) _; dsimp only [Act.put]; simp only [List.setIfInBounds_toArray, List.set_cons_succ, List.set_cons_zero]
                refine wpAny_ready (rs := [10]) (by kernel_rfl) (by simp) ?_
                refine (AllReady.cons rfl (fun K hK => ?_) AllReady.nil)
                go_simp
                refine hK _ _ ?_
                clear hK K
                refine wpAny_take (i := 11) (v := .bool r) rfl (by kernel_rfl) (by kernel_rfl) (by kernel_rfl) (fun _ _ _ h => h) (Or.inl ⟨by rfl, fun w9 => by (go_simp; try with_reducible rfl)⟩) ?_
                change wpAny _ _ _ _ _ _ (Act.put _ (some 115) _) _; dsimp only [Act.put]; simp only [List.setIfInBounds_toArray, List.set_cons_succ, List.set_cons_zero]
                refine wpAny_take (i := 12) (v := .bool r) rfl (by kernel_rfl) (by kernel_rfl) (by kernel_rfl) (fun _ _ _ h => h) (Or.inl ⟨by rfl, fun w9 => by (go_simp; try with_reducible rfl)⟩) ?_
                change wpAny _ _ _ _ _ _ (Act.put _ (some 17) _) _; dsimp only [Act.put]; simp only [List.setIfInBounds_toArray, List.set_cons_succ, List.set_cons_zero]
                refine wpAny_done (by kernel_rfl) ?_ _
                go_wp2
                go_roundw
                case rel => exact ⟨q + 1, by omega, by go_num, by rw [HST.out], hbe.drew⟩
                case measure => (simp [intOf]) <;> omega
          · obtain rfl : q = k := by omega
            have e3 : decide ((q : Int) < (q : Int)) = false := decide_eq_false (by omega)
            have e3n : decide (q < q) = false := decide_eq_false hqt
            have hqr := cells_of hq8 hbe (row_lt hq8)
            have hzr := cells_of hz8 hbe (row_lt hz8)
            have sar := sa8.kept hbe
            have hbelr : Below w.heap.size w wr := hbel8.trans (hbe.mono hbel8.size)
            have CT2 := fun W (h : Below wr.heap.size wr W) => clStates_any g b (i + 1) M2 W (sar.kept h) (by omega)
            have HSR := Lib.hid sar
            obtain ⟨r, hrr⟩ : ∃ r, decide (x ∈ t.take q) = r := ⟨_, rfl⟩
            simp only [hrr]
            have HIN := Lib.hid hrr
            have hnn := fun W => run_equal_hd kv2 kv W
            have hnx := fun W => run_equal_hd kv2 x W
            have l3 : IntKind.i64.wrap ((ml : Int) + 1) = (ml : Int) + 1 := by rw [IntKind.wrap_i64]; omega
            obtain ⟨mm, hmm⟩ : ∃ n, M2.length = n := ⟨_, rfl⟩
            simp only [hmm] at CT2
            clear hrr sa8 hz8 hq8 sar
            rcases HTC.out with ⟨t1, t2, t3⟩ | ⟨t1, t2, t3, t4, t5, t6⟩ | ⟨t1, t2, t3, t4, t5, t6⟩
            · subst t2 t3
              obtain rfl : kb2 = kb := by rw [← HKB2.out, ← HKB.out]
              obtain rfl : kv2 = kv := by rw [← HKV2.out, ← HKV.out]
              have g1 : (ck == 0) = false := by simpa using t1
              have g2 : (ck != 0) = true := by simpa using t1
              rw [decide_eq_true (rfl : kv2 = kv2)] at hnn
              obtain rfl : mm = ml := by rw [← hmm, HML.out]
              have l0 : ((mm : Int) == (mm : Int) + 1) = false := by rw [beq_eq_false_iff_ne]; omega
              have l1 : ((mm : Int) != (mm : Int)) = false := by simp
              clear hnx HTC t1 hmm
              cases kb2
              · skip
                as_aux_lemma =>
                  go_upto_region 23 with fail
                  simp only [List.append_eq, List.cons_append, List.nil_append]
                  refine wp_region_held_drew (S := fun W => Below wr.heap.size wr W) (by kernel_rfl) ((Below.refl _ _).drew) (fun hS0 => ?_)
                  refine wpAnyH_take (i := 0) (v := .bool false) rfl (by kernel_rfl) (by kernel_rfl) (by kernel_rfl) (fun _ _ _ h => h) (Yields.yieldsIf (Or.inl ⟨by rfl, fun w9 => by (go_simp; first | done | with_reducible rfl | (intro h9; exfalso; omega))⟩)) hS0 ?_
                  change wpAnyH _ _ _ _ _ _ _ (Act.put _ (some 116) _) _; dsimp only [Act.put]; simp only [List.setIfInBounds_toArray, List.set_cons_succ, List.set_cons_zero]
                  refine wpAnyH_take (i := 1) (v := .bool false) rfl (by kernel_rfl) (by kernel_rfl) (by kernel_rfl) (fun _ _ _ h => h) (Yields.yieldsIf (Or.inl ⟨by rfl, fun w9 => by (go_simp; first | done | with_reducible rfl | (intro h9; exfalso; omega))⟩)) hS0 ?_
                  change wpAnyH _ _ _ _ _ _ _ (Act.put _ (some 117) _) _; dsimp only [Act.put]; simp only [List.setIfInBounds_toArray, List.set_cons_succ, List.set_cons_zero]
                  refine wpAnyH_take (i := 2) (v := undef) rfl (by kernel_rfl) (by kernel_rfl) (by kernel_rfl) (fun _ _ _ h => h) (Or.inr ⟨by rfl, rfl⟩) hS0 ?_
                  change wpAnyH _ _ _ _ _ _ _ (Act.put _ (some 118) _) _; dsimp only [Act.put]; simp only [List.setIfInBounds_toArray, List.set_cons_succ, List.set_cons_zero]
                  refine wpAnyH_take (i := 3) (v := undef) rfl (by kernel_rfl) (by kernel_rfl) (by kernel_rfl) (fun _ _ _ h => h) (Or.inr ⟨by rfl, rfl⟩) hS0 ?_
                  change wpAnyH _ _ _ _ _ _ _ (Act.put _ (some 119) _) _; dsimp only [Act.put]; simp only [List.setIfInBounds_toArray, List.set_cons_succ, List.set_cons_zero]
                  refine wpAnyH_take (i := 4) (v := undef) rfl (by kernel_rfl) (by kernel_rfl) (by kernel_rfl) (fun _ _ _ h => h) (Or.inr ⟨by rfl, rfl⟩) hS0 ?_
                  change wpAnyH _ _ _ _ _ _ _ (Act.put _ (some 120) _) _; dsimp only [Act.put]; simp only [List.setIfInBounds_toArray, List.set_cons_succ, List.set_cons_zero]
                  refine wpAnyH_take (i := 5) (v := undef) rfl (by kernel_rfl) (by kernel_rfl) (by kernel_rfl) (fun _ _ _ h => h) (Or.inr ⟨by rfl, rfl⟩) hS0 ?_
                  change wpAnyH _ _ _ _ _ _ _ (Act.put _ (some 121) _) _; dsimp only [Act.put]; simp only [List.setIfInBounds_toArray, List.set_cons_succ, List.set_cons_zero]
                  refine wpAnyH_take (i := 6) (v := undef) rfl (by kernel_rfl) (by kernel_rfl) (by kernel_rfl) (fun _ _ _ h => h) (Or.inr ⟨by rfl, rfl⟩) hS0 ?_
                  change wpAnyH _ _ _ _ _ _ _ (Act.put _ (some 122) _) _; dsimp only [Act.put]; simp only [List.setIfInBounds_toArray, List.set_cons_succ, List.set_cons_zero]
                  refine wpAnyH_take (i := 7) (v := undef) rfl (by kernel_rfl) (by kernel_rfl) (by kernel_rfl) (fun _ _ _ h => h) (Or.inr ⟨by rfl, rfl⟩) hS0 ?_
                  change wpAnyH _ _ _ _ _ _ _ (Act.put _ (some 123) _) _; dsimp only [Act.put]; simp only [List.setIfInBounds_toArray, List.set_cons_succ, List.set_cons_zero]
                  refine wpAnyH_take (i := 8) (v := undef) rfl (by kernel_rfl) (by kernel_rfl) (by kernel_rfl) (fun _ _ _ h => h) (Or.inr ⟨by rfl, rfl⟩) hS0 ?_
                  change wpAnyH _ _ _ _ _ _ _ (Act.put _ (some 124) _) _; dsimp only [Act.put]; simp only [List.setIfInBounds_toArray, List.set_cons_succ, List.set_cons_zero]
                  refine wpAnyH_take (i := 9) (v := undef) rfl (by kernel_rfl) (by kernel_rfl) (by kernel_rfl) (fun _ _ _ h => h) (Or.inr ⟨by rfl, rfl⟩) hS0 ?_
                  change wpAnyH _ _ _ _ _ _ _ (Act.put _ (some 125) _) _; dsimp only [Act.put]; simp only [List.setIfInBounds_toArray, List.set_cons_succ, List.set_cons_zero]
                  refine wpAnyH_take (i := 10) (v := undef) rfl (by kernel_rfl) (by kernel_rfl) (by kernel_rfl) (fun _ _ _ h => h) (Or.inr ⟨by rfl, rfl⟩) hS0 ?_
                  change wpAnyH _ _ _ _ _ _ _ (Act.put _ (some 126) _) _; dsimp only [Act.put]; simp only [List.setIfInBounds_toArray, List.set_cons_succ, List.set_cons_zero]
                  refine wpAnyH_take (i := 11) (v := undef) rfl (by kernel_rfl) (by kernel_rfl) (by kernel_rfl) (fun _ _ _ h => h) (Or.inr ⟨by rfl, rfl⟩) hS0 ?_
                  change wpAnyH _ _ _ _ _ _ _ (Act.put _ (some 127) _) _; dsimp only [Act.put]; simp only [List.setIfInBounds_toArray, List.set_cons_succ, List.set_cons_zero]
                  refine wpAnyH_take (i := 12) (v := .bool false) rfl (by kernel_rfl) (by kernel_rfl) (by kernel_rfl) (fun _ _ _ h => h) (Yields.yieldsIf (Or.inl ⟨by rfl, fun w9 => by (go_simp; first | done | with_reducible rfl | (intro h9; exfalso; omega))⟩)) hS0 ?_
                  change wpAnyH _ _ _ _ _ _ _ (Act.put _ (some 128) _) _; dsimp only [Act.put]; simp only [List.setIfInBounds_toArray, List.set_cons_succ, List.set_cons_zero]
                  refine wpAnyH_take (i := 13) (v := .bool false) rfl (by kernel_rfl) (by kernel_rfl) (by kernel_rfl) (fun _ _ _ h => h) (Yields.yieldsIf (Or.inl ⟨by rfl, fun w9 => by (go_simp; first | done | with_reducible rfl | (intro h9; exfalso; omega))⟩)) hS0 ?_
                  change wpAnyH _ _ _ _ _ _ _ (Act.put _ (some 129) _) _; dsimp only [Act.put]; simp only [List.setIfInBounds_toArray, List.set_cons_succ, List.set_cons_zero]
                  refine wpAnyH_take (i := 14) (v := .int .i64 ck) rfl (by kernel_rfl) (by kernel_rfl) (by kernel_rfl) (fun _ _ _ h => h) (Yields.yieldsIf (Or.inl ⟨by rfl, fun w9 => by (go_simp; first | done | with_reducible rfl | (intro h9; exfalso; omega))⟩)) hS0 ?_
                  change wpAnyH _ _ _ _ _ _ _ (Act.put _ (some 130) _) _; dsimp only [Act.put]; simp only [List.setIfInBounds_toArray, List.set_cons_succ, List.set_cons_zero]
                  refine wpAnyH_take (i := 15) (v := .bool false) rfl (by kernel_rfl) (by kernel_rfl) (by kernel_rfl) (fun _ _ _ h => h) (Yields.yieldsIf (Or.inl ⟨by rfl, fun w9 => by (go_simp; first | done | with_reducible rfl | (intro h9; exfalso; omega))⟩)) hS0 ?_
                  change wpAnyH _ _ _ _ _ _ _ (Act.put _ (some 131) _) _; dsimp only [Act.put]; simp only [List.setIfInBounds_toArray, List.set_cons_succ, List.set_cons_zero]
                  refine wpAnyH_take (i := 16) (v := .bool false) rfl (by kernel_rfl) (by kernel_rfl) (by kernel_rfl) (fun _ _ _ h => h) (Yields.yieldsIf (Or.inl ⟨by rfl, fun w9 => by (go_simp; first | done | with_reducible rfl | (intro h9; exfalso; omega))⟩)) hS0 ?_
                  change wpAnyH _ _ _ _ _ _ _ (Act.put _ (some 132) _) _; dsimp only [Act.put]; simp only [List.setIfInBounds_toArray, List.set_cons_succ, List.set_cons_zero]
                  refine wpAnyH_take (i := 17) (v := undef) rfl (by kernel_rfl) (by kernel_rfl) (by kernel_rfl) (fun _ _ _ h => h) (Or.inr ⟨by rfl, rfl⟩) hS0 ?_
                  change wpAnyH _ _ _ _ _ _ _ (Act.put _ (some 133) _) _; dsimp only [Act.put]; simp only [List.setIfInBounds_toArray, List.set_cons_succ, List.set_cons_zero]
                  refine wpAnyH_take (i := 18) (v := undef) rfl (by kernel_rfl) (by kernel_rfl) (by kernel_rfl) (fun _ _ _ h => h) (Or.inr ⟨by rfl, rfl⟩) hS0 ?_
                  change wpAnyH _ _ _ _ _ _ _ (Act.put _ (some 134) _) _; dsimp only [Act.put]; simp only [List.setIfInBounds_toArray, List.set_cons_succ, List.set_cons_zero]
                  refine wpAnyH_take (i := 19) (v := undef) rfl (by kernel_rfl) (by kernel_rfl) (by kernel_rfl) (fun _ _ _ h => h) (Or.inr ⟨by rfl, rfl⟩) hS0 ?_
                  change wpAnyH _ _ _ _ _ _ _ (Act.put _ (some 135) _) _; dsimp only [Act.put]; simp only [List.setIfInBounds_toArray, List.set_cons_succ, List.set_cons_zero]
                  refine wpAnyH_take (i := 20) (v := undef) rfl (by kernel_rfl) (by kernel_rfl) (by kernel_rfl) (fun _ _ _ h => h) (Or.inr ⟨by rfl, rfl⟩) hS0 ?_
                  change wpAnyH _ _ _ _ _ _ _ (Act.put _ (some 136) _) _; dsimp only [Act.put]; simp only [List.setIfInBounds_toArray, List.set_cons_succ, List.set_cons_zero]
                  refine wpAnyH_take (i := 21) (v := undef) rfl (by kernel_rfl) (by kernel_rfl) (by kernel_rfl) (fun _ _ _ h => h) (Or.inr ⟨by rfl, rfl⟩) hS0 ?_
                  change wpAnyH _ _ _ _ _ _ _ (Act.put _ (some 137) _) _; dsimp only [Act.put]; simp only [List.setIfInBounds_toArray, List.set_cons_succ, List.set_cons_zero]
                  refine wpAnyH_take (i := 22) (v := undef) rfl (by kernel_rfl) (by kernel_rfl) (by kernel_rfl) (fun _ _ _ h => h) (Or.inr ⟨by rfl, rfl⟩) hS0 ?_
                  change wpAnyH _ _ _ _ _ _ _ (Act.put _ (some 138) _) _; dsimp only [Act.put]; simp only [List.setIfInBounds_toArray, List.set_cons_succ, List.set_cons_zero]
                  refine wpAnyH_take (i := 23) (v := undef) rfl (by kernel_rfl) (by kernel_rfl) (by kernel_rfl) (fun _ _ _ h => h) (Or.inr ⟨by rfl, rfl⟩) hS0 ?_
                  change wpAnyH _ _ _ _ _ _ _ (Act.put _ (some 139) _) _; dsimp only [Act.put]; simp only [List.setIfInBounds_toArray, List.set_cons_succ, List.set_cons_zero]
                  refine wpAnyH_take (i := 24) (v := undef) rfl (by kernel_rfl) (by kernel_rfl) (by kernel_rfl) (fun _ _ _ h => h) (Or.inr ⟨by rfl, rfl⟩) hS0 ?_
                  change wpAnyH _ _ _ _ _ _ _ (Act.put _ (some 140) _) _; dsimp only [Act.put]; simp only [List.setIfInBounds_toArray, List.set_cons_succ, List.set_cons_zero]
                  refine wpAnyH_take (i := 25) (v := undef) rfl (by kernel_rfl) (by kernel_rfl) (by kernel_rfl) (fun _ _ _ h => h) (Or.inr ⟨by rfl, rfl⟩) hS0 ?_
                  change wpAnyH _ _ _ _ _ _ _ (Act.put _ (some 141) _) _; dsimp only [Act.put]; simp only [List.setIfInBounds_toArray, List.set_cons_succ, List.set_cons_zero]
                  refine wpAnyH_take (i := 26) (v := undef) rfl (by kernel_rfl) (by kernel_rfl) (by kernel_rfl) (fun _ _ _ h => h) (Or.inr ⟨by rfl, rfl⟩) hS0 ?_
                  change wpAnyH _ _ _ _ _ _ _ (Act.put _ (some 142) _) _; dsimp only [Act.put]; simp only [List.setIfInBounds_toArray, List.set_cons_succ, List.set_cons_zero]
                  refine wpAnyH_take (i := 27) (v := undef) rfl (by kernel_rfl) (by kernel_rfl) (by kernel_rfl) (fun _ _ _ h => h) (Or.inr ⟨by rfl, rfl⟩) hS0 ?_
                  change wpAnyH _ _ _ _ _ _ _ (Act.put _ (some 143) _) _; dsimp only [Act.put]; simp only [List.setIfInBounds_toArray, List.set_cons_succ, List.set_cons_zero]
                  refine wpAnyH_take (i := 28) (v := undef) rfl (by kernel_rfl) (by kernel_rfl) (by kernel_rfl) (fun _ _ _ h => h) (Or.inr ⟨by rfl, rfl⟩) hS0 ?_
                  change wpAnyH _ _ _ _ _ _ _ (Act.put _ (some 144) _) _; dsimp only [Act.put]; simp only [List.setIfInBounds_toArray, List.set_cons_succ, List.set_cons_zero]
                  refine wpAnyH_take (i := 29) (v := undef) rfl (by kernel_rfl) (by kernel_rfl) (by kernel_rfl) (fun _ _ _ h => h) (Or.inr ⟨by rfl, rfl⟩) hS0 ?_
                  change wpAnyH _ _ _ _ _ _ _ (Act.put _ (some 145) _) _; dsimp only [Act.put]; simp only [List.setIfInBounds_toArray, List.set_cons_succ, List.set_cons_zero]
                  refine wpAnyH_take (i := 30) (v := undef) rfl (by kernel_rfl) (by kernel_rfl) (by kernel_rfl) (fun _ _ _ h => h) (Or.inr ⟨by rfl, rfl⟩) hS0 ?_
                  change wpAnyH _ _ _ _ _ _ _ (Act.put _ (some 146) _) _; dsimp only [Act.put]; simp only [List.setIfInBounds_toArray, List.set_cons_succ, List.set_cons_zero]
                  refine wpAnyH_take (i := 31) (v := .bool false) rfl (by kernel_rfl) (by kernel_rfl) (by kernel_rfl) (fun _ _ _ h => h) (Yields.yieldsIf (Or.inl ⟨by rfl, fun w9 => by (go_simp; first | done | with_reducible rfl | (intro h9; exfalso; omega))⟩)) hS0 ?_
                  change wpAnyH _ _ _ _ _ _ _ (Act.put _ (some 147) _) _; dsimp only [Act.put]; simp only [List.setIfInBounds_toArray, List.set_cons_succ, List.set_cons_zero]
                  refine wpAnyH_take (i := 32) (v := .bool false) rfl (by kernel_rfl) (by kernel_rfl) (by kernel_rfl) (fun _ _ _ h => h) (Yields.yieldsIf (Or.inl ⟨by rfl, fun w9 => by (go_simp; first | done | with_reducible rfl | (intro h9; exfalso; omega))⟩)) hS0 ?_
                  change wpAnyH _ _ _ _ _ _ _ (Act.put _ (some 148) _) _; dsimp only [Act.put]; simp only [List.setIfInBounds_toArray, List.set_cons_succ, List.set_cons_zero]
                  refine wpAnyH_take (i := 33) (v := .bool false) rfl (by kernel_rfl) (by kernel_rfl) (by kernel_rfl) (fun _ _ _ h => h) (Yields.yieldsIf (Or.inl ⟨by rfl, fun w9 => by (go_simp; first | done | with_reducible rfl | (intro h9; exfalso; omega))⟩)) hS0 ?_
                  change wpAnyH _ _ _ _ _ _ _ (Act.put _ (some 149) _) _; dsimp only [Act.put]; simp only [List.setIfInBounds_toArray, List.set_cons_succ, List.set_cons_zero]
                  refine wpAnyH_take (i := 34) (v := .int .i64 ck) rfl (by kernel_rfl) (by kernel_rfl) (by kernel_rfl) (fun _ _ _ h => h) (Yields.yieldsIf (Or.inl ⟨by rfl, fun w9 => by (go_simp; first | done | with_reducible rfl | (intro h9; exfalso; omega))⟩)) hS0 ?_
                  change wpAnyH _ _ _ _ _ _ _ (Act.put _ (some 150) _) _; dsimp only [Act.put]; simp only [List.setIfInBounds_toArray, List.set_cons_succ, List.set_cons_zero]
                  refine wpAnyH_take (i := 35) (v := .bool true) rfl (by kernel_rfl) (by kernel_rfl) (by kernel_rfl) (fun _ _ _ h => h) (Yields.yieldsIf (Or.inl ⟨by rfl, fun w9 => by (go_simp; first | done | with_reducible rfl | (intro h9; exfalso; omega))⟩)) hS0 ?_
                  change wpAnyH _ _ _ _ _ _ _ (Act.put _ (some 151) _) _; dsimp only [Act.put]; simp only [List.setIfInBounds_toArray, List.set_cons_succ, List.set_cons_zero]
                  refine wpAnyH_take (i := 36) (v := .bool true) rfl (by kernel_rfl) (by kernel_rfl) (by kernel_rfl) (fun _ _ _ h => h) (Yields.yieldsIf (Or.inl ⟨by rfl, fun w9 => by (go_simp; first | done | with_reducible rfl | (intro h9; exfalso; omega))⟩)) hS0 ?_
                  change wpAnyH _ _ _ _ _ _ _ (Act.put _ (some 152) _) _; dsimp only [Act.put]; simp only [List.setIfInBounds_toArray, List.set_cons_succ, List.set_cons_zero]
                  refine wpAnyH_take (i := 37) (v := .bool false) rfl (by kernel_rfl) (by kernel_rfl) (by kernel_rfl) (fun _ _ _ h => h) (Yields.yieldsIf (Or.inl ⟨by rfl, fun w9 => by (go_simp; first | done | with_reducible rfl | (intro h9; exfalso; omega))⟩)) hS0 ?_
                  change wpAnyH _ _ _ _ _ _ _ (Act.put _ (some 153) _) _; dsimp only [Act.put]; simp only [List.setIfInBounds_toArray, List.set_cons_succ, List.set_cons_zero]
                  refine wpAnyH_take (i := 38) (v := .bool false) rfl (by kernel_rfl) (by kernel_rfl) (by kernel_rfl) (fun _ _ _ h => h) (Yields.yieldsIf (Or.inl ⟨by rfl, fun w9 => by (go_simp; first | done | with_reducible rfl | (intro h9; exfalso; omega))⟩)) hS0 ?_
                  change wpAnyH _ _ _ _ _ _ _ (Act.put _ (some 154) _) _; dsimp only [Act.put]; simp only [List.setIfInBounds_toArray, List.set_cons_succ, List.set_cons_zero]
                  refine wpAnyH_take (i := 39) (v := .bool false) rfl (by kernel_rfl) (by kernel_rfl) (by kernel_rfl) (fun _ _ _ h => h) (Yields.yieldsIf (Or.inl ⟨by rfl, fun w9 => by (go_simp; first | done | with_reducible rfl | (intro h9; exfalso; omega))⟩)) hS0 ?_
                  change wpAnyH _ _ _ _ _ _ _ (Act.put _ (some 155) _) _; dsimp only [Act.put]; simp only [List.setIfInBounds_toArray, List.set_cons_succ, List.set_cons_zero]
                  refine wpAnyH_take (i := 40) (v := .bool false) rfl (by kernel_rfl) (by kernel_rfl) (by kernel_rfl) (fun _ _ _ h => h) (Yields.yieldsIf (Or.inl ⟨by rfl, fun w9 => by (go_simp; first | done | with_reducible rfl | (intro h9; exfalso; omega))⟩)) hS0 ?_
                  change wpAnyH _ _ _ _ _ _ _ (Act.put _ (some 156) _) _; dsimp only [Act.put]; simp only [List.setIfInBounds_toArray, List.set_cons_succ, List.set_cons_zero]
                  refine wpAnyH_take (i := 41) (v := .bool false) rfl (by kernel_rfl) (by kernel_rfl) (by kernel_rfl) (fun _ _ _ h => h) (Yields.yieldsIf (Or.inl ⟨by rfl, fun w9 => by (go_simp; first | done | with_reducible rfl | (intro h9; exfalso; omega))⟩)) hS0 ?_
                  change wpAnyH _ _ _ _ _ _ _ (Act.put _ (some 157) _) _; dsimp only [Act.put]; simp only [List.setIfInBounds_toArray, List.set_cons_succ, List.set_cons_zero]
                  refine wpAnyH_take (i := 42) (v := .bool false) rfl (by kernel_rfl) (by kernel_rfl) (by kernel_rfl) (fun _ _ _ h => h) (Yields.yieldsIf (Or.inl ⟨by rfl, fun w9 => by (go_simp; first | done | with_reducible rfl | (intro h9; exfalso; omega))⟩)) hS0 ?_
                  change wpAnyH _ _ _ _ _ _ _ (Act.put _ (some 158) _) _; dsimp only [Act.put]; simp only [List.setIfInBounds_toArray, List.set_cons_succ, List.set_cons_zero]
                  refine wpAnyH_take (i := 43) (v := .bool false) rfl (by kernel_rfl) (by kernel_rfl) (by kernel_rfl) (fun _ _ _ h => h) (Yields.yieldsIf (Or.inl ⟨by rfl, fun w9 => by (go_simp; first | done | with_reducible rfl | (intro h9; exfalso; omega))⟩)) hS0 ?_
                  change wpAnyH _ _ _ _ _ _ _ (Act.put _ (some 159) _) _; dsimp only [Act.put]; simp only [List.setIfInBounds_toArray, List.set_cons_succ, List.set_cons_zero]
                  refine wpAnyH_take (i := 44) (v := .bool false) rfl (by kernel_rfl) (by kernel_rfl) (by kernel_rfl) (fun _ _ _ h => h) (Yields.yieldsIf (Or.inl ⟨by rfl, fun w9 => by (go_simp; first | done | with_reducible rfl | (intro h9; exfalso; omega))⟩)) hS0 ?_
                  change wpAnyH _ _ _ _ _ _ _ (Act.put _ (some 160) _) _; dsimp only [Act.put]; simp only [List.setIfInBounds_toArray, List.set_cons_succ, List.set_cons_zero]
                  refine wpAnyH_take (i := 45) (v := .bool false) rfl (by kernel_rfl) (by kernel_rfl) (by kernel_rfl) (fun _ _ _ h => h) (Yields.yieldsIf (Or.inl ⟨by rfl, fun w9 => by (go_simp; first | done | with_reducible rfl | (intro h9; exfalso; omega))⟩)) hS0 ?_
                  change wpAnyH _ _ _ _ _ _ _ (Act.put _ (some 161) _) _; dsimp only [Act.put]; simp only [List.setIfInBounds_toArray, List.set_cons_succ, List.set_cons_zero]
                  refine wpAnyH_take (i := 46) (v := .bool false) rfl (by kernel_rfl) (by kernel_rfl) (by kernel_rfl) (fun _ _ _ h => h) (Yields.yieldsIf (Or.inl ⟨by rfl, fun w9 => by (go_simp; first | done | with_reducible rfl | (intro h9; exfalso; omega))⟩)) hS0 ?_
                  change wpAnyH _ _ _ _ _ _ _ (Act.put _ (some 162) _) _; dsimp only [Act.put]; simp only [List.setIfInBounds_toArray, List.set_cons_succ, List.set_cons_zero]
                  refine wpAnyH_take (i := 47) (v := .pointer (some ⟨g, 0, none⟩)) rfl (by kernel_rfl) (by kernel_rfl) (by kernel_rfl) (fun _ _ _ h => h) (Yields.yieldsIf (Or.inl ⟨by rfl, fun w9 => by (go_simp; first | done | with_reducible rfl | (intro h9; exfalso; omega))⟩)) hS0 ?_
                  change wpAnyH _ _ _ _ _ _ _ (Act.put _ (some 163) _) _; dsimp only [Act.put]; simp only [List.setIfInBounds_toArray, List.set_cons_succ, List.set_cons_zero]
                  refine wpAnyH_take (i := 50) (v := .int .i64 (mm : Int)) rfl (by kernel_rfl) (by kernel_rfl) (by kernel_rfl) (fun _ _ _ h => h) (Yields.yieldsIf (Or.inl ⟨by rfl, fun w9 => by (go_simp; first | done | with_reducible rfl | (intro h9; exfalso; omega))⟩)) hS0 ?_
                  change wpAnyH _ _ _ _ _ _ _ (Act.put _ (some 166) _) _; dsimp only [Act.put]; simp only [List.setIfInBounds_toArray, List.set_cons_succ, List.set_cons_zero]
                  refine wpAnyH_take (i := 51) (v := .int .i64 ((mm : Int) + 1)) rfl (by kernel_rfl) (by kernel_rfl) (by kernel_rfl) (fun _ _ _ h => h) (Yields.yieldsIf (Or.inl ⟨by rfl, fun w9 => by (go_simp; first | done | with_reducible rfl | (intro h9; exfalso; omega))⟩)) hS0 ?_
                  change wpAnyH _ _ _ _ _ _ _ (Act.put _ (some 167) _) _; dsimp only [Act.put]; simp only [List.setIfInBounds_toArray, List.set_cons_succ, List.set_cons_zero]
                  refine wpAnyH_ready (rs := [48]) (by kernel_rfl) (by simp) ?_
                  refine AllReadyH.cons rfl (fun K hK => ?_) (fun j hj => by cases hj)
                  go_simp
                  refine (CT2 _ hS0).mono ?_
                  rintro e w20 ⟨v20, rfl, hown20, hb20⟩
                  obtain ⟨a20, c20, rfl, _⟩ := own_sliceN hown20
                  have hS1 := hS0.trans (hb20.mono hS0.size)
                  refine (Shut.out hK) _ _ hS1 (fun _ => ?_)
                  clear hK K
                  refine wpAnyH_take (i := 49) (v := .int .i64 (mm : Int)) rfl (by kernel_rfl) (by kernel_rfl) (by kernel_rfl) (fun _ _ _ h => h) (Yields.yieldsIf (Or.inl ⟨by rfl, fun w9 => by (go_simp; first | done | with_reducible rfl | (intro h9; exfalso; omega))⟩)) hS1 ?_
                  change wpAnyH _ _ _ _ _ _ _ (Act.put _ (some 165) _) _; dsimp only [Act.put]; simp only [List.setIfInBounds_toArray, List.set_cons_succ, List.set_cons_zero]
                  refine wpAnyH_take (i := 52) (v := .bool false) rfl (by kernel_rfl) (by kernel_rfl) (by kernel_rfl) (fun _ _ _ h => h) (Yields.yieldsIf (Or.inl ⟨by rfl, fun w9 => by (go_simp; first | done | with_reducible rfl | (intro h9; exfalso; omega))⟩)) hS1 ?_
                  change wpAnyH _ _ _ _ _ _ _ (Act.put _ (some 168) _) _; dsimp only [Act.put]; simp only [List.setIfInBounds_toArray, List.set_cons_succ, List.set_cons_zero]
                  refine wpAnyH_take (i := 53) (v := .bool false) rfl (by kernel_rfl) (by kernel_rfl) (by kernel_rfl) (fun _ _ _ h => h) (Yields.yieldsIf (Or.inl ⟨by rfl, fun w9 => by (go_simp; first | done | with_reducible rfl | (intro h9; exfalso; omega))⟩)) hS1 ?_
                  change wpAnyH _ _ _ _ _ _ _ (Act.put _ (some 169) _) _; dsimp only [Act.put]; simp only [List.setIfInBounds_toArray, List.set_cons_succ, List.set_cons_zero]
                  refine wpAnyH_take (i := 54) (v := .bool false) rfl (by kernel_rfl) (by kernel_rfl) (by kernel_rfl) (fun _ _ _ h => h) (Yields.yieldsIf (Or.inl ⟨by rfl, fun w9 => by (go_simp; first | done | with_reducible rfl | (intro h9; exfalso; omega))⟩)) hS1 ?_
                  change wpAnyH _ _ _ _ _ _ _ (Act.put _ (some 170) _) _; dsimp only [Act.put]; simp only [List.setIfInBounds_toArray, List.set_cons_succ, List.set_cons_zero]
                  refine wpAnyH_take (i := 55) (v := .bool false) rfl (by kernel_rfl) (by kernel_rfl) (by kernel_rfl) (fun _ _ _ h => h) (Yields.yieldsIf (Or.inl ⟨by rfl, fun w9 => by (go_simp; first | done | with_reducible rfl | (intro h9; exfalso; omega))⟩)) hS1 ?_
                  change wpAnyH _ _ _ _ _ _ _ (Act.put _ (some 171) _) _; dsimp only [Act.put]; simp only [List.setIfInBounds_toArray, List.set_cons_succ, List.set_cons_zero]
                  refine wpAnyH_take (i := 56) (v := .bool false) rfl (by kernel_rfl) (by kernel_rfl) (by kernel_rfl) (fun _ _ _ h => h) (Yields.yieldsIf (Or.inl ⟨by rfl, fun w9 => by (go_simp; first | done | with_reducible rfl | (intro h9; exfalso; omega))⟩)) hS1 ?_
                  change wpAnyH _ _ _ _ _ _ _ (Act.put _ (some 172) _) _; dsimp only [Act.put]; simp only [List.setIfInBounds_toArray, List.set_cons_succ, List.set_cons_zero]
                  refine wpAnyH_take (i := 57) (v := .bool true) rfl (by kernel_rfl) (by kernel_rfl) (by kernel_rfl) (fun _ _ _ h => h) (Yields.yieldsIf (Or.inl ⟨by rfl, fun w9 => by (go_simp; first | done | with_reducible rfl | (intro h9; exfalso; omega))⟩)) hS1 ?_
                  change wpAnyH _ _ _ _ _ _ _ (Act.put _ (some 173) _) _; dsimp only [Act.put]; simp only [List.setIfInBounds_toArray, List.set_cons_succ, List.set_cons_zero]
                  refine wpAnyH_take (i := 58) (v := .bool true) rfl (by kernel_rfl) (by kernel_rfl) (by kernel_rfl) (fun _ _ _ h => h) (Yields.yieldsIf (Or.inl ⟨by rfl, fun w9 => by (go_simp; first | done | with_reducible rfl | (intro h9; exfalso; omega))⟩)) hS1 ?_
                  change wpAnyH _ _ _ _ _ _ _ (Act.put _ (some 174) _) _; dsimp only [Act.put]; simp only [List.setIfInBounds_toArray, List.set_cons_succ, List.set_cons_zero]
                  refine wpAnyH_take (i := 59) (v := .pointer (some ⟨g, 0, none⟩)) rfl (by kernel_rfl) (by kernel_rfl) (by kernel_rfl) (fun _ _ _ h => h) (Yields.yieldsIf (Or.inl ⟨by rfl, fun w9 => by (go_simp; first | done | with_reducible rfl | (intro h9; exfalso; omega))⟩)) hS1 ?_
                  change wpAnyH _ _ _ _ _ _ _ (Act.put _ (some 175) _) _; dsimp only [Act.put]; simp only [List.setIfInBounds_toArray, List.set_cons_succ, List.set_cons_zero]
                  refine wpAnyH_take (i := 62) (v := .int .i64 (mm : Int)) rfl (by kernel_rfl) (by kernel_rfl) (by kernel_rfl) (fun _ _ _ h => h) (Yields.yieldsIf (Or.inl ⟨by rfl, fun w9 => by (go_simp; first | done | with_reducible rfl | (intro h9; exfalso; omega))⟩)) hS1 ?_
                  change wpAnyH _ _ _ _ _ _ _ (Act.put _ (some 178) _) _; dsimp only [Act.put]; simp only [List.setIfInBounds_toArray, List.set_cons_succ, List.set_cons_zero]
                  refine wpAnyH_ready (rs := [60]) (by kernel_rfl) (by simp) ?_
                  refine AllReadyH.cons rfl (fun K hK => ?_) (fun j hj => by cases hj)
                  go_simp
                  refine (CT2 _ hS1).mono ?_
                  rintro e w21 ⟨v21, rfl, hown21, hb21⟩
                  obtain ⟨a21, c21, rfl, _⟩ := own_sliceN hown21
                  have hS2 := hS1.trans (hb21.mono hS1.size)
                  refine (Shut.out hK) _ _ hS2 (fun _ => ?_)
                  clear hK K
                  refine wpAnyH_take (i := 61) (v := .int .i64 (mm : Int)) rfl (by kernel_rfl) (by kernel_rfl) (by kernel_rfl) (fun _ _ _ h => h) (Yields.yieldsIf (Or.inl ⟨by rfl, fun w9 => by (go_simp; first | done | with_reducible rfl | (intro h9; exfalso; omega))⟩)) hS2 ?_
                  change wpAnyH _ _ _ _ _ _ _ (Act.put _ (some 177) _) _; dsimp only [Act.put]; simp only [List.setIfInBounds_toArray, List.set_cons_succ, List.set_cons_zero]
                  refine wpAnyH_take (i := 63) (v := .bool false) rfl (by kernel_rfl) (by kernel_rfl) (by kernel_rfl) (fun _ _ _ h => h) (Yields.yieldsIf (Or.inl ⟨by rfl, fun w9 => by (go_simp; first | done | with_reducible rfl | (intro h9; exfalso; omega))⟩)) hS2 ?_
                  change wpAnyH _ _ _ _ _ _ _ (Act.put _ (some 179) _) _; dsimp only [Act.put]; simp only [List.setIfInBounds_toArray, List.set_cons_succ, List.set_cons_zero]
                  refine wpAnyH_take (i := 64) (v := .bool false) rfl (by kernel_rfl) (by kernel_rfl) (by kernel_rfl) (fun _ _ _ h => h) (Yields.yieldsIf (Or.inl ⟨by rfl, fun w9 => by (go_simp; first | done | with_reducible rfl | (intro h9; exfalso; omega))⟩)) hS2 ?_
                  change wpAnyH _ _ _ _ _ _ _ (Act.put _ (some 180) _) _; dsimp only [Act.put]; simp only [List.setIfInBounds_toArray, List.set_cons_succ, List.set_cons_zero]
                  refine wpAnyH_take (i := 65) (v := .bool false) rfl (by kernel_rfl) (by kernel_rfl) (by kernel_rfl) (fun _ _ _ h => h) (Yields.yieldsIf (Or.inl ⟨by rfl, fun w9 => by (go_simp; first | done | with_reducible rfl | (intro h9; exfalso; omega))⟩)) hS2 ?_
                  change wpAnyH _ _ _ _ _ _ _ (Act.put _ (some 181) _) _; dsimp only [Act.put]; simp only [List.setIfInBounds_toArray, List.set_cons_succ, List.set_cons_zero]
                  refine wpAnyH_done (by kernel_rfl) ?_ _
                  go_wp2
                  go_roundw
                  case rel => exact ⟨i + 1, by omega, by go_num, ⟨_, HSR.out.kept hS2⟩, hbelr.trans (hS2.mono hbelr.size)⟩
                  case measure => (simp [intOf]) <;> omega
              · skip
                as_aux_lemma =>
                  go_upto_region 23 with fail
                  simp only [List.append_eq, List.cons_append, List.nil_append]
                  refine wp_region_held_drew (S := fun W => Below wr.heap.size wr W) (by kernel_rfl) ((Below.refl _ _).drew) (fun hS0 => ?_)
                  refine wpAnyH_take (i := 0) (v := .bool true) rfl (by kernel_rfl) (by kernel_rfl) (by kernel_rfl) (fun _ _ _ h => h) (Yields.yieldsIf (Or.inl ⟨by rfl, fun w9 => by (go_simp; first | done | with_reducible rfl | (intro h9; exfalso; omega))⟩)) hS0 ?_
                  change wpAnyH _ _ _ _ _ _ _ (Act.put _ (some 116) _) _; dsimp only [Act.put]; simp only [List.setIfInBounds_toArray, List.set_cons_succ, List.set_cons_zero]
                  refine wpAnyH_take (i := 1) (v := .bool true) rfl (by kernel_rfl) (by kernel_rfl) (by kernel_rfl) (fun _ _ _ h => h) (Yields.yieldsIf (Or.inl ⟨by rfl, fun w9 => by (go_simp; first | done | with_reducible rfl | (intro h9; exfalso; omega))⟩)) hS0 ?_
                  change wpAnyH _ _ _ _ _ _ _ (Act.put _ (some 117) _) _; dsimp only [Act.put]; simp only [List.setIfInBounds_toArray, List.set_cons_succ, List.set_cons_zero]
                  refine wpAnyH_take (i := 2) (v := .bool true) rfl (by kernel_rfl) (by kernel_rfl) (by kernel_rfl) (fun _ _ _ h => h) (Yields.yieldsIf (Or.inl ⟨by rfl, fun w9 => by (go_simp; first | done | with_reducible rfl | (intro h9; exfalso; omega))⟩)) hS0 ?_
                  change wpAnyH _ _ _ _ _ _ _ (Act.put _ (some 118) _) _; dsimp only [Act.put]; simp only [List.setIfInBounds_toArray, List.set_cons_succ, List.set_cons_zero]
                  refine wpAnyH_take (i := 3) (v := .bool false) rfl (by kernel_rfl) (by kernel_rfl) (by kernel_rfl) (fun _ _ _ h => h) (Yields.yieldsIf (Or.inl ⟨by rfl, fun w9 => by (go_simp; first | done | with_reducible rfl | (intro h9; exfalso; omega))⟩)) hS0 ?_
                  change wpAnyH _ _ _ _ _ _ _ (Act.put _ (some 119) _) _; dsimp only [Act.put]; simp only [List.setIfInBounds_toArray, List.set_cons_succ, List.set_cons_zero]
                  refine wpAnyH_take (i := 4) (v := .bool false) rfl (by kernel_rfl) (by kernel_rfl) (by kernel_rfl) (fun _ _ _ h => h) (Yields.yieldsIf (Or.inl ⟨by rfl, fun w9 => by (go_simp; first | done | with_reducible rfl | (intro h9; exfalso; omega))⟩)) hS0 ?_
                  change wpAnyH _ _ _ _ _ _ _ (Act.put _ (some 120) _) _; dsimp only [Act.put]; simp only [List.setIfInBounds_toArray, List.set_cons_succ, List.set_cons_zero]
                  refine wpAnyH_take (i := 5) (v := .agg (kv2).row) rfl (by kernel_rfl) (by kernel_rfl) (by kernel_rfl) (fun _ _ _ h => h) (Or.inl ⟨by rfl, fun w9 hS9 => exec_loadHd (.tmp 15) rfl w7.heap.size (0) (by first | rfl | simp [Act.eval, Act.put]) kv2 (hd_range (cells_of hzr hS9 (row_lt hzr)))⟩) hS0 ?_
                  change wpAnyH _ _ _ _ _ _ _ (Act.put _ (some 121) _) _; dsimp only [Act.put]; simp only [List.setIfInBounds_toArray, List.set_cons_succ, List.set_cons_zero]
                  refine wpAnyH_take (i := 6) (v := .agg (kv2).row) rfl (by kernel_rfl) (by kernel_rfl) (by kernel_rfl) (fun _ _ _ h => h) (Or.inl ⟨by rfl, fun w9 hS9 => exec_loadHd (.tmp 10) rfl w3.heap.size (0) (by first | rfl | simp [Act.eval, Act.put]) kv2 (hd_range (cells_of hqr hS9 (row_lt hqr)))⟩) hS0 ?_
                  change wpAnyH _ _ _ _ _ _ _ (Act.put _ (some 122) _) _; dsimp only [Act.put]; simp only [List.setIfInBounds_toArray, List.set_cons_succ, List.set_cons_zero]
                  refine wpAnyH_take (i := 7) (v := .bool false) rfl (by kernel_rfl) (by kernel_rfl) (by kernel_rfl) (fun _ _ _ h => h) (Yields.yieldsIf (Or.inl ⟨by rfl, fun w9 => by (go_simp; first | done | with_reducible rfl | (intro h9; exfalso; omega))⟩)) hS0 ?_
                  change wpAnyH _ _ _ _ _ _ _ (Act.put _ (some 123) _) _; dsimp only [Act.put]; simp only [List.setIfInBounds_toArray, List.set_cons_succ, List.set_cons_zero]
                  refine wpAnyH_take (i := 8) (v := .bool false) rfl (by kernel_rfl) (by kernel_rfl) (by kernel_rfl) (fun _ _ _ h => h) (Yields.yieldsIf (Or.inl ⟨by rfl, fun w9 => by (go_simp; first | done | with_reducible rfl | (intro h9; exfalso; omega))⟩)) hS0 ?_
                  change wpAnyH _ _ _ _ _ _ _ (Act.put _ (some 124) _) _; dsimp only [Act.put]; simp only [List.setIfInBounds_toArray, List.set_cons_succ, List.set_cons_zero]
                  refine wpAnyH_take (i := 9) (v := .bool false) rfl (by kernel_rfl) (by kernel_rfl) (by kernel_rfl) (fun _ _ _ h => h) (Yields.yieldsIf (Or.inl ⟨by rfl, fun w9 => by (go_simp; first | done | with_reducible rfl | (intro h9; exfalso; omega))⟩)) hS0 ?_
                  change wpAnyH _ _ _ _ _ _ _ (Act.put _ (some 125) _) _; dsimp only [Act.put]; simp only [List.setIfInBounds_toArray, List.set_cons_succ, List.set_cons_zero]
                  refine wpAnyH_take (i := 10) (v := .bool false) rfl (by kernel_rfl) (by kernel_rfl) (by kernel_rfl) (fun _ _ _ h => h) (Yields.yieldsIf (Or.inl ⟨by rfl, fun w9 => by (go_simp; first | done | with_reducible rfl | (intro h9; exfalso; omega))⟩)) hS0 ?_
                  change wpAnyH _ _ _ _ _ _ _ (Act.put _ (some 126) _) _; dsimp only [Act.put]; simp only [List.setIfInBounds_toArray, List.set_cons_succ, List.set_cons_zero]
                  refine wpAnyH_take (i := 11) (v := .bool false) rfl (by kernel_rfl) (by kernel_rfl) (by kernel_rfl) (fun _ _ _ h => h) (Yields.yieldsIf (Or.inl ⟨by rfl, fun w9 => by (go_simp; first | done | with_reducible rfl | (intro h9; exfalso; omega))⟩)) hS0 ?_
                  change wpAnyH _ _ _ _ _ _ _ (Act.put _ (some 127) _) _; dsimp only [Act.put]; simp only [List.setIfInBounds_toArray, List.set_cons_succ, List.set_cons_zero]
                  refine wpAnyH_take (i := 12) (v := .bool false) rfl (by kernel_rfl) (by kernel_rfl) (by kernel_rfl) (fun _ _ _ h => h) (Yields.yieldsIf (Or.inl ⟨by rfl, fun w9 => by (go_simp; first | done | with_reducible rfl | (intro h9; exfalso; omega))⟩)) hS0 ?_
                  change wpAnyH _ _ _ _ _ _ _ (Act.put _ (some 128) _) _; dsimp only [Act.put]; simp only [List.setIfInBounds_toArray, List.set_cons_succ, List.set_cons_zero]
                  refine wpAnyH_take (i := 13) (v := .bool false) rfl (by kernel_rfl) (by kernel_rfl) (by kernel_rfl) (fun _ _ _ h => h) (Yields.yieldsIf (Or.inl ⟨by rfl, fun w9 => by (go_simp; first | done | with_reducible rfl | (intro h9; exfalso; omega))⟩)) hS0 ?_
                  change wpAnyH _ _ _ _ _ _ _ (Act.put _ (some 129) _) _; dsimp only [Act.put]; simp only [List.setIfInBounds_toArray, List.set_cons_succ, List.set_cons_zero]
                  refine wpAnyH_take (i := 14) (v := .int .i64 ck) rfl (by kernel_rfl) (by kernel_rfl) (by kernel_rfl) (fun _ _ _ h => h) (Yields.yieldsIf (Or.inl ⟨by rfl, fun w9 => by (go_simp; first | done | with_reducible rfl | (intro h9; exfalso; omega))⟩)) hS0 ?_
                  change wpAnyH _ _ _ _ _ _ _ (Act.put _ (some 130) _) _; dsimp only [Act.put]; simp only [List.setIfInBounds_toArray, List.set_cons_succ, List.set_cons_zero]
                  refine wpAnyH_take (i := 15) (v := .bool false) rfl (by kernel_rfl) (by kernel_rfl) (by kernel_rfl) (fun _ _ _ h => h) (Yields.yieldsIf (Or.inl ⟨by rfl, fun w9 => by (go_simp; first | done | with_reducible rfl | (intro h9; exfalso; omega))⟩)) hS0 ?_
                  change wpAnyH _ _ _ _ _ _ _ (Act.put _ (some 131) _) _; dsimp only [Act.put]; simp only [List.setIfInBounds_toArray, List.set_cons_succ, List.set_cons_zero]
                  refine wpAnyH_take (i := 16) (v := .bool false) rfl (by kernel_rfl) (by kernel_rfl) (by kernel_rfl) (fun _ _ _ h => h) (Yields.yieldsIf (Or.inl ⟨by rfl, fun w9 => by (go_simp; first | done | with_reducible rfl | (intro h9; exfalso; omega))⟩)) hS0 ?_
                  change wpAnyH _ _ _ _ _ _ _ (Act.put _ (some 132) _) _; dsimp only [Act.put]; simp only [List.setIfInBounds_toArray, List.set_cons_succ, List.set_cons_zero]
                  refine wpAnyH_take (i := 17) (v := undef) rfl (by kernel_rfl) (by kernel_rfl) (by kernel_rfl) (fun _ _ _ h => h) (Or.inr ⟨by rfl, rfl⟩) hS0 ?_
                  change wpAnyH _ _ _ _ _ _ _ (Act.put _ (some 133) _) _; dsimp only [Act.put]; simp only [List.setIfInBounds_toArray, List.set_cons_succ, List.set_cons_zero]
                  refine wpAnyH_take (i := 18) (v := undef) rfl (by kernel_rfl) (by kernel_rfl) (by kernel_rfl) (fun _ _ _ h => h) (Or.inr ⟨by rfl, rfl⟩) hS0 ?_
                  change wpAnyH _ _ _ _ _ _ _ (Act.put _ (some 134) _) _; dsimp only [Act.put]; simp only [List.setIfInBounds_toArray, List.set_cons_succ, List.set_cons_zero]
                  refine wpAnyH_take (i := 19) (v := undef) rfl (by kernel_rfl) (by kernel_rfl) (by kernel_rfl) (fun _ _ _ h => h) (Or.inr ⟨by rfl, rfl⟩) hS0 ?_
                  change wpAnyH _ _ _ _ _ _ _ (Act.put _ (some 135) _) _; dsimp only [Act.put]; simp only [List.setIfInBounds_toArray, List.set_cons_succ, List.set_cons_zero]
                  refine wpAnyH_take (i := 20) (v := undef) rfl (by kernel_rfl) (by kernel_rfl) (by kernel_rfl) (fun _ _ _ h => h) (Or.inr ⟨by rfl, rfl⟩) hS0 ?_
                  change wpAnyH _ _ _ _ _ _ _ (Act.put _ (some 136) _) _; dsimp only [Act.put]; simp only [List.setIfInBounds_toArray, List.set_cons_succ, List.set_cons_zero]
                  refine wpAnyH_take (i := 21) (v := undef) rfl (by kernel_rfl) (by kernel_rfl) (by kernel_rfl) (fun _ _ _ h => h) (Or.inr ⟨by rfl, rfl⟩) hS0 ?_
                  change wpAnyH _ _ _ _ _ _ _ (Act.put _ (some 137) _) _; dsimp only [Act.put]; simp only [List.setIfInBounds_toArray, List.set_cons_succ, List.set_cons_zero]
                  refine wpAnyH_take (i := 22) (v := undef) rfl (by kernel_rfl) (by kernel_rfl) (by kernel_rfl) (fun _ _ _ h => h) (Or.inr ⟨by rfl, rfl⟩) hS0 ?_
                  change wpAnyH _ _ _ _ _ _ _ (Act.put _ (some 138) _) _; dsimp only [Act.put]; simp only [List.setIfInBounds_toArray, List.set_cons_succ, List.set_cons_zero]
                  refine wpAnyH_take (i := 23) (v := undef) rfl (by kernel_rfl) (by kernel_rfl) (by kernel_rfl) (fun _ _ _ h => h) (Or.inr ⟨by rfl, rfl⟩) hS0 ?_
                  change wpAnyH _ _ _ _ _ _ _ (Act.put _ (some 139) _) _; dsimp only [Act.put]; simp only [List.setIfInBounds_toArray, List.set_cons_succ, List.set_cons_zero]
                  refine wpAnyH_take (i := 24) (v := undef) rfl (by kernel_rfl) (by kernel_rfl) (by kernel_rfl) (fun _ _ _ h => h) (Or.inr ⟨by rfl, rfl⟩) hS0 ?_
                  change wpAnyH _ _ _ _ _ _ _ (Act.put _ (some 140) _) _; dsimp only [Act.put]; simp only [List.setIfInBounds_toArray, List.set_cons_succ, List.set_cons_zero]
                  refine wpAnyH_take (i := 25) (v := undef) rfl (by kernel_rfl) (by kernel_rfl) (by kernel_rfl) (fun _ _ _ h => h) (Or.inr ⟨by rfl, rfl⟩) hS0 ?_
                  change wpAnyH _ _ _ _ _ _ _ (Act.put _ (some 141) _) _; dsimp only [Act.put]; simp only [List.setIfInBounds_toArray, List.set_cons_succ, List.set_cons_zero]
                  refine wpAnyH_take (i := 26) (v := undef) rfl (by kernel_rfl) (by kernel_rfl) (by kernel_rfl) (fun _ _ _ h => h) (Or.inr ⟨by rfl, rfl⟩) hS0 ?_
                  change wpAnyH _ _ _ _ _ _ _ (Act.put _ (some 142) _) _; dsimp only [Act.put]; simp only [List.setIfInBounds_toArray, List.set_cons_succ, List.set_cons_zero]
                  refine wpAnyH_take (i := 27) (v := undef) rfl (by kernel_rfl) (by kernel_rfl) (by kernel_rfl) (fun _ _ _ h => h) (Or.inr ⟨by rfl, rfl⟩) hS0 ?_
                  change wpAnyH _ _ _ _ _ _ _ (Act.put _ (some 143) _) _; dsimp only [Act.put]; simp only [List.setIfInBounds_toArray, List.set_cons_succ, List.set_cons_zero]
                  refine wpAnyH_take (i := 28) (v := undef) rfl (by kernel_rfl) (by kernel_rfl) (by kernel_rfl) (fun _ _ _ h => h) (Or.inr ⟨by rfl, rfl⟩) hS0 ?_
                  change wpAnyH _ _ _ _ _ _ _ (Act.put _ (some 144) _) _; dsimp only [Act.put]; simp only [List.setIfInBounds_toArray, List.set_cons_succ, List.set_cons_zero]
                  refine wpAnyH_take (i := 29) (v := undef) rfl (by kernel_rfl) (by kernel_rfl) (by kernel_rfl) (fun _ _ _ h => h) (Or.inr ⟨by rfl, rfl⟩) hS0 ?_
                  change wpAnyH _ _ _ _ _ _ _ (Act.put _ (some 145) _) _; dsimp only [Act.put]; simp only [List.setIfInBounds_toArray, List.set_cons_succ, List.set_cons_zero]
                  refine wpAnyH_take (i := 30) (v := undef) rfl (by kernel_rfl) (by kernel_rfl) (by kernel_rfl) (fun _ _ _ h => h) (Or.inr ⟨by rfl, rfl⟩) hS0 ?_
                  change wpAnyH _ _ _ _ _ _ _ (Act.put _ (some 146) _) _; dsimp only [Act.put]; simp only [List.setIfInBounds_toArray, List.set_cons_succ, List.set_cons_zero]
                  refine wpAnyH_take (i := 31) (v := .bool false) rfl (by kernel_rfl) (by kernel_rfl) (by kernel_rfl) (fun _ _ _ h => h) (Yields.yieldsIf (Or.inl ⟨by rfl, fun w9 => by (go_simp; first | done | with_reducible rfl | (intro h9; exfalso; omega))⟩)) hS0 ?_
                  change wpAnyH _ _ _ _ _ _ _ (Act.put _ (some 147) _) _; dsimp only [Act.put]; simp only [List.setIfInBounds_toArray, List.set_cons_succ, List.set_cons_zero]
                  refine wpAnyH_take (i := 32) (v := .bool false) rfl (by kernel_rfl) (by kernel_rfl) (by kernel_rfl) (fun _ _ _ h => h) (Yields.yieldsIf (Or.inl ⟨by rfl, fun w9 => by (go_simp; first | done | with_reducible rfl | (intro h9; exfalso; omega))⟩)) hS0 ?_
                  change wpAnyH _ _ _ _ _ _ _ (Act.put _ (some 148) _) _; dsimp only [Act.put]; simp only [List.setIfInBounds_toArray, List.set_cons_succ, List.set_cons_zero]
                  refine wpAnyH_take (i := 33) (v := .bool false) rfl (by kernel_rfl) (by kernel_rfl) (by kernel_rfl) (fun _ _ _ h => h) (Yields.yieldsIf (Or.inl ⟨by rfl, fun w9 => by (go_simp; first | done | with_reducible rfl | (intro h9; exfalso; omega))⟩)) hS0 ?_
                  change wpAnyH _ _ _ _ _ _ _ (Act.put _ (some 149) _) _; dsimp only [Act.put]; simp only [List.setIfInBounds_toArray, List.set_cons_succ, List.set_cons_zero]
                  refine wpAnyH_take (i := 34) (v := .int .i64 ck) rfl (by kernel_rfl) (by kernel_rfl) (by kernel_rfl) (fun _ _ _ h => h) (Yields.yieldsIf (Or.inl ⟨by rfl, fun w9 => by (go_simp; first | done | with_reducible rfl | (intro h9; exfalso; omega))⟩)) hS0 ?_
                  change wpAnyH _ _ _ _ _ _ _ (Act.put _ (some 150) _) _; dsimp only [Act.put]; simp only [List.setIfInBounds_toArray, List.set_cons_succ, List.set_cons_zero]
                  refine wpAnyH_take (i := 35) (v := .bool true) rfl (by kernel_rfl) (by kernel_rfl) (by kernel_rfl) (fun _ _ _ h => h) (Yields.yieldsIf (Or.inl ⟨by rfl, fun w9 => by (go_simp; first | done | with_reducible rfl | (intro h9; exfalso; omega))⟩)) hS0 ?_
                  change wpAnyH _ _ _ _ _ _ _ (Act.put _ (some 151) _) _; dsimp only [Act.put]; simp only [List.setIfInBounds_toArray, List.set_cons_succ, List.set_cons_zero]
                  refine wpAnyH_take (i := 36) (v := .bool true) rfl (by kernel_rfl) (by kernel_rfl) (by kernel_rfl) (fun _ _ _ h => h) (Yields.yieldsIf (Or.inl ⟨by rfl, fun w9 => by (go_simp; first | done | with_reducible rfl | (intro h9; exfalso; omega))⟩)) hS0 ?_
                  change wpAnyH _ _ _ _ _ _ _ (Act.put _ (some 152) _) _; dsimp only [Act.put]; simp only [List.setIfInBounds_toArray, List.set_cons_succ, List.set_cons_zero]
                  refine wpAnyH_take (i := 37) (v := .bool false) rfl (by kernel_rfl) (by kernel_rfl) (by kernel_rfl) (fun _ _ _ h => h) (Yields.yieldsIf (Or.inl ⟨by rfl, fun w9 => by (go_simp; first | done | with_reducible rfl | (intro h9; exfalso; omega))⟩)) hS0 ?_
                  change wpAnyH _ _ _ _ _ _ _ (Act.put _ (some 153) _) _; dsimp only [Act.put]; simp only [List.setIfInBounds_toArray, List.set_cons_succ, List.set_cons_zero]
                  refine wpAnyH_take (i := 38) (v := .bool false) rfl (by kernel_rfl) (by kernel_rfl) (by kernel_rfl) (fun _ _ _ h => h) (Yields.yieldsIf (Or.inl ⟨by rfl, fun w9 => by (go_simp; first | done | with_reducible rfl | (intro h9; exfalso; omega))⟩)) hS0 ?_
                  change wpAnyH _ _ _ _ _ _ _ (Act.put _ (some 154) _) _; dsimp only [Act.put]; simp only [List.setIfInBounds_toArray, List.set_cons_succ, List.set_cons_zero]
                  refine wpAnyH_take (i := 39) (v := .bool true) rfl (by kernel_rfl) (by kernel_rfl) (by kernel_rfl) (fun _ _ _ h => h) (Yields.yieldsIf (Or.inl ⟨by rfl, fun w9 => by (go_simp; first | done | with_reducible rfl | (intro h9; exfalso; omega))⟩)) hS0 ?_
                  change wpAnyH _ _ _ _ _ _ _ (Act.put _ (some 155) _) _; dsimp only [Act.put]; simp only [List.setIfInBounds_toArray, List.set_cons_succ, List.set_cons_zero]
                  refine wpAnyH_take (i := 40) (v := .bool true) rfl (by kernel_rfl) (by kernel_rfl) (by kernel_rfl) (fun _ _ _ h => h) (Yields.yieldsIf (Or.inl ⟨by rfl, fun w9 => by (go_simp; first | done | with_reducible rfl | (intro h9; exfalso; omega))⟩)) hS0 ?_
                  change wpAnyH _ _ _ _ _ _ _ (Act.put _ (some 156) _) _; dsimp only [Act.put]; simp only [List.setIfInBounds_toArray, List.set_cons_succ, List.set_cons_zero]
                  refine wpAnyH_take (i := 41) (v := .bool false) rfl (by kernel_rfl) (by kernel_rfl) (by kernel_rfl) (fun _ _ _ h => h) (Yields.yieldsIf (Or.inl ⟨by rfl, fun w9 => by (go_simp; first | done | with_reducible rfl | (intro h9; exfalso; omega))⟩)) hS0 ?_
                  change wpAnyH _ _ _ _ _ _ _ (Act.put _ (some 157) _) _; dsimp only [Act.put]; simp only [List.setIfInBounds_toArray, List.set_cons_succ, List.set_cons_zero]
                  refine wpAnyH_take (i := 42) (v := .bool false) rfl (by kernel_rfl) (by kernel_rfl) (by kernel_rfl) (fun _ _ _ h => h) (Yields.yieldsIf (Or.inl ⟨by rfl, fun w9 => by (go_simp; first | done | with_reducible rfl | (intro h9; exfalso; omega))⟩)) hS0 ?_
                  change wpAnyH _ _ _ _ _ _ _ (Act.put _ (some 158) _) _; dsimp only [Act.put]; simp only [List.setIfInBounds_toArray, List.set_cons_succ, List.set_cons_zero]
                  refine wpAnyH_take (i := 43) (v := .bool false) rfl (by kernel_rfl) (by kernel_rfl) (by kernel_rfl) (fun _ _ _ h => h) (Yields.yieldsIf (Or.inl ⟨by rfl, fun w9 => by (go_simp; first | done | with_reducible rfl | (intro h9; exfalso; omega))⟩)) hS0 ?_
                  change wpAnyH _ _ _ _ _ _ _ (Act.put _ (some 159) _) _; dsimp only [Act.put]; simp only [List.setIfInBounds_toArray, List.set_cons_succ, List.set_cons_zero]
                  refine wpAnyH_take (i := 44) (v := .bool false) rfl (by kernel_rfl) (by kernel_rfl) (by kernel_rfl) (fun _ _ _ h => h) (Yields.yieldsIf (Or.inl ⟨by rfl, fun w9 => by (go_simp; first | done | with_reducible rfl | (intro h9; exfalso; omega))⟩)) hS0 ?_
                  change wpAnyH _ _ _ _ _ _ _ (Act.put _ (some 160) _) _; dsimp only [Act.put]; simp only [List.setIfInBounds_toArray, List.set_cons_succ, List.set_cons_zero]
                  refine wpAnyH_take (i := 45) (v := .bool false) rfl (by kernel_rfl) (by kernel_rfl) (by kernel_rfl) (fun _ _ _ h => h) (Yields.yieldsIf (Or.inl ⟨by rfl, fun w9 => by (go_simp; first | done | with_reducible rfl | (intro h9; exfalso; omega))⟩)) hS0 ?_
                  change wpAnyH _ _ _ _ _ _ _ (Act.put _ (some 161) _) _; dsimp only [Act.put]; simp only [List.setIfInBounds_toArray, List.set_cons_succ, List.set_cons_zero]
                  refine wpAnyH_take (i := 46) (v := .bool false) rfl (by kernel_rfl) (by kernel_rfl) (by kernel_rfl) (fun _ _ _ h => h) (Yields.yieldsIf (Or.inl ⟨by rfl, fun w9 => by (go_simp; first | done | with_reducible rfl | (intro h9; exfalso; omega))⟩)) hS0 ?_
                  change wpAnyH _ _ _ _ _ _ _ (Act.put _ (some 162) _) _; dsimp only [Act.put]; simp only [List.setIfInBounds_toArray, List.set_cons_succ, List.set_cons_zero]
                  refine wpAnyH_take (i := 47) (v := .pointer (some ⟨g, 0, none⟩)) rfl (by kernel_rfl) (by kernel_rfl) (by kernel_rfl) (fun _ _ _ h => h) (Yields.yieldsIf (Or.inl ⟨by rfl, fun w9 => by (go_simp; first | done | with_reducible rfl | (intro h9; exfalso; omega))⟩)) hS0 ?_
                  change wpAnyH _ _ _ _ _ _ _ (Act.put _ (some 163) _) _; dsimp only [Act.put]; simp only [List.setIfInBounds_toArray, List.set_cons_succ, List.set_cons_zero]
                  refine wpAnyH_take (i := 50) (v := .int .i64 (mm : Int)) rfl (by kernel_rfl) (by kernel_rfl) (by kernel_rfl) (fun _ _ _ h => h) (Yields.yieldsIf (Or.inl ⟨by rfl, fun w9 => by (go_simp; first | done | with_reducible rfl | (intro h9; exfalso; omega))⟩)) hS0 ?_
                  change wpAnyH _ _ _ _ _ _ _ (Act.put _ (some 166) _) _; dsimp only [Act.put]; simp only [List.setIfInBounds_toArray, List.set_cons_succ, List.set_cons_zero]
                  refine wpAnyH_take (i := 51) (v := .int .i64 ((mm : Int) + 1)) rfl (by kernel_rfl) (by kernel_rfl) (by kernel_rfl) (fun _ _ _ h => h) (Yields.yieldsIf (Or.inl ⟨by rfl, fun w9 => by (go_simp; first | done | with_reducible rfl | (intro h9; exfalso; omega))⟩)) hS0 ?_
                  change wpAnyH _ _ _ _ _ _ _ (Act.put _ (some 167) _) _; dsimp only [Act.put]; simp only [List.setIfInBounds_toArray, List.set_cons_succ, List.set_cons_zero]
                  refine wpAnyH_ready (rs := [48]) (by kernel_rfl) (by simp) ?_
                  refine AllReadyH.cons rfl (fun K hK => ?_) (fun j hj => by cases hj)
                  go_simp
                  refine (CT2 _ hS0).mono ?_
                  rintro e w20 ⟨v20, rfl, hown20, hb20⟩
                  obtain ⟨a20, c20, rfl, _⟩ := own_sliceN hown20
                  have hS1 := hS0.trans (hb20.mono hS0.size)
                  refine (Shut.out hK) _ _ hS1 (fun _ => ?_)
                  clear hK K
                  refine wpAnyH_take (i := 49) (v := .int .i64 (mm : Int)) rfl (by kernel_rfl) (by kernel_rfl) (by kernel_rfl) (fun _ _ _ h => h) (Yields.yieldsIf (Or.inl ⟨by rfl, fun w9 => by (go_simp; first | done | with_reducible rfl | (intro h9; exfalso; omega))⟩)) hS1 ?_
                  change wpAnyH _ _ _ _ _ _ _ (Act.put _ (some 165) _) _; dsimp only [Act.put]; simp only [List.setIfInBounds_toArray, List.set_cons_succ, List.set_cons_zero]
                  refine wpAnyH_take (i := 52) (v := .bool false) rfl (by kernel_rfl) (by kernel_rfl) (by kernel_rfl) (fun _ _ _ h => h) (Yields.yieldsIf (Or.inl ⟨by rfl, fun w9 => by (go_simp; first | done | with_reducible rfl | (intro h9; exfalso; omega))⟩)) hS1 ?_
                  change wpAnyH _ _ _ _ _ _ _ (Act.put _ (some 168) _) _; dsimp only [Act.put]; simp only [List.setIfInBounds_toArray, List.set_cons_succ, List.set_cons_zero]
                  refine wpAnyH_take (i := 53) (v := .bool false) rfl (by kernel_rfl) (by kernel_rfl) (by kernel_rfl) (fun _ _ _ h => h) (Yields.yieldsIf (Or.inl ⟨by rfl, fun w9 => by (go_simp; first | done | with_reducible rfl | (intro h9; exfalso; omega))⟩)) hS1 ?_
                  change wpAnyH _ _ _ _ _ _ _ (Act.put _ (some 169) _) _; dsimp only [Act.put]; simp only [List.setIfInBounds_toArray, List.set_cons_succ, List.set_cons_zero]
                  refine wpAnyH_take (i := 54) (v := .bool false) rfl (by kernel_rfl) (by kernel_rfl) (by kernel_rfl) (fun _ _ _ h => h) (Yields.yieldsIf (Or.inl ⟨by rfl, fun w9 => by (go_simp; first | done | with_reducible rfl | (intro h9; exfalso; omega))⟩)) hS1 ?_
                  change wpAnyH _ _ _ _ _ _ _ (Act.put _ (some 170) _) _; dsimp only [Act.put]; simp only [List.setIfInBounds_toArray, List.set_cons_succ, List.set_cons_zero]
                  refine wpAnyH_take (i := 55) (v := .bool false) rfl (by kernel_rfl) (by kernel_rfl) (by kernel_rfl) (fun _ _ _ h => h) (Yields.yieldsIf (Or.inl ⟨by rfl, fun w9 => by (go_simp; first | done | with_reducible rfl | (intro h9; exfalso; omega))⟩)) hS1 ?_
                  change wpAnyH _ _ _ _ _ _ _ (Act.put _ (some 171) _) _; dsimp only [Act.put]; simp only [List.setIfInBounds_toArray, List.set_cons_succ, List.set_cons_zero]
                  refine wpAnyH_take (i := 56) (v := .bool false) rfl (by kernel_rfl) (by kernel_rfl) (by kernel_rfl) (fun _ _ _ h => h) (Yields.yieldsIf (Or.inl ⟨by rfl, fun w9 => by (go_simp; first | done | with_reducible rfl | (intro h9; exfalso; omega))⟩)) hS1 ?_
                  change wpAnyH _ _ _ _ _ _ _ (Act.put _ (some 172) _) _; dsimp only [Act.put]; simp only [List.setIfInBounds_toArray, List.set_cons_succ, List.set_cons_zero]
                  refine wpAnyH_take (i := 57) (v := .bool true) rfl (by kernel_rfl) (by kernel_rfl) (by kernel_rfl) (fun _ _ _ h => h) (Yields.yieldsIf (Or.inl ⟨by rfl, fun w9 => by (go_simp; first | done | with_reducible rfl | (intro h9; exfalso; omega))⟩)) hS1 ?_
                  change wpAnyH _ _ _ _ _ _ _ (Act.put _ (some 173) _) _; dsimp only [Act.put]; simp only [List.setIfInBounds_toArray, List.set_cons_succ, List.set_cons_zero]
                  refine wpAnyH_take (i := 58) (v := .bool true) rfl (by kernel_rfl) (by kernel_rfl) (by kernel_rfl) (fun _ _ _ h => h) (Yields.yieldsIf (Or.inl ⟨by rfl, fun w9 => by (go_simp; first | done | with_reducible rfl | (intro h9; exfalso; omega))⟩)) hS1 ?_
                  change wpAnyH _ _ _ _ _ _ _ (Act.put _ (some 174) _) _; dsimp only [Act.put]; simp only [List.setIfInBounds_toArray, List.set_cons_succ, List.set_cons_zero]
                  refine wpAnyH_take (i := 59) (v := .pointer (some ⟨g, 0, none⟩)) rfl (by kernel_rfl) (by kernel_rfl) (by kernel_rfl) (fun _ _ _ h => h) (Yields.yieldsIf (Or.inl ⟨by rfl, fun w9 => by (go_simp; first | done | with_reducible rfl | (intro h9; exfalso; omega))⟩)) hS1 ?_
                  change wpAnyH _ _ _ _ _ _ _ (Act.put _ (some 175) _) _; dsimp only [Act.put]; simp only [List.setIfInBounds_toArray, List.set_cons_succ, List.set_cons_zero]
                  refine wpAnyH_take (i := 62) (v := .int .i64 (mm : Int)) rfl (by kernel_rfl) (by kernel_rfl) (by kernel_rfl) (fun _ _ _ h => h) (Yields.yieldsIf (Or.inl ⟨by rfl, fun w9 => by (go_simp; first | done | with_reducible rfl | (intro h9; exfalso; omega))⟩)) hS1 ?_
                  change wpAnyH _ _ _ _ _ _ _ (Act.put _ (some 178) _) _; dsimp only [Act.put]; simp only [List.setIfInBounds_toArray, List.set_cons_succ, List.set_cons_zero]
                  refine wpAnyH_ready (rs := [60]) (by kernel_rfl) (by simp) ?_
                  refine AllReadyH.cons rfl (fun K hK => ?_) (fun j hj => by cases hj)
                  go_simp
                  refine (CT2 _ hS1).mono ?_
                  rintro e w21 ⟨v21, rfl, hown21, hb21⟩
                  obtain ⟨a21, c21, rfl, _⟩ := own_sliceN hown21
                  have hS2 := hS1.trans (hb21.mono hS1.size)
                  refine (Shut.out hK) _ _ hS2 (fun _ => ?_)
                  clear hK K
                  refine wpAnyH_take (i := 61) (v := .int .i64 (mm : Int)) rfl (by kernel_rfl) (by kernel_rfl) (by kernel_rfl) (fun _ _ _ h => h) (Yields.yieldsIf (Or.inl ⟨by rfl, fun w9 => by (go_simp; first | done | with_reducible rfl | (intro h9; exfalso; omega))⟩)) hS2 ?_
                  change wpAnyH _ _ _ _ _ _ _ (Act.put _ (some 177) _) _; dsimp only [Act.put]; simp only [List.setIfInBounds_toArray, List.set_cons_succ, List.set_cons_zero]
                  refine wpAnyH_take (i := 63) (v := .bool false) rfl (by kernel_rfl) (by kernel_rfl) (by kernel_rfl) (fun _ _ _ h => h) (Yields.yieldsIf (Or.inl ⟨by rfl, fun w9 => by (go_simp; first | done | with_reducible rfl | (intro h9; exfalso; omega))⟩)) hS2 ?_
                  change wpAnyH _ _ _ _ _ _ _ (Act.put _ (some 179) _) _; dsimp only [Act.put]; simp only [List.setIfInBounds_toArray, List.set_cons_succ, List.set_cons_zero]
                  refine wpAnyH_take (i := 64) (v := .bool false) rfl (by kernel_rfl) (by kernel_rfl) (by kernel_rfl) (fun _ _ _ h => h) (Yields.yieldsIf (Or.inl ⟨by rfl, fun w9 => by (go_simp; first | done | with_reducible rfl | (intro h9; exfalso; omega))⟩)) hS2 ?_
                  change wpAnyH _ _ _ _ _ _ _ (Act.put _ (some 180) _) _; dsimp only [Act.put]; simp only [List.setIfInBounds_toArray, List.set_cons_succ, List.set_cons_zero]
                  refine wpAnyH_take (i := 65) (v := .bool false) rfl (by kernel_rfl) (by kernel_rfl) (by kernel_rfl) (fun _ _ _ h => h) (Yields.yieldsIf (Or.inl ⟨by rfl, fun w9 => by (go_simp; first | done | with_reducible rfl | (intro h9; exfalso; omega))⟩)) hS2 ?_
                  change wpAnyH _ _ _ _ _ _ _ (Act.put _ (some 181) _) _; dsimp only [Act.put]; simp only [List.setIfInBounds_toArray, List.set_cons_succ, List.set_cons_zero]
                  refine wpAnyH_done (by kernel_rfl) ?_ _
                  go_wp2
                  go_roundw
                  case rel => exact ⟨i + 1, by omega, by go_num, ⟨_, HSR.out.kept hS2⟩, hbelr.trans (hS2.mono hbelr.size)⟩
                  case measure => (simp [intOf]) <;> omega
            · subst t2 t3 t1
              have g3 : r = true := by rw [← HIN.out]; exact decide_eq_true t5
              obtain rfl : kb2 = true := by rw [← HKB2.out, t4, knownB_ins]; simp
              obtain rfl : kv2 = x := by rw [← HKV2.out, t4, knownV_same HRS.out]
              subst g3
              have hl9 : mm = ml + 1 := by rw [← hmm, t4, insH_len HRS.out, HKB.out]; simp [HML.out]
              have l2 : ((mm : Int) == (ml : Int) + 1) = true := by rw [beq_iff_eq]; omega
              rw [decide_eq_true (rfl : kv2 = kv2)] at hnx
              clear hnn HTC t4 t5 t6 hl9 hmm
              as_aux_lemma =>
                go_upto_region 23 with fail
                simp only [List.append_eq, List.cons_append, List.nil_append]
                refine wp_region_held_drew (S := fun W => Below wr.heap.size wr W) (by kernel_rfl) ((Below.refl _ _).drew) (fun hS0 => ?_)
                refine wpAnyH_take (i := 0) (v := .bool false) rfl (by kernel_rfl) (by kernel_rfl) (by kernel_rfl) (fun _ _ _ h => h) (Yields.yieldsIf (Or.inl ⟨by rfl, fun w9 => by (go_simp; first | done | with_reducible rfl | (intro h9; exfalso; omega))⟩)) hS0 ?_
                change wpAnyH _ _ _ _ _ _ _ (Act.put _ (some 116) _) _; dsimp only [Act.put]; simp only [List.setIfInBounds_toArray, List.set_cons_succ, List.set_cons_zero]
                refine wpAnyH_take (i := 1) (v := .bool false) rfl (by kernel_rfl) (by kernel_rfl) (by kernel_rfl) (fun _ _ _ h => h) (Yields.yieldsIf (Or.inl ⟨by rfl, fun w9 => by (go_simp; first | done | with_reducible rfl | (intro h9; exfalso; omega))⟩)) hS0 ?_
                change wpAnyH _ _ _ _ _ _ _ (Act.put _ (some 117) _) _; dsimp only [Act.put]; simp only [List.setIfInBounds_toArray, List.set_cons_succ, List.set_cons_zero]
                refine wpAnyH_take (i := 2) (v := undef) rfl (by kernel_rfl) (by kernel_rfl) (by kernel_rfl) (fun _ _ _ h => h) (Or.inr ⟨by rfl, rfl⟩) hS0 ?_
                change wpAnyH _ _ _ _ _ _ _ (Act.put _ (some 118) _) _; dsimp only [Act.put]; simp only [List.setIfInBounds_toArray, List.set_cons_succ, List.set_cons_zero]
                refine wpAnyH_take (i := 3) (v := undef) rfl (by kernel_rfl) (by kernel_rfl) (by kernel_rfl) (fun _ _ _ h => h) (Or.inr ⟨by rfl, rfl⟩) hS0 ?_
                change wpAnyH _ _ _ _ _ _ _ (Act.put _ (some 119) _) _; dsimp only [Act.put]; simp only [List.setIfInBounds_toArray, List.set_cons_succ, List.set_cons_zero]
                refine wpAnyH_take (i := 4) (v := undef) rfl (by kernel_rfl) (by kernel_rfl) (by kernel_rfl) (fun _ _ _ h => h) (Or.inr ⟨by rfl, rfl⟩) hS0 ?_
                change wpAnyH _ _ _ _ _ _ _ (Act.put _ (some 120) _) _; dsimp only [Act.put]; simp only [List.setIfInBounds_toArray, List.set_cons_succ, List.set_cons_zero]
                refine wpAnyH_take (i := 5) (v := undef) rfl (by kernel_rfl) (by kernel_rfl) (by kernel_rfl) (fun _ _ _ h => h) (Or.inr ⟨by rfl, rfl⟩) hS0 ?_
                change wpAnyH _ _ _ _ _ _ _ (Act.put _ (some 121) _) _; dsimp only [Act.put]; simp only [List.setIfInBounds_toArray, List.set_cons_succ, List.set_cons_zero]
                refine wpAnyH_take (i := 6) (v := undef) rfl (by kernel_rfl) (by kernel_rfl) (by kernel_rfl) (fun _ _ _ h => h) (Or.inr ⟨by rfl, rfl⟩) hS0 ?_
                change wpAnyH _ _ _ _ _ _ _ (Act.put _ (some 122) _) _; dsimp only [Act.put]; simp only [List.setIfInBounds_toArray, List.set_cons_succ, List.set_cons_zero]
                refine wpAnyH_take (i := 7) (v := undef) rfl (by kernel_rfl) (by kernel_rfl) (by kernel_rfl) (fun _ _ _ h => h) (Or.inr ⟨by rfl, rfl⟩) hS0 ?_
                change wpAnyH _ _ _ _ _ _ _ (Act.put _ (some 123) _) _; dsimp only [Act.put]; simp only [List.setIfInBounds_toArray, List.set_cons_succ, List.set_cons_zero]
                refine wpAnyH_take (i := 8) (v := undef) rfl (by kernel_rfl) (by kernel_rfl) (by kernel_rfl) (fun _ _ _ h => h) (Or.inr ⟨by rfl, rfl⟩) hS0 ?_
                change wpAnyH _ _ _ _ _ _ _ (Act.put _ (some 124) _) _; dsimp only [Act.put]; simp only [List.setIfInBounds_toArray, List.set_cons_succ, List.set_cons_zero]
                refine wpAnyH_take (i := 9) (v := undef) rfl (by kernel_rfl) (by kernel_rfl) (by kernel_rfl) (fun _ _ _ h => h) (Or.inr ⟨by rfl, rfl⟩) hS0 ?_
                change wpAnyH _ _ _ _ _ _ _ (Act.put _ (some 125) _) _; dsimp only [Act.put]; simp only [List.setIfInBounds_toArray, List.set_cons_succ, List.set_cons_zero]
                refine wpAnyH_take (i := 10) (v := undef) rfl (by kernel_rfl) (by kernel_rfl) (by kernel_rfl) (fun _ _ _ h => h) (Or.inr ⟨by rfl, rfl⟩) hS0 ?_
                change wpAnyH _ _ _ _ _ _ _ (Act.put _ (some 126) _) _; dsimp only [Act.put]; simp only [List.setIfInBounds_toArray, List.set_cons_succ, List.set_cons_zero]
                refine wpAnyH_take (i := 11) (v := undef) rfl (by kernel_rfl) (by kernel_rfl) (by kernel_rfl) (fun _ _ _ h => h) (Or.inr ⟨by rfl, rfl⟩) hS0 ?_
                change wpAnyH _ _ _ _ _ _ _ (Act.put _ (some 127) _) _; dsimp only [Act.put]; simp only [List.setIfInBounds_toArray, List.set_cons_succ, List.set_cons_zero]
                refine wpAnyH_take (i := 12) (v := .bool false) rfl (by kernel_rfl) (by kernel_rfl) (by kernel_rfl) (fun _ _ _ h => h) (Yields.yieldsIf (Or.inl ⟨by rfl, fun w9 => by (go_simp; first | done | with_reducible rfl | (intro h9; exfalso; omega))⟩)) hS0 ?_
                change wpAnyH _ _ _ _ _ _ _ (Act.put _ (some 128) _) _; dsimp only [Act.put]; simp only [List.setIfInBounds_toArray, List.set_cons_succ, List.set_cons_zero]
                refine wpAnyH_take (i := 13) (v := .bool false) rfl (by kernel_rfl) (by kernel_rfl) (by kernel_rfl) (fun _ _ _ h => h) (Yields.yieldsIf (Or.inl ⟨by rfl, fun w9 => by (go_simp; first | done | with_reducible rfl | (intro h9; exfalso; omega))⟩)) hS0 ?_
                change wpAnyH _ _ _ _ _ _ _ (Act.put _ (some 129) _) _; dsimp only [Act.put]; simp only [List.setIfInBounds_toArray, List.set_cons_succ, List.set_cons_zero]
                refine wpAnyH_take (i := 14) (v := .int .i64 0) rfl (by kernel_rfl) (by kernel_rfl) (by kernel_rfl) (fun _ _ _ h => h) (Yields.yieldsIf (Or.inl ⟨by rfl, fun w9 => by (go_simp; first | done | with_reducible rfl | (intro h9; exfalso; omega))⟩)) hS0 ?_
                change wpAnyH _ _ _ _ _ _ _ (Act.put _ (some 130) _) _; dsimp only [Act.put]; simp only [List.setIfInBounds_toArray, List.set_cons_succ, List.set_cons_zero]
                refine wpAnyH_take (i := 15) (v := .bool true) rfl (by kernel_rfl) (by kernel_rfl) (by kernel_rfl) (fun _ _ _ h => h) (Yields.yieldsIf (Or.inl ⟨by rfl, fun w9 => by (go_simp; first | done | with_reducible rfl | (intro h9; exfalso; omega))⟩)) hS0 ?_
                change wpAnyH _ _ _ _ _ _ _ (Act.put _ (some 131) _) _; dsimp only [Act.put]; simp only [List.setIfInBounds_toArray, List.set_cons_succ, List.set_cons_zero]
                refine wpAnyH_take (i := 16) (v := .bool true) rfl (by kernel_rfl) (by kernel_rfl) (by kernel_rfl) (fun _ _ _ h => h) (Yields.yieldsIf (Or.inl ⟨by rfl, fun w9 => by (go_simp; first | done | with_reducible rfl | (intro h9; exfalso; omega))⟩)) hS0 ?_
                change wpAnyH _ _ _ _ _ _ _ (Act.put _ (some 132) _) _; dsimp only [Act.put]; simp only [List.setIfInBounds_toArray, List.set_cons_succ, List.set_cons_zero]
                refine wpAnyH_take (i := 17) (v := .bool true) rfl (by kernel_rfl) (by kernel_rfl) (by kernel_rfl) (fun _ _ _ h => h) (Yields.yieldsIf (Or.inl ⟨by rfl, fun w9 => by (go_simp; first | done | with_reducible rfl | (intro h9; exfalso; omega))⟩)) hS0 ?_
                change wpAnyH _ _ _ _ _ _ _ (Act.put _ (some 133) _) _; dsimp only [Act.put]; simp only [List.setIfInBounds_toArray, List.set_cons_succ, List.set_cons_zero]
                refine wpAnyH_take (i := 18) (v := .bool false) rfl (by kernel_rfl) (by kernel_rfl) (by kernel_rfl) (fun _ _ _ h => h) (Yields.yieldsIf (Or.inl ⟨by rfl, fun w9 => by (go_simp; first | done | with_reducible rfl | (intro h9; exfalso; omega))⟩)) hS0 ?_
                change wpAnyH _ _ _ _ _ _ _ (Act.put _ (some 134) _) _; dsimp only [Act.put]; simp only [List.setIfInBounds_toArray, List.set_cons_succ, List.set_cons_zero]
                refine wpAnyH_take (i := 19) (v := .bool false) rfl (by kernel_rfl) (by kernel_rfl) (by kernel_rfl) (fun _ _ _ h => h) (Yields.yieldsIf (Or.inl ⟨by rfl, fun w9 => by (go_simp; first | done | with_reducible rfl | (intro h9; exfalso; omega))⟩)) hS0 ?_
                change wpAnyH _ _ _ _ _ _ _ (Act.put _ (some 135) _) _; dsimp only [Act.put]; simp only [List.setIfInBounds_toArray, List.set_cons_succ, List.set_cons_zero]
                refine wpAnyH_take (i := 20) (v := .bool true) rfl (by kernel_rfl) (by kernel_rfl) (by kernel_rfl) (fun _ _ _ h => h) (Yields.yieldsIf (Or.inl ⟨by rfl, fun w9 => by (go_simp; first | done | with_reducible rfl | (intro h9; exfalso; omega))⟩)) hS0 ?_
                change wpAnyH _ _ _ _ _ _ _ (Act.put _ (some 136) _) _; dsimp only [Act.put]; simp only [List.setIfInBounds_toArray, List.set_cons_succ, List.set_cons_zero]
                refine wpAnyH_take (i := 21) (v := .bool false) rfl (by kernel_rfl) (by kernel_rfl) (by kernel_rfl) (fun _ _ _ h => h) (Yields.yieldsIf (Or.inl ⟨by rfl, fun w9 => by (go_simp; first | done | with_reducible rfl | (intro h9; exfalso; omega))⟩)) hS0 ?_
                change wpAnyH _ _ _ _ _ _ _ (Act.put _ (some 137) _) _; dsimp only [Act.put]; simp only [List.setIfInBounds_toArray, List.set_cons_succ, List.set_cons_zero]
                refine wpAnyH_take (i := 22) (v := .bool false) rfl (by kernel_rfl) (by kernel_rfl) (by kernel_rfl) (fun _ _ _ h => h) (Yields.yieldsIf (Or.inl ⟨by rfl, fun w9 => by (go_simp; first | done | with_reducible rfl | (intro h9; exfalso; omega))⟩)) hS0 ?_
                change wpAnyH _ _ _ _ _ _ _ (Act.put _ (some 138) _) _; dsimp only [Act.put]; simp only [List.setIfInBounds_toArray, List.set_cons_succ, List.set_cons_zero]
                refine wpAnyH_take (i := 23) (v := .bool false) rfl (by kernel_rfl) (by kernel_rfl) (by kernel_rfl) (fun _ _ _ h => h) (Yields.yieldsIf (Or.inl ⟨by rfl, fun w9 => by (go_simp; first | done | with_reducible rfl | (intro h9; exfalso; omega))⟩)) hS0 ?_
                change wpAnyH _ _ _ _ _ _ _ (Act.put _ (some 139) _) _; dsimp only [Act.put]; simp only [List.setIfInBounds_toArray, List.set_cons_succ, List.set_cons_zero]
                refine wpAnyH_take (i := 24) (v := .agg (kv2).row) rfl (by kernel_rfl) (by kernel_rfl) (by kernel_rfl) (fun _ _ _ h => h) (Or.inl ⟨by rfl, fun w9 hS9 => exec_loadHd (.tmp 15) rfl w7.heap.size (0) (by first | rfl | simp [Act.eval, Act.put]) kv2 (hd_range (cells_of hzr hS9 (row_lt hzr)))⟩) hS0 ?_
                change wpAnyH _ _ _ _ _ _ _ (Act.put _ (some 140) _) _; dsimp only [Act.put]; simp only [List.setIfInBounds_toArray, List.set_cons_succ, List.set_cons_zero]
                refine wpAnyH_take (i := 25) (v := .slice (some ⟨b1, o1, none⟩) n0 c0) rfl (by kernel_rfl) (by kernel_rfl) (by kernel_rfl) (fun _ _ _ h => h) (Yields.yieldsIf (Or.inl ⟨by rfl, fun w9 => by (go_simp; first | done | with_reducible rfl | (intro h9; exfalso; omega))⟩)) hS0 ?_
                change wpAnyH _ _ _ _ _ _ _ (Act.put _ (some 141) _) _; dsimp only [Act.put]; simp only [List.setIfInBounds_toArray, List.set_cons_succ, List.set_cons_zero]
                refine wpAnyH_take (i := 26) (v := .int .i64 (i : Int)) rfl (by kernel_rfl) (by kernel_rfl) (by kernel_rfl) (fun _ _ _ h => h) (Yields.yieldsIf (Or.inl ⟨by rfl, fun w9 => by (go_simp; first | done | with_reducible rfl | (intro h9; exfalso; omega))⟩)) hS0 ?_
                change wpAnyH _ _ _ _ _ _ _ (Act.put _ (some 142) _) _; dsimp only [Act.put]; simp only [List.setIfInBounds_toArray, List.set_cons_succ, List.set_cons_zero]
                refine wpAnyH_take (i := 27) (v := .pointer (some ⟨b1, o1 + i * 34, none⟩)) rfl (by kernel_rfl) (by kernel_rfl) (by kernel_rfl) (fun _ _ _ h => h) (Yields.yieldsIf (Or.inl ⟨by rfl, fun w9 => by (go_simp; first | done | with_reducible rfl | (intro h9; exfalso; omega))⟩)) hS0 ?_
                change wpAnyH _ _ _ _ _ _ _ (Act.put _ (some 143) _) _; dsimp only [Act.put]; simp only [List.setIfInBounds_toArray, List.set_cons_succ, List.set_cons_zero]
                refine wpAnyH_take (i := 28) (v := .agg (kv2).row) rfl (by kernel_rfl) (by kernel_rfl) (by kernel_rfl) (fun _ _ _ h => h) (Or.inl ⟨by rfl, fun w9 hS9 => exec_loadHd (.tmp 143) rfl b1 (o1 + i * 34) (by first | rfl | simp [Act.eval, Act.put]) kv2 (range_belowT (hbelr.trans (hS9.mono hbelr.size)) hbx hg1)⟩) hS0 ?_
                change wpAnyH _ _ _ _ _ _ _ (Act.put _ (some 144) _) _; dsimp only [Act.put]; simp only [List.setIfInBounds_toArray, List.set_cons_succ, List.set_cons_zero]
                refine wpAnyH_take (i := 29) (v := .bool false) rfl (by kernel_rfl) (by kernel_rfl) (by kernel_rfl) (fun _ _ _ h => h) (Yields.yieldsIf (Or.inl ⟨by rfl, fun w9 => by (go_simp; first | done | with_reducible rfl | (intro h9; exfalso; omega))⟩)) hS0 ?_
                change wpAnyH _ _ _ _ _ _ _ (Act.put _ (some 145) _) _; dsimp only [Act.put]; simp only [List.setIfInBounds_toArray, List.set_cons_succ, List.set_cons_zero]
                refine wpAnyH_take (i := 30) (v := .bool false) rfl (by kernel_rfl) (by kernel_rfl) (by kernel_rfl) (fun _ _ _ h => h) (Yields.yieldsIf (Or.inl ⟨by rfl, fun w9 => by (go_simp; first | done | with_reducible rfl | (intro h9; exfalso; omega))⟩)) hS0 ?_
                change wpAnyH _ _ _ _ _ _ _ (Act.put _ (some 146) _) _; dsimp only [Act.put]; simp only [List.setIfInBounds_toArray, List.set_cons_succ, List.set_cons_zero]
                refine wpAnyH_take (i := 31) (v := .bool false) rfl (by kernel_rfl) (by kernel_rfl) (by kernel_rfl) (fun _ _ _ h => h) (Yields.yieldsIf (Or.inl ⟨by rfl, fun w9 => by (go_simp; first | done | with_reducible rfl | (intro h9; exfalso; omega))⟩)) hS0 ?_
                change wpAnyH _ _ _ _ _ _ _ (Act.put _ (some 147) _) _; dsimp only [Act.put]; simp only [List.setIfInBounds_toArray, List.set_cons_succ, List.set_cons_zero]
                refine wpAnyH_take (i := 32) (v := .bool false) rfl (by kernel_rfl) (by kernel_rfl) (by kernel_rfl) (fun _ _ _ h => h) (Yields.yieldsIf (Or.inl ⟨by rfl, fun w9 => by (go_simp; first | done | with_reducible rfl | (intro h9; exfalso; omega))⟩)) hS0 ?_
                change wpAnyH _ _ _ _ _ _ _ (Act.put _ (some 148) _) _; dsimp only [Act.put]; simp only [List.setIfInBounds_toArray, List.set_cons_succ, List.set_cons_zero]
                refine wpAnyH_take (i := 33) (v := .bool false) rfl (by kernel_rfl) (by kernel_rfl) (by kernel_rfl) (fun _ _ _ h => h) (Yields.yieldsIf (Or.inl ⟨by rfl, fun w9 => by (go_simp; first | done | with_reducible rfl | (intro h9; exfalso; omega))⟩)) hS0 ?_
                change wpAnyH _ _ _ _ _ _ _ (Act.put _ (some 149) _) _; dsimp only [Act.put]; simp only [List.setIfInBounds_toArray, List.set_cons_succ, List.set_cons_zero]
                refine wpAnyH_take (i := 34) (v := .int .i64 0) rfl (by kernel_rfl) (by kernel_rfl) (by kernel_rfl) (fun _ _ _ h => h) (Yields.yieldsIf (Or.inl ⟨by rfl, fun w9 => by (go_simp; first | done | with_reducible rfl | (intro h9; exfalso; omega))⟩)) hS0 ?_
                change wpAnyH _ _ _ _ _ _ _ (Act.put _ (some 150) _) _; dsimp only [Act.put]; simp only [List.setIfInBounds_toArray, List.set_cons_succ, List.set_cons_zero]
                refine wpAnyH_take (i := 35) (v := .bool false) rfl (by kernel_rfl) (by kernel_rfl) (by kernel_rfl) (fun _ _ _ h => h) (Yields.yieldsIf (Or.inl ⟨by rfl, fun w9 => by (go_simp; first | done | with_reducible rfl | (intro h9; exfalso; omega))⟩)) hS0 ?_
                change wpAnyH _ _ _ _ _ _ _ (Act.put _ (some 151) _) _; dsimp only [Act.put]; simp only [List.setIfInBounds_toArray, List.set_cons_succ, List.set_cons_zero]
                refine wpAnyH_take (i := 36) (v := .bool false) rfl (by kernel_rfl) (by kernel_rfl) (by kernel_rfl) (fun _ _ _ h => h) (Yields.yieldsIf (Or.inl ⟨by rfl, fun w9 => by (go_simp; first | done | with_reducible rfl | (intro h9; exfalso; omega))⟩)) hS0 ?_
                change wpAnyH _ _ _ _ _ _ _ (Act.put _ (some 152) _) _; dsimp only [Act.put]; simp only [List.setIfInBounds_toArray, List.set_cons_succ, List.set_cons_zero]
                refine wpAnyH_take (i := 37) (v := undef) rfl (by kernel_rfl) (by kernel_rfl) (by kernel_rfl) (fun _ _ _ h => h) (Or.inr ⟨by rfl, rfl⟩) hS0 ?_
                change wpAnyH _ _ _ _ _ _ _ (Act.put _ (some 153) _) _; dsimp only [Act.put]; simp only [List.setIfInBounds_toArray, List.set_cons_succ, List.set_cons_zero]
                refine wpAnyH_take (i := 38) (v := undef) rfl (by kernel_rfl) (by kernel_rfl) (by kernel_rfl) (fun _ _ _ h => h) (Or.inr ⟨by rfl, rfl⟩) hS0 ?_
                change wpAnyH _ _ _ _ _ _ _ (Act.put _ (some 154) _) _; dsimp only [Act.put]; simp only [List.setIfInBounds_toArray, List.set_cons_succ, List.set_cons_zero]
                refine wpAnyH_take (i := 39) (v := undef) rfl (by kernel_rfl) (by kernel_rfl) (by kernel_rfl) (fun _ _ _ h => h) (Or.inr ⟨by rfl, rfl⟩) hS0 ?_
                change wpAnyH _ _ _ _ _ _ _ (Act.put _ (some 155) _) _; dsimp only [Act.put]; simp only [List.setIfInBounds_toArray, List.set_cons_succ, List.set_cons_zero]
                refine wpAnyH_take (i := 40) (v := undef) rfl (by kernel_rfl) (by kernel_rfl) (by kernel_rfl) (fun _ _ _ h => h) (Or.inr ⟨by rfl, rfl⟩) hS0 ?_
                change wpAnyH _ _ _ _ _ _ _ (Act.put _ (some 156) _) _; dsimp only [Act.put]; simp only [List.setIfInBounds_toArray, List.set_cons_succ, List.set_cons_zero]
                refine wpAnyH_take (i := 41) (v := undef) rfl (by kernel_rfl) (by kernel_rfl) (by kernel_rfl) (fun _ _ _ h => h) (Or.inr ⟨by rfl, rfl⟩) hS0 ?_
                change wpAnyH _ _ _ _ _ _ _ (Act.put _ (some 157) _) _; dsimp only [Act.put]; simp only [List.setIfInBounds_toArray, List.set_cons_succ, List.set_cons_zero]
                refine wpAnyH_take (i := 42) (v := undef) rfl (by kernel_rfl) (by kernel_rfl) (by kernel_rfl) (fun _ _ _ h => h) (Or.inr ⟨by rfl, rfl⟩) hS0 ?_
                change wpAnyH _ _ _ _ _ _ _ (Act.put _ (some 158) _) _; dsimp only [Act.put]; simp only [List.setIfInBounds_toArray, List.set_cons_succ, List.set_cons_zero]
                refine wpAnyH_take (i := 43) (v := .bool false) rfl (by kernel_rfl) (by kernel_rfl) (by kernel_rfl) (fun _ _ _ h => h) (Yields.yieldsIf (Or.inl ⟨by rfl, fun w9 => by (go_simp; first | done | with_reducible rfl | (intro h9; exfalso; omega))⟩)) hS0 ?_
                change wpAnyH _ _ _ _ _ _ _ (Act.put _ (some 159) _) _; dsimp only [Act.put]; simp only [List.setIfInBounds_toArray, List.set_cons_succ, List.set_cons_zero]
                refine wpAnyH_take (i := 44) (v := .bool false) rfl (by kernel_rfl) (by kernel_rfl) (by kernel_rfl) (fun _ _ _ h => h) (Yields.yieldsIf (Or.inl ⟨by rfl, fun w9 => by (go_simp; first | done | with_reducible rfl | (intro h9; exfalso; omega))⟩)) hS0 ?_
                change wpAnyH _ _ _ _ _ _ _ (Act.put _ (some 160) _) _; dsimp only [Act.put]; simp only [List.setIfInBounds_toArray, List.set_cons_succ, List.set_cons_zero]
                refine wpAnyH_take (i := 45) (v := .bool false) rfl (by kernel_rfl) (by kernel_rfl) (by kernel_rfl) (fun _ _ _ h => h) (Yields.yieldsIf (Or.inl ⟨by rfl, fun w9 => by (go_simp; first | done | with_reducible rfl | (intro h9; exfalso; omega))⟩)) hS0 ?_
                change wpAnyH _ _ _ _ _ _ _ (Act.put _ (some 161) _) _; dsimp only [Act.put]; simp only [List.setIfInBounds_toArray, List.set_cons_succ, List.set_cons_zero]
                refine wpAnyH_take (i := 46) (v := .bool true) rfl (by kernel_rfl) (by kernel_rfl) (by kernel_rfl) (fun _ _ _ h => h) (Yields.yieldsIf (Or.inl ⟨by rfl, fun w9 => by (go_simp; first | done | with_reducible rfl | (intro h9; exfalso; omega))⟩)) hS0 ?_
                change wpAnyH _ _ _ _ _ _ _ (Act.put _ (some 162) _) _; dsimp only [Act.put]; simp only [List.setIfInBounds_toArray, List.set_cons_succ, List.set_cons_zero]
                refine wpAnyH_take (i := 47) (v := .pointer (some ⟨g, 0, none⟩)) rfl (by kernel_rfl) (by kernel_rfl) (by kernel_rfl) (fun _ _ _ h => h) (Yields.yieldsIf (Or.inl ⟨by rfl, fun w9 => by (go_simp; first | done | with_reducible rfl | (intro h9; exfalso; omega))⟩)) hS0 ?_
                change wpAnyH _ _ _ _ _ _ _ (Act.put _ (some 163) _) _; dsimp only [Act.put]; simp only [List.setIfInBounds_toArray, List.set_cons_succ, List.set_cons_zero]
                refine wpAnyH_take (i := 50) (v := .int .i64 (ml : Int)) rfl (by kernel_rfl) (by kernel_rfl) (by kernel_rfl) (fun _ _ _ h => h) (Yields.yieldsIf (Or.inl ⟨by rfl, fun w9 => by (go_simp; first | done | with_reducible rfl | (intro h9; exfalso; omega))⟩)) hS0 ?_
                change wpAnyH _ _ _ _ _ _ _ (Act.put _ (some 166) _) _; dsimp only [Act.put]; simp only [List.setIfInBounds_toArray, List.set_cons_succ, List.set_cons_zero]
                refine wpAnyH_take (i := 51) (v := .int .i64 ((ml : Int) + 1)) rfl (by kernel_rfl) (by kernel_rfl) (by kernel_rfl) (fun _ _ _ h => h) (Yields.yieldsIf (Or.inl ⟨by rfl, fun w9 => by (go_simp; first | done | with_reducible rfl | (intro h9; exfalso; omega))⟩)) hS0 ?_
                change wpAnyH _ _ _ _ _ _ _ (Act.put _ (some 167) _) _; dsimp only [Act.put]; simp only [List.setIfInBounds_toArray, List.set_cons_succ, List.set_cons_zero]
                refine wpAnyH_ready (rs := [48]) (by kernel_rfl) (by simp) ?_
                refine AllReadyH.cons rfl (fun K hK => ?_) (fun j hj => by cases hj)
                go_simp
                refine (CT2 _ hS0).mono ?_
                rintro e w20 ⟨v20, rfl, hown20, hb20⟩
                obtain ⟨a20, c20, rfl, _⟩ := own_sliceN hown20
                have hS1 := hS0.trans (hb20.mono hS0.size)
                refine (Shut.out hK) _ _ hS1 (fun _ => ?_)
                clear hK K
                refine wpAnyH_take (i := 49) (v := .int .i64 (mm : Int)) rfl (by kernel_rfl) (by kernel_rfl) (by kernel_rfl) (fun _ _ _ h => h) (Yields.yieldsIf (Or.inl ⟨by rfl, fun w9 => by (go_simp; first | done | with_reducible rfl | (intro h9; exfalso; omega))⟩)) hS1 ?_
                change wpAnyH _ _ _ _ _ _ _ (Act.put _ (some 165) _) _; dsimp only [Act.put]; simp only [List.setIfInBounds_toArray, List.set_cons_succ, List.set_cons_zero]
                refine wpAnyH_take (i := 52) (v := .bool true) rfl (by kernel_rfl) (by kernel_rfl) (by kernel_rfl) (fun _ _ _ h => h) (Yields.yieldsIf (Or.inl ⟨by rfl, fun w9 => by (go_simp; first | done | with_reducible rfl | (intro h9; exfalso; omega))⟩)) hS1 ?_
                change wpAnyH _ _ _ _ _ _ _ (Act.put _ (some 168) _) _; dsimp only [Act.put]; simp only [List.setIfInBounds_toArray, List.set_cons_succ, List.set_cons_zero]
                refine wpAnyH_take (i := 53) (v := .bool false) rfl (by kernel_rfl) (by kernel_rfl) (by kernel_rfl) (fun _ _ _ h => h) (Yields.yieldsIf (Or.inl ⟨by rfl, fun w9 => by (go_simp; first | done | with_reducible rfl | (intro h9; exfalso; omega))⟩)) hS1 ?_
                change wpAnyH _ _ _ _ _ _ _ (Act.put _ (some 169) _) _; dsimp only [Act.put]; simp only [List.setIfInBounds_toArray, List.set_cons_succ, List.set_cons_zero]
                refine wpAnyH_take (i := 54) (v := .bool false) rfl (by kernel_rfl) (by kernel_rfl) (by kernel_rfl) (fun _ _ _ h => h) (Yields.yieldsIf (Or.inl ⟨by rfl, fun w9 => by (go_simp; first | done | with_reducible rfl | (intro h9; exfalso; omega))⟩)) hS1 ?_
                change wpAnyH _ _ _ _ _ _ _ (Act.put _ (some 170) _) _; dsimp only [Act.put]; simp only [List.setIfInBounds_toArray, List.set_cons_succ, List.set_cons_zero]
                refine wpAnyH_take (i := 55) (v := .bool false) rfl (by kernel_rfl) (by kernel_rfl) (by kernel_rfl) (fun _ _ _ h => h) (Yields.yieldsIf (Or.inl ⟨by rfl, fun w9 => by (go_simp; first | done | with_reducible rfl | (intro h9; exfalso; omega))⟩)) hS1 ?_
                change wpAnyH _ _ _ _ _ _ _ (Act.put _ (some 171) _) _; dsimp only [Act.put]; simp only [List.setIfInBounds_toArray, List.set_cons_succ, List.set_cons_zero]
                refine wpAnyH_take (i := 56) (v := .bool true) rfl (by kernel_rfl) (by kernel_rfl) (by kernel_rfl) (fun _ _ _ h => h) (Yields.yieldsIf (Or.inl ⟨by rfl, fun w9 => by (go_simp; first | done | with_reducible rfl | (intro h9; exfalso; omega))⟩)) hS1 ?_
                change wpAnyH _ _ _ _ _ _ _ (Act.put _ (some 172) _) _; dsimp only [Act.put]; simp only [List.setIfInBounds_toArray, List.set_cons_succ, List.set_cons_zero]
                refine wpAnyH_take (i := 57) (v := .bool false) rfl (by kernel_rfl) (by kernel_rfl) (by kernel_rfl) (fun _ _ _ h => h) (Yields.yieldsIf (Or.inl ⟨by rfl, fun w9 => by (go_simp; first | done | with_reducible rfl | (intro h9; exfalso; omega))⟩)) hS1 ?_
                change wpAnyH _ _ _ _ _ _ _ (Act.put _ (some 173) _) _; dsimp only [Act.put]; simp only [List.setIfInBounds_toArray, List.set_cons_succ, List.set_cons_zero]
                refine wpAnyH_take (i := 58) (v := .bool false) rfl (by kernel_rfl) (by kernel_rfl) (by kernel_rfl) (fun _ _ _ h => h) (Yields.yieldsIf (Or.inl ⟨by rfl, fun w9 => by (go_simp; first | done | with_reducible rfl | (intro h9; exfalso; omega))⟩)) hS1 ?_
                change wpAnyH _ _ _ _ _ _ _ (Act.put _ (some 174) _) _; dsimp only [Act.put]; simp only [List.setIfInBounds_toArray, List.set_cons_succ, List.set_cons_zero]
                refine wpAnyH_take (i := 59) (v := undef) rfl (by kernel_rfl) (by kernel_rfl) (by kernel_rfl) (fun _ _ _ h => h) (Or.inr ⟨by rfl, rfl⟩) hS1 ?_
                change wpAnyH _ _ _ _ _ _ _ (Act.put _ (some 175) _) _; dsimp only [Act.put]; simp only [List.setIfInBounds_toArray, List.set_cons_succ, List.set_cons_zero]
                refine wpAnyH_take (i := 60) (v := undef) rfl (by kernel_rfl) (by kernel_rfl) (by kernel_rfl) (fun _ _ _ h => h) (Or.inr ⟨by rfl, rfl⟩) hS1 ?_
                change wpAnyH _ _ _ _ _ _ _ (Act.put _ (some 176) _) _; dsimp only [Act.put]; simp only [List.setIfInBounds_toArray, List.set_cons_succ, List.set_cons_zero]
                refine wpAnyH_take (i := 61) (v := undef) rfl (by kernel_rfl) (by kernel_rfl) (by kernel_rfl) (fun _ _ _ h => h) (Or.inr ⟨by rfl, rfl⟩) hS1 ?_
                change wpAnyH _ _ _ _ _ _ _ (Act.put _ (some 177) _) _; dsimp only [Act.put]; simp only [List.setIfInBounds_toArray, List.set_cons_succ, List.set_cons_zero]
                refine wpAnyH_take (i := 62) (v := undef) rfl (by kernel_rfl) (by kernel_rfl) (by kernel_rfl) (fun _ _ _ h => h) (Or.inr ⟨by rfl, rfl⟩) hS1 ?_
                change wpAnyH _ _ _ _ _ _ _ (Act.put _ (some 178) _) _; dsimp only [Act.put]; simp only [List.setIfInBounds_toArray, List.set_cons_succ, List.set_cons_zero]
                refine wpAnyH_take (i := 63) (v := undef) rfl (by kernel_rfl) (by kernel_rfl) (by kernel_rfl) (fun _ _ _ h => h) (Or.inr ⟨by rfl, rfl⟩) hS1 ?_
                change wpAnyH _ _ _ _ _ _ _ (Act.put _ (some 179) _) _; dsimp only [Act.put]; simp only [List.setIfInBounds_toArray, List.set_cons_succ, List.set_cons_zero]
                refine wpAnyH_take (i := 64) (v := .bool false) rfl (by kernel_rfl) (by kernel_rfl) (by kernel_rfl) (fun _ _ _ h => h) (Yields.yieldsIf (Or.inl ⟨by rfl, fun w9 => by (go_simp; first | done | with_reducible rfl | (intro h9; exfalso; omega))⟩)) hS1 ?_
                change wpAnyH _ _ _ _ _ _ _ (Act.put _ (some 180) _) _; dsimp only [Act.put]; simp only [List.setIfInBounds_toArray, List.set_cons_succ, List.set_cons_zero]
                refine wpAnyH_take (i := 65) (v := .bool false) rfl (by kernel_rfl) (by kernel_rfl) (by kernel_rfl) (fun _ _ _ h => h) (Yields.yieldsIf (Or.inl ⟨by rfl, fun w9 => by (go_simp; first | done | with_reducible rfl | (intro h9; exfalso; omega))⟩)) hS1 ?_
                change wpAnyH _ _ _ _ _ _ _ (Act.put _ (some 181) _) _; dsimp only [Act.put]; simp only [List.setIfInBounds_toArray, List.set_cons_succ, List.set_cons_zero]
                refine wpAnyH_done (by kernel_rfl) ?_ _
                go_wp2
                go_roundw
                case rel => exact ⟨i + 1, by omega, by go_num, ⟨_, HSR.out.kept hS1⟩, hbelr.trans (hS1.mono hbelr.size)⟩
                case measure => (simp [intOf]) <;> omega
            · subst t1 t2 t4 t5
              subst t3
              have g3 : r = true := by rw [← HIN.out]; exact decide_eq_true t6
              obtain rfl : kb2 = true := by rw [← HKB2.out, HKB.out]
              obtain rfl : kv2 = kv := by rw [← HKV2.out, HKV.out]
              subst g3
              rw [decide_eq_true (rfl : kv2 = kv2)] at hnn
              obtain rfl : mm = ml := by rw [← hmm, HML.out]
              have l0 : ((mm : Int) == (mm : Int) + 1) = false := by rw [beq_eq_false_iff_ne]; omega
              have l1 : ((mm : Int) != (mm : Int)) = false := by simp
              clear hnx HTC t6 hmm
              as_aux_lemma =>
                go_upto_region 23 with fail
                simp only [List.append_eq, List.cons_append, List.nil_append]
                refine wp_region_held_drew (S := fun W => Below wr.heap.size wr W) (by kernel_rfl) ((Below.refl _ _).drew) (fun hS0 => ?_)
                refine wpAnyH_take (i := 0) (v := .bool true) rfl (by kernel_rfl) (by kernel_rfl) (by kernel_rfl) (fun _ _ _ h => h) (Yields.yieldsIf (Or.inl ⟨by rfl, fun w9 => by (go_simp; first | done | with_reducible rfl | (intro h9; exfalso; omega))⟩)) hS0 ?_
                change wpAnyH _ _ _ _ _ _ _ (Act.put _ (some 116) _) _; dsimp only [Act.put]; simp only [List.setIfInBounds_toArray, List.set_cons_succ, List.set_cons_zero]
                refine wpAnyH_take (i := 1) (v := .bool true) rfl (by kernel_rfl) (by kernel_rfl) (by kernel_rfl) (fun _ _ _ h => h) (Yields.yieldsIf (Or.inl ⟨by rfl, fun w9 => by (go_simp; first | done | with_reducible rfl | (intro h9; exfalso; omega))⟩)) hS0 ?_
                change wpAnyH _ _ _ _ _ _ _ (Act.put _ (some 117) _) _; dsimp only [Act.put]; simp only [List.setIfInBounds_toArray, List.set_cons_succ, List.set_cons_zero]
                refine wpAnyH_take (i := 2) (v := .bool true) rfl (by kernel_rfl) (by kernel_rfl) (by kernel_rfl) (fun _ _ _ h => h) (Yields.yieldsIf (Or.inl ⟨by rfl, fun w9 => by (go_simp; first | done | with_reducible rfl | (intro h9; exfalso; omega))⟩)) hS0 ?_
                change wpAnyH _ _ _ _ _ _ _ (Act.put _ (some 118) _) _; dsimp only [Act.put]; simp only [List.setIfInBounds_toArray, List.set_cons_succ, List.set_cons_zero]
                refine wpAnyH_take (i := 3) (v := .bool false) rfl (by kernel_rfl) (by kernel_rfl) (by kernel_rfl) (fun _ _ _ h => h) (Yields.yieldsIf (Or.inl ⟨by rfl, fun w9 => by (go_simp; first | done | with_reducible rfl | (intro h9; exfalso; omega))⟩)) hS0 ?_
                change wpAnyH _ _ _ _ _ _ _ (Act.put _ (some 119) _) _; dsimp only [Act.put]; simp only [List.setIfInBounds_toArray, List.set_cons_succ, List.set_cons_zero]
                refine wpAnyH_take (i := 4) (v := .bool false) rfl (by kernel_rfl) (by kernel_rfl) (by kernel_rfl) (fun _ _ _ h => h) (Yields.yieldsIf (Or.inl ⟨by rfl, fun w9 => by (go_simp; first | done | with_reducible rfl | (intro h9; exfalso; omega))⟩)) hS0 ?_
                change wpAnyH _ _ _ _ _ _ _ (Act.put _ (some 120) _) _; dsimp only [Act.put]; simp only [List.setIfInBounds_toArray, List.set_cons_succ, List.set_cons_zero]
                refine wpAnyH_take (i := 5) (v := .agg (kv2).row) rfl (by kernel_rfl) (by kernel_rfl) (by kernel_rfl) (fun _ _ _ h => h) (Or.inl ⟨by rfl, fun w9 hS9 => exec_loadHd (.tmp 15) rfl w7.heap.size (0) (by first | rfl | simp [Act.eval, Act.put]) kv2 (hd_range (cells_of hzr hS9 (row_lt hzr)))⟩) hS0 ?_
                change wpAnyH _ _ _ _ _ _ _ (Act.put _ (some 121) _) _; dsimp only [Act.put]; simp only [List.setIfInBounds_toArray, List.set_cons_succ, List.set_cons_zero]
                refine wpAnyH_take (i := 6) (v := .agg (kv2).row) rfl (by kernel_rfl) (by kernel_rfl) (by kernel_rfl) (fun _ _ _ h => h) (Or.inl ⟨by rfl, fun w9 hS9 => exec_loadHd (.tmp 10) rfl w3.heap.size (0) (by first | rfl | simp [Act.eval, Act.put]) kv2 (hd_range (cells_of hqr hS9 (row_lt hqr)))⟩) hS0 ?_
                change wpAnyH _ _ _ _ _ _ _ (Act.put _ (some 122) _) _; dsimp only [Act.put]; simp only [List.setIfInBounds_toArray, List.set_cons_succ, List.set_cons_zero]
                refine wpAnyH_take (i := 7) (v := .bool false) rfl (by kernel_rfl) (by kernel_rfl) (by kernel_rfl) (fun _ _ _ h => h) (Yields.yieldsIf (Or.inl ⟨by rfl, fun w9 => by (go_simp; first | done | with_reducible rfl | (intro h9; exfalso; omega))⟩)) hS0 ?_
                change wpAnyH _ _ _ _ _ _ _ (Act.put _ (some 123) _) _; dsimp only [Act.put]; simp only [List.setIfInBounds_toArray, List.set_cons_succ, List.set_cons_zero]
                refine wpAnyH_take (i := 8) (v := .bool false) rfl (by kernel_rfl) (by kernel_rfl) (by kernel_rfl) (fun _ _ _ h => h) (Yields.yieldsIf (Or.inl ⟨by rfl, fun w9 => by (go_simp; first | done | with_reducible rfl | (intro h9; exfalso; omega))⟩)) hS0 ?_
                change wpAnyH _ _ _ _ _ _ _ (Act.put _ (some 124) _) _; dsimp only [Act.put]; simp only [List.setIfInBounds_toArray, List.set_cons_succ, List.set_cons_zero]
                refine wpAnyH_take (i := 9) (v := .bool false) rfl (by kernel_rfl) (by kernel_rfl) (by kernel_rfl) (fun _ _ _ h => h) (Yields.yieldsIf (Or.inl ⟨by rfl, fun w9 => by (go_simp; first | done | with_reducible rfl | (intro h9; exfalso; omega))⟩)) hS0 ?_
                change wpAnyH _ _ _ _ _ _ _ (Act.put _ (some 125) _) _; dsimp only [Act.put]; simp only [List.setIfInBounds_toArray, List.set_cons_succ, List.set_cons_zero]
                refine wpAnyH_take (i := 10) (v := .bool false) rfl (by kernel_rfl) (by kernel_rfl) (by kernel_rfl) (fun _ _ _ h => h) (Yields.yieldsIf (Or.inl ⟨by rfl, fun w9 => by (go_simp; first | done | with_reducible rfl | (intro h9; exfalso; omega))⟩)) hS0 ?_
                change wpAnyH _ _ _ _ _ _ _ (Act.put _ (some 126) _) _; dsimp only [Act.put]; simp only [List.setIfInBounds_toArray, List.set_cons_succ, List.set_cons_zero]
                refine wpAnyH_take (i := 11) (v := .bool false) rfl (by kernel_rfl) (by kernel_rfl) (by kernel_rfl) (fun _ _ _ h => h) (Yields.yieldsIf (Or.inl ⟨by rfl, fun w9 => by (go_simp; first | done | with_reducible rfl | (intro h9; exfalso; omega))⟩)) hS0 ?_
                change wpAnyH _ _ _ _ _ _ _ (Act.put _ (some 127) _) _; dsimp only [Act.put]; simp only [List.setIfInBounds_toArray, List.set_cons_succ, List.set_cons_zero]
                refine wpAnyH_take (i := 12) (v := .bool false) rfl (by kernel_rfl) (by kernel_rfl) (by kernel_rfl) (fun _ _ _ h => h) (Yields.yieldsIf (Or.inl ⟨by rfl, fun w9 => by (go_simp; first | done | with_reducible rfl | (intro h9; exfalso; omega))⟩)) hS0 ?_
                change wpAnyH _ _ _ _ _ _ _ (Act.put _ (some 128) _) _; dsimp only [Act.put]; simp only [List.setIfInBounds_toArray, List.set_cons_succ, List.set_cons_zero]
                refine wpAnyH_take (i := 13) (v := .bool false) rfl (by kernel_rfl) (by kernel_rfl) (by kernel_rfl) (fun _ _ _ h => h) (Yields.yieldsIf (Or.inl ⟨by rfl, fun w9 => by (go_simp; first | done | with_reducible rfl | (intro h9; exfalso; omega))⟩)) hS0 ?_
                change wpAnyH _ _ _ _ _ _ _ (Act.put _ (some 129) _) _; dsimp only [Act.put]; simp only [List.setIfInBounds_toArray, List.set_cons_succ, List.set_cons_zero]
                refine wpAnyH_take (i := 14) (v := .int .i64 0) rfl (by kernel_rfl) (by kernel_rfl) (by kernel_rfl) (fun _ _ _ h => h) (Yields.yieldsIf (Or.inl ⟨by rfl, fun w9 => by (go_simp; first | done | with_reducible rfl | (intro h9; exfalso; omega))⟩)) hS0 ?_
                change wpAnyH _ _ _ _ _ _ _ (Act.put _ (some 130) _) _; dsimp only [Act.put]; simp only [List.setIfInBounds_toArray, List.set_cons_succ, List.set_cons_zero]
                refine wpAnyH_take (i := 15) (v := .bool true) rfl (by kernel_rfl) (by kernel_rfl) (by kernel_rfl) (fun _ _ _ h => h) (Yields.yieldsIf (Or.inl ⟨by rfl, fun w9 => by (go_simp; first | done | with_reducible rfl | (intro h9; exfalso; omega))⟩)) hS0 ?_
                change wpAnyH _ _ _ _ _ _ _ (Act.put _ (some 131) _) _; dsimp only [Act.put]; simp only [List.setIfInBounds_toArray, List.set_cons_succ, List.set_cons_zero]
                refine wpAnyH_take (i := 16) (v := .bool true) rfl (by kernel_rfl) (by kernel_rfl) (by kernel_rfl) (fun _ _ _ h => h) (Yields.yieldsIf (Or.inl ⟨by rfl, fun w9 => by (go_simp; first | done | with_reducible rfl | (intro h9; exfalso; omega))⟩)) hS0 ?_
                change wpAnyH _ _ _ _ _ _ _ (Act.put _ (some 132) _) _; dsimp only [Act.put]; simp only [List.setIfInBounds_toArray, List.set_cons_succ, List.set_cons_zero]
                refine wpAnyH_take (i := 17) (v := .bool true) rfl (by kernel_rfl) (by kernel_rfl) (by kernel_rfl) (fun _ _ _ h => h) (Yields.yieldsIf (Or.inl ⟨by rfl, fun w9 => by (go_simp; first | done | with_reducible rfl | (intro h9; exfalso; omega))⟩)) hS0 ?_
                change wpAnyH _ _ _ _ _ _ _ (Act.put _ (some 133) _) _; dsimp only [Act.put]; simp only [List.setIfInBounds_toArray, List.set_cons_succ, List.set_cons_zero]
                refine wpAnyH_take (i := 18) (v := .bool false) rfl (by kernel_rfl) (by kernel_rfl) (by kernel_rfl) (fun _ _ _ h => h) (Yields.yieldsIf (Or.inl ⟨by rfl, fun w9 => by (go_simp; first | done | with_reducible rfl | (intro h9; exfalso; omega))⟩)) hS0 ?_
                change wpAnyH _ _ _ _ _ _ _ (Act.put _ (some 134) _) _; dsimp only [Act.put]; simp only [List.setIfInBounds_toArray, List.set_cons_succ, List.set_cons_zero]
                refine wpAnyH_take (i := 19) (v := .bool false) rfl (by kernel_rfl) (by kernel_rfl) (by kernel_rfl) (fun _ _ _ h => h) (Yields.yieldsIf (Or.inl ⟨by rfl, fun w9 => by (go_simp; first | done | with_reducible rfl | (intro h9; exfalso; omega))⟩)) hS0 ?_
                change wpAnyH _ _ _ _ _ _ _ (Act.put _ (some 135) _) _; dsimp only [Act.put]; simp only [List.setIfInBounds_toArray, List.set_cons_succ, List.set_cons_zero]
                refine wpAnyH_take (i := 20) (v := .bool true) rfl (by kernel_rfl) (by kernel_rfl) (by kernel_rfl) (fun _ _ _ h => h) (Yields.yieldsIf (Or.inl ⟨by rfl, fun w9 => by (go_simp; first | done | with_reducible rfl | (intro h9; exfalso; omega))⟩)) hS0 ?_
                change wpAnyH _ _ _ _ _ _ _ (Act.put _ (some 136) _) _; dsimp only [Act.put]; simp only [List.setIfInBounds_toArray, List.set_cons_succ, List.set_cons_zero]
                refine wpAnyH_take (i := 21) (v := .bool false) rfl (by kernel_rfl) (by kernel_rfl) (by kernel_rfl) (fun _ _ _ h => h) (Yields.yieldsIf (Or.inl ⟨by rfl, fun w9 => by (go_simp; first | done | with_reducible rfl | (intro h9; exfalso; omega))⟩)) hS0 ?_
                change wpAnyH _ _ _ _ _ _ _ (Act.put _ (some 137) _) _; dsimp only [Act.put]; simp only [List.setIfInBounds_toArray, List.set_cons_succ, List.set_cons_zero]
                refine wpAnyH_take (i := 22) (v := .bool false) rfl (by kernel_rfl) (by kernel_rfl) (by kernel_rfl) (fun _ _ _ h => h) (Yields.yieldsIf (Or.inl ⟨by rfl, fun w9 => by (go_simp; first | done | with_reducible rfl | (intro h9; exfalso; omega))⟩)) hS0 ?_
                change wpAnyH _ _ _ _ _ _ _ (Act.put _ (some 138) _) _; dsimp only [Act.put]; simp only [List.setIfInBounds_toArray, List.set_cons_succ, List.set_cons_zero]
                refine wpAnyH_take (i := 23) (v := .bool false) rfl (by kernel_rfl) (by kernel_rfl) (by kernel_rfl) (fun _ _ _ h => h) (Yields.yieldsIf (Or.inl ⟨by rfl, fun w9 => by (go_simp; first | done | with_reducible rfl | (intro h9; exfalso; omega))⟩)) hS0 ?_
                change wpAnyH _ _ _ _ _ _ _ (Act.put _ (some 139) _) _; dsimp only [Act.put]; simp only [List.setIfInBounds_toArray, List.set_cons_succ, List.set_cons_zero]
                refine wpAnyH_take (i := 24) (v := .agg (kv2).row) rfl (by kernel_rfl) (by kernel_rfl) (by kernel_rfl) (fun _ _ _ h => h) (Or.inl ⟨by rfl, fun w9 hS9 => exec_loadHd (.tmp 15) rfl w7.heap.size (0) (by first | rfl | simp [Act.eval, Act.put]) kv2 (hd_range (cells_of hzr hS9 (row_lt hzr)))⟩) hS0 ?_
                change wpAnyH _ _ _ _ _ _ _ (Act.put _ (some 140) _) _; dsimp only [Act.put]; simp only [List.setIfInBounds_toArray, List.set_cons_succ, List.set_cons_zero]
                refine wpAnyH_take (i := 25) (v := .slice (some ⟨b1, o1, none⟩) n0 c0) rfl (by kernel_rfl) (by kernel_rfl) (by kernel_rfl) (fun _ _ _ h => h) (Yields.yieldsIf (Or.inl ⟨by rfl, fun w9 => by (go_simp; first | done | with_reducible rfl | (intro h9; exfalso; omega))⟩)) hS0 ?_
                change wpAnyH _ _ _ _ _ _ _ (Act.put _ (some 141) _) _; dsimp only [Act.put]; simp only [List.setIfInBounds_toArray, List.set_cons_succ, List.set_cons_zero]
                refine wpAnyH_take (i := 26) (v := .int .i64 (i : Int)) rfl (by kernel_rfl) (by kernel_rfl) (by kernel_rfl) (fun _ _ _ h => h) (Yields.yieldsIf (Or.inl ⟨by rfl, fun w9 => by (go_simp; first | done | with_reducible rfl | (intro h9; exfalso; omega))⟩)) hS0 ?_
                change wpAnyH _ _ _ _ _ _ _ (Act.put _ (some 142) _) _; dsimp only [Act.put]; simp only [List.setIfInBounds_toArray, List.set_cons_succ, List.set_cons_zero]
                refine wpAnyH_take (i := 27) (v := .pointer (some ⟨b1, o1 + i * 34, none⟩)) rfl (by kernel_rfl) (by kernel_rfl) (by kernel_rfl) (fun _ _ _ h => h) (Yields.yieldsIf (Or.inl ⟨by rfl, fun w9 => by (go_simp; first | done | with_reducible rfl | (intro h9; exfalso; omega))⟩)) hS0 ?_
                change wpAnyH _ _ _ _ _ _ _ (Act.put _ (some 143) _) _; dsimp only [Act.put]; simp only [List.setIfInBounds_toArray, List.set_cons_succ, List.set_cons_zero]
                refine wpAnyH_take (i := 28) (v := .agg (kv2).row) rfl (by kernel_rfl) (by kernel_rfl) (by kernel_rfl) (fun _ _ _ h => h) (Or.inl ⟨by rfl, fun w9 hS9 => exec_loadHd (.tmp 143) rfl b1 (o1 + i * 34) (by first | rfl | simp [Act.eval, Act.put]) kv2 (range_belowT (hbelr.trans (hS9.mono hbelr.size)) hbx hg1)⟩) hS0 ?_
                change wpAnyH _ _ _ _ _ _ _ (Act.put _ (some 144) _) _; dsimp only [Act.put]; simp only [List.setIfInBounds_toArray, List.set_cons_succ, List.set_cons_zero]
                refine wpAnyH_take (i := 29) (v := .bool false) rfl (by kernel_rfl) (by kernel_rfl) (by kernel_rfl) (fun _ _ _ h => h) (Yields.yieldsIf (Or.inl ⟨by rfl, fun w9 => by (go_simp; first | done | with_reducible rfl | (intro h9; exfalso; omega))⟩)) hS0 ?_
                change wpAnyH _ _ _ _ _ _ _ (Act.put _ (some 145) _) _; dsimp only [Act.put]; simp only [List.setIfInBounds_toArray, List.set_cons_succ, List.set_cons_zero]
                refine wpAnyH_take (i := 30) (v := .bool false) rfl (by kernel_rfl) (by kernel_rfl) (by kernel_rfl) (fun _ _ _ h => h) (Yields.yieldsIf (Or.inl ⟨by rfl, fun w9 => by (go_simp; first | done | with_reducible rfl | (intro h9; exfalso; omega))⟩)) hS0 ?_
                change wpAnyH _ _ _ _ _ _ _ (Act.put _ (some 146) _) _; dsimp only [Act.put]; simp only [List.setIfInBounds_toArray, List.set_cons_succ, List.set_cons_zero]
                refine wpAnyH_take (i := 31) (v := .bool false) rfl (by kernel_rfl) (by kernel_rfl) (by kernel_rfl) (fun _ _ _ h => h) (Yields.yieldsIf (Or.inl ⟨by rfl, fun w9 => by (go_simp; first | done | with_reducible rfl | (intro h9; exfalso; omega))⟩)) hS0 ?_
                change wpAnyH _ _ _ _ _ _ _ (Act.put _ (some 147) _) _; dsimp only [Act.put]; simp only [List.setIfInBounds_toArray, List.set_cons_succ, List.set_cons_zero]
                refine wpAnyH_take (i := 32) (v := .bool false) rfl (by kernel_rfl) (by kernel_rfl) (by kernel_rfl) (fun _ _ _ h => h) (Yields.yieldsIf (Or.inl ⟨by rfl, fun w9 => by (go_simp; first | done | with_reducible rfl | (intro h9; exfalso; omega))⟩)) hS0 ?_
                change wpAnyH _ _ _ _ _ _ _ (Act.put _ (some 148) _) _; dsimp only [Act.put]; simp only [List.setIfInBounds_toArray, List.set_cons_succ, List.set_cons_zero]
                refine wpAnyH_take (i := 33) (v := .bool false) rfl (by kernel_rfl) (by kernel_rfl) (by kernel_rfl) (fun _ _ _ h => h) (Yields.yieldsIf (Or.inl ⟨by rfl, fun w9 => by (go_simp; first | done | with_reducible rfl | (intro h9; exfalso; omega))⟩)) hS0 ?_
                change wpAnyH _ _ _ _ _ _ _ (Act.put _ (some 149) _) _; dsimp only [Act.put]; simp only [List.setIfInBounds_toArray, List.set_cons_succ, List.set_cons_zero]
                refine wpAnyH_take (i := 34) (v := .int .i64 0) rfl (by kernel_rfl) (by kernel_rfl) (by kernel_rfl) (fun _ _ _ h => h) (Yields.yieldsIf (Or.inl ⟨by rfl, fun w9 => by (go_simp; first | done | with_reducible rfl | (intro h9; exfalso; omega))⟩)) hS0 ?_
                change wpAnyH _ _ _ _ _ _ _ (Act.put _ (some 150) _) _; dsimp only [Act.put]; simp only [List.setIfInBounds_toArray, List.set_cons_succ, List.set_cons_zero]
                refine wpAnyH_take (i := 35) (v := .bool false) rfl (by kernel_rfl) (by kernel_rfl) (by kernel_rfl) (fun _ _ _ h => h) (Yields.yieldsIf (Or.inl ⟨by rfl, fun w9 => by (go_simp; first | done | with_reducible rfl | (intro h9; exfalso; omega))⟩)) hS0 ?_
                change wpAnyH _ _ _ _ _ _ _ (Act.put _ (some 151) _) _; dsimp only [Act.put]; simp only [List.setIfInBounds_toArray, List.set_cons_succ, List.set_cons_zero]
                refine wpAnyH_take (i := 36) (v := .bool false) rfl (by kernel_rfl) (by kernel_rfl) (by kernel_rfl) (fun _ _ _ h => h) (Yields.yieldsIf (Or.inl ⟨by rfl, fun w9 => by (go_simp; first | done | with_reducible rfl | (intro h9; exfalso; omega))⟩)) hS0 ?_
                change wpAnyH _ _ _ _ _ _ _ (Act.put _ (some 152) _) _; dsimp only [Act.put]; simp only [List.setIfInBounds_toArray, List.set_cons_succ, List.set_cons_zero]
                refine wpAnyH_take (i := 37) (v := undef) rfl (by kernel_rfl) (by kernel_rfl) (by kernel_rfl) (fun _ _ _ h => h) (Or.inr ⟨by rfl, rfl⟩) hS0 ?_
                change wpAnyH _ _ _ _ _ _ _ (Act.put _ (some 153) _) _; dsimp only [Act.put]; simp only [List.setIfInBounds_toArray, List.set_cons_succ, List.set_cons_zero]
                refine wpAnyH_take (i := 38) (v := undef) rfl (by kernel_rfl) (by kernel_rfl) (by kernel_rfl) (fun _ _ _ h => h) (Or.inr ⟨by rfl, rfl⟩) hS0 ?_
                change wpAnyH _ _ _ _ _ _ _ (Act.put _ (some 154) _) _; dsimp only [Act.put]; simp only [List.setIfInBounds_toArray, List.set_cons_succ, List.set_cons_zero]
                refine wpAnyH_take (i := 39) (v := undef) rfl (by kernel_rfl) (by kernel_rfl) (by kernel_rfl) (fun _ _ _ h => h) (Or.inr ⟨by rfl, rfl⟩) hS0 ?_
                change wpAnyH _ _ _ _ _ _ _ (Act.put _ (some 155) _) _; dsimp only [Act.put]; simp only [List.setIfInBounds_toArray, List.set_cons_succ, List.set_cons_zero]
                refine wpAnyH_take (i := 40) (v := undef) rfl (by kernel_rfl) (by kernel_rfl) (by kernel_rfl) (fun _ _ _ h => h) (Or.inr ⟨by rfl, rfl⟩) hS0 ?_
                change wpAnyH _ _ _ _ _ _ _ (Act.put _ (some 156) _) _; dsimp only [Act.put]; simp only [List.setIfInBounds_toArray, List.set_cons_succ, List.set_cons_zero]
                refine wpAnyH_take (i := 41) (v := undef) rfl (by kernel_rfl) (by kernel_rfl) (by kernel_rfl) (fun _ _ _ h => h) (Or.inr ⟨by rfl, rfl⟩) hS0 ?_
                change wpAnyH _ _ _ _ _ _ _ (Act.put _ (some 157) _) _; dsimp only [Act.put]; simp only [List.setIfInBounds_toArray, List.set_cons_succ, List.set_cons_zero]
                refine wpAnyH_take (i := 42) (v := undef) rfl (by kernel_rfl) (by kernel_rfl) (by kernel_rfl) (fun _ _ _ h => h) (Or.inr ⟨by rfl, rfl⟩) hS0 ?_
                change wpAnyH _ _ _ _ _ _ _ (Act.put _ (some 158) _) _; dsimp only [Act.put]; simp only [List.setIfInBounds_toArray, List.set_cons_succ, List.set_cons_zero]
                refine wpAnyH_take (i := 43) (v := .bool false) rfl (by kernel_rfl) (by kernel_rfl) (by kernel_rfl) (fun _ _ _ h => h) (Yields.yieldsIf (Or.inl ⟨by rfl, fun w9 => by (go_simp; first | done | with_reducible rfl | (intro h9; exfalso; omega))⟩)) hS0 ?_
                change wpAnyH _ _ _ _ _ _ _ (Act.put _ (some 159) _) _; dsimp only [Act.put]; simp only [List.setIfInBounds_toArray, List.set_cons_succ, List.set_cons_zero]
                refine wpAnyH_take (i := 44) (v := .bool false) rfl (by kernel_rfl) (by kernel_rfl) (by kernel_rfl) (fun _ _ _ h => h) (Yields.yieldsIf (Or.inl ⟨by rfl, fun w9 => by (go_simp; first | done | with_reducible rfl | (intro h9; exfalso; omega))⟩)) hS0 ?_
                change wpAnyH _ _ _ _ _ _ _ (Act.put _ (some 160) _) _; dsimp only [Act.put]; simp only [List.setIfInBounds_toArray, List.set_cons_succ, List.set_cons_zero]
                refine wpAnyH_take (i := 45) (v := .bool false) rfl (by kernel_rfl) (by kernel_rfl) (by kernel_rfl) (fun _ _ _ h => h) (Yields.yieldsIf (Or.inl ⟨by rfl, fun w9 => by (go_simp; first | done | with_reducible rfl | (intro h9; exfalso; omega))⟩)) hS0 ?_
                change wpAnyH _ _ _ _ _ _ _ (Act.put _ (some 161) _) _; dsimp only [Act.put]; simp only [List.setIfInBounds_toArray, List.set_cons_succ, List.set_cons_zero]
                refine wpAnyH_take (i := 46) (v := .bool false) rfl (by kernel_rfl) (by kernel_rfl) (by kernel_rfl) (fun _ _ _ h => h) (Yields.yieldsIf (Or.inl ⟨by rfl, fun w9 => by (go_simp; first | done | with_reducible rfl | (intro h9; exfalso; omega))⟩)) hS0 ?_
                change wpAnyH _ _ _ _ _ _ _ (Act.put _ (some 162) _) _; dsimp only [Act.put]; simp only [List.setIfInBounds_toArray, List.set_cons_succ, List.set_cons_zero]
                refine wpAnyH_take (i := 47) (v := .pointer (some ⟨g, 0, none⟩)) rfl (by kernel_rfl) (by kernel_rfl) (by kernel_rfl) (fun _ _ _ h => h) (Yields.yieldsIf (Or.inl ⟨by rfl, fun w9 => by (go_simp; first | done | with_reducible rfl | (intro h9; exfalso; omega))⟩)) hS0 ?_
                change wpAnyH _ _ _ _ _ _ _ (Act.put _ (some 163) _) _; dsimp only [Act.put]; simp only [List.setIfInBounds_toArray, List.set_cons_succ, List.set_cons_zero]
                refine wpAnyH_take (i := 50) (v := .int .i64 (mm : Int)) rfl (by kernel_rfl) (by kernel_rfl) (by kernel_rfl) (fun _ _ _ h => h) (Yields.yieldsIf (Or.inl ⟨by rfl, fun w9 => by (go_simp; first | done | with_reducible rfl | (intro h9; exfalso; omega))⟩)) hS0 ?_
                change wpAnyH _ _ _ _ _ _ _ (Act.put _ (some 166) _) _; dsimp only [Act.put]; simp only [List.setIfInBounds_toArray, List.set_cons_succ, List.set_cons_zero]
                refine wpAnyH_take (i := 51) (v := .int .i64 ((mm : Int) + 1)) rfl (by kernel_rfl) (by kernel_rfl) (by kernel_rfl) (fun _ _ _ h => h) (Yields.yieldsIf (Or.inl ⟨by rfl, fun w9 => by (go_simp; first | done | with_reducible rfl | (intro h9; exfalso; omega))⟩)) hS0 ?_
                change wpAnyH _ _ _ _ _ _ _ (Act.put _ (some 167) _) _; dsimp only [Act.put]; simp only [List.setIfInBounds_toArray, List.set_cons_succ, List.set_cons_zero]
                refine wpAnyH_ready (rs := [48]) (by kernel_rfl) (by simp) ?_
                refine AllReadyH.cons rfl (fun K hK => ?_) (fun j hj => by cases hj)
                go_simp
                refine (CT2 _ hS0).mono ?_
                rintro e w20 ⟨v20, rfl, hown20, hb20⟩
                obtain ⟨a20, c20, rfl, _⟩ := own_sliceN hown20
                have hS1 := hS0.trans (hb20.mono hS0.size)
                refine (Shut.out hK) _ _ hS1 (fun _ => ?_)
                clear hK K
                refine wpAnyH_take (i := 49) (v := .int .i64 (mm : Int)) rfl (by kernel_rfl) (by kernel_rfl) (by kernel_rfl) (fun _ _ _ h => h) (Yields.yieldsIf (Or.inl ⟨by rfl, fun w9 => by (go_simp; first | done | with_reducible rfl | (intro h9; exfalso; omega))⟩)) hS1 ?_
                change wpAnyH _ _ _ _ _ _ _ (Act.put _ (some 165) _) _; dsimp only [Act.put]; simp only [List.setIfInBounds_toArray, List.set_cons_succ, List.set_cons_zero]
                refine wpAnyH_take (i := 52) (v := .bool false) rfl (by kernel_rfl) (by kernel_rfl) (by kernel_rfl) (fun _ _ _ h => h) (Yields.yieldsIf (Or.inl ⟨by rfl, fun w9 => by (go_simp; first | done | with_reducible rfl | (intro h9; exfalso; omega))⟩)) hS1 ?_
                change wpAnyH _ _ _ _ _ _ _ (Act.put _ (some 168) _) _; dsimp only [Act.put]; simp only [List.setIfInBounds_toArray, List.set_cons_succ, List.set_cons_zero]
                refine wpAnyH_take (i := 53) (v := .bool false) rfl (by kernel_rfl) (by kernel_rfl) (by kernel_rfl) (fun _ _ _ h => h) (Yields.yieldsIf (Or.inl ⟨by rfl, fun w9 => by (go_simp; first | done | with_reducible rfl | (intro h9; exfalso; omega))⟩)) hS1 ?_
                change wpAnyH _ _ _ _ _ _ _ (Act.put _ (some 169) _) _; dsimp only [Act.put]; simp only [List.setIfInBounds_toArray, List.set_cons_succ, List.set_cons_zero]
                refine wpAnyH_take (i := 54) (v := .bool false) rfl (by kernel_rfl) (by kernel_rfl) (by kernel_rfl) (fun _ _ _ h => h) (Yields.yieldsIf (Or.inl ⟨by rfl, fun w9 => by (go_simp; first | done | with_reducible rfl | (intro h9; exfalso; omega))⟩)) hS1 ?_
                change wpAnyH _ _ _ _ _ _ _ (Act.put _ (some 170) _) _; dsimp only [Act.put]; simp only [List.setIfInBounds_toArray, List.set_cons_succ, List.set_cons_zero]
                refine wpAnyH_take (i := 55) (v := .bool false) rfl (by kernel_rfl) (by kernel_rfl) (by kernel_rfl) (fun _ _ _ h => h) (Yields.yieldsIf (Or.inl ⟨by rfl, fun w9 => by (go_simp; first | done | with_reducible rfl | (intro h9; exfalso; omega))⟩)) hS1 ?_
                change wpAnyH _ _ _ _ _ _ _ (Act.put _ (some 171) _) _; dsimp only [Act.put]; simp only [List.setIfInBounds_toArray, List.set_cons_succ, List.set_cons_zero]
                refine wpAnyH_take (i := 56) (v := .bool false) rfl (by kernel_rfl) (by kernel_rfl) (by kernel_rfl) (fun _ _ _ h => h) (Yields.yieldsIf (Or.inl ⟨by rfl, fun w9 => by (go_simp; first | done | with_reducible rfl | (intro h9; exfalso; omega))⟩)) hS1 ?_
                change wpAnyH _ _ _ _ _ _ _ (Act.put _ (some 172) _) _; dsimp only [Act.put]; simp only [List.setIfInBounds_toArray, List.set_cons_succ, List.set_cons_zero]
                refine wpAnyH_take (i := 57) (v := .bool true) rfl (by kernel_rfl) (by kernel_rfl) (by kernel_rfl) (fun _ _ _ h => h) (Yields.yieldsIf (Or.inl ⟨by rfl, fun w9 => by (go_simp; first | done | with_reducible rfl | (intro h9; exfalso; omega))⟩)) hS1 ?_
                change wpAnyH _ _ _ _ _ _ _ (Act.put _ (some 173) _) _; dsimp only [Act.put]; simp only [List.setIfInBounds_toArray, List.set_cons_succ, List.set_cons_zero]
                refine wpAnyH_take (i := 58) (v := .bool true) rfl (by kernel_rfl) (by kernel_rfl) (by kernel_rfl) (fun _ _ _ h => h) (Yields.yieldsIf (Or.inl ⟨by rfl, fun w9 => by (go_simp; first | done | with_reducible rfl | (intro h9; exfalso; omega))⟩)) hS1 ?_
                change wpAnyH _ _ _ _ _ _ _ (Act.put _ (some 174) _) _; dsimp only [Act.put]; simp only [List.setIfInBounds_toArray, List.set_cons_succ, List.set_cons_zero]
                refine wpAnyH_take (i := 59) (v := .pointer (some ⟨g, 0, none⟩)) rfl (by kernel_rfl) (by kernel_rfl) (by kernel_rfl) (fun _ _ _ h => h) (Yields.yieldsIf (Or.inl ⟨by rfl, fun w9 => by (go_simp; first | done | with_reducible rfl | (intro h9; exfalso; omega))⟩)) hS1 ?_
                change wpAnyH _ _ _ _ _ _ _ (Act.put _ (some 175) _) _; dsimp only [Act.put]; simp only [List.setIfInBounds_toArray, List.set_cons_succ, List.set_cons_zero]
                refine wpAnyH_take (i := 62) (v := .int .i64 (mm : Int)) rfl (by kernel_rfl) (by kernel_rfl) (by kernel_rfl) (fun _ _ _ h => h) (Yields.yieldsIf (Or.inl ⟨by rfl, fun w9 => by (go_simp; first | done | with_reducible rfl | (intro h9; exfalso; omega))⟩)) hS1 ?_
                change wpAnyH _ _ _ _ _ _ _ (Act.put _ (some 178) _) _; dsimp only [Act.put]; simp only [List.setIfInBounds_toArray, List.set_cons_succ, List.set_cons_zero]
                refine wpAnyH_ready (rs := [60]) (by kernel_rfl) (by simp) ?_
                refine AllReadyH.cons rfl (fun K hK => ?_) (fun j hj => by cases hj)
                go_simp
                refine (CT2 _ hS1).mono ?_
                rintro e w21 ⟨v21, rfl, hown21, hb21⟩
                obtain ⟨a21, c21, rfl, _⟩ := own_sliceN hown21
                have hS2 := hS1.trans (hb21.mono hS1.size)
                refine (Shut.out hK) _ _ hS2 (fun _ => ?_)
                clear hK K
                refine wpAnyH_take (i := 61) (v := .int .i64 (mm : Int)) rfl (by kernel_rfl) (by kernel_rfl) (by kernel_rfl) (fun _ _ _ h => h) (Yields.yieldsIf (Or.inl ⟨by rfl, fun w9 => by (go_simp; first | done | with_reducible rfl | (intro h9; exfalso; omega))⟩)) hS2 ?_
                change wpAnyH _ _ _ _ _ _ _ (Act.put _ (some 177) _) _; dsimp only [Act.put]; simp only [List.setIfInBounds_toArray, List.set_cons_succ, List.set_cons_zero]
                refine wpAnyH_take (i := 63) (v := .bool false) rfl (by kernel_rfl) (by kernel_rfl) (by kernel_rfl) (fun _ _ _ h => h) (Yields.yieldsIf (Or.inl ⟨by rfl, fun w9 => by (go_simp; first | done | with_reducible rfl | (intro h9; exfalso; omega))⟩)) hS2 ?_
                change wpAnyH _ _ _ _ _ _ _ (Act.put _ (some 179) _) _; dsimp only [Act.put]; simp only [List.setIfInBounds_toArray, List.set_cons_succ, List.set_cons_zero]
                refine wpAnyH_take (i := 64) (v := .bool false) rfl (by kernel_rfl) (by kernel_rfl) (by kernel_rfl) (fun _ _ _ h => h) (Yields.yieldsIf (Or.inl ⟨by rfl, fun w9 => by (go_simp; first | done | with_reducible rfl | (intro h9; exfalso; omega))⟩)) hS2 ?_
                change wpAnyH _ _ _ _ _ _ _ (Act.put _ (some 180) _) _; dsimp only [Act.put]; simp only [List.setIfInBounds_toArray, List.set_cons_succ, List.set_cons_zero]
                refine wpAnyH_take (i := 65) (v := .bool false) rfl (by kernel_rfl) (by kernel_rfl) (by kernel_rfl) (fun _ _ _ h => h) (Yields.yieldsIf (Or.inl ⟨by rfl, fun w9 => by (go_simp; first | done | with_reducible rfl | (intro h9; exfalso; omega))⟩)) hS2 ?_
                change wpAnyH _ _ _ _ _ _ _ (Act.put _ (some 181) _) _; dsimp only [Act.put]; simp only [List.setIfInBounds_toArray, List.set_cons_succ, List.set_cons_zero]
                refine wpAnyH_done (by kernel_rfl) ?_ _
                go_wp2
                go_roundw
                case rel => exact ⟨i + 1, by omega, by go_num, ⟨_, HSR.out.kept hS2⟩, hbelr.trans (hS2.mono hbelr.size)⟩
                case measure => (simp [intOf]) <;> omega
    · have e1 : decide ((i : Int) < (n0 : Int)) = false := decide_eq_false (by omega)
      have e1n : decide (i < n0) = false := decide_eq_false hlt
      have CT := clStates_any g b i M wr sa (by omega)
      have CL := fun W (h : Below wr.heap.size wr W) => clLast_any g b i M W (sa.kept h)
      have HSR := Lib.hid sa
      obtain ⟨ml, hml⟩ : ∃ n, M.length = n := ⟨_, rfl⟩
      obtain ⟨lh, hlh⟩ : ∃ n, lastH M = n := ⟨_, rfl⟩
      simp only [hml] at CT
      simp only [hlh] at CL
      have HLH := Lib.hid hlh
      have hml30 : ml ≤ i := by rw [← hml]; exact sa.2.2.1
      have HML := Lib.hid hml
      clear hml hlh sa
      go_wp2_with (go_at_call 28; refine CT.mono ?_; rintro e W5 ⟨v5, rfl, hown5, hb5⟩; obtain ⟨a5, c5, rfl, hr5, hc5, hm5, _⟩ := own_sliceN hown5)
      have hbel5 : Below w.heap.size w W5 := hbel.trans (hb5.mono hbel.size)
      clear hown5 CT
      go_loopw [20] (fun j wr => ∃ q : Nat, q ≤ ml ∧ j = .int .i64 q ∧ Below W5.heap.size W5 wr) (fun j _ => ml - (intOf j).toNat)
      case atStart => exact ⟨0, Nat.zero_le _, rfl, Below.refl _ _⟩
      case round =>
        obtain ⟨q, hq, rfl, hbe⟩ := hrel
        have hbr := hb5.trans (hbe.mono hb5.size)
        have hbelr : Below w.heap.size w wr := hbel.trans (hbr.mono hbel.size)
        by_cases hqt : q < ml
        · have e3 : decide ((q : Int) < (ml : Int)) = true := decide_eq_true (by omega)
          have e3n : decide (q < ml) = true := decide_eq_true hqt
          have hql : q < M.length := by rw [HML.out]; exact hqt
          obtain ⟨b7, o7, ha7, hb7, hg7⟩ := hds_at (hr5.below hbe) hql
          subst ha7
          have hm7 := HSR.out.2.1 M[q] (List.getElem_mem hql)
          have hcy : wr.cell? ⟨b7, o7 + q * 34, none⟩ = some (.int .i64 M[q].ht) := hg7 0 _ rfl
          have j0 : (0 : Int) ≤ (q : Int) := by omega
          have j1 : (q : Int) < (ml : Int) := by omega
          have j2 : ((q : Nat) : Int).toNat = q := by omega
          have HY : 1 ≤ M[q].ht := by unfold mayHd at hm7; simp only [Bool.and_eq_true, decide_eq_true_eq] at hm7; exact hm7.1.1.1
          by_cases hq0 : 0 < q
          · have hpl : q - 1 < M.length := by omega
            have hlt2 : M[q - 1].ht < M[q].ht := List.pairwise_iff_getElem.1 HSR.out.1 (q - 1) q hpl hql (by omega)
            obtain ⟨b8, o8, ha8, _, hg8⟩ := hds_at (hr5.below hbe) hpl
            simp only [Option.some.injEq, Addr.mk.injEq, and_true] at ha8
            obtain ⟨rfl, rfl⟩ := ha8
            have hcz : wr.cell? ⟨b7, o7 + (q - 1) * 34, none⟩ = some (.int .i64 M[q - 1].ht) := hg8 0 _ rfl
            obtain ⟨y, hy⟩ : ∃ y, M[q].ht = y := ⟨_, rfl⟩
            obtain ⟨z, hz⟩ : ∃ y, M[q - 1].ht = y := ⟨_, rfl⟩
            rw [hy] at hcy HY hlt2
            rw [hz] at hcz hlt2
            clear hy hz hm7 hg7 hg8
            have f1 : decide ((q : Int) > 0) = true := decide_eq_true (by omega)
            have f1g : decide (0 < (q : Int)) = true := decide_eq_true (by omega)
            have f1n : decide (0 < q) = true := decide_eq_true hq0
            have f2 : decide (z ≥ y) = false := decide_eq_false (by omega)
            have f2g : decide (y ≤ z) = false := decide_eq_false (by omega)
            have f3 : decide (y < 1) = false := decide_eq_false (by omega)
            have k0 : (0 : Int) ≤ (q : Int) - 1 := by omega
            have k1 : (q : Int) - 1 < (ml : Int) := by omega
            have k2 : ((q : Int) - 1).toNat = q - 1 := by omega
            have k3 : IntKind.i64.wrap ((q : Int) - 1) = (q : Int) - 1 := by rw [IntKind.wrap_i64]; omega
            as_aux_lemma =>
              go_upto_region 29 with fail
              try simp only [List.append_eq, List.cons_append, List.nil_append]
              refine wp_region_held_drew (S := fun W => Below wr.heap.size wr W) (by kernel_rfl) ((Below.refl _ _).drew) (fun hS0 => ?_)
              refine wpAnyH_take (i := 0) (v := .int .i64 (q : Int)) rfl (by kernel_rfl) (by kernel_rfl) (by kernel_rfl) (fun _ _ _ h => h) (Yields.yieldsIf (Or.inl ⟨by rfl, fun w9 => by (go_simp; first | done | with_reducible rfl | (intro h9; exfalso; omega))⟩)) hS0 ?_
              change wpAnyH _ _ _ _ _ _ _ (Act.put _ (some 190) _) _; dsimp only [Act.put]; simp only [List.setIfInBounds_toArray, List.set_cons_succ, List.set_cons_zero]
              refine wpAnyH_take (i := 1) (v := .bool true) rfl (by kernel_rfl) (by kernel_rfl) (by kernel_rfl) (fun _ _ _ h => h) (Yields.yieldsIf (Or.inl ⟨by rfl, fun w9 => by (go_simp; first | done | with_reducible rfl | (intro h9; exfalso; omega))⟩)) hS0 ?_
              change wpAnyH _ _ _ _ _ _ _ (Act.put _ (some 191) _) _; dsimp only [Act.put]; simp only [List.setIfInBounds_toArray, List.set_cons_succ, List.set_cons_zero]
              refine wpAnyH_take (i := 2) (v := .bool true) rfl (by kernel_rfl) (by kernel_rfl) (by kernel_rfl) (fun _ _ _ h => h) (Yields.yieldsIf (Or.inl ⟨by rfl, fun w9 => by (go_simp; first | done | with_reducible rfl | (intro h9; exfalso; omega))⟩)) hS0 ?_
              change wpAnyH _ _ _ _ _ _ _ (Act.put _ (some 192) _) _; dsimp only [Act.put]; simp only [List.setIfInBounds_toArray, List.set_cons_succ, List.set_cons_zero]
              refine wpAnyH_take (i := 3) (v := .slice (some ⟨b7, o7, none⟩) ml c5) rfl (by kernel_rfl) (by kernel_rfl) (by kernel_rfl) (fun _ _ _ h => h) (Yields.yieldsIf (Or.inl ⟨by rfl, fun w9 => by (go_simp; first | done | with_reducible rfl | (intro h9; exfalso; omega))⟩)) hS0 ?_
              change wpAnyH _ _ _ _ _ _ _ (Act.put _ (some 193) _) _; dsimp only [Act.put]; simp only [List.setIfInBounds_toArray, List.set_cons_succ, List.set_cons_zero]
              refine wpAnyH_take (i := 4) (v := .int .i64 (q : Int)) rfl (by kernel_rfl) (by kernel_rfl) (by kernel_rfl) (fun _ _ _ h => h) (Yields.yieldsIf (Or.inl ⟨by rfl, fun w9 => by (go_simp; first | done | with_reducible rfl | (intro h9; exfalso; omega))⟩)) hS0 ?_
              change wpAnyH _ _ _ _ _ _ _ (Act.put _ (some 194) _) _; dsimp only [Act.put]; simp only [List.setIfInBounds_toArray, List.set_cons_succ, List.set_cons_zero]
              refine wpAnyH_take (i := 5) (v := .int .i64 ((q : Int) - 1)) rfl (by kernel_rfl) (by kernel_rfl) (by kernel_rfl) (fun _ _ _ h => h) (Yields.yieldsIf (Or.inl ⟨by rfl, fun w9 => by (go_simp; first | done | with_reducible rfl | (intro h9; exfalso; omega))⟩)) hS0 ?_
              change wpAnyH _ _ _ _ _ _ _ (Act.put _ (some 195) _) _; dsimp only [Act.put]; simp only [List.setIfInBounds_toArray, List.set_cons_succ, List.set_cons_zero]
              refine wpAnyH_take (i := 6) (v := .pointer (some ⟨b7, o7 + (q - 1) * 34, none⟩)) rfl (by kernel_rfl) (by kernel_rfl) (by kernel_rfl) (fun _ _ _ h => h) (Yields.yieldsIf (Or.inl ⟨by rfl, fun w9 => by (go_simp; first | done | with_reducible rfl | (intro h9; exfalso; omega))⟩)) hS0 ?_
              change wpAnyH _ _ _ _ _ _ _ (Act.put _ (some 196) _) _; dsimp only [Act.put]; simp only [List.setIfInBounds_toArray, List.set_cons_succ, List.set_cons_zero]
              refine wpAnyH_take (i := 7) (v := .pointer (some ⟨b7, o7 + (q - 1) * 34, none⟩)) rfl (by kernel_rfl) (by kernel_rfl) (by kernel_rfl) (fun _ _ _ h => h) (Yields.yieldsIf (Or.inl ⟨by rfl, fun w9 => by (go_simp; first | done | with_reducible rfl | (intro h9; exfalso; omega))⟩)) hS0 ?_
              change wpAnyH _ _ _ _ _ _ _ (Act.put _ (some 197) _) _; dsimp only [Act.put]; simp only [List.setIfInBounds_toArray, List.set_cons_succ, List.set_cons_zero]
              refine wpAnyH_take (i := 8) (v := .int .i64 z) rfl (by kernel_rfl) (by kernel_rfl) (by kernel_rfl) (fun _ _ _ h => h) (Or.inl ⟨by rfl, fun w9 hS9 => by have hc9 := (hS9.cell hb7).trans hcz; go_simp; try with_reducible rfl⟩) hS0 ?_
              change wpAnyH _ _ _ _ _ _ _ (Act.put _ (some 198) _) _; dsimp only [Act.put]; simp only [List.setIfInBounds_toArray, List.set_cons_succ, List.set_cons_zero]
              refine wpAnyH_take (i := 9) (v := .slice (some ⟨b7, o7, none⟩) ml c5) rfl (by kernel_rfl) (by kernel_rfl) (by kernel_rfl) (fun _ _ _ h => h) (Yields.yieldsIf (Or.inl ⟨by rfl, fun w9 => by (go_simp; first | done | with_reducible rfl | (intro h9; exfalso; omega))⟩)) hS0 ?_
              change wpAnyH _ _ _ _ _ _ _ (Act.put _ (some 199) _) _; dsimp only [Act.put]; simp only [List.setIfInBounds_toArray, List.set_cons_succ, List.set_cons_zero]
              refine wpAnyH_take (i := 10) (v := .int .i64 (q : Int)) rfl (by kernel_rfl) (by kernel_rfl) (by kernel_rfl) (fun _ _ _ h => h) (Yields.yieldsIf (Or.inl ⟨by rfl, fun w9 => by (go_simp; first | done | with_reducible rfl | (intro h9; exfalso; omega))⟩)) hS0 ?_
              change wpAnyH _ _ _ _ _ _ _ (Act.put _ (some 200) _) _; dsimp only [Act.put]; simp only [List.setIfInBounds_toArray, List.set_cons_succ, List.set_cons_zero]
              refine wpAnyH_take (i := 11) (v := .pointer (some ⟨b7, o7 + q * 34, none⟩)) rfl (by kernel_rfl) (by kernel_rfl) (by kernel_rfl) (fun _ _ _ h => h) (Yields.yieldsIf (Or.inl ⟨by rfl, fun w9 => by (go_simp; first | done | with_reducible rfl | (intro h9; exfalso; omega))⟩)) hS0 ?_
              change wpAnyH _ _ _ _ _ _ _ (Act.put _ (some 201) _) _; dsimp only [Act.put]; simp only [List.setIfInBounds_toArray, List.set_cons_succ, List.set_cons_zero]
              refine wpAnyH_take (i := 12) (v := .pointer (some ⟨b7, o7 + q * 34, none⟩)) rfl (by kernel_rfl) (by kernel_rfl) (by kernel_rfl) (fun _ _ _ h => h) (Yields.yieldsIf (Or.inl ⟨by rfl, fun w9 => by (go_simp; first | done | with_reducible rfl | (intro h9; exfalso; omega))⟩)) hS0 ?_
              change wpAnyH _ _ _ _ _ _ _ (Act.put _ (some 202) _) _; dsimp only [Act.put]; simp only [List.setIfInBounds_toArray, List.set_cons_succ, List.set_cons_zero]
              refine wpAnyH_take (i := 13) (v := .int .i64 y) rfl (by kernel_rfl) (by kernel_rfl) (by kernel_rfl) (fun _ _ _ h => h) (Or.inl ⟨by rfl, fun w9 hS9 => by have hc9 := (hS9.cell hb7).trans hcy; go_simp; try with_reducible rfl⟩) hS0 ?_
              change wpAnyH _ _ _ _ _ _ _ (Act.put _ (some 203) _) _; dsimp only [Act.put]; simp only [List.setIfInBounds_toArray, List.set_cons_succ, List.set_cons_zero]
              refine wpAnyH_take (i := 14) (v := .bool false) rfl (by kernel_rfl) (by kernel_rfl) (by kernel_rfl) (fun _ _ _ h => h) (Yields.yieldsIf (Or.inl ⟨by rfl, fun w9 => by (go_simp; first | done | with_reducible rfl | (intro h9; exfalso; omega))⟩)) hS0 ?_
              change wpAnyH _ _ _ _ _ _ _ (Act.put _ (some 204) _) _; dsimp only [Act.put]; simp only [List.setIfInBounds_toArray, List.set_cons_succ, List.set_cons_zero]
              refine wpAnyH_take (i := 15) (v := .bool false) rfl (by kernel_rfl) (by kernel_rfl) (by kernel_rfl) (fun _ _ _ h => h) (Yields.yieldsIf (Or.inl ⟨by rfl, fun w9 => by (go_simp; first | done | with_reducible rfl | (intro h9; exfalso; omega))⟩)) hS0 ?_
              change wpAnyH _ _ _ _ _ _ _ (Act.put _ (some 205) _) _; dsimp only [Act.put]; simp only [List.setIfInBounds_toArray, List.set_cons_succ, List.set_cons_zero]
              refine wpAnyH_take (i := 16) (v := .bool false) rfl (by kernel_rfl) (by kernel_rfl) (by kernel_rfl) (fun _ _ _ h => h) (Yields.yieldsIf (Or.inl ⟨by rfl, fun w9 => by (go_simp; first | done | with_reducible rfl | (intro h9; exfalso; omega))⟩)) hS0 ?_
              change wpAnyH _ _ _ _ _ _ _ (Act.put _ (some 206) _) _; dsimp only [Act.put]; simp only [List.setIfInBounds_toArray, List.set_cons_succ, List.set_cons_zero]
              refine wpAnyH_take (i := 17) (v := .slice (some ⟨b7, o7, none⟩) ml c5) rfl (by kernel_rfl) (by kernel_rfl) (by kernel_rfl) (fun _ _ _ h => h) (Yields.yieldsIf (Or.inl ⟨by rfl, fun w9 => by (go_simp; first | done | with_reducible rfl | (intro h9; exfalso; omega))⟩)) hS0 ?_
              change wpAnyH _ _ _ _ _ _ _ (Act.put _ (some 207) _) _; dsimp only [Act.put]; simp only [List.setIfInBounds_toArray, List.set_cons_succ, List.set_cons_zero]
              refine wpAnyH_take (i := 18) (v := .int .i64 (q : Int)) rfl (by kernel_rfl) (by kernel_rfl) (by kernel_rfl) (fun _ _ _ h => h) (Yields.yieldsIf (Or.inl ⟨by rfl, fun w9 => by (go_simp; first | done | with_reducible rfl | (intro h9; exfalso; omega))⟩)) hS0 ?_
              change wpAnyH _ _ _ _ _ _ _ (Act.put _ (some 208) _) _; dsimp only [Act.put]; simp only [List.setIfInBounds_toArray, List.set_cons_succ, List.set_cons_zero]
              refine wpAnyH_take (i := 19) (v := .pointer (some ⟨b7, o7 + q * 34, none⟩)) rfl (by kernel_rfl) (by kernel_rfl) (by kernel_rfl) (fun _ _ _ h => h) (Yields.yieldsIf (Or.inl ⟨by rfl, fun w9 => by (go_simp; first | done | with_reducible rfl | (intro h9; exfalso; omega))⟩)) hS0 ?_
              change wpAnyH _ _ _ _ _ _ _ (Act.put _ (some 209) _) _; dsimp only [Act.put]; simp only [List.setIfInBounds_toArray, List.set_cons_succ, List.set_cons_zero]
              refine wpAnyH_take (i := 20) (v := .pointer (some ⟨b7, o7 + q * 34, none⟩)) rfl (by kernel_rfl) (by kernel_rfl) (by kernel_rfl) (fun _ _ _ h => h) (Yields.yieldsIf (Or.inl ⟨by rfl, fun w9 => by (go_simp; first | done | with_reducible rfl | (intro h9; exfalso; omega))⟩)) hS0 ?_
              change wpAnyH _ _ _ _ _ _ _ (Act.put _ (some 210) _) _; dsimp only [Act.put]; simp only [List.setIfInBounds_toArray, List.set_cons_succ, List.set_cons_zero]
              refine wpAnyH_take (i := 21) (v := .int .i64 y) rfl (by kernel_rfl) (by kernel_rfl) (by kernel_rfl) (fun _ _ _ h => h) (Or.inl ⟨by rfl, fun w9 hS9 => by have hc9 := (hS9.cell hb7).trans hcy; go_simp; try with_reducible rfl⟩) hS0 ?_
              change wpAnyH _ _ _ _ _ _ _ (Act.put _ (some 211) _) _; dsimp only [Act.put]; simp only [List.setIfInBounds_toArray, List.set_cons_succ, List.set_cons_zero]
              refine wpAnyH_take (i := 22) (v := .bool false) rfl (by kernel_rfl) (by kernel_rfl) (by kernel_rfl) (fun _ _ _ h => h) (Yields.yieldsIf (Or.inl ⟨by rfl, fun w9 => by (go_simp; first | done | with_reducible rfl | (intro h9; exfalso; omega))⟩)) hS0 ?_
              change wpAnyH _ _ _ _ _ _ _ (Act.put _ (some 212) _) _; dsimp only [Act.put]; simp only [List.setIfInBounds_toArray, List.set_cons_succ, List.set_cons_zero]
              refine wpAnyH_take (i := 23) (v := .bool false) rfl (by kernel_rfl) (by kernel_rfl) (by kernel_rfl) (fun _ _ _ h => h) (Yields.yieldsIf (Or.inl ⟨by rfl, fun w9 => by (go_simp; first | done | with_reducible rfl | (intro h9; exfalso; omega))⟩)) hS0 ?_
              change wpAnyH _ _ _ _ _ _ _ (Act.put _ (some 213) _) _; dsimp only [Act.put]; simp only [List.setIfInBounds_toArray, List.set_cons_succ, List.set_cons_zero]
              refine wpAnyH_done (by kernel_rfl) ?_ _
              go_wp2
              go_roundw
              case rel => exact ⟨q + 1, by omega, by go_num, hbe.trans (hS0.mono hbe.size)⟩
              case measure => (simp [intOf]) <;> omega
          · obtain ⟨y, hy⟩ : ∃ y, M[q].ht = y := ⟨_, rfl⟩
            rw [hy] at hcy HY
            clear hy hm7 hg7
            have f1 : decide ((q : Int) > 0) = false := decide_eq_false (by omega)
            have f1g : decide (0 < (q : Int)) = false := decide_eq_false (by omega)
            have f1n : decide (0 < q) = false := decide_eq_false hq0
            have f3 : decide (y < 1) = false := decide_eq_false (by omega)
            as_aux_lemma =>
              go_upto_region 29 with fail
              try simp only [List.append_eq, List.cons_append, List.nil_append]
              refine wp_region_held_drew (S := fun W => Below wr.heap.size wr W) (by kernel_rfl) ((Below.refl _ _).drew) (fun hS0 => ?_)
              refine wpAnyH_take (i := 0) (v := .int .i64 (q : Int)) rfl (by kernel_rfl) (by kernel_rfl) (by kernel_rfl) (fun _ _ _ h => h) (Yields.yieldsIf (Or.inl ⟨by rfl, fun w9 => by (go_simp; first | done | with_reducible rfl | (intro h9; exfalso; omega))⟩)) hS0 ?_
              change wpAnyH _ _ _ _ _ _ _ (Act.put _ (some 190) _) _; dsimp only [Act.put]; simp only [List.setIfInBounds_toArray, List.set_cons_succ, List.set_cons_zero]
              refine wpAnyH_take (i := 1) (v := .bool false) rfl (by kernel_rfl) (by kernel_rfl) (by kernel_rfl) (fun _ _ _ h => h) (Yields.yieldsIf (Or.inl ⟨by rfl, fun w9 => by (go_simp; first | done | with_reducible rfl | (intro h9; exfalso; omega))⟩)) hS0 ?_
              change wpAnyH _ _ _ _ _ _ _ (Act.put _ (some 191) _) _; dsimp only [Act.put]; simp only [List.setIfInBounds_toArray, List.set_cons_succ, List.set_cons_zero]
              refine wpAnyH_take (i := 2) (v := .bool false) rfl (by kernel_rfl) (by kernel_rfl) (by kernel_rfl) (fun _ _ _ h => h) (Yields.yieldsIf (Or.inl ⟨by rfl, fun w9 => by (go_simp; first | done | with_reducible rfl | (intro h9; exfalso; omega))⟩)) hS0 ?_
              change wpAnyH _ _ _ _ _ _ _ (Act.put _ (some 192) _) _; dsimp only [Act.put]; simp only [List.setIfInBounds_toArray, List.set_cons_succ, List.set_cons_zero]
              refine wpAnyH_take (i := 3) (v := undef) rfl (by kernel_rfl) (by kernel_rfl) (by kernel_rfl) (fun _ _ _ h => h) (Or.inr ⟨by rfl, rfl⟩) hS0 ?_
              change wpAnyH _ _ _ _ _ _ _ (Act.put _ (some 193) _) _; dsimp only [Act.put]; simp only [List.setIfInBounds_toArray, List.set_cons_succ, List.set_cons_zero]
              refine wpAnyH_take (i := 4) (v := undef) rfl (by kernel_rfl) (by kernel_rfl) (by kernel_rfl) (fun _ _ _ h => h) (Or.inr ⟨by rfl, rfl⟩) hS0 ?_
              change wpAnyH _ _ _ _ _ _ _ (Act.put _ (some 194) _) _; dsimp only [Act.put]; simp only [List.setIfInBounds_toArray, List.set_cons_succ, List.set_cons_zero]
              refine wpAnyH_take (i := 5) (v := undef) rfl (by kernel_rfl) (by kernel_rfl) (by kernel_rfl) (fun _ _ _ h => h) (Or.inr ⟨by rfl, rfl⟩) hS0 ?_
              change wpAnyH _ _ _ _ _ _ _ (Act.put _ (some 195) _) _; dsimp only [Act.put]; simp only [List.setIfInBounds_toArray, List.set_cons_succ, List.set_cons_zero]
              refine wpAnyH_take (i := 6) (v := undef) rfl (by kernel_rfl) (by kernel_rfl) (by kernel_rfl) (fun _ _ _ h => h) (Or.inr ⟨by rfl, rfl⟩) hS0 ?_
              change wpAnyH _ _ _ _ _ _ _ (Act.put _ (some 196) _) _; dsimp only [Act.put]; simp only [List.setIfInBounds_toArray, List.set_cons_succ, List.set_cons_zero]
              refine wpAnyH_take (i := 7) (v := undef) rfl (by kernel_rfl) (by kernel_rfl) (by kernel_rfl) (fun _ _ _ h => h) (Or.inr ⟨by rfl, rfl⟩) hS0 ?_
              change wpAnyH _ _ _ _ _ _ _ (Act.put _ (some 197) _) _; dsimp only [Act.put]; simp only [List.setIfInBounds_toArray, List.set_cons_succ, List.set_cons_zero]
              refine wpAnyH_take (i := 8) (v := undef) rfl (by kernel_rfl) (by kernel_rfl) (by kernel_rfl) (fun _ _ _ h => h) (Or.inr ⟨by rfl, rfl⟩) hS0 ?_
              change wpAnyH _ _ _ _ _ _ _ (Act.put _ (some 198) _) _; dsimp only [Act.put]; simp only [List.setIfInBounds_toArray, List.set_cons_succ, List.set_cons_zero]
              refine wpAnyH_take (i := 9) (v := undef) rfl (by kernel_rfl) (by kernel_rfl) (by kernel_rfl) (fun _ _ _ h => h) (Or.inr ⟨by rfl, rfl⟩) hS0 ?_
              change wpAnyH _ _ _ _ _ _ _ (Act.put _ (some 199) _) _; dsimp only [Act.put]; simp only [List.setIfInBounds_toArray, List.set_cons_succ, List.set_cons_zero]
              refine wpAnyH_take (i := 10) (v := undef) rfl (by kernel_rfl) (by kernel_rfl) (by kernel_rfl) (fun _ _ _ h => h) (Or.inr ⟨by rfl, rfl⟩) hS0 ?_
              change wpAnyH _ _ _ _ _ _ _ (Act.put _ (some 200) _) _; dsimp only [Act.put]; simp only [List.setIfInBounds_toArray, List.set_cons_succ, List.set_cons_zero]
              refine wpAnyH_take (i := 11) (v := undef) rfl (by kernel_rfl) (by kernel_rfl) (by kernel_rfl) (fun _ _ _ h => h) (Or.inr ⟨by rfl, rfl⟩) hS0 ?_
              change wpAnyH _ _ _ _ _ _ _ (Act.put _ (some 201) _) _; dsimp only [Act.put]; simp only [List.setIfInBounds_toArray, List.set_cons_succ, List.set_cons_zero]
              refine wpAnyH_take (i := 12) (v := undef) rfl (by kernel_rfl) (by kernel_rfl) (by kernel_rfl) (fun _ _ _ h => h) (Or.inr ⟨by rfl, rfl⟩) hS0 ?_
              change wpAnyH _ _ _ _ _ _ _ (Act.put _ (some 202) _) _; dsimp only [Act.put]; simp only [List.setIfInBounds_toArray, List.set_cons_succ, List.set_cons_zero]
              refine wpAnyH_take (i := 13) (v := undef) rfl (by kernel_rfl) (by kernel_rfl) (by kernel_rfl) (fun _ _ _ h => h) (Or.inr ⟨by rfl, rfl⟩) hS0 ?_
              change wpAnyH _ _ _ _ _ _ _ (Act.put _ (some 203) _) _; dsimp only [Act.put]; simp only [List.setIfInBounds_toArray, List.set_cons_succ, List.set_cons_zero]
              refine wpAnyH_take (i := 14) (v := undef) rfl (by kernel_rfl) (by kernel_rfl) (by kernel_rfl) (fun _ _ _ h => h) (Or.inr ⟨by rfl, rfl⟩) hS0 ?_
              change wpAnyH _ _ _ _ _ _ _ (Act.put _ (some 204) _) _; dsimp only [Act.put]; simp only [List.setIfInBounds_toArray, List.set_cons_succ, List.set_cons_zero]
              refine wpAnyH_take (i := 15) (v := .bool false) rfl (by kernel_rfl) (by kernel_rfl) (by kernel_rfl) (fun _ _ _ h => h) (Yields.yieldsIf (Or.inl ⟨by rfl, fun w9 => by (go_simp; first | done | with_reducible rfl | (intro h9; exfalso; omega))⟩)) hS0 ?_
              change wpAnyH _ _ _ _ _ _ _ (Act.put _ (some 205) _) _; dsimp only [Act.put]; simp only [List.setIfInBounds_toArray, List.set_cons_succ, List.set_cons_zero]
              refine wpAnyH_take (i := 16) (v := .bool false) rfl (by kernel_rfl) (by kernel_rfl) (by kernel_rfl) (fun _ _ _ h => h) (Yields.yieldsIf (Or.inl ⟨by rfl, fun w9 => by (go_simp; first | done | with_reducible rfl | (intro h9; exfalso; omega))⟩)) hS0 ?_
              change wpAnyH _ _ _ _ _ _ _ (Act.put _ (some 206) _) _; dsimp only [Act.put]; simp only [List.setIfInBounds_toArray, List.set_cons_succ, List.set_cons_zero]
              refine wpAnyH_take (i := 17) (v := .slice (some ⟨b7, o7, none⟩) ml c5) rfl (by kernel_rfl) (by kernel_rfl) (by kernel_rfl) (fun _ _ _ h => h) (Yields.yieldsIf (Or.inl ⟨by rfl, fun w9 => by (go_simp; first | done | with_reducible rfl | (intro h9; exfalso; omega))⟩)) hS0 ?_
              change wpAnyH _ _ _ _ _ _ _ (Act.put _ (some 207) _) _; dsimp only [Act.put]; simp only [List.setIfInBounds_toArray, List.set_cons_succ, List.set_cons_zero]
              refine wpAnyH_take (i := 18) (v := .int .i64 (q : Int)) rfl (by kernel_rfl) (by kernel_rfl) (by kernel_rfl) (fun _ _ _ h => h) (Yields.yieldsIf (Or.inl ⟨by rfl, fun w9 => by (go_simp; first | done | with_reducible rfl | (intro h9; exfalso; omega))⟩)) hS0 ?_
              change wpAnyH _ _ _ _ _ _ _ (Act.put _ (some 208) _) _; dsimp only [Act.put]; simp only [List.setIfInBounds_toArray, List.set_cons_succ, List.set_cons_zero]
              refine wpAnyH_take (i := 19) (v := .pointer (some ⟨b7, o7 + q * 34, none⟩)) rfl (by kernel_rfl) (by kernel_rfl) (by kernel_rfl) (fun _ _ _ h => h) (Yields.yieldsIf (Or.inl ⟨by rfl, fun w9 => by (go_simp; first | done | with_reducible rfl | (intro h9; exfalso; omega))⟩)) hS0 ?_
              change wpAnyH _ _ _ _ _ _ _ (Act.put _ (some 209) _) _; dsimp only [Act.put]; simp only [List.setIfInBounds_toArray, List.set_cons_succ, List.set_cons_zero]
              refine wpAnyH_take (i := 20) (v := .pointer (some ⟨b7, o7 + q * 34, none⟩)) rfl (by kernel_rfl) (by kernel_rfl) (by kernel_rfl) (fun _ _ _ h => h) (Yields.yieldsIf (Or.inl ⟨by rfl, fun w9 => by (go_simp; first | done | with_reducible rfl | (intro h9; exfalso; omega))⟩)) hS0 ?_
              change wpAnyH _ _ _ _ _ _ _ (Act.put _ (some 210) _) _; dsimp only [Act.put]; simp only [List.setIfInBounds_toArray, List.set_cons_succ, List.set_cons_zero]
              refine wpAnyH_take (i := 21) (v := .int .i64 y) rfl (by kernel_rfl) (by kernel_rfl) (by kernel_rfl) (fun _ _ _ h => h) (Or.inl ⟨by rfl, fun w9 hS9 => by have hc9 := (hS9.cell hb7).trans hcy; go_simp; try with_reducible rfl⟩) hS0 ?_
              change wpAnyH _ _ _ _ _ _ _ (Act.put _ (some 211) _) _; dsimp only [Act.put]; simp only [List.setIfInBounds_toArray, List.set_cons_succ, List.set_cons_zero]
              refine wpAnyH_take (i := 22) (v := .bool false) rfl (by kernel_rfl) (by kernel_rfl) (by kernel_rfl) (fun _ _ _ h => h) (Yields.yieldsIf (Or.inl ⟨by rfl, fun w9 => by (go_simp; first | done | with_reducible rfl | (intro h9; exfalso; omega))⟩)) hS0 ?_
              change wpAnyH _ _ _ _ _ _ _ (Act.put _ (some 212) _) _; dsimp only [Act.put]; simp only [List.setIfInBounds_toArray, List.set_cons_succ, List.set_cons_zero]
              refine wpAnyH_take (i := 23) (v := .bool false) rfl (by kernel_rfl) (by kernel_rfl) (by kernel_rfl) (fun _ _ _ h => h) (Yields.yieldsIf (Or.inl ⟨by rfl, fun w9 => by (go_simp; first | done | with_reducible rfl | (intro h9; exfalso; omega))⟩)) hS0 ?_
              change wpAnyH _ _ _ _ _ _ _ (Act.put _ (some 213) _) _; dsimp only [Act.put]; simp only [List.setIfInBounds_toArray, List.set_cons_succ, List.set_cons_zero]
              refine wpAnyH_done (by kernel_rfl) ?_ _
              go_wp2
              go_roundw
              case rel => exact ⟨q + 1, by omega, by go_num, hbe.trans (hS0.mono hbe.size)⟩
              case measure => (simp [intOf]) <;> omega
        · obtain rfl : q = ml := by omega
          have e3 : decide ((q : Int) < (q : Int)) = false := decide_eq_false (by omega)
          have e3n : decide (q < q) = false := decide_eq_false hqt
          by_cases hq0 : q = 0
          · subst hq0
            obtain rfl : lh = 0 := by
              rw [← HLH.out]
              obtain rfl : M = [] := List.eq_nil_of_length_eq_zero HML.out
              rfl
            as_aux_lemma =>
              go_upto_region 31 with fail
              try simp only [List.append_eq, List.cons_append, List.nil_append]
              refine wp_region_held_drew (S := fun W => Below wr.heap.size wr W) (by kernel_rfl) ((Below.refl _ _).drew) (fun hS0 => ?_)
              refine wpAnyH_take (i := 0) (v := .slice a5 0 c5) rfl (by kernel_rfl) (by kernel_rfl) (by kernel_rfl) (fun _ _ _ h => h) (Yields.yieldsIf (Or.inl ⟨by rfl, fun w9 => by (go_simp; first | done | with_reducible rfl | (intro h9; exfalso; omega))⟩)) hS0 ?_
              change wpAnyH _ _ _ _ _ _ _ (Act.put _ (some 214) _) _; dsimp only [Act.put]; simp only [List.setIfInBounds_toArray, List.set_cons_succ, List.set_cons_zero]
              refine wpAnyH_take (i := 1) (v := .int .i64 0) rfl (by kernel_rfl) (by kernel_rfl) (by kernel_rfl) (fun _ _ _ h => h) (Yields.yieldsIf (Or.inl ⟨by rfl, fun w9 => by (go_simp; first | done | with_reducible rfl | (intro h9; exfalso; omega))⟩)) hS0 ?_
              change wpAnyH _ _ _ _ _ _ _ (Act.put _ (some 215) _) _; dsimp only [Act.put]; simp only [List.setIfInBounds_toArray, List.set_cons_succ, List.set_cons_zero]
              refine wpAnyH_take (i := 2) (v := .bool true) rfl (by kernel_rfl) (by kernel_rfl) (by kernel_rfl) (fun _ _ _ h => h) (Yields.yieldsIf (Or.inl ⟨by rfl, fun w9 => by (go_simp; first | done | with_reducible rfl | (intro h9; exfalso; omega))⟩)) hS0 ?_
              change wpAnyH _ _ _ _ _ _ _ (Act.put _ (some 216) _) _; dsimp only [Act.put]; simp only [List.setIfInBounds_toArray, List.set_cons_succ, List.set_cons_zero]
              refine wpAnyH_take (i := 3) (v := .bool true) rfl (by kernel_rfl) (by kernel_rfl) (by kernel_rfl) (fun _ _ _ h => h) (Yields.yieldsIf (Or.inl ⟨by rfl, fun w9 => by (go_simp; first | done | with_reducible rfl | (intro h9; exfalso; omega))⟩)) hS0 ?_
              change wpAnyH _ _ _ _ _ _ _ (Act.put _ (some 217) _) _; dsimp only [Act.put]; simp only [List.setIfInBounds_toArray, List.set_cons_succ, List.set_cons_zero]
              refine wpAnyH_take (i := 4) (v := .pointer (some ⟨g, 0, none⟩)) rfl (by kernel_rfl) (by kernel_rfl) (by kernel_rfl) (fun _ _ _ h => h) (Yields.yieldsIf (Or.inl ⟨by rfl, fun w9 => by (go_simp; first | done | with_reducible rfl | (intro h9; exfalso; omega))⟩)) hS0 ?_
              change wpAnyH _ _ _ _ _ _ _ (Act.put _ (some 218) _) _; dsimp only [Act.put]; simp only [List.setIfInBounds_toArray, List.set_cons_succ, List.set_cons_zero]
              refine wpAnyH_ready (rs := [5]) (by kernel_rfl) (by simp) ?_
              refine AllReadyH.cons rfl (fun K hK => ?_) (fun j hj => by cases hj)
              go_simp
              refine (CL _ (hbr.trans (hS0.mono hbr.size))).mono ?_
              rintro e w20 ⟨rfl, hb20⟩
              have hS1 := hS0.trans (hb20.mono hS0.size)
              refine (Shut.out hK) _ _ hS1 (fun _ => ?_)
              clear hK K
              refine wpAnyH_take (i := 6) (v := .bool true) rfl (by kernel_rfl) (by kernel_rfl) (by kernel_rfl) (fun _ _ _ h => h) (Yields.yieldsIf (Or.inl ⟨by rfl, fun w9 => by (go_simp; first | done | with_reducible rfl | (intro h9; exfalso; omega))⟩)) hS1 ?_
              change wpAnyH _ _ _ _ _ _ _ (Act.put _ (some 220) _) _; dsimp only [Act.put]; simp only [List.setIfInBounds_toArray, List.set_cons_succ, List.set_cons_zero]
              refine wpAnyH_take (i := 7) (v := .bool true) rfl (by kernel_rfl) (by kernel_rfl) (by kernel_rfl) (fun _ _ _ h => h) (Yields.yieldsIf (Or.inl ⟨by rfl, fun w9 => by (go_simp; first | done | with_reducible rfl | (intro h9; exfalso; omega))⟩)) hS1 ?_
              change wpAnyH _ _ _ _ _ _ _ (Act.put _ (some 221) _) _; dsimp only [Act.put]; simp only [List.setIfInBounds_toArray, List.set_cons_succ, List.set_cons_zero]
              refine wpAnyH_take (i := 8) (v := .bool true) rfl (by kernel_rfl) (by kernel_rfl) (by kernel_rfl) (fun _ _ _ h => h) (Yields.yieldsIf (Or.inl ⟨by rfl, fun w9 => by (go_simp; first | done | with_reducible rfl | (intro h9; exfalso; omega))⟩)) hS1 ?_
              change wpAnyH _ _ _ _ _ _ _ (Act.put _ (some 222) _) _; dsimp only [Act.put]; simp only [List.setIfInBounds_toArray, List.set_cons_succ, List.set_cons_zero]
              refine wpAnyH_take (i := 9) (v := undef) rfl (by kernel_rfl) (by kernel_rfl) (by kernel_rfl) (fun _ _ _ h => h) (Or.inr ⟨by rfl, rfl⟩) hS1 ?_
              change wpAnyH _ _ _ _ _ _ _ (Act.put _ (some 223) _) _; dsimp only [Act.put]; simp only [List.setIfInBounds_toArray, List.set_cons_succ, List.set_cons_zero]
              refine wpAnyH_take (i := 10) (v := undef) rfl (by kernel_rfl) (by kernel_rfl) (by kernel_rfl) (fun _ _ _ h => h) (Or.inr ⟨by rfl, rfl⟩) hS1 ?_
              change wpAnyH _ _ _ _ _ _ _ (Act.put _ (some 224) _) _; dsimp only [Act.put]; simp only [List.setIfInBounds_toArray, List.set_cons_succ, List.set_cons_zero]
              refine wpAnyH_take (i := 11) (v := undef) rfl (by kernel_rfl) (by kernel_rfl) (by kernel_rfl) (fun _ _ _ h => h) (Or.inr ⟨by rfl, rfl⟩) hS1 ?_
              change wpAnyH _ _ _ _ _ _ _ (Act.put _ (some 225) _) _; dsimp only [Act.put]; simp only [List.setIfInBounds_toArray, List.set_cons_succ, List.set_cons_zero]
              refine wpAnyH_take (i := 12) (v := undef) rfl (by kernel_rfl) (by kernel_rfl) (by kernel_rfl) (fun _ _ _ h => h) (Or.inr ⟨by rfl, rfl⟩) hS1 ?_
              change wpAnyH _ _ _ _ _ _ _ (Act.put _ (some 226) _) _; dsimp only [Act.put]; simp only [List.setIfInBounds_toArray, List.set_cons_succ, List.set_cons_zero]
              refine wpAnyH_take (i := 13) (v := undef) rfl (by kernel_rfl) (by kernel_rfl) (by kernel_rfl) (fun _ _ _ h => h) (Or.inr ⟨by rfl, rfl⟩) hS1 ?_
              change wpAnyH _ _ _ _ _ _ _ (Act.put _ (some 227) _) _; dsimp only [Act.put]; simp only [List.setIfInBounds_toArray, List.set_cons_succ, List.set_cons_zero]
              refine wpAnyH_take (i := 14) (v := undef) rfl (by kernel_rfl) (by kernel_rfl) (by kernel_rfl) (fun _ _ _ h => h) (Or.inr ⟨by rfl, rfl⟩) hS1 ?_
              change wpAnyH _ _ _ _ _ _ _ (Act.put _ (some 228) _) _; dsimp only [Act.put]; simp only [List.setIfInBounds_toArray, List.set_cons_succ, List.set_cons_zero]
              refine wpAnyH_take (i := 15) (v := undef) rfl (by kernel_rfl) (by kernel_rfl) (by kernel_rfl) (fun _ _ _ h => h) (Or.inr ⟨by rfl, rfl⟩) hS1 ?_
              change wpAnyH _ _ _ _ _ _ _ (Act.put _ (some 229) _) _; dsimp only [Act.put]; simp only [List.setIfInBounds_toArray, List.set_cons_succ, List.set_cons_zero]
              refine wpAnyH_take (i := 16) (v := undef) rfl (by kernel_rfl) (by kernel_rfl) (by kernel_rfl) (fun _ _ _ h => h) (Or.inr ⟨by rfl, rfl⟩) hS1 ?_
              change wpAnyH _ _ _ _ _ _ _ (Act.put _ (some 230) _) _; dsimp only [Act.put]; simp only [List.setIfInBounds_toArray, List.set_cons_succ, List.set_cons_zero]
              refine wpAnyH_take (i := 17) (v := undef) rfl (by kernel_rfl) (by kernel_rfl) (by kernel_rfl) (fun _ _ _ h => h) (Or.inr ⟨by rfl, rfl⟩) hS1 ?_
              change wpAnyH _ _ _ _ _ _ _ (Act.put _ (some 231) _) _; dsimp only [Act.put]; simp only [List.setIfInBounds_toArray, List.set_cons_succ, List.set_cons_zero]
              refine wpAnyH_take (i := 18) (v := undef) rfl (by kernel_rfl) (by kernel_rfl) (by kernel_rfl) (fun _ _ _ h => h) (Or.inr ⟨by rfl, rfl⟩) hS1 ?_
              change wpAnyH _ _ _ _ _ _ _ (Act.put _ (some 232) _) _; dsimp only [Act.put]; simp only [List.setIfInBounds_toArray, List.set_cons_succ, List.set_cons_zero]
              refine wpAnyH_take (i := 19) (v := undef) rfl (by kernel_rfl) (by kernel_rfl) (by kernel_rfl) (fun _ _ _ h => h) (Or.inr ⟨by rfl, rfl⟩) hS1 ?_
              change wpAnyH _ _ _ _ _ _ _ (Act.put _ (some 233) _) _; dsimp only [Act.put]; simp only [List.setIfInBounds_toArray, List.set_cons_succ, List.set_cons_zero]
              refine wpAnyH_take (i := 20) (v := undef) rfl (by kernel_rfl) (by kernel_rfl) (by kernel_rfl) (fun _ _ _ h => h) (Or.inr ⟨by rfl, rfl⟩) hS1 ?_
              change wpAnyH _ _ _ _ _ _ _ (Act.put _ (some 234) _) _; dsimp only [Act.put]; simp only [List.setIfInBounds_toArray, List.set_cons_succ, List.set_cons_zero]
              refine wpAnyH_take (i := 21) (v := undef) rfl (by kernel_rfl) (by kernel_rfl) (by kernel_rfl) (fun _ _ _ h => h) (Or.inr ⟨by rfl, rfl⟩) hS1 ?_
              change wpAnyH _ _ _ _ _ _ _ (Act.put _ (some 235) _) _; dsimp only [Act.put]; simp only [List.setIfInBounds_toArray, List.set_cons_succ, List.set_cons_zero]
              refine wpAnyH_take (i := 22) (v := undef) rfl (by kernel_rfl) (by kernel_rfl) (by kernel_rfl) (fun _ _ _ h => h) (Or.inr ⟨by rfl, rfl⟩) hS1 ?_
              change wpAnyH _ _ _ _ _ _ _ (Act.put _ (some 236) _) _; dsimp only [Act.put]; simp only [List.setIfInBounds_toArray, List.set_cons_succ, List.set_cons_zero]
              refine wpAnyH_take (i := 23) (v := undef) rfl (by kernel_rfl) (by kernel_rfl) (by kernel_rfl) (fun _ _ _ h => h) (Or.inr ⟨by rfl, rfl⟩) hS1 ?_
              change wpAnyH _ _ _ _ _ _ _ (Act.put _ (some 237) _) _; dsimp only [Act.put]; simp only [List.setIfInBounds_toArray, List.set_cons_succ, List.set_cons_zero]
              refine wpAnyH_take (i := 24) (v := .bool true) rfl (by kernel_rfl) (by kernel_rfl) (by kernel_rfl) (fun _ _ _ h => h) (Yields.yieldsIf (Or.inl ⟨by rfl, fun w9 => by (go_simp; first | done | with_reducible rfl | (intro h9; exfalso; omega))⟩)) hS1 ?_
              change wpAnyH _ _ _ _ _ _ _ (Act.put _ (some 238) _) _; dsimp only [Act.put]; simp only [List.setIfInBounds_toArray, List.set_cons_succ, List.set_cons_zero]
              refine wpAnyH_take (i := 25) (v := .bool true) rfl (by kernel_rfl) (by kernel_rfl) (by kernel_rfl) (fun _ _ _ h => h) (Yields.yieldsIf (Or.inl ⟨by rfl, fun w9 => by (go_simp; first | done | with_reducible rfl | (intro h9; exfalso; omega))⟩)) hS1 ?_
              change wpAnyH _ _ _ _ _ _ _ (Act.put _ (some 6) _) _; dsimp only [Act.put]; simp only [List.setIfInBounds_toArray, List.set_cons_succ, List.set_cons_zero]
              refine wpAnyH_done (by kernel_rfl) ?_ _
              go_wp2
              go_ret
              exact ⟨by first | rfl | simp, hbelr.trans (hS1.mono hbelr.size)⟩
          · have hpl : q - 1 < M.length := by rw [HML.out]; omega
            obtain ⟨b7, o7, ha7, hb7, hg7⟩ := hds_at hr5 hpl
            subst ha7
            have hh : M[q - 1].ht = lh := by
              rw [← HLH.out]
              unfold lastH
              rw [List.getLast?_eq_getElem?, HML.out, List.getElem?_eq_getElem hpl]
            have hcy : W5.cell? ⟨b7, o7 + (q - 1) * 34, none⟩ = some (.int .i64 lh) := by rw [← hh]; exact hg7 0 _ rfl
            have f1 : decide ((q : Int) > 0) = true := decide_eq_true (by omega)
            have f1g : decide (0 < (q : Int)) = true := decide_eq_true (by omega)
            have f1n : decide (0 < q) = true := decide_eq_true (by omega)
            have f4 : ((q : Int) == 0) = false := by rw [beq_eq_false_iff_ne]; omega
            have f4n : (q == 0) = false := by rw [beq_eq_false_iff_ne]; exact hq0
            have f5 : (lh == lh) = true := beq_self_eq_true lh
            have k0 : (0 : Int) ≤ (q : Int) - 1 := by omega
            have k1 : (q : Int) - 1 < (q : Int) := by omega
            have k2 : ((q : Int) - 1).toNat = q - 1 := by omega
            have k3 : IntKind.i64.wrap ((q : Int) - 1) = (q : Int) - 1 := by rw [IntKind.wrap_i64]; omega
            clear hg7 hh
            as_aux_lemma =>
              go_upto_region 31 with fail
              try simp only [List.append_eq, List.cons_append, List.nil_append]
              refine wp_region_held_drew (S := fun W => Below wr.heap.size wr W) (by kernel_rfl) ((Below.refl _ _).drew) (fun hS0 => ?_)
              refine wpAnyH_take (i := 0) (v := .slice (some ⟨b7, o7, none⟩) q c5) rfl (by kernel_rfl) (by kernel_rfl) (by kernel_rfl) (fun _ _ _ h => h) (Yields.yieldsIf (Or.inl ⟨by rfl, fun w9 => by (go_simp; first | done | with_reducible rfl | (intro h9; exfalso; omega))⟩)) hS0 ?_
              change wpAnyH _ _ _ _ _ _ _ (Act.put _ (some 214) _) _; dsimp only [Act.put]; simp only [List.setIfInBounds_toArray, List.set_cons_succ, List.set_cons_zero]
              refine wpAnyH_take (i := 1) (v := .int .i64 (q : Int)) rfl (by kernel_rfl) (by kernel_rfl) (by kernel_rfl) (fun _ _ _ h => h) (Yields.yieldsIf (Or.inl ⟨by rfl, fun w9 => by (go_simp; first | done | with_reducible rfl | (intro h9; exfalso; omega))⟩)) hS0 ?_
              change wpAnyH _ _ _ _ _ _ _ (Act.put _ (some 215) _) _; dsimp only [Act.put]; simp only [List.setIfInBounds_toArray, List.set_cons_succ, List.set_cons_zero]
              refine wpAnyH_take (i := 2) (v := .bool false) rfl (by kernel_rfl) (by kernel_rfl) (by kernel_rfl) (fun _ _ _ h => h) (Yields.yieldsIf (Or.inl ⟨by rfl, fun w9 => by (go_simp; first | done | with_reducible rfl | (intro h9; exfalso; omega))⟩)) hS0 ?_
              change wpAnyH _ _ _ _ _ _ _ (Act.put _ (some 216) _) _; dsimp only [Act.put]; simp only [List.setIfInBounds_toArray, List.set_cons_succ, List.set_cons_zero]
              refine wpAnyH_take (i := 3) (v := .bool false) rfl (by kernel_rfl) (by kernel_rfl) (by kernel_rfl) (fun _ _ _ h => h) (Yields.yieldsIf (Or.inl ⟨by rfl, fun w9 => by (go_simp; first | done | with_reducible rfl | (intro h9; exfalso; omega))⟩)) hS0 ?_
              change wpAnyH _ _ _ _ _ _ _ (Act.put _ (some 217) _) _; dsimp only [Act.put]; simp only [List.setIfInBounds_toArray, List.set_cons_succ, List.set_cons_zero]
              refine wpAnyH_take (i := 4) (v := undef) rfl (by kernel_rfl) (by kernel_rfl) (by kernel_rfl) (fun _ _ _ h => h) (Or.inr ⟨by rfl, rfl⟩) hS0 ?_
              change wpAnyH _ _ _ _ _ _ _ (Act.put _ (some 218) _) _; dsimp only [Act.put]; simp only [List.setIfInBounds_toArray, List.set_cons_succ, List.set_cons_zero]
              refine wpAnyH_take (i := 5) (v := undef) rfl (by kernel_rfl) (by kernel_rfl) (by kernel_rfl) (fun _ _ _ h => h) (Or.inr ⟨by rfl, rfl⟩) hS0 ?_
              change wpAnyH _ _ _ _ _ _ _ (Act.put _ (some 219) _) _; dsimp only [Act.put]; simp only [List.setIfInBounds_toArray, List.set_cons_succ, List.set_cons_zero]
              refine wpAnyH_take (i := 6) (v := undef) rfl (by kernel_rfl) (by kernel_rfl) (by kernel_rfl) (fun _ _ _ h => h) (Or.inr ⟨by rfl, rfl⟩) hS0 ?_
              change wpAnyH _ _ _ _ _ _ _ (Act.put _ (some 220) _) _; dsimp only [Act.put]; simp only [List.setIfInBounds_toArray, List.set_cons_succ, List.set_cons_zero]
              refine wpAnyH_take (i := 7) (v := .bool false) rfl (by kernel_rfl) (by kernel_rfl) (by kernel_rfl) (fun _ _ _ h => h) (Yields.yieldsIf (Or.inl ⟨by rfl, fun w9 => by (go_simp; first | done | with_reducible rfl | (intro h9; exfalso; omega))⟩)) hS0 ?_
              change wpAnyH _ _ _ _ _ _ _ (Act.put _ (some 221) _) _; dsimp only [Act.put]; simp only [List.setIfInBounds_toArray, List.set_cons_succ, List.set_cons_zero]
              refine wpAnyH_take (i := 8) (v := .bool false) rfl (by kernel_rfl) (by kernel_rfl) (by kernel_rfl) (fun _ _ _ h => h) (Yields.yieldsIf (Or.inl ⟨by rfl, fun w9 => by (go_simp; first | done | with_reducible rfl | (intro h9; exfalso; omega))⟩)) hS0 ?_
              change wpAnyH _ _ _ _ _ _ _ (Act.put _ (some 222) _) _; dsimp only [Act.put]; simp only [List.setIfInBounds_toArray, List.set_cons_succ, List.set_cons_zero]
              refine wpAnyH_take (i := 9) (v := .slice (some ⟨b7, o7, none⟩) q c5) rfl (by kernel_rfl) (by kernel_rfl) (by kernel_rfl) (fun _ _ _ h => h) (Yields.yieldsIf (Or.inl ⟨by rfl, fun w9 => by (go_simp; first | done | with_reducible rfl | (intro h9; exfalso; omega))⟩)) hS0 ?_
              change wpAnyH _ _ _ _ _ _ _ (Act.put _ (some 223) _) _; dsimp only [Act.put]; simp only [List.setIfInBounds_toArray, List.set_cons_succ, List.set_cons_zero]
              refine wpAnyH_take (i := 10) (v := .int .i64 (q : Int)) rfl (by kernel_rfl) (by kernel_rfl) (by kernel_rfl) (fun _ _ _ h => h) (Yields.yieldsIf (Or.inl ⟨by rfl, fun w9 => by (go_simp; first | done | with_reducible rfl | (intro h9; exfalso; omega))⟩)) hS0 ?_
              change wpAnyH _ _ _ _ _ _ _ (Act.put _ (some 224) _) _; dsimp only [Act.put]; simp only [List.setIfInBounds_toArray, List.set_cons_succ, List.set_cons_zero]
              refine wpAnyH_take (i := 11) (v := .bool true) rfl (by kernel_rfl) (by kernel_rfl) (by kernel_rfl) (fun _ _ _ h => h) (Yields.yieldsIf (Or.inl ⟨by rfl, fun w9 => by (go_simp; first | done | with_reducible rfl | (intro h9; exfalso; omega))⟩)) hS0 ?_
              change wpAnyH _ _ _ _ _ _ _ (Act.put _ (some 225) _) _; dsimp only [Act.put]; simp only [List.setIfInBounds_toArray, List.set_cons_succ, List.set_cons_zero]
              refine wpAnyH_take (i := 12) (v := .bool true) rfl (by kernel_rfl) (by kernel_rfl) (by kernel_rfl) (fun _ _ _ h => h) (Yields.yieldsIf (Or.inl ⟨by rfl, fun w9 => by (go_simp; first | done | with_reducible rfl | (intro h9; exfalso; omega))⟩)) hS0 ?_
              change wpAnyH _ _ _ _ _ _ _ (Act.put _ (some 226) _) _; dsimp only [Act.put]; simp only [List.setIfInBounds_toArray, List.set_cons_succ, List.set_cons_zero]
              refine wpAnyH_take (i := 13) (v := .pointer (some ⟨g, 0, none⟩)) rfl (by kernel_rfl) (by kernel_rfl) (by kernel_rfl) (fun _ _ _ h => h) (Yields.yieldsIf (Or.inl ⟨by rfl, fun w9 => by (go_simp; first | done | with_reducible rfl | (intro h9; exfalso; omega))⟩)) hS0 ?_
              change wpAnyH _ _ _ _ _ _ _ (Act.put _ (some 227) _) _; dsimp only [Act.put]; simp only [List.setIfInBounds_toArray, List.set_cons_succ, List.set_cons_zero]
              refine wpAnyH_take (i := 15) (v := .slice (some ⟨b7, o7, none⟩) q c5) rfl (by kernel_rfl) (by kernel_rfl) (by kernel_rfl) (fun _ _ _ h => h) (Yields.yieldsIf (Or.inl ⟨by rfl, fun w9 => by (go_simp; first | done | with_reducible rfl | (intro h9; exfalso; omega))⟩)) hS0 ?_
              change wpAnyH _ _ _ _ _ _ _ (Act.put _ (some 229) _) _; dsimp only [Act.put]; simp only [List.setIfInBounds_toArray, List.set_cons_succ, List.set_cons_zero]
              refine wpAnyH_take (i := 16) (v := .slice (some ⟨b7, o7, none⟩) q c5) rfl (by kernel_rfl) (by kernel_rfl) (by kernel_rfl) (fun _ _ _ h => h) (Yields.yieldsIf (Or.inl ⟨by rfl, fun w9 => by (go_simp; first | done | with_reducible rfl | (intro h9; exfalso; omega))⟩)) hS0 ?_
              change wpAnyH _ _ _ _ _ _ _ (Act.put _ (some 230) _) _; dsimp only [Act.put]; simp only [List.setIfInBounds_toArray, List.set_cons_succ, List.set_cons_zero]
              refine wpAnyH_take (i := 17) (v := .int .i64 (q : Int)) rfl (by kernel_rfl) (by kernel_rfl) (by kernel_rfl) (fun _ _ _ h => h) (Yields.yieldsIf (Or.inl ⟨by rfl, fun w9 => by (go_simp; first | done | with_reducible rfl | (intro h9; exfalso; omega))⟩)) hS0 ?_
              change wpAnyH _ _ _ _ _ _ _ (Act.put _ (some 231) _) _; dsimp only [Act.put]; simp only [List.setIfInBounds_toArray, List.set_cons_succ, List.set_cons_zero]
              refine wpAnyH_take (i := 18) (v := .int .i64 ((q : Int) - 1)) rfl (by kernel_rfl) (by kernel_rfl) (by kernel_rfl) (fun _ _ _ h => h) (Yields.yieldsIf (Or.inl ⟨by rfl, fun w9 => by (go_simp; first | done | with_reducible rfl | (intro h9; exfalso; omega))⟩)) hS0 ?_
              change wpAnyH _ _ _ _ _ _ _ (Act.put _ (some 232) _) _; dsimp only [Act.put]; simp only [List.setIfInBounds_toArray, List.set_cons_succ, List.set_cons_zero]
              refine wpAnyH_take (i := 19) (v := .pointer (some ⟨b7, o7 + (q - 1) * 34, none⟩)) rfl (by kernel_rfl) (by kernel_rfl) (by kernel_rfl) (fun _ _ _ h => h) (Yields.yieldsIf (Or.inl ⟨by rfl, fun w9 => by (go_simp; first | done | with_reducible rfl | (intro h9; exfalso; omega))⟩)) hS0 ?_
              change wpAnyH _ _ _ _ _ _ _ (Act.put _ (some 233) _) _; dsimp only [Act.put]; simp only [List.setIfInBounds_toArray, List.set_cons_succ, List.set_cons_zero]
              refine wpAnyH_take (i := 20) (v := .pointer (some ⟨b7, o7 + (q - 1) * 34, none⟩)) rfl (by kernel_rfl) (by kernel_rfl) (by kernel_rfl) (fun _ _ _ h => h) (Yields.yieldsIf (Or.inl ⟨by rfl, fun w9 => by (go_simp; first | done | with_reducible rfl | (intro h9; exfalso; omega))⟩)) hS0 ?_
              change wpAnyH _ _ _ _ _ _ _ (Act.put _ (some 234) _) _; dsimp only [Act.put]; simp only [List.setIfInBounds_toArray, List.set_cons_succ, List.set_cons_zero]
              refine wpAnyH_take (i := 21) (v := .int .i64 lh) rfl (by kernel_rfl) (by kernel_rfl) (by kernel_rfl) (fun _ _ _ h => h) (Or.inl ⟨by rfl, fun w9 hS9 => by have hc9 := ((hbe.trans (hS9.mono hbe.size)).cell (p := ⟨b7, o7 + (q - 1) * 34, none⟩) hb7).trans hcy; go_simp; try with_reducible rfl⟩) hS0 ?_
              change wpAnyH _ _ _ _ _ _ _ (Act.put _ (some 235) _) _; dsimp only [Act.put]; simp only [List.setIfInBounds_toArray, List.set_cons_succ, List.set_cons_zero]
              refine wpAnyH_ready (rs := [14]) (by kernel_rfl) (by simp) ?_
              refine AllReadyH.cons rfl (fun K hK => ?_) (fun j hj => by cases hj)
              go_simp
              refine (CL _ (hbr.trans (hS0.mono hbr.size))).mono ?_
              rintro e w20 ⟨rfl, hb20⟩
              have hS1 := hS0.trans (hb20.mono hS0.size)
              refine (Shut.out hK) _ _ hS1 (fun _ => ?_)
              clear hK K
              refine wpAnyH_take (i := 22) (v := .bool true) rfl (by kernel_rfl) (by kernel_rfl) (by kernel_rfl) (fun _ _ _ h => h) (Yields.yieldsIf (Or.inl ⟨by rfl, fun w9 => by (go_simp; first | done | with_reducible rfl | (intro h9; exfalso; omega))⟩)) hS1 ?_
              change wpAnyH _ _ _ _ _ _ _ (Act.put _ (some 236) _) _; dsimp only [Act.put]; simp only [List.setIfInBounds_toArray, List.set_cons_succ, List.set_cons_zero]
              refine wpAnyH_take (i := 23) (v := .bool true) rfl (by kernel_rfl) (by kernel_rfl) (by kernel_rfl) (fun _ _ _ h => h) (Yields.yieldsIf (Or.inl ⟨by rfl, fun w9 => by (go_simp; first | done | with_reducible rfl | (intro h9; exfalso; omega))⟩)) hS1 ?_
              change wpAnyH _ _ _ _ _ _ _ (Act.put _ (some 237) _) _; dsimp only [Act.put]; simp only [List.setIfInBounds_toArray, List.set_cons_succ, List.set_cons_zero]
              refine wpAnyH_take (i := 24) (v := .bool true) rfl (by kernel_rfl) (by kernel_rfl) (by kernel_rfl) (fun _ _ _ h => h) (Yields.yieldsIf (Or.inl ⟨by rfl, fun w9 => by (go_simp; first | done | with_reducible rfl | (intro h9; exfalso; omega))⟩)) hS1 ?_
              change wpAnyH _ _ _ _ _ _ _ (Act.put _ (some 238) _) _; dsimp only [Act.put]; simp only [List.setIfInBounds_toArray, List.set_cons_succ, List.set_cons_zero]
              refine wpAnyH_take (i := 25) (v := .bool true) rfl (by kernel_rfl) (by kernel_rfl) (by kernel_rfl) (fun _ _ _ h => h) (Yields.yieldsIf (Or.inl ⟨by rfl, fun w9 => by (go_simp; first | done | with_reducible rfl | (intro h9; exfalso; omega))⟩)) hS1 ?_
              change wpAnyH _ _ _ _ _ _ _ (Act.put _ (some 6) _) _; dsimp only [Act.put]; simp only [List.setIfInBounds_toArray, List.set_cons_succ, List.set_cons_zero]
              refine wpAnyH_done (by kernel_rfl) ?_ _
              go_wp2
              go_ret
              exact ⟨by first | rfl | simp, hbelr.trans (hS1.mono hbelr.size)⟩

end Go.Proofs.Ytbckncopdkmoeaa
