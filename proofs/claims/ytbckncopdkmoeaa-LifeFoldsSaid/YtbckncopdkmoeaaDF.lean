/- ligref22.Table.Fold: events of packets, kind 4. ligref22.Table.Fold: events of packets, kind 5. -/
import Derived.Test.YtbckncopdkmoeaaDB
import Derived.Lib.AppendZerosOnto
import Derived.Deep.MidRow
import Derived.Deep.Cut
import Derived.BigRegion
import Derived.RegionTactic
import Derived.BigQuiet
import Derived.Deep.QuietTactic
import Derived.Deep.RegionLaw
import Derived.OneCell
import Derived.Laws.OwnMore
import Derived.Deep.RegionHeld
import Derived.LoopTactic
import Derived.BigFrame
import Derived.OwnWalk
import Derived.WalkKit
import Derived.ProofKit
import Derived.Handy
import Derived.Below
import Derived.Lib.Hide
import Derived.IntWalk
import Derived.Outline
import Derived.WalkLawsBesides
import Derived.WalkSpells
namespace Go.Proofs.Ytbckncopdkmoeaa
open Go.RowKit
attribute [local go_sem] strV
set_option linter.unusedVariables false
set_option linter.unusedSimpArgs false
set_option maxRecDepth 100000 in
set_option maxHeartbeats 6400000 in
theorem refFoldPk4_any (B d : Nat) (s : Tb) (ks : List Lk) (qs : List Pe) (e : Ev) (w : World) (hk : e.kd = 4) (hs : SzE e) (hM : mayEv e = true) (hKs : KeysOf s ks) (hm : ks.length ≤ 1000) (hD : DocAt w B d ks (entsF s.f ks) qs) (hB : B ≤ w.heap.size) :
    Calls Try.prog 33 #[.pointer (some ⟨d, 0, none⟩), .agg e.row] w fun r w' => r = .returned (.int .i64 (foldA s.f s.cl e)) ∧ (∃ ks', KeysOf (stepT s e) ks' ∧ ks'.length ≤ ks.length + 1 ∧ DocAt w' B d ks' (entsF (stepT s e).f ks') qs) ∧ GrD B w w' := by
  have hp : hasP e.kd = true := by rw [hk]; rfl
  obtain ⟨o1, o2, o3, o4⟩ := own_says hM hp
  have CM := fun W => mayR_any e W hs
  have CO := fun W => ownR_any e W hs
  rw [hM] at CM
  rw [o1, o2, o3, o4] at CO
  have hou : (keyE e).ou = true := by rw [(key_parts e).1, hk]; rfl
  have HNEW := fun h => new_says hM hp hKs h
  have HOLD := fun h => old_says hM hp hKs h
  generalize hV9 : foldA s.f s.cl e = V at HNEW HOLD ⊢
  clear hV9
  obtain ⟨⟨P, C, u9, S⟩, hk9⟩ : ∃ k, keyE e = k := ⟨_, rfl⟩
  rw [hk9] at hou CO HNEW HOLD
  simp only at hou CO
  subst hou
  have HKD := Lib.hid hk
  clear o1 o2 o3 o4 hk9 hp hk
  have hq0 := heap_push w e.row 76
  have hb0 : Below w.heap.size w (w.alloc (.cells e.row 76)) := (Below.refl _ _).alloc (Nat.le_refl _) _
  have q0 : (w.alloc (.cells e.row 76)).cell? ⟨w.heap.size, 0, none⟩ = some (.int .i64 4) := by rw [← HKD.out]; exact cell_heap hq0 0
  go_enter Try.func33, Try.ntmps33
  go_upto_region 3 with (first | (refine (wpList_loadEvR (.tmp 3) rfl w.heap.size 0 rfl e (evr_range hq0) (by rfl) ?_)) | (go_at_call 39; refine (CM _).mono ?_; rintro e9 w1 ⟨rfl, hb1⟩; have hq1 := cells_of hq0 hb1 (row_lt hq0); have hbel := hb0.trans (hb1.mono hb0.size)))
  clear CM hb1 q0 hq0 hb0
  have q0 : w1.cell? ⟨w.heap.size, 0, none⟩ = some (.int .i64 4) := by rw [← HKD.out]; exact cell_heap hq1 0
  go_upto_region 8 with (first | (refine (wpList_loadEvR (.tmp 3) rfl w.heap.size 0 rfl e (evr_range hq1) (by rfl) ?_)) | (go_at_call 41; refine (CO _).mono ?_; rintro e9 w2 ⟨rfl, hb2⟩; have hq2 := cells_of hq1 hb2 (row_lt hq1); have hbel := hbel.trans (hb2.mono hbel.size)))
  clear CO q0 hq1
  refine wp_nameE _ (fun w3 hw3 => ?_)
  have hq3 : w3.heap[w.heap.size]? = some (.cells e.row 76 (0, 0)) := by rw [hw3]; exact cells_of hq2 ((Below.refl _ _).alloc (Nat.le_refl _) _) (row_lt hq2)
  have he3 : w3.heap[w2.heap.size]? = some (.cells #[.string P, .int .i64 C] 60 (0, 0)) := by rw [hw3]; exact heap_push w2 _ _
  have hb3 : Below w.heap.size w w3 := by rw [hw3]; exact hbel.alloc hbel.size _
  clear hw3 hb2 hq2 hbel
  have q0 : w3.cell? ⟨w.heap.size, 0, none⟩ = some (.int .i64 4) := by rw [← HKD.out]; exact cell_heap hq3 0
  have u0 := cell_heap he3 0
  have u1 := cell_heap he3 1
  go_upto_region 9 with (refine wpList_buildG rfl 81 _ rfl #[(0, .agg #[.string P, .int .i64 C]), (1, .bool true), (2, .int .i64 S)] (by first | rfl | simp [Act.eval]) (build_k2 P C true S _) ?_)
  refine wp_nameE _ (fun w4 hw4 => ?_)
  have hb43 : Below w3.heap.size w3 w4 := by rw [hw4]; exact (Below.refl _ _).alloc (Nat.le_refl _) _
  have hk4 : w4.heap[w3.heap.size]? = some (.cells (⟨P, C, true, S⟩ : Lk).row 81 (0, 0)) := by rw [hw4]; exact heap_push w3 _ _
  have hq4 := cells_of hq3 hb43 (row_lt hq3)
  have hb4 := hb3.trans (hb43.mono hb3.size)
  clear hw4 hb3 he3 hq3 q0 u0 u1
  have hD9 := hD
  obtain ⟨_, ak, ck, ae, ce, ac, cc, hd0, hok0, hoe0, _⟩ := hD9
  have HD0 := Lib.hid hd0
  have hd4 := cells_of hd0 hb4 (row_lt hd0)
  have hok := own_kept9 hok0 hb4
  have hoe := own_kept9 hoe0 hb4
  clear hd0 hok0
  obtain ⟨n, hn⟩ : ∃ n, ks.length = n := ⟨_, rfl⟩
  have hne : (entsF s.f ks).length = n := by rw [entsF_len, hn]
  rw [hn] at hd4 hok hm
  rw [hne] at hd4 hoe hoe0
  have HOE0 := Lib.hid hoe0
  clear hoe0
  obtain ⟨_, _, e9, hrk, hck1, hck2, hnk⟩ := own_sliceN hok
  cases e9
  obtain ⟨_, _, e9, hre, hce1, hce2, hnen⟩ := own_sliceN hoe
  cases e9
  unfold maxLen at hck2 hce2
  have HN := Lib.hid hn
  have HNE := Lib.hid hne
  have hfeN := own_blockD hoe hd4 (by decide)
  have CF := refFind_any d ak n ck (.slice ae n ce) (.slice ac qs.length cc) ks (⟨P, C, true, S⟩ : Lk) w4 hd4 hrk hn (by omega)
  clear hn hne
  have hkl := find_le ks (⟨P, C, true, S⟩ : Lk)
  have HFB : findB ks (⟨P, C, true, S⟩ : Lk) = true → findI ks (⟨P, C, true, S⟩ : Lk) < ks.length := find_lt
  rw [HN.out] at hkl HFB
  obtain ⟨i, hi9⟩ : ∃ i, findI ks (⟨P, C, true, S⟩ : Lk) = i := ⟨_, rfl⟩
  obtain ⟨f, hf9⟩ : ∃ f, findB ks (⟨P, C, true, S⟩ : Lk) = f := ⟨_, rfl⟩
  rw [hi9, hf9] at CF HFB
  rw [hi9] at hkl HNEW HOLD
  rw [hf9] at HNEW HOLD
  clear hi9 hf9
  go_upto_region 10 with (first | (refine wpList_loadLk2R (.tmp 8) rfl w3.heap.size 0 rfl (⟨P, C, true, S⟩ : Lk) (row_range4 hk4) (by rfl) ?_) | (go_at_call 64; refine CF.mono ?_; rintro e9 w5 ⟨rfl, hb5⟩))
  have hb54 := hb4.trans (hb5.mono hb4.size)
  have hk5 := cells_of hk4 hb5 (row_lt hk4)
  have hq5 := cells_of hq4 hb5 (row_lt hq4)
  have hD5 := hD.kept hb54
  have hd5 := cells_of hd4 hb5 (row_lt hd4)
  have hrk := hrk.below hb5
  have hre := hre.below hb5
  have hfk := own_formD hok
  have hfe := own_formD hoe
  have hB5 := hb54.size
  clear CF hk4 hq4 hd4 hb4 hb5 hb43 hok hoe
  cases f
  · obtain ⟨hA, hcl, hKN, hEF⟩ := HNEW rfl
    have HA := Lib.hid hA
    have HKN := Lib.hid hKN
    have HEF := Lib.hid hEF
    clear HNEW HOLD HFB hA hcl hKN hEF
    obtain ⟨M, hM9⟩ : ∃ M, markR (entP zeroEnt e) e.kd e.ack = M := ⟨_, rfl⟩
    have CMK := fun W => markEv_any (entP zeroEnt e) e W
    rw [hM9] at HEF CMK
    clear hM9
    go_upto_region 11 with fail
    obtain ⟨i0, hi0, hz0, hzs, hzb⟩ := info_parts Try.infoLk3
    have hdl := row_lt hd5
    have hdc : w5.cell? ⟨d, 0, none⟩ = some (.slice ak n ck) := cell_heap hd5 0
    have hrW := hrk
    have HTL := Lib.hid (show ((ks.take i).flatMap Lk.L).length = i * 4 by rw [flat_length Lk.L 4 Lk.L_len4, List.length_take, HN.out, Nat.min_eq_left hkl])
    have HDL := Lib.hid (show ((ks.drop i).flatMap Lk.L).length = (n - i) * 4 by rw [flat_length Lk.L 4 Lk.L_len4, List.length_drop, HN.out])
    obtain ⟨L9, hL9⟩ : ∃ m : Nat, i + 1 + (n - i) = m := ⟨_, rfl⟩
    have HL9 := Lib.hid hL9
    have HIL := Lib.hid (show (ks.take i ++ (⟨P, C, true, S⟩ : Lk) :: ks.drop i).length = L9 by rw [← hL9]; rw [List.length_append, List.length_cons, List.length_take, List.length_drop, HN.out, Nat.min_eq_left hkl]; omega)
    clear hL9
    have HIF := Lib.hid (show (ks.take i ++ (⟨P, C, true, S⟩ : Lk) :: ks.drop i).flatMap Lk.L = (ks.take i).flatMap Lk.L ++ Lk.L (⟨P, C, true, S⟩ : Lk) ++ (ks.drop i).flatMap Lk.L by rw [List.flatMap_append, List.flatMap_cons, List.append_assoc])
    refine wp_region_tail 20 1 (S := fun X => Below w5.heap.size w5 X) (by kernel_rfl) (by rfl) (by decide) (by kernel_rfl) (by kernel_rfl) ((Below.refl _ _).drew) (fun hS0 => ?_)
    refine wpAnyT_take (i := 0) (v := .pointer (some ⟨d, 0, none⟩)) rfl (by kernel_rfl) (by kernel_rfl) (by kernel_rfl) (by decide) (fun _ _ _ h => h) (Yields.yieldsIf (Or.inl ⟨by rfl, fun w9 => by (go_simp; first | done | with_reducible rfl | (intro h9; exfalso; omega))⟩)) hS0 ?_
    change wpAnyT _ _ _ _ _ _ _ _ _ (Act.put _ (some 55) _) _; dsimp only [Act.put]; simp only [List.setIfInBounds_toArray, List.set_cons_succ, List.set_cons_zero]
    refine wpAnyT_take (i := 1) (v := .pointer (some ⟨d, 0, none⟩)) rfl (by kernel_rfl) (by kernel_rfl) (by kernel_rfl) (by decide) (fun _ _ _ h => h) (Yields.yieldsIf (Or.inl ⟨by rfl, fun w9 => by (go_simp; first | done | with_reducible rfl | (intro h9; exfalso; omega))⟩)) hS0 ?_
    change wpAnyT _ _ _ _ _ _ _ _ _ (Act.put _ (some 56) _) _; dsimp only [Act.put]; simp only [List.setIfInBounds_toArray, List.set_cons_succ, List.set_cons_zero]
    refine wpAnyT_take (i := 2) (v := .pointer (some ⟨d, 0, none⟩)) rfl (by kernel_rfl) (by kernel_rfl) (by kernel_rfl) (by decide) (fun _ _ _ h => h) (Yields.yieldsIf (Or.inl ⟨by rfl, fun w9 => by (go_simp; first | done | with_reducible rfl | (intro h9; exfalso; omega))⟩)) hS0 ?_
    change wpAnyT _ _ _ _ _ _ _ _ _ (Act.put _ (some 57) _) _; dsimp only [Act.put]; simp only [List.setIfInBounds_toArray, List.set_cons_succ, List.set_cons_zero]
    refine wpAnyT_take (i := 3) (v := .pointer (some ⟨d, 0, none⟩)) rfl (by kernel_rfl) (by kernel_rfl) (by kernel_rfl) (by decide) (fun _ _ _ h => h) (Yields.yieldsIf (Or.inl ⟨by rfl, fun w9 => by (go_simp; first | done | with_reducible rfl | (intro h9; exfalso; omega))⟩)) hS0 ?_
    change wpAnyT _ _ _ _ _ _ _ _ _ (Act.put _ (some 58) _) _; dsimp only [Act.put]; simp only [List.setIfInBounds_toArray, List.set_cons_succ, List.set_cons_zero]
    refine wpAnyT_take (i := 4) (v := .slice ak n ck) rfl (by kernel_rfl) (by kernel_rfl) (by kernel_rfl) (by decide) (fun _ _ _ h => h) (Or.inl ⟨by rfl, fun w9 hS9 => by have hc9 := (hS9.cell hdl).trans hdc; go_simp; try with_reducible rfl⟩) hS0 ?_
    change wpAnyT _ _ _ _ _ _ _ _ _ (Act.put _ (some 59) _) _; dsimp only [Act.put]; simp only [List.setIfInBounds_toArray, List.set_cons_succ, List.set_cons_zero]
    refine wpAnyT_take (i := 5) (v := .int .i64 (i : Int)) rfl (by kernel_rfl) (by kernel_rfl) (by kernel_rfl) (by decide) (fun _ _ _ h => h) (Yields.yieldsIf (Or.inl ⟨by rfl, fun w9 => by (go_simp; first | done | with_reducible rfl | (intro h9; exfalso; omega))⟩)) hS0 ?_
    change wpAnyT _ _ _ _ _ _ _ _ _ (Act.put _ (some 60) _) _; dsimp only [Act.put]; simp only [List.setIfInBounds_toArray, List.set_cons_succ, List.set_cons_zero]
    refine wpAnyT_take (i := 6) (v := .slice ak i ck) rfl (by kernel_rfl) (by kernel_rfl) (by kernel_rfl) (by decide) (fun _ _ _ h => h) (Or.inl ⟨by rfl, fun w9 hS9 => exec_toLk 59 60 rfl (by first | rfl | simp [Act.eval, Act.put]) (by first | rfl | simp [Act.eval, Act.put]) hkl hck1 hnk hfk⟩) hS0 ?_
    change wpAnyT _ _ _ _ _ _ _ _ _ (Act.put _ (some 61) _) _; dsimp only [Act.put]; simp only [List.setIfInBounds_toArray, List.set_cons_succ, List.set_cons_zero]
    refine wpAnyT_take (i := 8) (v := .agg (⟨P, C, true, S⟩ : Lk).row) rfl (by kernel_rfl) (by kernel_rfl) (by kernel_rfl) (by decide) (fun _ _ _ h => h) (Or.inl ⟨by rfl, fun w9 hS9 => exec_loadLk2 (.tmp 8) rfl w3.heap.size 0 (by first | rfl | simp [Act.eval, Act.put]) (⟨P, C, true, S⟩ : Lk) (range_belowS (row_range4 hk5) hS9 (row_lt hk5))⟩) hS0 ?_
    change wpAnyT _ _ _ _ _ _ _ _ _ (Act.put _ (some 63) _) _; dsimp only [Act.put]; simp only [List.setIfInBounds_toArray, List.set_cons_succ, List.set_cons_zero]
    refine wpAnyT_take (i := 11) (v := .pointer (some ⟨d, 0, none⟩)) rfl (by kernel_rfl) (by kernel_rfl) (by kernel_rfl) (by decide) (fun _ _ _ h => h) (Yields.yieldsIf (Or.inl ⟨by rfl, fun w9 => by (go_simp; first | done | with_reducible rfl | (intro h9; exfalso; omega))⟩)) hS0 ?_
    change wpAnyT _ _ _ _ _ _ _ _ _ (Act.put _ (some 66) _) _; dsimp only [Act.put]; simp only [List.setIfInBounds_toArray, List.set_cons_succ, List.set_cons_zero]
    refine wpAnyT_take (i := 12) (v := .pointer (some ⟨d, 0, none⟩)) rfl (by kernel_rfl) (by kernel_rfl) (by kernel_rfl) (by decide) (fun _ _ _ h => h) (Yields.yieldsIf (Or.inl ⟨by rfl, fun w9 => by (go_simp; first | done | with_reducible rfl | (intro h9; exfalso; omega))⟩)) hS0 ?_
    change wpAnyT _ _ _ _ _ _ _ _ _ (Act.put _ (some 67) _) _; dsimp only [Act.put]; simp only [List.setIfInBounds_toArray, List.set_cons_succ, List.set_cons_zero]
    refine wpAnyT_take (i := 13) (v := .pointer (some ⟨d, 0, none⟩)) rfl (by kernel_rfl) (by kernel_rfl) (by kernel_rfl) (by decide) (fun _ _ _ h => h) (Yields.yieldsIf (Or.inl ⟨by rfl, fun w9 => by (go_simp; first | done | with_reducible rfl | (intro h9; exfalso; omega))⟩)) hS0 ?_
    change wpAnyT _ _ _ _ _ _ _ _ _ (Act.put _ (some 68) _) _; dsimp only [Act.put]; simp only [List.setIfInBounds_toArray, List.set_cons_succ, List.set_cons_zero]
    refine wpAnyT_take (i := 14) (v := .slice ak n ck) rfl (by kernel_rfl) (by kernel_rfl) (by kernel_rfl) (by decide) (fun _ _ _ h => h) (Or.inl ⟨by rfl, fun w9 hS9 => by have hc9 := (hS9.cell hdl).trans hdc; go_simp; try with_reducible rfl⟩) hS0 ?_
    change wpAnyT _ _ _ _ _ _ _ _ _ (Act.put _ (some 69) _) _; dsimp only [Act.put]; simp only [List.setIfInBounds_toArray, List.set_cons_succ, List.set_cons_zero]
    refine wpAnyT_take (i := 15) (v := .int .i64 (i : Int)) rfl (by kernel_rfl) (by kernel_rfl) (by kernel_rfl) (by decide) (fun _ _ _ h => h) (Yields.yieldsIf (Or.inl ⟨by rfl, fun w9 => by (go_simp; first | done | with_reducible rfl | (intro h9; exfalso; omega))⟩)) hS0 ?_
    change wpAnyT _ _ _ _ _ _ _ _ _ (Act.put _ (some 70) _) _; dsimp only [Act.put]; simp only [List.setIfInBounds_toArray, List.set_cons_succ, List.set_cons_zero]
    refine wpAnyT_take (i := 16) (v := .slice (cutA ak ck i 4) (n - i) (ck - i)) rfl (by kernel_rfl) (by kernel_rfl) (by kernel_rfl) (by decide) (fun _ _ _ h => h) (Or.inl ⟨by rfl, fun w9 hS9 => exec_fromLk 69 70 rfl (by first | rfl | simp [Act.eval, Act.put]) (by first | rfl | simp [Act.eval, Act.put]) hkl hck1 hnk hfk⟩) hS0 ?_
    change wpAnyT _ _ _ _ _ _ _ _ _ (Act.put _ (some 71) _) _; dsimp only [Act.put]; simp only [List.setIfInBounds_toArray, List.set_cons_succ, List.set_cons_zero]
    refine wpAnyT_ready (rs := [7, 9]) (by kernel_rfl) (by simp) (by rfl) ?_
    refine (AllReadyT.cons rfl (fun K hK => ?_) (AllReadyT.cons rfl (fun K hK => ?_) AllReadyT.nil))
    · refine step_append_ownA rfl (.const (.slice none 0 0)) (.tmp 61) 67 rfl w5.heap.size 81 i0 (.agg #[.string ⟨#[]⟩, .int .i64 0, .bool false, .int .i64 0]) 4 40 Try.underlying67 hi0 hz0 hzs hzb rfl (by decide) (.slice none 0 0) (0) ([]) (by first | rfl | simp [Act.eval, Act.put]) (World.ownsRow_nil _ _ _ _) (ak) (i) (ck) ((ks.take i).flatMap Lk.L) (by first | rfl | simp [Act.eval, Act.put]) (fun h => by have := hnk h; omega) HTL.out (take_newsD Lk.L_len4 (hrW.below hS0) i) (by first | exact flat_oneD Lk.L_one _ | exact Lk.L_one _) (by unfold maxLen; omega) (by omega) hS0.size ?_
      intro v1 w1x hown1 hgr1
      simp only [Nat.zero_add, List.nil_append] at hown1
      have hT1 := hS0.trans ((grown_lowM hgr1 (fun k h => by cases h) (Nat.le_refl _)).mono hS0.size)
      refine (Shut.out hK) _ _ hT1 (fun _ => ?_)
      clear hK K
      change wpAnyT _ _ _ _ _ _ _ _ _ (Act.put _ (some 62) _) _; dsimp only [Act.put]; simp only [List.setIfInBounds_toArray, List.set_cons_succ, List.set_cons_zero]
      refine wpAnyT_ready (rs := [9]) (by kernel_rfl) (by simp) (by rfl) ?_
      refine (AllReadyT.cons rfl (fun K hK => ?_) AllReadyT.nil)
      refine step_oneLk rfl (.tmp 63) rfl (⟨P, C, true, S⟩ : Lk) (by first | rfl | simp [Act.eval, Act.put]) ?_
      have hT2 := hT1.alloc hT1.size (.cells (⟨P, C, true, S⟩ : Lk).row 81)
      have hown1 := hown1.alloc (.cells (⟨P, C, true, S⟩ : Lk).row 81)
      have hN := heap_push w1x (⟨P, C, true, S⟩ : Lk).row 81
      refine (Shut.out hK) _ _ hT2 (fun _ => ?_)
      clear hK K
      change wpAnyT _ _ _ _ _ _ _ _ _ (Act.put _ (some 64) _) _; dsimp only [Act.put]; simp only [List.setIfInBounds_toArray, List.set_cons_succ, List.set_cons_zero]
      generalize hg9 : w1x.alloc (.cells (⟨P, C, true, S⟩ : Lk).row 81) = wN at hT2 hown1 hN ⊢
      clear hg9
      generalize w1x.heap.size = g1 at hN ⊢
      refine wpAnyT_ready (rs := [10]) (by kernel_rfl) (by simp) (by rfl) ?_
      refine (AllReadyT.cons rfl (fun K hK => ?_) AllReadyT.nil)
      refine step_append_ownA rfl (.tmp 62) (.tmp 64) 67 rfl w5.heap.size 81 i0 (.agg #[.string ⟨#[]⟩, .int .i64 0, .bool false, .int .i64 0]) 4 40 Try.underlying67 hi0 hz0 hzs hzb rfl (by decide) (v1) (i) ((ks.take i).flatMap Lk.L) (by first | rfl | simp [Act.eval, Act.put]) hown1 (some ⟨g1, 0, none⟩) (1) (1) (Lk.L (⟨P, C, true, S⟩ : Lk)) (by first | rfl | simp [Act.eval, Act.put]) (fun h => by cases h) (by rfl) (some_funD (row_newD hN rfl)) (by first | exact flat_oneD Lk.L_one _ | exact Lk.L_one _) (by unfold maxLen; omega) (by omega) hT2.size ?_
      intro v2 w2x hown2 hgr2
      have hT3 := hT2.trans (below_grown hown1 hgr2 hT2.size)
      refine (Shut.out hK) _ _ hT3 (fun _ => ?_)
      clear hK K
      change wpAnyT _ _ _ _ _ _ _ _ _ (Act.put _ (some 65) _) _; dsimp only [Act.put]; simp only [List.setIfInBounds_toArray, List.set_cons_succ, List.set_cons_zero]
      refine wpAnyT_ready (rs := [17]) (by kernel_rfl) (by simp) (by rfl) ?_
      refine (AllReadyT.cons rfl (fun K hK => ?_) AllReadyT.nil)
      refine step_append_ownA rfl (.tmp 65) (.tmp 71) 67 rfl w5.heap.size 81 i0 (.agg #[.string ⟨#[]⟩, .int .i64 0, .bool false, .int .i64 0]) 4 40 Try.underlying67 hi0 hz0 hzs hzb rfl (by decide) (v2) (i + 1) ((ks.take i).flatMap Lk.L ++ Lk.L (⟨P, C, true, S⟩ : Lk)) (by first | rfl | simp [Act.eval, Act.put]) hown2 (cutA ak ck i 4) (n - i) (ck - i) ((ks.drop i).flatMap Lk.L) (by first | rfl | simp [Act.eval, Act.put]) (cutA_none hnk) HDL.out (cut_newsD Lk.L_len4 (hrW.below hT3) HN.out hck1 hfk) (by first | exact flat_oneD Lk.L_one _ | exact Lk.L_one _) (by unfold maxLen; omega) (by omega) hT3.size ?_
      intro v3 w3x hown3 hgr3
      rw [HL9.out] at hown3
      obtain ⟨a9, c9, rfl, _⟩ := own_sliceN hown3
      have hT4 := hT3.trans (below_grown hown2 hgr3 hT3.size)
      refine (Shut.out hK) _ _ hT4 (fun _ => ?_)
      clear hK K
      change wpAnyT _ _ _ _ _ _ _ _ _ (Act.put _ (some 72) _) _; dsimp only [Act.put]; simp only [List.setIfInBounds_toArray, List.set_cons_succ, List.set_cons_zero]
      refine wpAnyT_take (i := 18) (v := .pointer (some ⟨d, 0, none⟩)) rfl (by kernel_rfl) (by kernel_rfl) (by kernel_rfl) (by decide) (fun _ _ _ h => h) (Yields.yieldsIf (Or.inl ⟨by rfl, fun w9 => by (go_simp; first | done | with_reducible rfl | (intro h9; exfalso; omega))⟩)) hT4 ?_
      change wpAnyT _ _ _ _ _ _ _ _ _ (Act.put _ (some 73) _) _; dsimp only [Act.put]; simp only [List.setIfInBounds_toArray, List.set_cons_succ, List.set_cons_zero]
      refine wpAnyT_take (i := 19) (v := .pointer (some ⟨d, 0, none⟩)) rfl (by kernel_rfl) (by kernel_rfl) (by kernel_rfl) (by decide) (fun _ _ _ h => h) (Yields.yieldsIf (Or.inl ⟨by rfl, fun w9 => by (go_simp; first | done | with_reducible rfl | (intro h9; exfalso; omega))⟩)) hT4 ?_
      change wpAnyT _ _ _ _ _ _ _ _ _ (Act.put _ (some 74) _) _; dsimp only [Act.put]; simp only [List.setIfInBounds_toArray, List.set_cons_succ, List.set_cons_zero]
      refine wpAnyT_tail (by kernel_rfl) ?_
      refine wpAny_ready (rs := [20]) (by kernel_rfl) (by simp) ?_
      refine AllReady.cons rfl (fun K hK => ?_) AllReady.nil
      have hc9 := (hT4.cell hdl).trans hdc
      have hf9 := frozen_heap (cells_of hd5 hT4 hdl) 0
      go_simp
      refine hK _ _ ?_
      clear hK K
      try dsimp only [Act.put]
      refine wpAny_done (by kernel_rfl) ?_ _
      have hown3 := hown3
      have h9 := own_lowerM hown3 (Nat.le_trans hB hB5)
      rw [← HIF.out] at h9
      have hD6 := (hD5.kept hT4).setK h9 HIL.out
      have hg6 := grown_trD (grown_one (hb54.trans (hT4.mono hb54.size)) d) (grown_put w3x d 0 (.slice a9 L9 c9))
      have hd6 := cells_put (cells_of hd5 hT4 hdl) (j := 0) (.slice a9 L9 c9)
      have hq6 := grown_at (grown_put w3x d 0 (.slice a9 L9 c9)) (cells_of hq5 hT4 (row_lt hq5)) (fun q => by have := Option.some.inj q; have := row_lt HD0.out; omega)
      have hre6 := row_grownD (hre.below hT4) (grown_put w3x d 0 (.slice a9 L9 c9)) hfeN
      have hB6 : w.heap.size ≤ (w3x.setCell ⟨d, 0, none⟩ (.slice a9 L9 c9)).heap.size := hg6.size
      clear hown1 hown2 hown3 hgr1 hgr2 hgr3 hT1 hT2 hT3 hT4 hS0 hN hdl hdc hrW HTL HDL HIL HIF h9 hc9 hf9 hD5 hi0 hz0 hzs hzb i0
      generalize w3x.setCell ⟨d, 0, none⟩ (.slice a9 L9 c9) = w6 at hD6 hg6 hd6 hq6 hre6 hB6 ⊢
      have hqW := hq6
      simp only [List.setIfInBounds_toArray, List.set_cons_zero, List.set_cons_succ] at hd6
      have hre := hre6
      go_upto_region 12 with fail
      obtain ⟨i0, hi0, hz0, hzs, hzb⟩ := info_parts Try.infoEn3
      have hdl := row_lt hd6
      have hdc : w6.cell? ⟨d, 1, none⟩ = some (.slice ae n ce) := cell_heap hd6 1
      have hrW := hre
      have HTL := Lib.hid (show (((entsF s.f ks).take i).flatMap Ent.L).length = i * 14 by rw [flat_length Ent.L 14 Ent.L_len14, List.length_take, HNE.out, Nat.min_eq_left hkl])
      have HDL := Lib.hid (show (((entsF s.f ks).drop i).flatMap Ent.L).length = (n - i) * 14 by rw [flat_length Ent.L 14 Ent.L_len14, List.length_drop, HNE.out])
      obtain ⟨L9, hL9⟩ : ∃ m : Nat, i + 1 + (n - i) = m := ⟨_, rfl⟩
      have HL9 := Lib.hid hL9
      have HIL := Lib.hid (show ((entsF s.f ks).take i ++ M :: (entsF s.f ks).drop i).length = L9 by rw [← hL9]; rw [List.length_append, List.length_cons, List.length_take, List.length_drop, HNE.out, Nat.min_eq_left hkl]; omega)
      clear hL9
      have HIF := Lib.hid (show ((entsF s.f ks).take i ++ M :: (entsF s.f ks).drop i).flatMap Ent.L = ((entsF s.f ks).take i).flatMap Ent.L ++ Ent.L M ++ ((entsF s.f ks).drop i).flatMap Ent.L by rw [List.flatMap_append, List.flatMap_cons, List.append_assoc])
      refine wp_region_tail 24 1 (S := fun X => Below w6.heap.size w6 X) (by kernel_rfl) (by rfl) (by decide) (by kernel_rfl) (by kernel_rfl) ((Below.refl _ _).drew) (fun hS0 => ?_)
      refine wpAnyT_take (i := 0) (v := .pointer (some ⟨d, 0, none⟩)) rfl (by kernel_rfl) (by kernel_rfl) (by kernel_rfl) (by decide) (fun _ _ _ h => h) (Yields.yieldsIf (Or.inl ⟨by rfl, fun w9 => by (go_simp; first | done | with_reducible rfl | (intro h9; exfalso; omega))⟩)) hS0 ?_
      change wpAnyT _ _ _ _ _ _ _ _ _ (Act.put _ (some 75) _) _; dsimp only [Act.put]; simp only [List.setIfInBounds_toArray, List.set_cons_succ, List.set_cons_zero]
      refine wpAnyT_take (i := 1) (v := .pointer (some ⟨d, 0, none⟩)) rfl (by kernel_rfl) (by kernel_rfl) (by kernel_rfl) (by decide) (fun _ _ _ h => h) (Yields.yieldsIf (Or.inl ⟨by rfl, fun w9 => by (go_simp; first | done | with_reducible rfl | (intro h9; exfalso; omega))⟩)) hS0 ?_
      change wpAnyT _ _ _ _ _ _ _ _ _ (Act.put _ (some 76) _) _; dsimp only [Act.put]; simp only [List.setIfInBounds_toArray, List.set_cons_succ, List.set_cons_zero]
      refine wpAnyT_take (i := 2) (v := .pointer (some ⟨d, 0, none⟩)) rfl (by kernel_rfl) (by kernel_rfl) (by kernel_rfl) (by decide) (fun _ _ _ h => h) (Yields.yieldsIf (Or.inl ⟨by rfl, fun w9 => by (go_simp; first | done | with_reducible rfl | (intro h9; exfalso; omega))⟩)) hS0 ?_
      change wpAnyT _ _ _ _ _ _ _ _ _ (Act.put _ (some 77) _) _; dsimp only [Act.put]; simp only [List.setIfInBounds_toArray, List.set_cons_succ, List.set_cons_zero]
      refine wpAnyT_take (i := 3) (v := .pointer (some ⟨d, 1, none⟩)) rfl (by kernel_rfl) (by kernel_rfl) (by kernel_rfl) (by decide) (fun _ _ _ h => h) (Yields.yieldsIf (Or.inl ⟨by rfl, fun w9 => by (go_simp; first | done | with_reducible rfl | (intro h9; exfalso; omega))⟩)) hS0 ?_
      change wpAnyT _ _ _ _ _ _ _ _ _ (Act.put _ (some 78) _) _; dsimp only [Act.put]; simp only [List.setIfInBounds_toArray, List.set_cons_succ, List.set_cons_zero]
      refine wpAnyT_take (i := 4) (v := .slice ae n ce) rfl (by kernel_rfl) (by kernel_rfl) (by kernel_rfl) (by decide) (fun _ _ _ h => h) (Or.inl ⟨by rfl, fun w9 hS9 => by have hc9 := (hS9.cell hdl).trans hdc; go_simp; try with_reducible rfl⟩) hS0 ?_
      change wpAnyT _ _ _ _ _ _ _ _ _ (Act.put _ (some 79) _) _; dsimp only [Act.put]; simp only [List.setIfInBounds_toArray, List.set_cons_succ, List.set_cons_zero]
      refine wpAnyT_take (i := 5) (v := .int .i64 (i : Int)) rfl (by kernel_rfl) (by kernel_rfl) (by kernel_rfl) (by decide) (fun _ _ _ h => h) (Yields.yieldsIf (Or.inl ⟨by rfl, fun w9 => by (go_simp; first | done | with_reducible rfl | (intro h9; exfalso; omega))⟩)) hS0 ?_
      change wpAnyT _ _ _ _ _ _ _ _ _ (Act.put _ (some 80) _) _; dsimp only [Act.put]; simp only [List.setIfInBounds_toArray, List.set_cons_succ, List.set_cons_zero]
      refine wpAnyT_take (i := 6) (v := .slice ae i ce) rfl (by kernel_rfl) (by kernel_rfl) (by kernel_rfl) (by decide) (fun _ _ _ h => h) (Or.inl ⟨by rfl, fun w9 hS9 => exec_toEn 79 80 rfl (by first | rfl | simp [Act.eval, Act.put]) (by first | rfl | simp [Act.eval, Act.put]) hkl hce1 hnen hfe⟩) hS0 ?_
      change wpAnyT _ _ _ _ _ _ _ _ _ (Act.put _ (some 81) _) _; dsimp only [Act.put]; simp only [List.setIfInBounds_toArray, List.set_cons_succ, List.set_cons_zero]
      refine wpAnyT_take (i := 8) (v := .pointer (some ⟨w.heap.size, 1, none⟩)) rfl (by kernel_rfl) (by kernel_rfl) (by kernel_rfl) (by decide) (fun _ _ _ h => h) (Yields.yieldsIf (Or.inl ⟨by rfl, fun w9 => by (go_simp; first | done | with_reducible rfl | (intro h9; exfalso; omega))⟩)) hS0 ?_
      change wpAnyT _ _ _ _ _ _ _ _ _ (Act.put _ (some 83) _) _; dsimp only [Act.put]; simp only [List.setIfInBounds_toArray, List.set_cons_succ, List.set_cons_zero]
      refine wpAnyT_take (i := 9) (v := .agg (pkV e).row) rfl (by kernel_rfl) (by kernel_rfl) (by kernel_rfl) (by decide) (fun _ _ _ h => h) (Or.inl ⟨by rfl, fun w9 hS9 => exec_loadPkV (.tmp 83) rfl w.heap.size 1 (by first | rfl | simp [Act.eval, Act.put]) e (range_belowS (evpk_range hqW) hS9 (row_lt hqW))⟩) hS0 ?_
      change wpAnyT _ _ _ _ _ _ _ _ _ (Act.put _ (some 84) _) _; dsimp only [Act.put]; simp only [List.setIfInBounds_toArray, List.set_cons_succ, List.set_cons_zero]
      refine wpAnyT_take (i := 10) (v := .agg (entP zeroEnt e).row) rfl (by kernel_rfl) (by kernel_rfl) (by kernel_rfl) (by decide) (fun _ _ _ h => h) (Or.inl ⟨by rfl, fun w9 hS9 => exec_buildEn 84 rfl e (by first | rfl | simp [Act.eval, Act.put])⟩) hS0 ?_
      change wpAnyT _ _ _ _ _ _ _ _ _ (Act.put _ (some 85) _) _; dsimp only [Act.put]; simp only [List.setIfInBounds_toArray, List.set_cons_succ, List.set_cons_zero]
      refine wpAnyT_take (i := 11) (v := .agg e.row) rfl (by kernel_rfl) (by kernel_rfl) (by kernel_rfl) (by decide) (fun _ _ _ h => h) (Or.inl ⟨by rfl, fun w9 hS9 => exec_loadEvR (.tmp 3) rfl w.heap.size 0 (by first | rfl | simp [Act.eval, Act.put]) e (range_belowS (evr_range hqW) hS9 (row_lt hqW))⟩) hS0 ?_
      change wpAnyT _ _ _ _ _ _ _ _ _ (Act.put _ (some 86) _) _; dsimp only [Act.put]; simp only [List.setIfInBounds_toArray, List.set_cons_succ, List.set_cons_zero]
      refine wpAnyT_take (i := 15) (v := .pointer (some ⟨d, 0, none⟩)) rfl (by kernel_rfl) (by kernel_rfl) (by kernel_rfl) (by decide) (fun _ _ _ h => h) (Yields.yieldsIf (Or.inl ⟨by rfl, fun w9 => by (go_simp; first | done | with_reducible rfl | (intro h9; exfalso; omega))⟩)) hS0 ?_
      change wpAnyT _ _ _ _ _ _ _ _ _ (Act.put _ (some 90) _) _; dsimp only [Act.put]; simp only [List.setIfInBounds_toArray, List.set_cons_succ, List.set_cons_zero]
      refine wpAnyT_take (i := 16) (v := .pointer (some ⟨d, 0, none⟩)) rfl (by kernel_rfl) (by kernel_rfl) (by kernel_rfl) (by decide) (fun _ _ _ h => h) (Yields.yieldsIf (Or.inl ⟨by rfl, fun w9 => by (go_simp; first | done | with_reducible rfl | (intro h9; exfalso; omega))⟩)) hS0 ?_
      change wpAnyT _ _ _ _ _ _ _ _ _ (Act.put _ (some 91) _) _; dsimp only [Act.put]; simp only [List.setIfInBounds_toArray, List.set_cons_succ, List.set_cons_zero]
      refine wpAnyT_take (i := 17) (v := .pointer (some ⟨d, 1, none⟩)) rfl (by kernel_rfl) (by kernel_rfl) (by kernel_rfl) (by decide) (fun _ _ _ h => h) (Yields.yieldsIf (Or.inl ⟨by rfl, fun w9 => by (go_simp; first | done | with_reducible rfl | (intro h9; exfalso; omega))⟩)) hS0 ?_
      change wpAnyT _ _ _ _ _ _ _ _ _ (Act.put _ (some 92) _) _; dsimp only [Act.put]; simp only [List.setIfInBounds_toArray, List.set_cons_succ, List.set_cons_zero]
      refine wpAnyT_take (i := 18) (v := .slice ae n ce) rfl (by kernel_rfl) (by kernel_rfl) (by kernel_rfl) (by decide) (fun _ _ _ h => h) (Or.inl ⟨by rfl, fun w9 hS9 => by have hc9 := (hS9.cell hdl).trans hdc; go_simp; try with_reducible rfl⟩) hS0 ?_
      change wpAnyT _ _ _ _ _ _ _ _ _ (Act.put _ (some 93) _) _; dsimp only [Act.put]; simp only [List.setIfInBounds_toArray, List.set_cons_succ, List.set_cons_zero]
      refine wpAnyT_take (i := 19) (v := .int .i64 (i : Int)) rfl (by kernel_rfl) (by kernel_rfl) (by kernel_rfl) (by decide) (fun _ _ _ h => h) (Yields.yieldsIf (Or.inl ⟨by rfl, fun w9 => by (go_simp; first | done | with_reducible rfl | (intro h9; exfalso; omega))⟩)) hS0 ?_
      change wpAnyT _ _ _ _ _ _ _ _ _ (Act.put _ (some 94) _) _; dsimp only [Act.put]; simp only [List.setIfInBounds_toArray, List.set_cons_succ, List.set_cons_zero]
      refine wpAnyT_take (i := 20) (v := .slice (cutA ae ce i 14) (n - i) (ce - i)) rfl (by kernel_rfl) (by kernel_rfl) (by kernel_rfl) (by decide) (fun _ _ _ h => h) (Or.inl ⟨by rfl, fun w9 hS9 => exec_fromEn 93 94 rfl (by first | rfl | simp [Act.eval, Act.put]) (by first | rfl | simp [Act.eval, Act.put]) hkl hce1 hnen hfe⟩) hS0 ?_
      change wpAnyT _ _ _ _ _ _ _ _ _ (Act.put _ (some 95) _) _; dsimp only [Act.put]; simp only [List.setIfInBounds_toArray, List.set_cons_succ, List.set_cons_zero]
      refine wpAnyT_ready (rs := [7]) (by kernel_rfl) (by simp) (by rfl) ?_
      refine (AllReadyT.cons rfl (fun K hK => ?_) AllReadyT.nil)
      refine step_append_ownA rfl (.const (.slice none 0 0)) (.tmp 81) 68 rfl w6.heap.size 82 i0 (.agg zeroEnt.row) 14 112 Try.underlying68 hi0 hz0 hzs hzb rfl (by decide) (.slice none 0 0) (0) ([]) (by first | rfl | simp [Act.eval, Act.put]) (World.ownsRow_nil _ _ _ _) (ae) (i) (ce) (((entsF s.f ks).take i).flatMap Ent.L) (by first | rfl | simp [Act.eval, Act.put]) (fun h => by have := hnen h; omega) HTL.out (take_newsD Ent.L_len14 (hrW.below hS0) i) (by first | exact flat_oneD Ent.L_one _ | exact Ent.L_one _) (by unfold maxLen; omega) (by omega) hS0.size ?_
      intro v1 w1x hown1 hgr1
      simp only [Nat.zero_add, List.nil_append] at hown1
      have hT1 := hS0.trans ((grown_lowM hgr1 (fun k h => by cases h) (Nat.le_refl _)).mono hS0.size)
      refine (Shut.out hK) _ _ hT1 (fun _ => ?_)
      clear hK K
      change wpAnyT _ _ _ _ _ _ _ _ _ (Act.put _ (some 82) _) _; dsimp only [Act.put]; simp only [List.setIfInBounds_toArray, List.set_cons_succ, List.set_cons_zero]
      refine wpAnyT_ready (rs := [12]) (by kernel_rfl) (by simp) (by rfl) ?_
      refine (AllReadyT.cons rfl (fun K hK => ?_) AllReadyT.nil)
      go_simp
      refine (CMK _).mono ?_
      rintro e9 wM ⟨rfl, hbm⟩
      have hT2 := hT1.trans (hbm.mono hT1.size)
      refine (Shut.out hK) _ _ hT2 (fun _ => ?_)
      clear hK K
      have hown1 := own_kept9 hown1 hbm
      refine wpAnyT_ready (rs := [13]) (by kernel_rfl) (by simp) (by rfl) ?_
      refine (AllReadyT.cons rfl (fun K hK => ?_) AllReadyT.nil)
      refine step_oneEn rfl (.tmp 87) rfl M (by first | rfl | simp [Act.eval, Act.put]) ?_
      have hT3x := hT2.alloc hT2.size (.cells M.row 82)
      have hown1 := hown1.alloc (.cells M.row 82)
      have hN := heap_push wM M.row 82
      refine (Shut.out hK) _ _ hT3x (fun _ => ?_)
      clear hK K
      change wpAnyT _ _ _ _ _ _ _ _ _ (Act.put _ (some 88) _) _; dsimp only [Act.put]; simp only [List.setIfInBounds_toArray, List.set_cons_succ, List.set_cons_zero]
      generalize hg9 : wM.alloc (.cells M.row 82) = wN at hT3x hown1 hN ⊢
      clear hg9
      generalize wM.heap.size = g1 at hN ⊢
      refine wpAnyT_ready (rs := [14]) (by kernel_rfl) (by simp) (by rfl) ?_
      refine (AllReadyT.cons rfl (fun K hK => ?_) AllReadyT.nil)
      refine step_append_ownA rfl (.tmp 82) (.tmp 88) 68 rfl w6.heap.size 82 i0 (.agg zeroEnt.row) 14 112 Try.underlying68 hi0 hz0 hzs hzb rfl (by decide) (v1) (i) (((entsF s.f ks).take i).flatMap Ent.L) (by first | rfl | simp [Act.eval, Act.put]) hown1 (some ⟨g1, 0, none⟩) (1) (1) (Ent.L M) (by first | rfl | simp [Act.eval, Act.put]) (fun h => by cases h) (by rfl) (some_funD (row_newD hN rfl)) (by first | exact flat_oneD Ent.L_one _ | exact Ent.L_one _) (by unfold maxLen; omega) (by omega) hT3x.size ?_
      intro v2 w2x hown2 hgr2
      have hT3 := hT3x.trans (below_grown hown1 hgr2 hT3x.size)
      refine (Shut.out hK) _ _ hT3 (fun _ => ?_)
      clear hK K
      change wpAnyT _ _ _ _ _ _ _ _ _ (Act.put _ (some 89) _) _; dsimp only [Act.put]; simp only [List.setIfInBounds_toArray, List.set_cons_succ, List.set_cons_zero]
      refine wpAnyT_ready (rs := [21]) (by kernel_rfl) (by simp) (by rfl) ?_
      refine (AllReadyT.cons rfl (fun K hK => ?_) AllReadyT.nil)
      refine step_append_ownA rfl (.tmp 89) (.tmp 95) 68 rfl w6.heap.size 82 i0 (.agg zeroEnt.row) 14 112 Try.underlying68 hi0 hz0 hzs hzb rfl (by decide) (v2) (i + 1) (((entsF s.f ks).take i).flatMap Ent.L ++ Ent.L M) (by first | rfl | simp [Act.eval, Act.put]) hown2 (cutA ae ce i 14) (n - i) (ce - i) (((entsF s.f ks).drop i).flatMap Ent.L) (by first | rfl | simp [Act.eval, Act.put]) (cutA_none hnen) HDL.out (cut_newsD Ent.L_len14 (hrW.below hT3) HNE.out hce1 hfe) (by first | exact flat_oneD Ent.L_one _ | exact Ent.L_one _) (by unfold maxLen; omega) (by omega) hT3.size ?_
      intro v3 w3x hown3 hgr3
      rw [HL9.out] at hown3
      obtain ⟨a9, c9, rfl, _⟩ := own_sliceN hown3
      have hT4 := hT3.trans (below_grown hown2 hgr3 hT3.size)
      refine (Shut.out hK) _ _ hT4 (fun _ => ?_)
      clear hK K
      change wpAnyT _ _ _ _ _ _ _ _ _ (Act.put _ (some 96) _) _; dsimp only [Act.put]; simp only [List.setIfInBounds_toArray, List.set_cons_succ, List.set_cons_zero]
      refine wpAnyT_take (i := 22) (v := .pointer (some ⟨d, 0, none⟩)) rfl (by kernel_rfl) (by kernel_rfl) (by kernel_rfl) (by decide) (fun _ _ _ h => h) (Yields.yieldsIf (Or.inl ⟨by rfl, fun w9 => by (go_simp; first | done | with_reducible rfl | (intro h9; exfalso; omega))⟩)) hT4 ?_
      change wpAnyT _ _ _ _ _ _ _ _ _ (Act.put _ (some 97) _) _; dsimp only [Act.put]; simp only [List.setIfInBounds_toArray, List.set_cons_succ, List.set_cons_zero]
      refine wpAnyT_take (i := 23) (v := .pointer (some ⟨d, 1, none⟩)) rfl (by kernel_rfl) (by kernel_rfl) (by kernel_rfl) (by decide) (fun _ _ _ h => h) (Yields.yieldsIf (Or.inl ⟨by rfl, fun w9 => by (go_simp; first | done | with_reducible rfl | (intro h9; exfalso; omega))⟩)) hT4 ?_
      change wpAnyT _ _ _ _ _ _ _ _ _ (Act.put _ (some 98) _) _; dsimp only [Act.put]; simp only [List.setIfInBounds_toArray, List.set_cons_succ, List.set_cons_zero]
      refine wpAnyT_tail (by kernel_rfl) ?_
      refine wpAny_ready (rs := [24]) (by kernel_rfl) (by simp) ?_
      refine AllReady.cons rfl (fun K hK => ?_) AllReady.nil
      have hc9 := (hT4.cell hdl).trans hdc
      have hf9 := frozen_heap (cells_of hd6 hT4 hdl) 1
      go_simp
      refine hK _ _ ?_
      clear hK K
      try dsimp only [Act.put]
      refine wpAny_done (by kernel_rfl) ?_ _
      have hown3 := hown3
      have hn0 : n ≤ 1000 := hm
      have hbA := hT4
      have h9 := own_lowerM hown3 (Nat.le_trans hB hB6)
      go_wp2
      go_ret
      rw [← HIF.out] at h9
      have hD8 := (hD6.kept hbA).setE h9 HIL.out
      refine ⟨by rw [HA.out]; first | done | rfl, ⟨_, HKN.out, ?_, by rw [HEF.out]; exact hD8⟩, ?_⟩
      · rw [List.length_append, List.length_cons, List.length_take, List.length_drop]; omega
      · exact ⟨d, _, _, hD.1, HD0.out, by decide, grown_trD hg6 (grown_trD (grown_one hbA d) (grown_put _ _ _ _))⟩
    · refine step_oneLk rfl (.tmp 63) rfl (⟨P, C, true, S⟩ : Lk) (by first | rfl | simp [Act.eval, Act.put]) ?_
      have hT1 := hS0.alloc hS0.size (.cells (⟨P, C, true, S⟩ : Lk).row 81)
      have hN := heap_push w5.drew (⟨P, C, true, S⟩ : Lk).row 81
      refine (Shut.out hK) _ _ hT1 (fun _ => ?_)
      clear hK K
      change wpAnyT _ _ _ _ _ _ _ _ _ (Act.put _ (some 64) _) _; dsimp only [Act.put]; simp only [List.setIfInBounds_toArray, List.set_cons_succ, List.set_cons_zero]
      refine wpAnyT_ready (rs := [7]) (by kernel_rfl) (by simp) (by rfl) ?_
      refine (AllReadyT.cons rfl (fun K hK => ?_) AllReadyT.nil)
      refine step_append_ownA rfl (.const (.slice none 0 0)) (.tmp 61) 67 rfl w5.heap.size 81 i0 (.agg #[.string ⟨#[]⟩, .int .i64 0, .bool false, .int .i64 0]) 4 40 Try.underlying67 hi0 hz0 hzs hzb rfl (by decide) (.slice none 0 0) (0) ([]) (by first | rfl | simp [Act.eval, Act.put]) (World.ownsRow_nil _ _ _ _) (ak) (i) (ck) ((ks.take i).flatMap Lk.L) (by first | rfl | simp [Act.eval, Act.put]) (fun h => by have := hnk h; omega) HTL.out (take_newsD Lk.L_len4 (hrW.below hT1) i) (by first | exact flat_oneD Lk.L_one _ | exact Lk.L_one _) (by unfold maxLen; omega) (by omega) hT1.size ?_
      intro v1 wN hown1 hgr1
      simp only [Nat.zero_add, List.nil_append] at hown1
      have hT2 := hT1.trans ((grown_lowM hgr1 (fun k h => by cases h) (Nat.le_refl _)).mono hT1.size)
      have hN := grown_at hgr1 hN (fun q => by cases q)
      refine (Shut.out hK) _ _ hT2 (fun _ => ?_)
      clear hK K
      change wpAnyT _ _ _ _ _ _ _ _ _ (Act.put _ (some 62) _) _; dsimp only [Act.put]; simp only [List.setIfInBounds_toArray, List.set_cons_succ, List.set_cons_zero]
      generalize w5.drew.heap.size = g1 at hN ⊢
      refine wpAnyT_ready (rs := [10]) (by kernel_rfl) (by simp) (by rfl) ?_
      refine (AllReadyT.cons rfl (fun K hK => ?_) AllReadyT.nil)
      refine step_append_ownA rfl (.tmp 62) (.tmp 64) 67 rfl w5.heap.size 81 i0 (.agg #[.string ⟨#[]⟩, .int .i64 0, .bool false, .int .i64 0]) 4 40 Try.underlying67 hi0 hz0 hzs hzb rfl (by decide) (v1) (i) ((ks.take i).flatMap Lk.L) (by first | rfl | simp [Act.eval, Act.put]) hown1 (some ⟨g1, 0, none⟩) (1) (1) (Lk.L (⟨P, C, true, S⟩ : Lk)) (by first | rfl | simp [Act.eval, Act.put]) (fun h => by cases h) (by rfl) (some_funD (row_newD hN rfl)) (by first | exact flat_oneD Lk.L_one _ | exact Lk.L_one _) (by unfold maxLen; omega) (by omega) hT2.size ?_
      intro v2 w2x hown2 hgr2
      have hT3 := hT2.trans (below_grown hown1 hgr2 hT2.size)
      refine (Shut.out hK) _ _ hT3 (fun _ => ?_)
      clear hK K
      change wpAnyT _ _ _ _ _ _ _ _ _ (Act.put _ (some 65) _) _; dsimp only [Act.put]; simp only [List.setIfInBounds_toArray, List.set_cons_succ, List.set_cons_zero]
      refine wpAnyT_ready (rs := [17]) (by kernel_rfl) (by simp) (by rfl) ?_
      refine (AllReadyT.cons rfl (fun K hK => ?_) AllReadyT.nil)
      refine step_append_ownA rfl (.tmp 65) (.tmp 71) 67 rfl w5.heap.size 81 i0 (.agg #[.string ⟨#[]⟩, .int .i64 0, .bool false, .int .i64 0]) 4 40 Try.underlying67 hi0 hz0 hzs hzb rfl (by decide) (v2) (i + 1) ((ks.take i).flatMap Lk.L ++ Lk.L (⟨P, C, true, S⟩ : Lk)) (by first | rfl | simp [Act.eval, Act.put]) hown2 (cutA ak ck i 4) (n - i) (ck - i) ((ks.drop i).flatMap Lk.L) (by first | rfl | simp [Act.eval, Act.put]) (cutA_none hnk) HDL.out (cut_newsD Lk.L_len4 (hrW.below hT3) HN.out hck1 hfk) (by first | exact flat_oneD Lk.L_one _ | exact Lk.L_one _) (by unfold maxLen; omega) (by omega) hT3.size ?_
      intro v3 w3x hown3 hgr3
      rw [HL9.out] at hown3
      obtain ⟨a9, c9, rfl, _⟩ := own_sliceN hown3
      have hT4 := hT3.trans (below_grown hown2 hgr3 hT3.size)
      refine (Shut.out hK) _ _ hT4 (fun _ => ?_)
      clear hK K
      change wpAnyT _ _ _ _ _ _ _ _ _ (Act.put _ (some 72) _) _; dsimp only [Act.put]; simp only [List.setIfInBounds_toArray, List.set_cons_succ, List.set_cons_zero]
      refine wpAnyT_take (i := 18) (v := .pointer (some ⟨d, 0, none⟩)) rfl (by kernel_rfl) (by kernel_rfl) (by kernel_rfl) (by decide) (fun _ _ _ h => h) (Yields.yieldsIf (Or.inl ⟨by rfl, fun w9 => by (go_simp; first | done | with_reducible rfl | (intro h9; exfalso; omega))⟩)) hT4 ?_
      change wpAnyT _ _ _ _ _ _ _ _ _ (Act.put _ (some 73) _) _; dsimp only [Act.put]; simp only [List.setIfInBounds_toArray, List.set_cons_succ, List.set_cons_zero]
      refine wpAnyT_take (i := 19) (v := .pointer (some ⟨d, 0, none⟩)) rfl (by kernel_rfl) (by kernel_rfl) (by kernel_rfl) (by decide) (fun _ _ _ h => h) (Yields.yieldsIf (Or.inl ⟨by rfl, fun w9 => by (go_simp; first | done | with_reducible rfl | (intro h9; exfalso; omega))⟩)) hT4 ?_
      change wpAnyT _ _ _ _ _ _ _ _ _ (Act.put _ (some 74) _) _; dsimp only [Act.put]; simp only [List.setIfInBounds_toArray, List.set_cons_succ, List.set_cons_zero]
      refine wpAnyT_tail (by kernel_rfl) ?_
      refine wpAny_ready (rs := [20]) (by kernel_rfl) (by simp) ?_
      refine AllReady.cons rfl (fun K hK => ?_) AllReady.nil
      have hc9 := (hT4.cell hdl).trans hdc
      have hf9 := frozen_heap (cells_of hd5 hT4 hdl) 0
      go_simp
      refine hK _ _ ?_
      clear hK K
      try dsimp only [Act.put]
      refine wpAny_done (by kernel_rfl) ?_ _
      have hown3 := hown3
      have h9 := own_lowerM hown3 (Nat.le_trans hB hB5)
      rw [← HIF.out] at h9
      have hD6 := (hD5.kept hT4).setK h9 HIL.out
      have hg6 := grown_trD (grown_one (hb54.trans (hT4.mono hb54.size)) d) (grown_put w3x d 0 (.slice a9 L9 c9))
      have hd6 := cells_put (cells_of hd5 hT4 hdl) (j := 0) (.slice a9 L9 c9)
      have hq6 := grown_at (grown_put w3x d 0 (.slice a9 L9 c9)) (cells_of hq5 hT4 (row_lt hq5)) (fun q => by have := Option.some.inj q; have := row_lt HD0.out; omega)
      have hre6 := row_grownD (hre.below hT4) (grown_put w3x d 0 (.slice a9 L9 c9)) hfeN
      have hB6 : w.heap.size ≤ (w3x.setCell ⟨d, 0, none⟩ (.slice a9 L9 c9)).heap.size := hg6.size
      clear hown1 hown2 hown3 hgr1 hgr2 hgr3 hT1 hT2 hT3 hT4 hS0 hN hdl hdc hrW HTL HDL HIL HIF h9 hc9 hf9 hD5 hi0 hz0 hzs hzb i0
      generalize w3x.setCell ⟨d, 0, none⟩ (.slice a9 L9 c9) = w6 at hD6 hg6 hd6 hq6 hre6 hB6 ⊢
      have hqW := hq6
      simp only [List.setIfInBounds_toArray, List.set_cons_zero, List.set_cons_succ] at hd6
      have hre := hre6
      go_upto_region 12 with fail
      obtain ⟨i0, hi0, hz0, hzs, hzb⟩ := info_parts Try.infoEn3
      have hdl := row_lt hd6
      have hdc : w6.cell? ⟨d, 1, none⟩ = some (.slice ae n ce) := cell_heap hd6 1
      have hrW := hre
      have HTL := Lib.hid (show (((entsF s.f ks).take i).flatMap Ent.L).length = i * 14 by rw [flat_length Ent.L 14 Ent.L_len14, List.length_take, HNE.out, Nat.min_eq_left hkl])
      have HDL := Lib.hid (show (((entsF s.f ks).drop i).flatMap Ent.L).length = (n - i) * 14 by rw [flat_length Ent.L 14 Ent.L_len14, List.length_drop, HNE.out])
      obtain ⟨L9, hL9⟩ : ∃ m : Nat, i + 1 + (n - i) = m := ⟨_, rfl⟩
      have HL9 := Lib.hid hL9
      have HIL := Lib.hid (show ((entsF s.f ks).take i ++ M :: (entsF s.f ks).drop i).length = L9 by rw [← hL9]; rw [List.length_append, List.length_cons, List.length_take, List.length_drop, HNE.out, Nat.min_eq_left hkl]; omega)
      clear hL9
      have HIF := Lib.hid (show ((entsF s.f ks).take i ++ M :: (entsF s.f ks).drop i).flatMap Ent.L = ((entsF s.f ks).take i).flatMap Ent.L ++ Ent.L M ++ ((entsF s.f ks).drop i).flatMap Ent.L by rw [List.flatMap_append, List.flatMap_cons, List.append_assoc])
      refine wp_region_tail 24 1 (S := fun X => Below w6.heap.size w6 X) (by kernel_rfl) (by rfl) (by decide) (by kernel_rfl) (by kernel_rfl) ((Below.refl _ _).drew) (fun hS0 => ?_)
      refine wpAnyT_take (i := 0) (v := .pointer (some ⟨d, 0, none⟩)) rfl (by kernel_rfl) (by kernel_rfl) (by kernel_rfl) (by decide) (fun _ _ _ h => h) (Yields.yieldsIf (Or.inl ⟨by rfl, fun w9 => by (go_simp; first | done | with_reducible rfl | (intro h9; exfalso; omega))⟩)) hS0 ?_
      change wpAnyT _ _ _ _ _ _ _ _ _ (Act.put _ (some 75) _) _; dsimp only [Act.put]; simp only [List.setIfInBounds_toArray, List.set_cons_succ, List.set_cons_zero]
      refine wpAnyT_take (i := 1) (v := .pointer (some ⟨d, 0, none⟩)) rfl (by kernel_rfl) (by kernel_rfl) (by kernel_rfl) (by decide) (fun _ _ _ h => h) (Yields.yieldsIf (Or.inl ⟨by rfl, fun w9 => by (go_simp; first | done | with_reducible rfl | (intro h9; exfalso; omega))⟩)) hS0 ?_
      change wpAnyT _ _ _ _ _ _ _ _ _ (Act.put _ (some 76) _) _; dsimp only [Act.put]; simp only [List.setIfInBounds_toArray, List.set_cons_succ, List.set_cons_zero]
      refine wpAnyT_take (i := 2) (v := .pointer (some ⟨d, 0, none⟩)) rfl (by kernel_rfl) (by kernel_rfl) (by kernel_rfl) (by decide) (fun _ _ _ h => h) (Yields.yieldsIf (Or.inl ⟨by rfl, fun w9 => by (go_simp; first | done | with_reducible rfl | (intro h9; exfalso; omega))⟩)) hS0 ?_
      change wpAnyT _ _ _ _ _ _ _ _ _ (Act.put _ (some 77) _) _; dsimp only [Act.put]; simp only [List.setIfInBounds_toArray, List.set_cons_succ, List.set_cons_zero]
      refine wpAnyT_take (i := 3) (v := .pointer (some ⟨d, 1, none⟩)) rfl (by kernel_rfl) (by kernel_rfl) (by kernel_rfl) (by decide) (fun _ _ _ h => h) (Yields.yieldsIf (Or.inl ⟨by rfl, fun w9 => by (go_simp; first | done | with_reducible rfl | (intro h9; exfalso; omega))⟩)) hS0 ?_
      change wpAnyT _ _ _ _ _ _ _ _ _ (Act.put _ (some 78) _) _; dsimp only [Act.put]; simp only [List.setIfInBounds_toArray, List.set_cons_succ, List.set_cons_zero]
      refine wpAnyT_take (i := 4) (v := .slice ae n ce) rfl (by kernel_rfl) (by kernel_rfl) (by kernel_rfl) (by decide) (fun _ _ _ h => h) (Or.inl ⟨by rfl, fun w9 hS9 => by have hc9 := (hS9.cell hdl).trans hdc; go_simp; try with_reducible rfl⟩) hS0 ?_
      change wpAnyT _ _ _ _ _ _ _ _ _ (Act.put _ (some 79) _) _; dsimp only [Act.put]; simp only [List.setIfInBounds_toArray, List.set_cons_succ, List.set_cons_zero]
      refine wpAnyT_take (i := 5) (v := .int .i64 (i : Int)) rfl (by kernel_rfl) (by kernel_rfl) (by kernel_rfl) (by decide) (fun _ _ _ h => h) (Yields.yieldsIf (Or.inl ⟨by rfl, fun w9 => by (go_simp; first | done | with_reducible rfl | (intro h9; exfalso; omega))⟩)) hS0 ?_
      change wpAnyT _ _ _ _ _ _ _ _ _ (Act.put _ (some 80) _) _; dsimp only [Act.put]; simp only [List.setIfInBounds_toArray, List.set_cons_succ, List.set_cons_zero]
      refine wpAnyT_take (i := 6) (v := .slice ae i ce) rfl (by kernel_rfl) (by kernel_rfl) (by kernel_rfl) (by decide) (fun _ _ _ h => h) (Or.inl ⟨by rfl, fun w9 hS9 => exec_toEn 79 80 rfl (by first | rfl | simp [Act.eval, Act.put]) (by first | rfl | simp [Act.eval, Act.put]) hkl hce1 hnen hfe⟩) hS0 ?_
      change wpAnyT _ _ _ _ _ _ _ _ _ (Act.put _ (some 81) _) _; dsimp only [Act.put]; simp only [List.setIfInBounds_toArray, List.set_cons_succ, List.set_cons_zero]
      refine wpAnyT_take (i := 8) (v := .pointer (some ⟨w.heap.size, 1, none⟩)) rfl (by kernel_rfl) (by kernel_rfl) (by kernel_rfl) (by decide) (fun _ _ _ h => h) (Yields.yieldsIf (Or.inl ⟨by rfl, fun w9 => by (go_simp; first | done | with_reducible rfl | (intro h9; exfalso; omega))⟩)) hS0 ?_
      change wpAnyT _ _ _ _ _ _ _ _ _ (Act.put _ (some 83) _) _; dsimp only [Act.put]; simp only [List.setIfInBounds_toArray, List.set_cons_succ, List.set_cons_zero]
      refine wpAnyT_take (i := 9) (v := .agg (pkV e).row) rfl (by kernel_rfl) (by kernel_rfl) (by kernel_rfl) (by decide) (fun _ _ _ h => h) (Or.inl ⟨by rfl, fun w9 hS9 => exec_loadPkV (.tmp 83) rfl w.heap.size 1 (by first | rfl | simp [Act.eval, Act.put]) e (range_belowS (evpk_range hqW) hS9 (row_lt hqW))⟩) hS0 ?_
      change wpAnyT _ _ _ _ _ _ _ _ _ (Act.put _ (some 84) _) _; dsimp only [Act.put]; simp only [List.setIfInBounds_toArray, List.set_cons_succ, List.set_cons_zero]
      refine wpAnyT_take (i := 10) (v := .agg (entP zeroEnt e).row) rfl (by kernel_rfl) (by kernel_rfl) (by kernel_rfl) (by decide) (fun _ _ _ h => h) (Or.inl ⟨by rfl, fun w9 hS9 => exec_buildEn 84 rfl e (by first | rfl | simp [Act.eval, Act.put])⟩) hS0 ?_
      change wpAnyT _ _ _ _ _ _ _ _ _ (Act.put _ (some 85) _) _; dsimp only [Act.put]; simp only [List.setIfInBounds_toArray, List.set_cons_succ, List.set_cons_zero]
      refine wpAnyT_take (i := 11) (v := .agg e.row) rfl (by kernel_rfl) (by kernel_rfl) (by kernel_rfl) (by decide) (fun _ _ _ h => h) (Or.inl ⟨by rfl, fun w9 hS9 => exec_loadEvR (.tmp 3) rfl w.heap.size 0 (by first | rfl | simp [Act.eval, Act.put]) e (range_belowS (evr_range hqW) hS9 (row_lt hqW))⟩) hS0 ?_
      change wpAnyT _ _ _ _ _ _ _ _ _ (Act.put _ (some 86) _) _; dsimp only [Act.put]; simp only [List.setIfInBounds_toArray, List.set_cons_succ, List.set_cons_zero]
      refine wpAnyT_take (i := 15) (v := .pointer (some ⟨d, 0, none⟩)) rfl (by kernel_rfl) (by kernel_rfl) (by kernel_rfl) (by decide) (fun _ _ _ h => h) (Yields.yieldsIf (Or.inl ⟨by rfl, fun w9 => by (go_simp; first | done | with_reducible rfl | (intro h9; exfalso; omega))⟩)) hS0 ?_
      change wpAnyT _ _ _ _ _ _ _ _ _ (Act.put _ (some 90) _) _; dsimp only [Act.put]; simp only [List.setIfInBounds_toArray, List.set_cons_succ, List.set_cons_zero]
      refine wpAnyT_take (i := 16) (v := .pointer (some ⟨d, 0, none⟩)) rfl (by kernel_rfl) (by kernel_rfl) (by kernel_rfl) (by decide) (fun _ _ _ h => h) (Yields.yieldsIf (Or.inl ⟨by rfl, fun w9 => by (go_simp; first | done | with_reducible rfl | (intro h9; exfalso; omega))⟩)) hS0 ?_
      change wpAnyT _ _ _ _ _ _ _ _ _ (Act.put _ (some 91) _) _; dsimp only [Act.put]; simp only [List.setIfInBounds_toArray, List.set_cons_succ, List.set_cons_zero]
      refine wpAnyT_take (i := 17) (v := .pointer (some ⟨d, 1, none⟩)) rfl (by kernel_rfl) (by kernel_rfl) (by kernel_rfl) (by decide) (fun _ _ _ h => h) (Yields.yieldsIf (Or.inl ⟨by rfl, fun w9 => by (go_simp; first | done | with_reducible rfl | (intro h9; exfalso; omega))⟩)) hS0 ?_
      change wpAnyT _ _ _ _ _ _ _ _ _ (Act.put _ (some 92) _) _; dsimp only [Act.put]; simp only [List.setIfInBounds_toArray, List.set_cons_succ, List.set_cons_zero]
      refine wpAnyT_take (i := 18) (v := .slice ae n ce) rfl (by kernel_rfl) (by kernel_rfl) (by kernel_rfl) (by decide) (fun _ _ _ h => h) (Or.inl ⟨by rfl, fun w9 hS9 => by have hc9 := (hS9.cell hdl).trans hdc; go_simp; try with_reducible rfl⟩) hS0 ?_
      change wpAnyT _ _ _ _ _ _ _ _ _ (Act.put _ (some 93) _) _; dsimp only [Act.put]; simp only [List.setIfInBounds_toArray, List.set_cons_succ, List.set_cons_zero]
      refine wpAnyT_take (i := 19) (v := .int .i64 (i : Int)) rfl (by kernel_rfl) (by kernel_rfl) (by kernel_rfl) (by decide) (fun _ _ _ h => h) (Yields.yieldsIf (Or.inl ⟨by rfl, fun w9 => by (go_simp; first | done | with_reducible rfl | (intro h9; exfalso; omega))⟩)) hS0 ?_
      change wpAnyT _ _ _ _ _ _ _ _ _ (Act.put _ (some 94) _) _; dsimp only [Act.put]; simp only [List.setIfInBounds_toArray, List.set_cons_succ, List.set_cons_zero]
      refine wpAnyT_take (i := 20) (v := .slice (cutA ae ce i 14) (n - i) (ce - i)) rfl (by kernel_rfl) (by kernel_rfl) (by kernel_rfl) (by decide) (fun _ _ _ h => h) (Or.inl ⟨by rfl, fun w9 hS9 => exec_fromEn 93 94 rfl (by first | rfl | simp [Act.eval, Act.put]) (by first | rfl | simp [Act.eval, Act.put]) hkl hce1 hnen hfe⟩) hS0 ?_
      change wpAnyT _ _ _ _ _ _ _ _ _ (Act.put _ (some 95) _) _; dsimp only [Act.put]; simp only [List.setIfInBounds_toArray, List.set_cons_succ, List.set_cons_zero]
      refine wpAnyT_ready (rs := [7]) (by kernel_rfl) (by simp) (by rfl) ?_
      refine (AllReadyT.cons rfl (fun K hK => ?_) AllReadyT.nil)
      refine step_append_ownA rfl (.const (.slice none 0 0)) (.tmp 81) 68 rfl w6.heap.size 82 i0 (.agg zeroEnt.row) 14 112 Try.underlying68 hi0 hz0 hzs hzb rfl (by decide) (.slice none 0 0) (0) ([]) (by first | rfl | simp [Act.eval, Act.put]) (World.ownsRow_nil _ _ _ _) (ae) (i) (ce) (((entsF s.f ks).take i).flatMap Ent.L) (by first | rfl | simp [Act.eval, Act.put]) (fun h => by have := hnen h; omega) HTL.out (take_newsD Ent.L_len14 (hrW.below hS0) i) (by first | exact flat_oneD Ent.L_one _ | exact Ent.L_one _) (by unfold maxLen; omega) (by omega) hS0.size ?_
      intro v1 w1x hown1 hgr1
      simp only [Nat.zero_add, List.nil_append] at hown1
      have hT1 := hS0.trans ((grown_lowM hgr1 (fun k h => by cases h) (Nat.le_refl _)).mono hS0.size)
      refine (Shut.out hK) _ _ hT1 (fun _ => ?_)
      clear hK K
      change wpAnyT _ _ _ _ _ _ _ _ _ (Act.put _ (some 82) _) _; dsimp only [Act.put]; simp only [List.setIfInBounds_toArray, List.set_cons_succ, List.set_cons_zero]
      refine wpAnyT_ready (rs := [12]) (by kernel_rfl) (by simp) (by rfl) ?_
      refine (AllReadyT.cons rfl (fun K hK => ?_) AllReadyT.nil)
      go_simp
      refine (CMK _).mono ?_
      rintro e9 wM ⟨rfl, hbm⟩
      have hT2 := hT1.trans (hbm.mono hT1.size)
      refine (Shut.out hK) _ _ hT2 (fun _ => ?_)
      clear hK K
      have hown1 := own_kept9 hown1 hbm
      refine wpAnyT_ready (rs := [13]) (by kernel_rfl) (by simp) (by rfl) ?_
      refine (AllReadyT.cons rfl (fun K hK => ?_) AllReadyT.nil)
      refine step_oneEn rfl (.tmp 87) rfl M (by first | rfl | simp [Act.eval, Act.put]) ?_
      have hT3x := hT2.alloc hT2.size (.cells M.row 82)
      have hown1 := hown1.alloc (.cells M.row 82)
      have hN := heap_push wM M.row 82
      refine (Shut.out hK) _ _ hT3x (fun _ => ?_)
      clear hK K
      change wpAnyT _ _ _ _ _ _ _ _ _ (Act.put _ (some 88) _) _; dsimp only [Act.put]; simp only [List.setIfInBounds_toArray, List.set_cons_succ, List.set_cons_zero]
      generalize hg9 : wM.alloc (.cells M.row 82) = wN at hT3x hown1 hN ⊢
      clear hg9
      generalize wM.heap.size = g1 at hN ⊢
      refine wpAnyT_ready (rs := [14]) (by kernel_rfl) (by simp) (by rfl) ?_
      refine (AllReadyT.cons rfl (fun K hK => ?_) AllReadyT.nil)
      refine step_append_ownA rfl (.tmp 82) (.tmp 88) 68 rfl w6.heap.size 82 i0 (.agg zeroEnt.row) 14 112 Try.underlying68 hi0 hz0 hzs hzb rfl (by decide) (v1) (i) (((entsF s.f ks).take i).flatMap Ent.L) (by first | rfl | simp [Act.eval, Act.put]) hown1 (some ⟨g1, 0, none⟩) (1) (1) (Ent.L M) (by first | rfl | simp [Act.eval, Act.put]) (fun h => by cases h) (by rfl) (some_funD (row_newD hN rfl)) (by first | exact flat_oneD Ent.L_one _ | exact Ent.L_one _) (by unfold maxLen; omega) (by omega) hT3x.size ?_
      intro v2 w2x hown2 hgr2
      have hT3 := hT3x.trans (below_grown hown1 hgr2 hT3x.size)
      refine (Shut.out hK) _ _ hT3 (fun _ => ?_)
      clear hK K
      change wpAnyT _ _ _ _ _ _ _ _ _ (Act.put _ (some 89) _) _; dsimp only [Act.put]; simp only [List.setIfInBounds_toArray, List.set_cons_succ, List.set_cons_zero]
      refine wpAnyT_ready (rs := [21]) (by kernel_rfl) (by simp) (by rfl) ?_
      refine (AllReadyT.cons rfl (fun K hK => ?_) AllReadyT.nil)
      refine step_append_ownA rfl (.tmp 89) (.tmp 95) 68 rfl w6.heap.size 82 i0 (.agg zeroEnt.row) 14 112 Try.underlying68 hi0 hz0 hzs hzb rfl (by decide) (v2) (i + 1) (((entsF s.f ks).take i).flatMap Ent.L ++ Ent.L M) (by first | rfl | simp [Act.eval, Act.put]) hown2 (cutA ae ce i 14) (n - i) (ce - i) (((entsF s.f ks).drop i).flatMap Ent.L) (by first | rfl | simp [Act.eval, Act.put]) (cutA_none hnen) HDL.out (cut_newsD Ent.L_len14 (hrW.below hT3) HNE.out hce1 hfe) (by first | exact flat_oneD Ent.L_one _ | exact Ent.L_one _) (by unfold maxLen; omega) (by omega) hT3.size ?_
      intro v3 w3x hown3 hgr3
      rw [HL9.out] at hown3
      obtain ⟨a9, c9, rfl, _⟩ := own_sliceN hown3
      have hT4 := hT3.trans (below_grown hown2 hgr3 hT3.size)
      refine (Shut.out hK) _ _ hT4 (fun _ => ?_)
      clear hK K
      change wpAnyT _ _ _ _ _ _ _ _ _ (Act.put _ (some 96) _) _; dsimp only [Act.put]; simp only [List.setIfInBounds_toArray, List.set_cons_succ, List.set_cons_zero]
      refine wpAnyT_take (i := 22) (v := .pointer (some ⟨d, 0, none⟩)) rfl (by kernel_rfl) (by kernel_rfl) (by kernel_rfl) (by decide) (fun _ _ _ h => h) (Yields.yieldsIf (Or.inl ⟨by rfl, fun w9 => by (go_simp; first | done | with_reducible rfl | (intro h9; exfalso; omega))⟩)) hT4 ?_
      change wpAnyT _ _ _ _ _ _ _ _ _ (Act.put _ (some 97) _) _; dsimp only [Act.put]; simp only [List.setIfInBounds_toArray, List.set_cons_succ, List.set_cons_zero]
      refine wpAnyT_take (i := 23) (v := .pointer (some ⟨d, 1, none⟩)) rfl (by kernel_rfl) (by kernel_rfl) (by kernel_rfl) (by decide) (fun _ _ _ h => h) (Yields.yieldsIf (Or.inl ⟨by rfl, fun w9 => by (go_simp; first | done | with_reducible rfl | (intro h9; exfalso; omega))⟩)) hT4 ?_
      change wpAnyT _ _ _ _ _ _ _ _ _ (Act.put _ (some 98) _) _; dsimp only [Act.put]; simp only [List.setIfInBounds_toArray, List.set_cons_succ, List.set_cons_zero]
      refine wpAnyT_tail (by kernel_rfl) ?_
      refine wpAny_ready (rs := [24]) (by kernel_rfl) (by simp) ?_
      refine AllReady.cons rfl (fun K hK => ?_) AllReady.nil
      have hc9 := (hT4.cell hdl).trans hdc
      have hf9 := frozen_heap (cells_of hd6 hT4 hdl) 1
      go_simp
      refine hK _ _ ?_
      clear hK K
      try dsimp only [Act.put]
      refine wpAny_done (by kernel_rfl) ?_ _
      have hown3 := hown3
      have hn0 : n ≤ 1000 := hm
      have hbA := hT4
      have h9 := own_lowerM hown3 (Nat.le_trans hB hB6)
      go_wp2
      go_ret
      rw [← HIF.out] at h9
      have hD8 := (hD6.kept hbA).setE h9 HIL.out
      refine ⟨by rw [HA.out]; first | done | rfl, ⟨_, HKN.out, ?_, by rw [HEF.out]; exact hD8⟩, ?_⟩
      · rw [List.length_append, List.length_cons, List.length_take, List.length_drop]; omega
      · exact ⟨d, _, _, hD.1, HD0.out, by decide, grown_trD hg6 (grown_trD (grown_one hbA d) (grown_put _ _ _ _))⟩
  · have hlt := HFB rfl
    obtain ⟨x, hx, H3, H8, H16, H0⟩ := HOLD rfl
    have hlti := Lib.hid hlt
    clear HNEW HOLD HFB hrk hfk hkl
    obtain ⟨b, off, rfl, hbx, hrg⟩ := ent_at hre (by rw [HNE.out]; exact hlt)
    have hxe : (entsF s.f ks)[i]'(by rw [HNE.out]; exact hlt) = x := by rw [List.getElem?_eq_getElem (by rw [HNE.out]; exact hlt)] at hx; exact Option.some.inj hx
    rw [hxe] at hrg
    clear hxe hx
    obtain ⟨g9, e9⟩ := hfe _ rfl
    have hoff : off = 0 := by cases e9; rfl
    have HOFF := Lib.hid hoff
    clear e9 hoff hfe hre
    obtain ⟨u, hu⟩ : ∃ u, pkEq (pkX x) (pkV e) = u := ⟨_, rfl⟩
    rw [hu] at H3 H8 H16 H0
    have HU := Lib.hid hu
    clear hu
    obtain ⟨M, hM9⟩ : ∃ M, markR x e.kd e.ack = M := ⟨_, rfl⟩
    have CMK := fun W => markEv_any x e W
    rw [hM9] at H0 CMK
    clear hM9
    simp only [HKD.out] at H8 H16 H0
    have CMB := fun W => refMarked_any x 4 W
    obtain ⟨m, hm9⟩ : ∃ m, mkB x 4 = m := ⟨_, rfl⟩
    rw [hm9] at CMB H8 H16 H0
    clear hm9
    have HH3 := Lib.hid H3
    have HH8 := Lib.hid H8
    have HH16 := Lib.hid H16
    have HH0 := Lib.hid H0
    clear H3 H8 H16 H0
    have n0 : (0 : Int) ≤ (i : Int) := by omega
    have n1 : (i : Int) < (n : Int) := by omega
    have n2' : ((i : Nat) : Int).toNat = i := by omega
    have d9 : decide ((i : Int) < (n : Int)) = true := decide_eq_true n1
    have d9n : decide (i < n) = true := decide_eq_true hlt
    have hdc : w5.cell? ⟨d, 1, none⟩ = some (.slice (some ⟨b, off, none⟩) n ce) := cell_heap hd5 1
    go_upto_region 15 with (first | (refine wpList_loadEnt2 (.tmp 104) rfl b (off + i * 14) rfl x hrg (by rfl) ?_) | (refine wpList_storeRowTo (Z := x.row) rfl (.tmp 11) (.tmp 105) 82 rfl (infoEnt2_row _) rfl rfl (heap_push _ zeroEnt.row 82) rfl (Ent.row_one _) ?_))
    refine wp_nameE _ (fun w7 hw7 => ?_)
    have hx7 : w7.heap[w5.heap.size]? = some (.cells x.row 82 (0, 0)) := by rw [hw7]; exact setRow_heap _ _ zeroEnt.row x.row _ _ (heap_push w5 zeroEnt.row 82)
    have hb7 : Below w5.heap.size w5 w7 := by rw [hw7]; exact below_setRow ((Below.refl _ _).alloc (Nat.le_refl _) _) (Nat.le_refl _) _
    clear hw7
    have hq7 := cells_of hq5 hb7 (row_lt hq5)
    have hd7 := cells_of hd5 hb7 (row_lt hd5)
    have hbw := hb54.trans (hb7.mono hb54.size)
    clear hrg hbx hdc hq5 hd5 hk5 hD5 hB5 hb7
    cases u
    · go_wp2_with (first | (refine wpList_loadPkX (.tmp 107) rfl w5.heap.size 0 rfl x (pk_range hx7) (by rfl) ?_) | (refine wpList_loadPkV (.tmp 109) rfl w.heap.size 1 rfl e (evpk_range hq7) (by rfl) ?_) | (refine wpList_neqPkG rfl 108 110 rfl (pkX x) (pkV e) rfl rfl HU.out ?_))
      go_ret
      obtain ⟨hA, hst⟩ := HH3.out (by simp)
      rw [hA, hst]
      exact ⟨rfl, ⟨ks, hKs, by omega, hD.kept hbw⟩, GrD.of_below hD hbw⟩
    · have q0 : w7.cell? ⟨w.heap.size, 0, none⟩ = some (.int .i64 4) := by rw [← HKD.out]; exact cell_heap hq7 0
      cases m
      rotate_left
      · go_wp2_with (first | (refine wpList_loadPkX (.tmp 107) rfl w5.heap.size 0 rfl x (pk_range hx7) (by rfl) ?_) | (refine wpList_loadPkV (.tmp 109) rfl w.heap.size 1 rfl e (evpk_range hq7) (by rfl) ?_) | (refine wpList_neqPkG rfl 108 110 rfl (pkX x) (pkV e) rfl rfl HU.out ?_) | (refine wpList_loadEnt2 (.tmp 11) rfl w5.heap.size 0 rfl x (ent_range hx7) (by rfl) ?_) | (go_at_call 66; refine (CMB _).mono ?_; rintro e9 w8 ⟨rfl, hb8⟩))
        have hbw8 := hbw.trans (hb8.mono hbw.size)
        go_ret
        obtain ⟨hA, hst⟩ := HH8.out (by simp) (by simp)
        rw [hA, hst]
        exact ⟨rfl, ⟨ks, hKs, by omega, hD.kept hbw8⟩, GrD.of_below hD hbw8⟩
      go_upto_region 19 with (first | (refine wpList_loadPkX (.tmp 107) rfl w5.heap.size 0 rfl x (pk_range hx7) (by rfl) ?_) | (refine wpList_loadPkV (.tmp 109) rfl w.heap.size 1 rfl e (evpk_range hq7) (by rfl) ?_) | (refine wpList_neqPkG rfl 108 110 rfl (pkX x) (pkV e) rfl rfl HU.out ?_) | (refine wpList_loadEnt2 (.tmp 11) rfl w5.heap.size 0 rfl x (ent_range hx7) (by rfl) ?_) | (go_at_call 66; refine (CMB _).mono ?_; rintro e9 w8 ⟨rfl, hb8⟩))
      have hx8 := cells_of hx7 hb8 (row_lt hx7)
      have hq8 := cells_of hq7 hb8 (row_lt hq7)
      have hd8 := cells_of hd7 hb8 (row_lt hd7)
      have hbw8 := hbw.trans (hb8.mono hbw.size)
      have q0 : w8.cell? ⟨w.heap.size, 0, none⟩ = some (.int .i64 4) := by rw [← HKD.out]; exact cell_heap hq8 0
      clear hx7 hq7 hd7 hb8 CMB
      obtain ⟨t9, ht9⟩ : ∃ t, x.ti = t := ⟨_, rfl⟩
      have p9 : w8.cell? ⟨w5.heap.size, 13, none⟩ = some (.bool t9) := by rw [← ht9]; exact cell_heap hx8 13
      have HT := Lib.hid ht9
      clear ht9
      cases t9
      rotate_left
      · go_wp2
        go_ret
        obtain ⟨hA, hst⟩ := HH16.out (by simp) (by simp) (by first | exact .inl ⟨rfl, HT.out⟩ | exact .inl ⟨trivial, HT.out⟩)
        rw [hA, hst]
        exact ⟨rfl, ⟨ks, hKs, by omega, hD.kept hbw8⟩, GrD.of_below hD hbw8⟩
      have hno : ¬ ((4 : Int) = 4 ∧ x.ti = true ∨ (4 : Int) = 5 ∧ x.ac = true) := fun q9 => q9.elim (fun z => by first | (have z2 := z.2; rw [HT.out] at z2; cases z2) | exact absurd z.1 (by decide)) (fun z => by first | (have z2 := z.2; rw [HT.out] at z2; cases z2) | exact absurd z.1 (by decide))
      obtain ⟨hA, hcl, hKN, hEF⟩ := HH0.out (by simp) (by simp) (by first | exact hno | simpa using hno)
      have HA9 := Lib.hid hA
      have HKN := Lib.hid hKN
      have HEF := Lib.hid hEF
      clear hA hcl hKN hEF hno HH0 HH3 HH8 HH16
      go_upto_region 21 with fail
      have hdl := row_lt hd8
      have hdc : w8.cell? ⟨d, 1, none⟩ = some (.slice (some ⟨b, off, none⟩) n ce) := cell_heap hd8 1
      refine wp_region_tail 9 1 (S := fun X => Below w8.heap.size w8 X) (by kernel_rfl) (by rfl) (by decide) (by kernel_rfl) (by kernel_rfl) ((Below.refl _ _).drew) (fun hS0 => ?_)
      refine wpAnyT_take (i := 0) (v := .pointer (some ⟨d, 0, none⟩)) rfl (by kernel_rfl) (by kernel_rfl) (by kernel_rfl) (by decide) (fun _ _ _ h => h) (Yields.yieldsIf (Or.inl ⟨by rfl, fun w9 => by (go_simp; first | done | with_reducible rfl | (intro h9; exfalso; omega))⟩)) hS0 ?_
      change wpAnyT _ _ _ _ _ _ _ _ _ (Act.put _ (some 134) _) _; dsimp only [Act.put]; simp only [List.setIfInBounds_toArray, List.set_cons_succ, List.set_cons_zero]
      refine wpAnyT_take (i := 1) (v := .pointer (some ⟨d, 0, none⟩)) rfl (by kernel_rfl) (by kernel_rfl) (by kernel_rfl) (by decide) (fun _ _ _ h => h) (Yields.yieldsIf (Or.inl ⟨by rfl, fun w9 => by (go_simp; first | done | with_reducible rfl | (intro h9; exfalso; omega))⟩)) hS0 ?_
      change wpAnyT _ _ _ _ _ _ _ _ _ (Act.put _ (some 135) _) _; dsimp only [Act.put]; simp only [List.setIfInBounds_toArray, List.set_cons_succ, List.set_cons_zero]
      refine wpAnyT_take (i := 2) (v := .pointer (some ⟨d, 1, none⟩)) rfl (by kernel_rfl) (by kernel_rfl) (by kernel_rfl) (by decide) (fun _ _ _ h => h) (Yields.yieldsIf (Or.inl ⟨by rfl, fun w9 => by (go_simp; first | done | with_reducible rfl | (intro h9; exfalso; omega))⟩)) hS0 ?_
      change wpAnyT _ _ _ _ _ _ _ _ _ (Act.put _ (some 136) _) _; dsimp only [Act.put]; simp only [List.setIfInBounds_toArray, List.set_cons_succ, List.set_cons_zero]
      refine wpAnyT_take (i := 3) (v := .slice (some ⟨b, off, none⟩) n ce) rfl (by kernel_rfl) (by kernel_rfl) (by kernel_rfl) (by decide) (fun _ _ _ h => h) (Or.inl ⟨by rfl, fun w9 hS9 => by have hc9 := (hS9.cell hdl).trans hdc; go_simp; try with_reducible rfl⟩) hS0 ?_
      change wpAnyT _ _ _ _ _ _ _ _ _ (Act.put _ (some 137) _) _; dsimp only [Act.put]; simp only [List.setIfInBounds_toArray, List.set_cons_succ, List.set_cons_zero]
      refine wpAnyT_take (i := 4) (v := .int .i64 (i : Int)) rfl (by kernel_rfl) (by kernel_rfl) (by kernel_rfl) (by decide) (fun _ _ _ h => h) (Yields.yieldsIf (Or.inl ⟨by rfl, fun w9 => by (go_simp; first | done | with_reducible rfl | (intro h9; exfalso; omega))⟩)) hS0 ?_
      change wpAnyT _ _ _ _ _ _ _ _ _ (Act.put _ (some 138) _) _; dsimp only [Act.put]; simp only [List.setIfInBounds_toArray, List.set_cons_succ, List.set_cons_zero]
      refine wpAnyT_take (i := 5) (v := .agg x.row) rfl (by kernel_rfl) (by kernel_rfl) (by kernel_rfl) (by decide) (fun _ _ _ h => h) (Or.inl ⟨by rfl, fun w9 hS9 => exec_loadEnt2 (.tmp 11) rfl w5.heap.size 0 (by first | rfl | simp [Act.eval, Act.put]) x (range_belowS (ent_range hx8) hS9 (row_lt hx8))⟩) hS0 ?_
      change wpAnyT _ _ _ _ _ _ _ _ _ (Act.put _ (some 139) _) _; dsimp only [Act.put]; simp only [List.setIfInBounds_toArray, List.set_cons_succ, List.set_cons_zero]
      refine wpAnyT_take (i := 6) (v := .agg e.row) rfl (by kernel_rfl) (by kernel_rfl) (by kernel_rfl) (by decide) (fun _ _ _ h => h) (Or.inl ⟨by rfl, fun w9 hS9 => exec_loadEvR (.tmp 3) rfl w.heap.size 0 (by first | rfl | simp [Act.eval, Act.put]) e (range_belowS (evr_range hq8) hS9 (row_lt hq8))⟩) hS0 ?_
      change wpAnyT _ _ _ _ _ _ _ _ _ (Act.put _ (some 140) _) _; dsimp only [Act.put]; simp only [List.setIfInBounds_toArray, List.set_cons_succ, List.set_cons_zero]
      refine wpAnyT_ready (rs := [7]) (by kernel_rfl) (by simp) (by rfl) ?_
      refine (AllReadyT.cons rfl (fun K hK => ?_) AllReadyT.nil)
      go_simp
      refine (CMK _).mono ?_
      rintro e9 wM ⟨rfl, hbm⟩
      have hS1 := hS0.trans (hbm.mono hS0.size)
      refine (Shut.out hK) _ _ hS1 (fun _ => ?_)
      clear hK K
      refine wpAnyT_take (i := 8) (v := .pointer (some ⟨b, off + i * 14, none⟩)) rfl (by kernel_rfl) (by kernel_rfl) (by kernel_rfl) (by decide) (fun _ _ _ h => h) (Yields.yieldsIf (Or.inl ⟨by rfl, fun w9 => by (go_simp; first | done | with_reducible rfl | (intro h9; exfalso; omega))⟩)) hS1 ?_
      change wpAnyT _ _ _ _ _ _ _ _ _ (Act.put _ (some 142) _) _; dsimp only [Act.put]; simp only [List.setIfInBounds_toArray, List.set_cons_succ, List.set_cons_zero]
      refine wpAnyT_tail (by kernel_rfl) ?_
      refine wpAny_ready (rs := [9]) (by kernel_rfl) (by simp) ?_
      refine AllReady.cons rfl (fun K hK => ?_) AllReady.nil
      have hbM := hbw8.trans (hS1.mono hbw8.size)
      have hdM := cells_of hd8 hS1 hdl
      have hoff := HOFF.out
      have e0 : off + i * 14 = i * 14 := by rw [HOFF.out, Nat.zero_add]
      rw [HOFF.out] at hdM
      obtain ⟨hDP, hTH⟩ := (hD.kept hbM).put hdM (by rw [HNE.out]; exact hlti.out) M
      refine step_storeMid rfl 82 (.tmp 142) (.tmp 141) rfl b (off + i * 14) M.row (by first | rfl | simp [Act.eval, Act.put]) (by first | rfl | simp [Act.eval, Act.put]) (by rw [e0]; exact hTH) (infoEnt2_row _) (Ent.row_one _) ?_
      refine hK _ _ ?_
      clear hK K
      rw [e0]
      try dsimp only [Act.put]
      refine wpAny_done (by kernel_rfl) ?_ _
      go_wp2
      go_ret
      have hoe0 := HOE0.out
      rw [HOFF.out] at hoe0
      obtain ⟨hBg, R, hR, _⟩ := own_cellsD hoe0
      refine ⟨by rw [HA9.out]; first | done | rfl, ⟨ks, HKN.out, by omega, by rw [HEF.out]; exact hDP⟩, ⟨b, R, _, hBg, hR, by decide, grown_trD (grown_one hbM b) (grown_puts _ _ _ _)⟩⟩
end Go.Proofs.Ytbckncopdkmoeaa
namespace Go.Proofs.Ytbckncopdkmoeaa
open Go.RowKit
attribute [local go_sem] strV
set_option linter.unusedVariables false
set_option linter.unusedSimpArgs false
set_option maxRecDepth 100000 in
set_option maxHeartbeats 6400000 in
theorem refFoldPk5_any (B d : Nat) (s : Tb) (ks : List Lk) (qs : List Pe) (e : Ev) (w : World) (hk : e.kd = 5) (hs : SzE e) (hM : mayEv e = true) (hKs : KeysOf s ks) (hm : ks.length ≤ 1000) (hD : DocAt w B d ks (entsF s.f ks) qs) (hB : B ≤ w.heap.size) :
    Calls Try.prog 33 #[.pointer (some ⟨d, 0, none⟩), .agg e.row] w fun r w' => r = .returned (.int .i64 (foldA s.f s.cl e)) ∧ (∃ ks', KeysOf (stepT s e) ks' ∧ ks'.length ≤ ks.length + 1 ∧ DocAt w' B d ks' (entsF (stepT s e).f ks') qs) ∧ GrD B w w' := by
  have hp : hasP e.kd = true := by rw [hk]; rfl
  obtain ⟨o1, o2, o3, o4⟩ := own_says hM hp
  have CM := fun W => mayR_any e W hs
  have CO := fun W => ownR_any e W hs
  rw [hM] at CM
  rw [o1, o2, o3, o4] at CO
  have hou : (keyE e).ou = true := by rw [(key_parts e).1, hk]; rfl
  have HNEW := fun h => new_says hM hp hKs h
  have HOLD := fun h => old_says hM hp hKs h
  generalize hV9 : foldA s.f s.cl e = V at HNEW HOLD ⊢
  clear hV9
  obtain ⟨⟨P, C, u9, S⟩, hk9⟩ : ∃ k, keyE e = k := ⟨_, rfl⟩
  rw [hk9] at hou CO HNEW HOLD
  simp only at hou CO
  subst hou
  have HKD := Lib.hid hk
  clear o1 o2 o3 o4 hk9 hp hk
  have hq0 := heap_push w e.row 76
  have hb0 : Below w.heap.size w (w.alloc (.cells e.row 76)) := (Below.refl _ _).alloc (Nat.le_refl _) _
  have q0 : (w.alloc (.cells e.row 76)).cell? ⟨w.heap.size, 0, none⟩ = some (.int .i64 5) := by rw [← HKD.out]; exact cell_heap hq0 0
  go_enter Try.func33, Try.ntmps33
  go_upto_region 3 with (first | (refine (wpList_loadEvR (.tmp 3) rfl w.heap.size 0 rfl e (evr_range hq0) (by rfl) ?_)) | (go_at_call 39; refine (CM _).mono ?_; rintro e9 w1 ⟨rfl, hb1⟩; have hq1 := cells_of hq0 hb1 (row_lt hq0); have hbel := hb0.trans (hb1.mono hb0.size)))
  clear CM hb1 q0 hq0 hb0
  have q0 : w1.cell? ⟨w.heap.size, 0, none⟩ = some (.int .i64 5) := by rw [← HKD.out]; exact cell_heap hq1 0
  go_upto_region 8 with (first | (refine (wpList_loadEvR (.tmp 3) rfl w.heap.size 0 rfl e (evr_range hq1) (by rfl) ?_)) | (go_at_call 41; refine (CO _).mono ?_; rintro e9 w2 ⟨rfl, hb2⟩; have hq2 := cells_of hq1 hb2 (row_lt hq1); have hbel := hbel.trans (hb2.mono hbel.size)))
  clear CO q0 hq1
  refine wp_nameE _ (fun w3 hw3 => ?_)
  have hq3 : w3.heap[w.heap.size]? = some (.cells e.row 76 (0, 0)) := by rw [hw3]; exact cells_of hq2 ((Below.refl _ _).alloc (Nat.le_refl _) _) (row_lt hq2)
  have he3 : w3.heap[w2.heap.size]? = some (.cells #[.string P, .int .i64 C] 60 (0, 0)) := by rw [hw3]; exact heap_push w2 _ _
  have hb3 : Below w.heap.size w w3 := by rw [hw3]; exact hbel.alloc hbel.size _
  clear hw3 hb2 hq2 hbel
  have q0 : w3.cell? ⟨w.heap.size, 0, none⟩ = some (.int .i64 5) := by rw [← HKD.out]; exact cell_heap hq3 0
  have u0 := cell_heap he3 0
  have u1 := cell_heap he3 1
  go_upto_region 9 with (refine wpList_buildG rfl 81 _ rfl #[(0, .agg #[.string P, .int .i64 C]), (1, .bool true), (2, .int .i64 S)] (by first | rfl | simp [Act.eval]) (build_k2 P C true S _) ?_)
  refine wp_nameE _ (fun w4 hw4 => ?_)
  have hb43 : Below w3.heap.size w3 w4 := by rw [hw4]; exact (Below.refl _ _).alloc (Nat.le_refl _) _
  have hk4 : w4.heap[w3.heap.size]? = some (.cells (⟨P, C, true, S⟩ : Lk).row 81 (0, 0)) := by rw [hw4]; exact heap_push w3 _ _
  have hq4 := cells_of hq3 hb43 (row_lt hq3)
  have hb4 := hb3.trans (hb43.mono hb3.size)
  clear hw4 hb3 he3 hq3 q0 u0 u1
  have hD9 := hD
  obtain ⟨_, ak, ck, ae, ce, ac, cc, hd0, hok0, hoe0, _⟩ := hD9
  have HD0 := Lib.hid hd0
  have hd4 := cells_of hd0 hb4 (row_lt hd0)
  have hok := own_kept9 hok0 hb4
  have hoe := own_kept9 hoe0 hb4
  clear hd0 hok0
  obtain ⟨n, hn⟩ : ∃ n, ks.length = n := ⟨_, rfl⟩
  have hne : (entsF s.f ks).length = n := by rw [entsF_len, hn]
  rw [hn] at hd4 hok hm
  rw [hne] at hd4 hoe hoe0
  have HOE0 := Lib.hid hoe0
  clear hoe0
  obtain ⟨_, _, e9, hrk, hck1, hck2, hnk⟩ := own_sliceN hok
  cases e9
  obtain ⟨_, _, e9, hre, hce1, hce2, hnen⟩ := own_sliceN hoe
  cases e9
  unfold maxLen at hck2 hce2
  have HN := Lib.hid hn
  have HNE := Lib.hid hne
  have hfeN := own_blockD hoe hd4 (by decide)
  have CF := refFind_any d ak n ck (.slice ae n ce) (.slice ac qs.length cc) ks (⟨P, C, true, S⟩ : Lk) w4 hd4 hrk hn (by omega)
  clear hn hne
  have hkl := find_le ks (⟨P, C, true, S⟩ : Lk)
  have HFB : findB ks (⟨P, C, true, S⟩ : Lk) = true → findI ks (⟨P, C, true, S⟩ : Lk) < ks.length := find_lt
  rw [HN.out] at hkl HFB
  obtain ⟨i, hi9⟩ : ∃ i, findI ks (⟨P, C, true, S⟩ : Lk) = i := ⟨_, rfl⟩
  obtain ⟨f, hf9⟩ : ∃ f, findB ks (⟨P, C, true, S⟩ : Lk) = f := ⟨_, rfl⟩
  rw [hi9, hf9] at CF HFB
  rw [hi9] at hkl HNEW HOLD
  rw [hf9] at HNEW HOLD
  clear hi9 hf9
  go_upto_region 10 with (first | (refine wpList_loadLk2R (.tmp 8) rfl w3.heap.size 0 rfl (⟨P, C, true, S⟩ : Lk) (row_range4 hk4) (by rfl) ?_) | (go_at_call 64; refine CF.mono ?_; rintro e9 w5 ⟨rfl, hb5⟩))
  have hb54 := hb4.trans (hb5.mono hb4.size)
  have hk5 := cells_of hk4 hb5 (row_lt hk4)
  have hq5 := cells_of hq4 hb5 (row_lt hq4)
  have hD5 := hD.kept hb54
  have hd5 := cells_of hd4 hb5 (row_lt hd4)
  have hrk := hrk.below hb5
  have hre := hre.below hb5
  have hfk := own_formD hok
  have hfe := own_formD hoe
  have hB5 := hb54.size
  clear CF hk4 hq4 hd4 hb4 hb5 hb43 hok hoe
  cases f
  · obtain ⟨hA, hcl, hKN, hEF⟩ := HNEW rfl
    have HA := Lib.hid hA
    have HKN := Lib.hid hKN
    have HEF := Lib.hid hEF
    clear HNEW HOLD HFB hA hcl hKN hEF
    obtain ⟨M, hM9⟩ : ∃ M, markR (entP zeroEnt e) e.kd e.ack = M := ⟨_, rfl⟩
    have CMK := fun W => markEv_any (entP zeroEnt e) e W
    rw [hM9] at HEF CMK
    clear hM9
    go_upto_region 11 with fail
    obtain ⟨i0, hi0, hz0, hzs, hzb⟩ := info_parts Try.infoLk3
    have hdl := row_lt hd5
    have hdc : w5.cell? ⟨d, 0, none⟩ = some (.slice ak n ck) := cell_heap hd5 0
    have hrW := hrk
    have HTL := Lib.hid (show ((ks.take i).flatMap Lk.L).length = i * 4 by rw [flat_length Lk.L 4 Lk.L_len4, List.length_take, HN.out, Nat.min_eq_left hkl])
    have HDL := Lib.hid (show ((ks.drop i).flatMap Lk.L).length = (n - i) * 4 by rw [flat_length Lk.L 4 Lk.L_len4, List.length_drop, HN.out])
    obtain ⟨L9, hL9⟩ : ∃ m : Nat, i + 1 + (n - i) = m := ⟨_, rfl⟩
    have HL9 := Lib.hid hL9
    have HIL := Lib.hid (show (ks.take i ++ (⟨P, C, true, S⟩ : Lk) :: ks.drop i).length = L9 by rw [← hL9]; rw [List.length_append, List.length_cons, List.length_take, List.length_drop, HN.out, Nat.min_eq_left hkl]; omega)
    clear hL9
    have HIF := Lib.hid (show (ks.take i ++ (⟨P, C, true, S⟩ : Lk) :: ks.drop i).flatMap Lk.L = (ks.take i).flatMap Lk.L ++ Lk.L (⟨P, C, true, S⟩ : Lk) ++ (ks.drop i).flatMap Lk.L by rw [List.flatMap_append, List.flatMap_cons, List.append_assoc])
    refine wp_region_tail 20 1 (S := fun X => Below w5.heap.size w5 X) (by kernel_rfl) (by rfl) (by decide) (by kernel_rfl) (by kernel_rfl) ((Below.refl _ _).drew) (fun hS0 => ?_)
    refine wpAnyT_take (i := 0) (v := .pointer (some ⟨d, 0, none⟩)) rfl (by kernel_rfl) (by kernel_rfl) (by kernel_rfl) (by decide) (fun _ _ _ h => h) (Yields.yieldsIf (Or.inl ⟨by rfl, fun w9 => by (go_simp; first | done | with_reducible rfl | (intro h9; exfalso; omega))⟩)) hS0 ?_
    change wpAnyT _ _ _ _ _ _ _ _ _ (Act.put _ (some 55) _) _; dsimp only [Act.put]; simp only [List.setIfInBounds_toArray, List.set_cons_succ, List.set_cons_zero]
    refine wpAnyT_take (i := 1) (v := .pointer (some ⟨d, 0, none⟩)) rfl (by kernel_rfl) (by kernel_rfl) (by kernel_rfl) (by decide) (fun _ _ _ h => h) (Yields.yieldsIf (Or.inl ⟨by rfl, fun w9 => by (go_simp; first | done | with_reducible rfl | (intro h9; exfalso; omega))⟩)) hS0 ?_
    change wpAnyT _ _ _ _ _ _ _ _ _ (Act.put _ (some 56) _) _; dsimp only [Act.put]; simp only [List.setIfInBounds_toArray, List.set_cons_succ, List.set_cons_zero]
    refine wpAnyT_take (i := 2) (v := .pointer (some ⟨d, 0, none⟩)) rfl (by kernel_rfl) (by kernel_rfl) (by kernel_rfl) (by decide) (fun _ _ _ h => h) (Yields.yieldsIf (Or.inl ⟨by rfl, fun w9 => by (go_simp; first | done | with_reducible rfl | (intro h9; exfalso; omega))⟩)) hS0 ?_
    change wpAnyT _ _ _ _ _ _ _ _ _ (Act.put _ (some 57) _) _; dsimp only [Act.put]; simp only [List.setIfInBounds_toArray, List.set_cons_succ, List.set_cons_zero]
    refine wpAnyT_take (i := 3) (v := .pointer (some ⟨d, 0, none⟩)) rfl (by kernel_rfl) (by kernel_rfl) (by kernel_rfl) (by decide) (fun _ _ _ h => h) (Yields.yieldsIf (Or.inl ⟨by rfl, fun w9 => by (go_simp; first | done | with_reducible rfl | (intro h9; exfalso; omega))⟩)) hS0 ?_
    change wpAnyT _ _ _ _ _ _ _ _ _ (Act.put _ (some 58) _) _; dsimp only [Act.put]; simp only [List.setIfInBounds_toArray, List.set_cons_succ, List.set_cons_zero]
    refine wpAnyT_take (i := 4) (v := .slice ak n ck) rfl (by kernel_rfl) (by kernel_rfl) (by kernel_rfl) (by decide) (fun _ _ _ h => h) (Or.inl ⟨by rfl, fun w9 hS9 => by have hc9 := (hS9.cell hdl).trans hdc; go_simp; try with_reducible rfl⟩) hS0 ?_
    change wpAnyT _ _ _ _ _ _ _ _ _ (Act.put _ (some 59) _) _; dsimp only [Act.put]; simp only [List.setIfInBounds_toArray, List.set_cons_succ, List.set_cons_zero]
    refine wpAnyT_take (i := 5) (v := .int .i64 (i : Int)) rfl (by kernel_rfl) (by kernel_rfl) (by kernel_rfl) (by decide) (fun _ _ _ h => h) (Yields.yieldsIf (Or.inl ⟨by rfl, fun w9 => by (go_simp; first | done | with_reducible rfl | (intro h9; exfalso; omega))⟩)) hS0 ?_
    change wpAnyT _ _ _ _ _ _ _ _ _ (Act.put _ (some 60) _) _; dsimp only [Act.put]; simp only [List.setIfInBounds_toArray, List.set_cons_succ, List.set_cons_zero]
    refine wpAnyT_take (i := 6) (v := .slice ak i ck) rfl (by kernel_rfl) (by kernel_rfl) (by kernel_rfl) (by decide) (fun _ _ _ h => h) (Or.inl ⟨by rfl, fun w9 hS9 => exec_toLk 59 60 rfl (by first | rfl | simp [Act.eval, Act.put]) (by first | rfl | simp [Act.eval, Act.put]) hkl hck1 hnk hfk⟩) hS0 ?_
    change wpAnyT _ _ _ _ _ _ _ _ _ (Act.put _ (some 61) _) _; dsimp only [Act.put]; simp only [List.setIfInBounds_toArray, List.set_cons_succ, List.set_cons_zero]
    refine wpAnyT_take (i := 8) (v := .agg (⟨P, C, true, S⟩ : Lk).row) rfl (by kernel_rfl) (by kernel_rfl) (by kernel_rfl) (by decide) (fun _ _ _ h => h) (Or.inl ⟨by rfl, fun w9 hS9 => exec_loadLk2 (.tmp 8) rfl w3.heap.size 0 (by first | rfl | simp [Act.eval, Act.put]) (⟨P, C, true, S⟩ : Lk) (range_belowS (row_range4 hk5) hS9 (row_lt hk5))⟩) hS0 ?_
    change wpAnyT _ _ _ _ _ _ _ _ _ (Act.put _ (some 63) _) _; dsimp only [Act.put]; simp only [List.setIfInBounds_toArray, List.set_cons_succ, List.set_cons_zero]
    refine wpAnyT_take (i := 11) (v := .pointer (some ⟨d, 0, none⟩)) rfl (by kernel_rfl) (by kernel_rfl) (by kernel_rfl) (by decide) (fun _ _ _ h => h) (Yields.yieldsIf (Or.inl ⟨by rfl, fun w9 => by (go_simp; first | done | with_reducible rfl | (intro h9; exfalso; omega))⟩)) hS0 ?_
    change wpAnyT _ _ _ _ _ _ _ _ _ (Act.put _ (some 66) _) _; dsimp only [Act.put]; simp only [List.setIfInBounds_toArray, List.set_cons_succ, List.set_cons_zero]
    refine wpAnyT_take (i := 12) (v := .pointer (some ⟨d, 0, none⟩)) rfl (by kernel_rfl) (by kernel_rfl) (by kernel_rfl) (by decide) (fun _ _ _ h => h) (Yields.yieldsIf (Or.inl ⟨by rfl, fun w9 => by (go_simp; first | done | with_reducible rfl | (intro h9; exfalso; omega))⟩)) hS0 ?_
    change wpAnyT _ _ _ _ _ _ _ _ _ (Act.put _ (some 67) _) _; dsimp only [Act.put]; simp only [List.setIfInBounds_toArray, List.set_cons_succ, List.set_cons_zero]
    refine wpAnyT_take (i := 13) (v := .pointer (some ⟨d, 0, none⟩)) rfl (by kernel_rfl) (by kernel_rfl) (by kernel_rfl) (by decide) (fun _ _ _ h => h) (Yields.yieldsIf (Or.inl ⟨by rfl, fun w9 => by (go_simp; first | done | with_reducible rfl | (intro h9; exfalso; omega))⟩)) hS0 ?_
    change wpAnyT _ _ _ _ _ _ _ _ _ (Act.put _ (some 68) _) _; dsimp only [Act.put]; simp only [List.setIfInBounds_toArray, List.set_cons_succ, List.set_cons_zero]
    refine wpAnyT_take (i := 14) (v := .slice ak n ck) rfl (by kernel_rfl) (by kernel_rfl) (by kernel_rfl) (by decide) (fun _ _ _ h => h) (Or.inl ⟨by rfl, fun w9 hS9 => by have hc9 := (hS9.cell hdl).trans hdc; go_simp; try with_reducible rfl⟩) hS0 ?_
    change wpAnyT _ _ _ _ _ _ _ _ _ (Act.put _ (some 69) _) _; dsimp only [Act.put]; simp only [List.setIfInBounds_toArray, List.set_cons_succ, List.set_cons_zero]
    refine wpAnyT_take (i := 15) (v := .int .i64 (i : Int)) rfl (by kernel_rfl) (by kernel_rfl) (by kernel_rfl) (by decide) (fun _ _ _ h => h) (Yields.yieldsIf (Or.inl ⟨by rfl, fun w9 => by (go_simp; first | done | with_reducible rfl | (intro h9; exfalso; omega))⟩)) hS0 ?_
    change wpAnyT _ _ _ _ _ _ _ _ _ (Act.put _ (some 70) _) _; dsimp only [Act.put]; simp only [List.setIfInBounds_toArray, List.set_cons_succ, List.set_cons_zero]
    refine wpAnyT_take (i := 16) (v := .slice (cutA ak ck i 4) (n - i) (ck - i)) rfl (by kernel_rfl) (by kernel_rfl) (by kernel_rfl) (by decide) (fun _ _ _ h => h) (Or.inl ⟨by rfl, fun w9 hS9 => exec_fromLk 69 70 rfl (by first | rfl | simp [Act.eval, Act.put]) (by first | rfl | simp [Act.eval, Act.put]) hkl hck1 hnk hfk⟩) hS0 ?_
    change wpAnyT _ _ _ _ _ _ _ _ _ (Act.put _ (some 71) _) _; dsimp only [Act.put]; simp only [List.setIfInBounds_toArray, List.set_cons_succ, List.set_cons_zero]
    refine wpAnyT_ready (rs := [7, 9]) (by kernel_rfl) (by simp) (by rfl) ?_
    refine (AllReadyT.cons rfl (fun K hK => ?_) (AllReadyT.cons rfl (fun K hK => ?_) AllReadyT.nil))
    · refine step_append_ownA rfl (.const (.slice none 0 0)) (.tmp 61) 67 rfl w5.heap.size 81 i0 (.agg #[.string ⟨#[]⟩, .int .i64 0, .bool false, .int .i64 0]) 4 40 Try.underlying67 hi0 hz0 hzs hzb rfl (by decide) (.slice none 0 0) (0) ([]) (by first | rfl | simp [Act.eval, Act.put]) (World.ownsRow_nil _ _ _ _) (ak) (i) (ck) ((ks.take i).flatMap Lk.L) (by first | rfl | simp [Act.eval, Act.put]) (fun h => by have := hnk h; omega) HTL.out (take_newsD Lk.L_len4 (hrW.below hS0) i) (by first | exact flat_oneD Lk.L_one _ | exact Lk.L_one _) (by unfold maxLen; omega) (by omega) hS0.size ?_
      intro v1 w1x hown1 hgr1
      simp only [Nat.zero_add, List.nil_append] at hown1
      have hT1 := hS0.trans ((grown_lowM hgr1 (fun k h => by cases h) (Nat.le_refl _)).mono hS0.size)
      refine (Shut.out hK) _ _ hT1 (fun _ => ?_)
      clear hK K
      change wpAnyT _ _ _ _ _ _ _ _ _ (Act.put _ (some 62) _) _; dsimp only [Act.put]; simp only [List.setIfInBounds_toArray, List.set_cons_succ, List.set_cons_zero]
      refine wpAnyT_ready (rs := [9]) (by kernel_rfl) (by simp) (by rfl) ?_
      refine (AllReadyT.cons rfl (fun K hK => ?_) AllReadyT.nil)
      refine step_oneLk rfl (.tmp 63) rfl (⟨P, C, true, S⟩ : Lk) (by first | rfl | simp [Act.eval, Act.put]) ?_
      have hT2 := hT1.alloc hT1.size (.cells (⟨P, C, true, S⟩ : Lk).row 81)
      have hown1 := hown1.alloc (.cells (⟨P, C, true, S⟩ : Lk).row 81)
      have hN := heap_push w1x (⟨P, C, true, S⟩ : Lk).row 81
      refine (Shut.out hK) _ _ hT2 (fun _ => ?_)
      clear hK K
      change wpAnyT _ _ _ _ _ _ _ _ _ (Act.put _ (some 64) _) _; dsimp only [Act.put]; simp only [List.setIfInBounds_toArray, List.set_cons_succ, List.set_cons_zero]
      generalize hg9 : w1x.alloc (.cells (⟨P, C, true, S⟩ : Lk).row 81) = wN at hT2 hown1 hN ⊢
      clear hg9
      generalize w1x.heap.size = g1 at hN ⊢
      refine wpAnyT_ready (rs := [10]) (by kernel_rfl) (by simp) (by rfl) ?_
      refine (AllReadyT.cons rfl (fun K hK => ?_) AllReadyT.nil)
      refine step_append_ownA rfl (.tmp 62) (.tmp 64) 67 rfl w5.heap.size 81 i0 (.agg #[.string ⟨#[]⟩, .int .i64 0, .bool false, .int .i64 0]) 4 40 Try.underlying67 hi0 hz0 hzs hzb rfl (by decide) (v1) (i) ((ks.take i).flatMap Lk.L) (by first | rfl | simp [Act.eval, Act.put]) hown1 (some ⟨g1, 0, none⟩) (1) (1) (Lk.L (⟨P, C, true, S⟩ : Lk)) (by first | rfl | simp [Act.eval, Act.put]) (fun h => by cases h) (by rfl) (some_funD (row_newD hN rfl)) (by first | exact flat_oneD Lk.L_one _ | exact Lk.L_one _) (by unfold maxLen; omega) (by omega) hT2.size ?_
      intro v2 w2x hown2 hgr2
      have hT3 := hT2.trans (below_grown hown1 hgr2 hT2.size)
      refine (Shut.out hK) _ _ hT3 (fun _ => ?_)
      clear hK K
      change wpAnyT _ _ _ _ _ _ _ _ _ (Act.put _ (some 65) _) _; dsimp only [Act.put]; simp only [List.setIfInBounds_toArray, List.set_cons_succ, List.set_cons_zero]
      refine wpAnyT_ready (rs := [17]) (by kernel_rfl) (by simp) (by rfl) ?_
      refine (AllReadyT.cons rfl (fun K hK => ?_) AllReadyT.nil)
      refine step_append_ownA rfl (.tmp 65) (.tmp 71) 67 rfl w5.heap.size 81 i0 (.agg #[.string ⟨#[]⟩, .int .i64 0, .bool false, .int .i64 0]) 4 40 Try.underlying67 hi0 hz0 hzs hzb rfl (by decide) (v2) (i + 1) ((ks.take i).flatMap Lk.L ++ Lk.L (⟨P, C, true, S⟩ : Lk)) (by first | rfl | simp [Act.eval, Act.put]) hown2 (cutA ak ck i 4) (n - i) (ck - i) ((ks.drop i).flatMap Lk.L) (by first | rfl | simp [Act.eval, Act.put]) (cutA_none hnk) HDL.out (cut_newsD Lk.L_len4 (hrW.below hT3) HN.out hck1 hfk) (by first | exact flat_oneD Lk.L_one _ | exact Lk.L_one _) (by unfold maxLen; omega) (by omega) hT3.size ?_
      intro v3 w3x hown3 hgr3
      rw [HL9.out] at hown3
      obtain ⟨a9, c9, rfl, _⟩ := own_sliceN hown3
      have hT4 := hT3.trans (below_grown hown2 hgr3 hT3.size)
      refine (Shut.out hK) _ _ hT4 (fun _ => ?_)
      clear hK K
      change wpAnyT _ _ _ _ _ _ _ _ _ (Act.put _ (some 72) _) _; dsimp only [Act.put]; simp only [List.setIfInBounds_toArray, List.set_cons_succ, List.set_cons_zero]
      refine wpAnyT_take (i := 18) (v := .pointer (some ⟨d, 0, none⟩)) rfl (by kernel_rfl) (by kernel_rfl) (by kernel_rfl) (by decide) (fun _ _ _ h => h) (Yields.yieldsIf (Or.inl ⟨by rfl, fun w9 => by (go_simp; first | done | with_reducible rfl | (intro h9; exfalso; omega))⟩)) hT4 ?_
      change wpAnyT _ _ _ _ _ _ _ _ _ (Act.put _ (some 73) _) _; dsimp only [Act.put]; simp only [List.setIfInBounds_toArray, List.set_cons_succ, List.set_cons_zero]
      refine wpAnyT_take (i := 19) (v := .pointer (some ⟨d, 0, none⟩)) rfl (by kernel_rfl) (by kernel_rfl) (by kernel_rfl) (by decide) (fun _ _ _ h => h) (Yields.yieldsIf (Or.inl ⟨by rfl, fun w9 => by (go_simp; first | done | with_reducible rfl | (intro h9; exfalso; omega))⟩)) hT4 ?_
      change wpAnyT _ _ _ _ _ _ _ _ _ (Act.put _ (some 74) _) _; dsimp only [Act.put]; simp only [List.setIfInBounds_toArray, List.set_cons_succ, List.set_cons_zero]
      refine wpAnyT_tail (by kernel_rfl) ?_
      refine wpAny_ready (rs := [20]) (by kernel_rfl) (by simp) ?_
      refine AllReady.cons rfl (fun K hK => ?_) AllReady.nil
      have hc9 := (hT4.cell hdl).trans hdc
      have hf9 := frozen_heap (cells_of hd5 hT4 hdl) 0
      go_simp
      refine hK _ _ ?_
      clear hK K
      try dsimp only [Act.put]
      refine wpAny_done (by kernel_rfl) ?_ _
      have hown3 := hown3
      have h9 := own_lowerM hown3 (Nat.le_trans hB hB5)
      rw [← HIF.out] at h9
      have hD6 := (hD5.kept hT4).setK h9 HIL.out
      have hg6 := grown_trD (grown_one (hb54.trans (hT4.mono hb54.size)) d) (grown_put w3x d 0 (.slice a9 L9 c9))
      have hd6 := cells_put (cells_of hd5 hT4 hdl) (j := 0) (.slice a9 L9 c9)
      have hq6 := grown_at (grown_put w3x d 0 (.slice a9 L9 c9)) (cells_of hq5 hT4 (row_lt hq5)) (fun q => by have := Option.some.inj q; have := row_lt HD0.out; omega)
      have hre6 := row_grownD (hre.below hT4) (grown_put w3x d 0 (.slice a9 L9 c9)) hfeN
      have hB6 : w.heap.size ≤ (w3x.setCell ⟨d, 0, none⟩ (.slice a9 L9 c9)).heap.size := hg6.size
      clear hown1 hown2 hown3 hgr1 hgr2 hgr3 hT1 hT2 hT3 hT4 hS0 hN hdl hdc hrW HTL HDL HIL HIF h9 hc9 hf9 hD5 hi0 hz0 hzs hzb i0
      generalize w3x.setCell ⟨d, 0, none⟩ (.slice a9 L9 c9) = w6 at hD6 hg6 hd6 hq6 hre6 hB6 ⊢
      have hqW := hq6
      simp only [List.setIfInBounds_toArray, List.set_cons_zero, List.set_cons_succ] at hd6
      have hre := hre6
      go_upto_region 12 with fail
      obtain ⟨i0, hi0, hz0, hzs, hzb⟩ := info_parts Try.infoEn3
      have hdl := row_lt hd6
      have hdc : w6.cell? ⟨d, 1, none⟩ = some (.slice ae n ce) := cell_heap hd6 1
      have hrW := hre
      have HTL := Lib.hid (show (((entsF s.f ks).take i).flatMap Ent.L).length = i * 14 by rw [flat_length Ent.L 14 Ent.L_len14, List.length_take, HNE.out, Nat.min_eq_left hkl])
      have HDL := Lib.hid (show (((entsF s.f ks).drop i).flatMap Ent.L).length = (n - i) * 14 by rw [flat_length Ent.L 14 Ent.L_len14, List.length_drop, HNE.out])
      obtain ⟨L9, hL9⟩ : ∃ m : Nat, i + 1 + (n - i) = m := ⟨_, rfl⟩
      have HL9 := Lib.hid hL9
      have HIL := Lib.hid (show ((entsF s.f ks).take i ++ M :: (entsF s.f ks).drop i).length = L9 by rw [← hL9]; rw [List.length_append, List.length_cons, List.length_take, List.length_drop, HNE.out, Nat.min_eq_left hkl]; omega)
      clear hL9
      have HIF := Lib.hid (show ((entsF s.f ks).take i ++ M :: (entsF s.f ks).drop i).flatMap Ent.L = ((entsF s.f ks).take i).flatMap Ent.L ++ Ent.L M ++ ((entsF s.f ks).drop i).flatMap Ent.L by rw [List.flatMap_append, List.flatMap_cons, List.append_assoc])
      refine wp_region_tail 24 1 (S := fun X => Below w6.heap.size w6 X) (by kernel_rfl) (by rfl) (by decide) (by kernel_rfl) (by kernel_rfl) ((Below.refl _ _).drew) (fun hS0 => ?_)
      refine wpAnyT_take (i := 0) (v := .pointer (some ⟨d, 0, none⟩)) rfl (by kernel_rfl) (by kernel_rfl) (by kernel_rfl) (by decide) (fun _ _ _ h => h) (Yields.yieldsIf (Or.inl ⟨by rfl, fun w9 => by (go_simp; first | done | with_reducible rfl | (intro h9; exfalso; omega))⟩)) hS0 ?_
      change wpAnyT _ _ _ _ _ _ _ _ _ (Act.put _ (some 75) _) _; dsimp only [Act.put]; simp only [List.setIfInBounds_toArray, List.set_cons_succ, List.set_cons_zero]
      refine wpAnyT_take (i := 1) (v := .pointer (some ⟨d, 0, none⟩)) rfl (by kernel_rfl) (by kernel_rfl) (by kernel_rfl) (by decide) (fun _ _ _ h => h) (Yields.yieldsIf (Or.inl ⟨by rfl, fun w9 => by (go_simp; first | done | with_reducible rfl | (intro h9; exfalso; omega))⟩)) hS0 ?_
      change wpAnyT _ _ _ _ _ _ _ _ _ (Act.put _ (some 76) _) _; dsimp only [Act.put]; simp only [List.setIfInBounds_toArray, List.set_cons_succ, List.set_cons_zero]
      refine wpAnyT_take (i := 2) (v := .pointer (some ⟨d, 0, none⟩)) rfl (by kernel_rfl) (by kernel_rfl) (by kernel_rfl) (by decide) (fun _ _ _ h => h) (Yields.yieldsIf (Or.inl ⟨by rfl, fun w9 => by (go_simp; first | done | with_reducible rfl | (intro h9; exfalso; omega))⟩)) hS0 ?_
      change wpAnyT _ _ _ _ _ _ _ _ _ (Act.put _ (some 77) _) _; dsimp only [Act.put]; simp only [List.setIfInBounds_toArray, List.set_cons_succ, List.set_cons_zero]
      refine wpAnyT_take (i := 3) (v := .pointer (some ⟨d, 1, none⟩)) rfl (by kernel_rfl) (by kernel_rfl) (by kernel_rfl) (by decide) (fun _ _ _ h => h) (Yields.yieldsIf (Or.inl ⟨by rfl, fun w9 => by (go_simp; first | done | with_reducible rfl | (intro h9; exfalso; omega))⟩)) hS0 ?_
      change wpAnyT _ _ _ _ _ _ _ _ _ (Act.put _ (some 78) _) _; dsimp only [Act.put]; simp only [List.setIfInBounds_toArray, List.set_cons_succ, List.set_cons_zero]
      refine wpAnyT_take (i := 4) (v := .slice ae n ce) rfl (by kernel_rfl) (by kernel_rfl) (by kernel_rfl) (by decide) (fun _ _ _ h => h) (Or.inl ⟨by rfl, fun w9 hS9 => by have hc9 := (hS9.cell hdl).trans hdc; go_simp; try with_reducible rfl⟩) hS0 ?_
      change wpAnyT _ _ _ _ _ _ _ _ _ (Act.put _ (some 79) _) _; dsimp only [Act.put]; simp only [List.setIfInBounds_toArray, List.set_cons_succ, List.set_cons_zero]
      refine wpAnyT_take (i := 5) (v := .int .i64 (i : Int)) rfl (by kernel_rfl) (by kernel_rfl) (by kernel_rfl) (by decide) (fun _ _ _ h => h) (Yields.yieldsIf (Or.inl ⟨by rfl, fun w9 => by (go_simp; first | done | with_reducible rfl | (intro h9; exfalso; omega))⟩)) hS0 ?_
      change wpAnyT _ _ _ _ _ _ _ _ _ (Act.put _ (some 80) _) _; dsimp only [Act.put]; simp only [List.setIfInBounds_toArray, List.set_cons_succ, List.set_cons_zero]
      refine wpAnyT_take (i := 6) (v := .slice ae i ce) rfl (by kernel_rfl) (by kernel_rfl) (by kernel_rfl) (by decide) (fun _ _ _ h => h) (Or.inl ⟨by rfl, fun w9 hS9 => exec_toEn 79 80 rfl (by first | rfl | simp [Act.eval, Act.put]) (by first | rfl | simp [Act.eval, Act.put]) hkl hce1 hnen hfe⟩) hS0 ?_
      change wpAnyT _ _ _ _ _ _ _ _ _ (Act.put _ (some 81) _) _; dsimp only [Act.put]; simp only [List.setIfInBounds_toArray, List.set_cons_succ, List.set_cons_zero]
      refine wpAnyT_take (i := 8) (v := .pointer (some ⟨w.heap.size, 1, none⟩)) rfl (by kernel_rfl) (by kernel_rfl) (by kernel_rfl) (by decide) (fun _ _ _ h => h) (Yields.yieldsIf (Or.inl ⟨by rfl, fun w9 => by (go_simp; first | done | with_reducible rfl | (intro h9; exfalso; omega))⟩)) hS0 ?_
      change wpAnyT _ _ _ _ _ _ _ _ _ (Act.put _ (some 83) _) _; dsimp only [Act.put]; simp only [List.setIfInBounds_toArray, List.set_cons_succ, List.set_cons_zero]
      refine wpAnyT_take (i := 9) (v := .agg (pkV e).row) rfl (by kernel_rfl) (by kernel_rfl) (by kernel_rfl) (by decide) (fun _ _ _ h => h) (Or.inl ⟨by rfl, fun w9 hS9 => exec_loadPkV (.tmp 83) rfl w.heap.size 1 (by first | rfl | simp [Act.eval, Act.put]) e (range_belowS (evpk_range hqW) hS9 (row_lt hqW))⟩) hS0 ?_
      change wpAnyT _ _ _ _ _ _ _ _ _ (Act.put _ (some 84) _) _; dsimp only [Act.put]; simp only [List.setIfInBounds_toArray, List.set_cons_succ, List.set_cons_zero]
      refine wpAnyT_take (i := 10) (v := .agg (entP zeroEnt e).row) rfl (by kernel_rfl) (by kernel_rfl) (by kernel_rfl) (by decide) (fun _ _ _ h => h) (Or.inl ⟨by rfl, fun w9 hS9 => exec_buildEn 84 rfl e (by first | rfl | simp [Act.eval, Act.put])⟩) hS0 ?_
      change wpAnyT _ _ _ _ _ _ _ _ _ (Act.put _ (some 85) _) _; dsimp only [Act.put]; simp only [List.setIfInBounds_toArray, List.set_cons_succ, List.set_cons_zero]
      refine wpAnyT_take (i := 11) (v := .agg e.row) rfl (by kernel_rfl) (by kernel_rfl) (by kernel_rfl) (by decide) (fun _ _ _ h => h) (Or.inl ⟨by rfl, fun w9 hS9 => exec_loadEvR (.tmp 3) rfl w.heap.size 0 (by first | rfl | simp [Act.eval, Act.put]) e (range_belowS (evr_range hqW) hS9 (row_lt hqW))⟩) hS0 ?_
      change wpAnyT _ _ _ _ _ _ _ _ _ (Act.put _ (some 86) _) _; dsimp only [Act.put]; simp only [List.setIfInBounds_toArray, List.set_cons_succ, List.set_cons_zero]
      refine wpAnyT_take (i := 15) (v := .pointer (some ⟨d, 0, none⟩)) rfl (by kernel_rfl) (by kernel_rfl) (by kernel_rfl) (by decide) (fun _ _ _ h => h) (Yields.yieldsIf (Or.inl ⟨by rfl, fun w9 => by (go_simp; first | done | with_reducible rfl | (intro h9; exfalso; omega))⟩)) hS0 ?_
      change wpAnyT _ _ _ _ _ _ _ _ _ (Act.put _ (some 90) _) _; dsimp only [Act.put]; simp only [List.setIfInBounds_toArray, List.set_cons_succ, List.set_cons_zero]
      refine wpAnyT_take (i := 16) (v := .pointer (some ⟨d, 0, none⟩)) rfl (by kernel_rfl) (by kernel_rfl) (by kernel_rfl) (by decide) (fun _ _ _ h => h) (Yields.yieldsIf (Or.inl ⟨by rfl, fun w9 => by (go_simp; first | done | with_reducible rfl | (intro h9; exfalso; omega))⟩)) hS0 ?_
      change wpAnyT _ _ _ _ _ _ _ _ _ (Act.put _ (some 91) _) _; dsimp only [Act.put]; simp only [List.setIfInBounds_toArray, List.set_cons_succ, List.set_cons_zero]
      refine wpAnyT_take (i := 17) (v := .pointer (some ⟨d, 1, none⟩)) rfl (by kernel_rfl) (by kernel_rfl) (by kernel_rfl) (by decide) (fun _ _ _ h => h) (Yields.yieldsIf (Or.inl ⟨by rfl, fun w9 => by (go_simp; first | done | with_reducible rfl | (intro h9; exfalso; omega))⟩)) hS0 ?_
      change wpAnyT _ _ _ _ _ _ _ _ _ (Act.put _ (some 92) _) _; dsimp only [Act.put]; simp only [List.setIfInBounds_toArray, List.set_cons_succ, List.set_cons_zero]
      refine wpAnyT_take (i := 18) (v := .slice ae n ce) rfl (by kernel_rfl) (by kernel_rfl) (by kernel_rfl) (by decide) (fun _ _ _ h => h) (Or.inl ⟨by rfl, fun w9 hS9 => by have hc9 := (hS9.cell hdl).trans hdc; go_simp; try with_reducible rfl⟩) hS0 ?_
      change wpAnyT _ _ _ _ _ _ _ _ _ (Act.put _ (some 93) _) _; dsimp only [Act.put]; simp only [List.setIfInBounds_toArray, List.set_cons_succ, List.set_cons_zero]
      refine wpAnyT_take (i := 19) (v := .int .i64 (i : Int)) rfl (by kernel_rfl) (by kernel_rfl) (by kernel_rfl) (by decide) (fun _ _ _ h => h) (Yields.yieldsIf (Or.inl ⟨by rfl, fun w9 => by (go_simp; first | done | with_reducible rfl | (intro h9; exfalso; omega))⟩)) hS0 ?_
      change wpAnyT _ _ _ _ _ _ _ _ _ (Act.put _ (some 94) _) _; dsimp only [Act.put]; simp only [List.setIfInBounds_toArray, List.set_cons_succ, List.set_cons_zero]
      refine wpAnyT_take (i := 20) (v := .slice (cutA ae ce i 14) (n - i) (ce - i)) rfl (by kernel_rfl) (by kernel_rfl) (by kernel_rfl) (by decide) (fun _ _ _ h => h) (Or.inl ⟨by rfl, fun w9 hS9 => exec_fromEn 93 94 rfl (by first | rfl | simp [Act.eval, Act.put]) (by first | rfl | simp [Act.eval, Act.put]) hkl hce1 hnen hfe⟩) hS0 ?_
      change wpAnyT _ _ _ _ _ _ _ _ _ (Act.put _ (some 95) _) _; dsimp only [Act.put]; simp only [List.setIfInBounds_toArray, List.set_cons_succ, List.set_cons_zero]
      refine wpAnyT_ready (rs := [7]) (by kernel_rfl) (by simp) (by rfl) ?_
      refine (AllReadyT.cons rfl (fun K hK => ?_) AllReadyT.nil)
      refine step_append_ownA rfl (.const (.slice none 0 0)) (.tmp 81) 68 rfl w6.heap.size 82 i0 (.agg zeroEnt.row) 14 112 Try.underlying68 hi0 hz0 hzs hzb rfl (by decide) (.slice none 0 0) (0) ([]) (by first | rfl | simp [Act.eval, Act.put]) (World.ownsRow_nil _ _ _ _) (ae) (i) (ce) (((entsF s.f ks).take i).flatMap Ent.L) (by first | rfl | simp [Act.eval, Act.put]) (fun h => by have := hnen h; omega) HTL.out (take_newsD Ent.L_len14 (hrW.below hS0) i) (by first | exact flat_oneD Ent.L_one _ | exact Ent.L_one _) (by unfold maxLen; omega) (by omega) hS0.size ?_
      intro v1 w1x hown1 hgr1
      simp only [Nat.zero_add, List.nil_append] at hown1
      have hT1 := hS0.trans ((grown_lowM hgr1 (fun k h => by cases h) (Nat.le_refl _)).mono hS0.size)
      refine (Shut.out hK) _ _ hT1 (fun _ => ?_)
      clear hK K
      change wpAnyT _ _ _ _ _ _ _ _ _ (Act.put _ (some 82) _) _; dsimp only [Act.put]; simp only [List.setIfInBounds_toArray, List.set_cons_succ, List.set_cons_zero]
      refine wpAnyT_ready (rs := [12]) (by kernel_rfl) (by simp) (by rfl) ?_
      refine (AllReadyT.cons rfl (fun K hK => ?_) AllReadyT.nil)
      go_simp
      refine (CMK _).mono ?_
      rintro e9 wM ⟨rfl, hbm⟩
      have hT2 := hT1.trans (hbm.mono hT1.size)
      refine (Shut.out hK) _ _ hT2 (fun _ => ?_)
      clear hK K
      have hown1 := own_kept9 hown1 hbm
      refine wpAnyT_ready (rs := [13]) (by kernel_rfl) (by simp) (by rfl) ?_
      refine (AllReadyT.cons rfl (fun K hK => ?_) AllReadyT.nil)
      refine step_oneEn rfl (.tmp 87) rfl M (by first | rfl | simp [Act.eval, Act.put]) ?_
      have hT3x := hT2.alloc hT2.size (.cells M.row 82)
      have hown1 := hown1.alloc (.cells M.row 82)
      have hN := heap_push wM M.row 82
      refine (Shut.out hK) _ _ hT3x (fun _ => ?_)
      clear hK K
      change wpAnyT _ _ _ _ _ _ _ _ _ (Act.put _ (some 88) _) _; dsimp only [Act.put]; simp only [List.setIfInBounds_toArray, List.set_cons_succ, List.set_cons_zero]
      generalize hg9 : wM.alloc (.cells M.row 82) = wN at hT3x hown1 hN ⊢
      clear hg9
      generalize wM.heap.size = g1 at hN ⊢
      refine wpAnyT_ready (rs := [14]) (by kernel_rfl) (by simp) (by rfl) ?_
      refine (AllReadyT.cons rfl (fun K hK => ?_) AllReadyT.nil)
      refine step_append_ownA rfl (.tmp 82) (.tmp 88) 68 rfl w6.heap.size 82 i0 (.agg zeroEnt.row) 14 112 Try.underlying68 hi0 hz0 hzs hzb rfl (by decide) (v1) (i) (((entsF s.f ks).take i).flatMap Ent.L) (by first | rfl | simp [Act.eval, Act.put]) hown1 (some ⟨g1, 0, none⟩) (1) (1) (Ent.L M) (by first | rfl | simp [Act.eval, Act.put]) (fun h => by cases h) (by rfl) (some_funD (row_newD hN rfl)) (by first | exact flat_oneD Ent.L_one _ | exact Ent.L_one _) (by unfold maxLen; omega) (by omega) hT3x.size ?_
      intro v2 w2x hown2 hgr2
      have hT3 := hT3x.trans (below_grown hown1 hgr2 hT3x.size)
      refine (Shut.out hK) _ _ hT3 (fun _ => ?_)
      clear hK K
      change wpAnyT _ _ _ _ _ _ _ _ _ (Act.put _ (some 89) _) _; dsimp only [Act.put]; simp only [List.setIfInBounds_toArray, List.set_cons_succ, List.set_cons_zero]
      refine wpAnyT_ready (rs := [21]) (by kernel_rfl) (by simp) (by rfl) ?_
      refine (AllReadyT.cons rfl (fun K hK => ?_) AllReadyT.nil)
      refine step_append_ownA rfl (.tmp 89) (.tmp 95) 68 rfl w6.heap.size 82 i0 (.agg zeroEnt.row) 14 112 Try.underlying68 hi0 hz0 hzs hzb rfl (by decide) (v2) (i + 1) (((entsF s.f ks).take i).flatMap Ent.L ++ Ent.L M) (by first | rfl | simp [Act.eval, Act.put]) hown2 (cutA ae ce i 14) (n - i) (ce - i) (((entsF s.f ks).drop i).flatMap Ent.L) (by first | rfl | simp [Act.eval, Act.put]) (cutA_none hnen) HDL.out (cut_newsD Ent.L_len14 (hrW.below hT3) HNE.out hce1 hfe) (by first | exact flat_oneD Ent.L_one _ | exact Ent.L_one _) (by unfold maxLen; omega) (by omega) hT3.size ?_
      intro v3 w3x hown3 hgr3
      rw [HL9.out] at hown3
      obtain ⟨a9, c9, rfl, _⟩ := own_sliceN hown3
      have hT4 := hT3.trans (below_grown hown2 hgr3 hT3.size)
      refine (Shut.out hK) _ _ hT4 (fun _ => ?_)
      clear hK K
      change wpAnyT _ _ _ _ _ _ _ _ _ (Act.put _ (some 96) _) _; dsimp only [Act.put]; simp only [List.setIfInBounds_toArray, List.set_cons_succ, List.set_cons_zero]
      refine wpAnyT_take (i := 22) (v := .pointer (some ⟨d, 0, none⟩)) rfl (by kernel_rfl) (by kernel_rfl) (by kernel_rfl) (by decide) (fun _ _ _ h => h) (Yields.yieldsIf (Or.inl ⟨by rfl, fun w9 => by (go_simp; first | done | with_reducible rfl | (intro h9; exfalso; omega))⟩)) hT4 ?_
      change wpAnyT _ _ _ _ _ _ _ _ _ (Act.put _ (some 97) _) _; dsimp only [Act.put]; simp only [List.setIfInBounds_toArray, List.set_cons_succ, List.set_cons_zero]
      refine wpAnyT_take (i := 23) (v := .pointer (some ⟨d, 1, none⟩)) rfl (by kernel_rfl) (by kernel_rfl) (by kernel_rfl) (by decide) (fun _ _ _ h => h) (Yields.yieldsIf (Or.inl ⟨by rfl, fun w9 => by (go_simp; first | done | with_reducible rfl | (intro h9; exfalso; omega))⟩)) hT4 ?_
      change wpAnyT _ _ _ _ _ _ _ _ _ (Act.put _ (some 98) _) _; dsimp only [Act.put]; simp only [List.setIfInBounds_toArray, List.set_cons_succ, List.set_cons_zero]
      refine wpAnyT_tail (by kernel_rfl) ?_
      refine wpAny_ready (rs := [24]) (by kernel_rfl) (by simp) ?_
      refine AllReady.cons rfl (fun K hK => ?_) AllReady.nil
      have hc9 := (hT4.cell hdl).trans hdc
      have hf9 := frozen_heap (cells_of hd6 hT4 hdl) 1
      go_simp
      refine hK _ _ ?_
      clear hK K
      try dsimp only [Act.put]
      refine wpAny_done (by kernel_rfl) ?_ _
      have hown3 := hown3
      have hn0 : n ≤ 1000 := hm
      have hbA := hT4
      have h9 := own_lowerM hown3 (Nat.le_trans hB hB6)
      go_wp2
      go_ret
      rw [← HIF.out] at h9
      have hD8 := (hD6.kept hbA).setE h9 HIL.out
      refine ⟨by rw [HA.out]; first | done | rfl, ⟨_, HKN.out, ?_, by rw [HEF.out]; exact hD8⟩, ?_⟩
      · rw [List.length_append, List.length_cons, List.length_take, List.length_drop]; omega
      · exact ⟨d, _, _, hD.1, HD0.out, by decide, grown_trD hg6 (grown_trD (grown_one hbA d) (grown_put _ _ _ _))⟩
    · refine step_oneLk rfl (.tmp 63) rfl (⟨P, C, true, S⟩ : Lk) (by first | rfl | simp [Act.eval, Act.put]) ?_
      have hT1 := hS0.alloc hS0.size (.cells (⟨P, C, true, S⟩ : Lk).row 81)
      have hN := heap_push w5.drew (⟨P, C, true, S⟩ : Lk).row 81
      refine (Shut.out hK) _ _ hT1 (fun _ => ?_)
      clear hK K
      change wpAnyT _ _ _ _ _ _ _ _ _ (Act.put _ (some 64) _) _; dsimp only [Act.put]; simp only [List.setIfInBounds_toArray, List.set_cons_succ, List.set_cons_zero]
      refine wpAnyT_ready (rs := [7]) (by kernel_rfl) (by simp) (by rfl) ?_
      refine (AllReadyT.cons rfl (fun K hK => ?_) AllReadyT.nil)
      refine step_append_ownA rfl (.const (.slice none 0 0)) (.tmp 61) 67 rfl w5.heap.size 81 i0 (.agg #[.string ⟨#[]⟩, .int .i64 0, .bool false, .int .i64 0]) 4 40 Try.underlying67 hi0 hz0 hzs hzb rfl (by decide) (.slice none 0 0) (0) ([]) (by first | rfl | simp [Act.eval, Act.put]) (World.ownsRow_nil _ _ _ _) (ak) (i) (ck) ((ks.take i).flatMap Lk.L) (by first | rfl | simp [Act.eval, Act.put]) (fun h => by have := hnk h; omega) HTL.out (take_newsD Lk.L_len4 (hrW.below hT1) i) (by first | exact flat_oneD Lk.L_one _ | exact Lk.L_one _) (by unfold maxLen; omega) (by omega) hT1.size ?_
      intro v1 wN hown1 hgr1
      simp only [Nat.zero_add, List.nil_append] at hown1
      have hT2 := hT1.trans ((grown_lowM hgr1 (fun k h => by cases h) (Nat.le_refl _)).mono hT1.size)
      have hN := grown_at hgr1 hN (fun q => by cases q)
      refine (Shut.out hK) _ _ hT2 (fun _ => ?_)
      clear hK K
      change wpAnyT _ _ _ _ _ _ _ _ _ (Act.put _ (some 62) _) _; dsimp only [Act.put]; simp only [List.setIfInBounds_toArray, List.set_cons_succ, List.set_cons_zero]
      generalize w5.drew.heap.size = g1 at hN ⊢
      refine wpAnyT_ready (rs := [10]) (by kernel_rfl) (by simp) (by rfl) ?_
      refine (AllReadyT.cons rfl (fun K hK => ?_) AllReadyT.nil)
      refine step_append_ownA rfl (.tmp 62) (.tmp 64) 67 rfl w5.heap.size 81 i0 (.agg #[.string ⟨#[]⟩, .int .i64 0, .bool false, .int .i64 0]) 4 40 Try.underlying67 hi0 hz0 hzs hzb rfl (by decide) (v1) (i) ((ks.take i).flatMap Lk.L) (by first | rfl | simp [Act.eval, Act.put]) hown1 (some ⟨g1, 0, none⟩) (1) (1) (Lk.L (⟨P, C, true, S⟩ : Lk)) (by first | rfl | simp [Act.eval, Act.put]) (fun h => by cases h) (by rfl) (some_funD (row_newD hN rfl)) (by first | exact flat_oneD Lk.L_one _ | exact Lk.L_one _) (by unfold maxLen; omega) (by omega) hT2.size ?_
      intro v2 w2x hown2 hgr2
      have hT3 := hT2.trans (below_grown hown1 hgr2 hT2.size)
      refine (Shut.out hK) _ _ hT3 (fun _ => ?_)
      clear hK K
      change wpAnyT _ _ _ _ _ _ _ _ _ (Act.put _ (some 65) _) _; dsimp only [Act.put]; simp only [List.setIfInBounds_toArray, List.set_cons_succ, List.set_cons_zero]
      refine wpAnyT_ready (rs := [17]) (by kernel_rfl) (by simp) (by rfl) ?_
      refine (AllReadyT.cons rfl (fun K hK => ?_) AllReadyT.nil)
      refine step_append_ownA rfl (.tmp 65) (.tmp 71) 67 rfl w5.heap.size 81 i0 (.agg #[.string ⟨#[]⟩, .int .i64 0, .bool false, .int .i64 0]) 4 40 Try.underlying67 hi0 hz0 hzs hzb rfl (by decide) (v2) (i + 1) ((ks.take i).flatMap Lk.L ++ Lk.L (⟨P, C, true, S⟩ : Lk)) (by first | rfl | simp [Act.eval, Act.put]) hown2 (cutA ak ck i 4) (n - i) (ck - i) ((ks.drop i).flatMap Lk.L) (by first | rfl | simp [Act.eval, Act.put]) (cutA_none hnk) HDL.out (cut_newsD Lk.L_len4 (hrW.below hT3) HN.out hck1 hfk) (by first | exact flat_oneD Lk.L_one _ | exact Lk.L_one _) (by unfold maxLen; omega) (by omega) hT3.size ?_
      intro v3 w3x hown3 hgr3
      rw [HL9.out] at hown3
      obtain ⟨a9, c9, rfl, _⟩ := own_sliceN hown3
      have hT4 := hT3.trans (below_grown hown2 hgr3 hT3.size)
      refine (Shut.out hK) _ _ hT4 (fun _ => ?_)
      clear hK K
      change wpAnyT _ _ _ _ _ _ _ _ _ (Act.put _ (some 72) _) _; dsimp only [Act.put]; simp only [List.setIfInBounds_toArray, List.set_cons_succ, List.set_cons_zero]
      refine wpAnyT_take (i := 18) (v := .pointer (some ⟨d, 0, none⟩)) rfl (by kernel_rfl) (by kernel_rfl) (by kernel_rfl) (by decide) (fun _ _ _ h => h) (Yields.yieldsIf (Or.inl ⟨by rfl, fun w9 => by (go_simp; first | done | with_reducible rfl | (intro h9; exfalso; omega))⟩)) hT4 ?_
      change wpAnyT _ _ _ _ _ _ _ _ _ (Act.put _ (some 73) _) _; dsimp only [Act.put]; simp only [List.setIfInBounds_toArray, List.set_cons_succ, List.set_cons_zero]
      refine wpAnyT_take (i := 19) (v := .pointer (some ⟨d, 0, none⟩)) rfl (by kernel_rfl) (by kernel_rfl) (by kernel_rfl) (by decide) (fun _ _ _ h => h) (Yields.yieldsIf (Or.inl ⟨by rfl, fun w9 => by (go_simp; first | done | with_reducible rfl | (intro h9; exfalso; omega))⟩)) hT4 ?_
      change wpAnyT _ _ _ _ _ _ _ _ _ (Act.put _ (some 74) _) _; dsimp only [Act.put]; simp only [List.setIfInBounds_toArray, List.set_cons_succ, List.set_cons_zero]
      refine wpAnyT_tail (by kernel_rfl) ?_
      refine wpAny_ready (rs := [20]) (by kernel_rfl) (by simp) ?_
      refine AllReady.cons rfl (fun K hK => ?_) AllReady.nil
      have hc9 := (hT4.cell hdl).trans hdc
      have hf9 := frozen_heap (cells_of hd5 hT4 hdl) 0
      go_simp
      refine hK _ _ ?_
      clear hK K
      try dsimp only [Act.put]
      refine wpAny_done (by kernel_rfl) ?_ _
      have hown3 := hown3
      have h9 := own_lowerM hown3 (Nat.le_trans hB hB5)
      rw [← HIF.out] at h9
      have hD6 := (hD5.kept hT4).setK h9 HIL.out
      have hg6 := grown_trD (grown_one (hb54.trans (hT4.mono hb54.size)) d) (grown_put w3x d 0 (.slice a9 L9 c9))
      have hd6 := cells_put (cells_of hd5 hT4 hdl) (j := 0) (.slice a9 L9 c9)
      have hq6 := grown_at (grown_put w3x d 0 (.slice a9 L9 c9)) (cells_of hq5 hT4 (row_lt hq5)) (fun q => by have := Option.some.inj q; have := row_lt HD0.out; omega)
      have hre6 := row_grownD (hre.below hT4) (grown_put w3x d 0 (.slice a9 L9 c9)) hfeN
      have hB6 : w.heap.size ≤ (w3x.setCell ⟨d, 0, none⟩ (.slice a9 L9 c9)).heap.size := hg6.size
      clear hown1 hown2 hown3 hgr1 hgr2 hgr3 hT1 hT2 hT3 hT4 hS0 hN hdl hdc hrW HTL HDL HIL HIF h9 hc9 hf9 hD5 hi0 hz0 hzs hzb i0
      generalize w3x.setCell ⟨d, 0, none⟩ (.slice a9 L9 c9) = w6 at hD6 hg6 hd6 hq6 hre6 hB6 ⊢
      have hqW := hq6
      simp only [List.setIfInBounds_toArray, List.set_cons_zero, List.set_cons_succ] at hd6
      have hre := hre6
      go_upto_region 12 with fail
      obtain ⟨i0, hi0, hz0, hzs, hzb⟩ := info_parts Try.infoEn3
      have hdl := row_lt hd6
      have hdc : w6.cell? ⟨d, 1, none⟩ = some (.slice ae n ce) := cell_heap hd6 1
      have hrW := hre
      have HTL := Lib.hid (show (((entsF s.f ks).take i).flatMap Ent.L).length = i * 14 by rw [flat_length Ent.L 14 Ent.L_len14, List.length_take, HNE.out, Nat.min_eq_left hkl])
      have HDL := Lib.hid (show (((entsF s.f ks).drop i).flatMap Ent.L).length = (n - i) * 14 by rw [flat_length Ent.L 14 Ent.L_len14, List.length_drop, HNE.out])
      obtain ⟨L9, hL9⟩ : ∃ m : Nat, i + 1 + (n - i) = m := ⟨_, rfl⟩
      have HL9 := Lib.hid hL9
      have HIL := Lib.hid (show ((entsF s.f ks).take i ++ M :: (entsF s.f ks).drop i).length = L9 by rw [← hL9]; rw [List.length_append, List.length_cons, List.length_take, List.length_drop, HNE.out, Nat.min_eq_left hkl]; omega)
      clear hL9
      have HIF := Lib.hid (show ((entsF s.f ks).take i ++ M :: (entsF s.f ks).drop i).flatMap Ent.L = ((entsF s.f ks).take i).flatMap Ent.L ++ Ent.L M ++ ((entsF s.f ks).drop i).flatMap Ent.L by rw [List.flatMap_append, List.flatMap_cons, List.append_assoc])
      refine wp_region_tail 24 1 (S := fun X => Below w6.heap.size w6 X) (by kernel_rfl) (by rfl) (by decide) (by kernel_rfl) (by kernel_rfl) ((Below.refl _ _).drew) (fun hS0 => ?_)
      refine wpAnyT_take (i := 0) (v := .pointer (some ⟨d, 0, none⟩)) rfl (by kernel_rfl) (by kernel_rfl) (by kernel_rfl) (by decide) (fun _ _ _ h => h) (Yields.yieldsIf (Or.inl ⟨by rfl, fun w9 => by (go_simp; first | done | with_reducible rfl | (intro h9; exfalso; omega))⟩)) hS0 ?_
      change wpAnyT _ _ _ _ _ _ _ _ _ (Act.put _ (some 75) _) _; dsimp only [Act.put]; simp only [List.setIfInBounds_toArray, List.set_cons_succ, List.set_cons_zero]
      refine wpAnyT_take (i := 1) (v := .pointer (some ⟨d, 0, none⟩)) rfl (by kernel_rfl) (by kernel_rfl) (by kernel_rfl) (by decide) (fun _ _ _ h => h) (Yields.yieldsIf (Or.inl ⟨by rfl, fun w9 => by (go_simp; first | done | with_reducible rfl | (intro h9; exfalso; omega))⟩)) hS0 ?_
      change wpAnyT _ _ _ _ _ _ _ _ _ (Act.put _ (some 76) _) _; dsimp only [Act.put]; simp only [List.setIfInBounds_toArray, List.set_cons_succ, List.set_cons_zero]
      refine wpAnyT_take (i := 2) (v := .pointer (some ⟨d, 0, none⟩)) rfl (by kernel_rfl) (by kernel_rfl) (by kernel_rfl) (by decide) (fun _ _ _ h => h) (Yields.yieldsIf (Or.inl ⟨by rfl, fun w9 => by (go_simp; first | done | with_reducible rfl | (intro h9; exfalso; omega))⟩)) hS0 ?_
      change wpAnyT _ _ _ _ _ _ _ _ _ (Act.put _ (some 77) _) _; dsimp only [Act.put]; simp only [List.setIfInBounds_toArray, List.set_cons_succ, List.set_cons_zero]
      refine wpAnyT_take (i := 3) (v := .pointer (some ⟨d, 1, none⟩)) rfl (by kernel_rfl) (by kernel_rfl) (by kernel_rfl) (by decide) (fun _ _ _ h => h) (Yields.yieldsIf (Or.inl ⟨by rfl, fun w9 => by (go_simp; first | done | with_reducible rfl | (intro h9; exfalso; omega))⟩)) hS0 ?_
      change wpAnyT _ _ _ _ _ _ _ _ _ (Act.put _ (some 78) _) _; dsimp only [Act.put]; simp only [List.setIfInBounds_toArray, List.set_cons_succ, List.set_cons_zero]
      refine wpAnyT_take (i := 4) (v := .slice ae n ce) rfl (by kernel_rfl) (by kernel_rfl) (by kernel_rfl) (by decide) (fun _ _ _ h => h) (Or.inl ⟨by rfl, fun w9 hS9 => by have hc9 := (hS9.cell hdl).trans hdc; go_simp; try with_reducible rfl⟩) hS0 ?_
      change wpAnyT _ _ _ _ _ _ _ _ _ (Act.put _ (some 79) _) _; dsimp only [Act.put]; simp only [List.setIfInBounds_toArray, List.set_cons_succ, List.set_cons_zero]
      refine wpAnyT_take (i := 5) (v := .int .i64 (i : Int)) rfl (by kernel_rfl) (by kernel_rfl) (by kernel_rfl) (by decide) (fun _ _ _ h => h) (Yields.yieldsIf (Or.inl ⟨by rfl, fun w9 => by (go_simp; first | done | with_reducible rfl | (intro h9; exfalso; omega))⟩)) hS0 ?_
      change wpAnyT _ _ _ _ _ _ _ _ _ (Act.put _ (some 80) _) _; dsimp only [Act.put]; simp only [List.setIfInBounds_toArray, List.set_cons_succ, List.set_cons_zero]
      refine wpAnyT_take (i := 6) (v := .slice ae i ce) rfl (by kernel_rfl) (by kernel_rfl) (by kernel_rfl) (by decide) (fun _ _ _ h => h) (Or.inl ⟨by rfl, fun w9 hS9 => exec_toEn 79 80 rfl (by first | rfl | simp [Act.eval, Act.put]) (by first | rfl | simp [Act.eval, Act.put]) hkl hce1 hnen hfe⟩) hS0 ?_
      change wpAnyT _ _ _ _ _ _ _ _ _ (Act.put _ (some 81) _) _; dsimp only [Act.put]; simp only [List.setIfInBounds_toArray, List.set_cons_succ, List.set_cons_zero]
      refine wpAnyT_take (i := 8) (v := .pointer (some ⟨w.heap.size, 1, none⟩)) rfl (by kernel_rfl) (by kernel_rfl) (by kernel_rfl) (by decide) (fun _ _ _ h => h) (Yields.yieldsIf (Or.inl ⟨by rfl, fun w9 => by (go_simp; first | done | with_reducible rfl | (intro h9; exfalso; omega))⟩)) hS0 ?_
      change wpAnyT _ _ _ _ _ _ _ _ _ (Act.put _ (some 83) _) _; dsimp only [Act.put]; simp only [List.setIfInBounds_toArray, List.set_cons_succ, List.set_cons_zero]
      refine wpAnyT_take (i := 9) (v := .agg (pkV e).row) rfl (by kernel_rfl) (by kernel_rfl) (by kernel_rfl) (by decide) (fun _ _ _ h => h) (Or.inl ⟨by rfl, fun w9 hS9 => exec_loadPkV (.tmp 83) rfl w.heap.size 1 (by first | rfl | simp [Act.eval, Act.put]) e (range_belowS (evpk_range hqW) hS9 (row_lt hqW))⟩) hS0 ?_
      change wpAnyT _ _ _ _ _ _ _ _ _ (Act.put _ (some 84) _) _; dsimp only [Act.put]; simp only [List.setIfInBounds_toArray, List.set_cons_succ, List.set_cons_zero]
      refine wpAnyT_take (i := 10) (v := .agg (entP zeroEnt e).row) rfl (by kernel_rfl) (by kernel_rfl) (by kernel_rfl) (by decide) (fun _ _ _ h => h) (Or.inl ⟨by rfl, fun w9 hS9 => exec_buildEn 84 rfl e (by first | rfl | simp [Act.eval, Act.put])⟩) hS0 ?_
      change wpAnyT _ _ _ _ _ _ _ _ _ (Act.put _ (some 85) _) _; dsimp only [Act.put]; simp only [List.setIfInBounds_toArray, List.set_cons_succ, List.set_cons_zero]
      refine wpAnyT_take (i := 11) (v := .agg e.row) rfl (by kernel_rfl) (by kernel_rfl) (by kernel_rfl) (by decide) (fun _ _ _ h => h) (Or.inl ⟨by rfl, fun w9 hS9 => exec_loadEvR (.tmp 3) rfl w.heap.size 0 (by first | rfl | simp [Act.eval, Act.put]) e (range_belowS (evr_range hqW) hS9 (row_lt hqW))⟩) hS0 ?_
      change wpAnyT _ _ _ _ _ _ _ _ _ (Act.put _ (some 86) _) _; dsimp only [Act.put]; simp only [List.setIfInBounds_toArray, List.set_cons_succ, List.set_cons_zero]
      refine wpAnyT_take (i := 15) (v := .pointer (some ⟨d, 0, none⟩)) rfl (by kernel_rfl) (by kernel_rfl) (by kernel_rfl) (by decide) (fun _ _ _ h => h) (Yields.yieldsIf (Or.inl ⟨by rfl, fun w9 => by (go_simp; first | done | with_reducible rfl | (intro h9; exfalso; omega))⟩)) hS0 ?_
      change wpAnyT _ _ _ _ _ _ _ _ _ (Act.put _ (some 90) _) _; dsimp only [Act.put]; simp only [List.setIfInBounds_toArray, List.set_cons_succ, List.set_cons_zero]
      refine wpAnyT_take (i := 16) (v := .pointer (some ⟨d, 0, none⟩)) rfl (by kernel_rfl) (by kernel_rfl) (by kernel_rfl) (by decide) (fun _ _ _ h => h) (Yields.yieldsIf (Or.inl ⟨by rfl, fun w9 => by (go_simp; first | done | with_reducible rfl | (intro h9; exfalso; omega))⟩)) hS0 ?_
      change wpAnyT _ _ _ _ _ _ _ _ _ (Act.put _ (some 91) _) _; dsimp only [Act.put]; simp only [List.setIfInBounds_toArray, List.set_cons_succ, List.set_cons_zero]
      refine wpAnyT_take (i := 17) (v := .pointer (some ⟨d, 1, none⟩)) rfl (by kernel_rfl) (by kernel_rfl) (by kernel_rfl) (by decide) (fun _ _ _ h => h) (Yields.yieldsIf (Or.inl ⟨by rfl, fun w9 => by (go_simp; first | done | with_reducible rfl | (intro h9; exfalso; omega))⟩)) hS0 ?_
      change wpAnyT _ _ _ _ _ _ _ _ _ (Act.put _ (some 92) _) _; dsimp only [Act.put]; simp only [List.setIfInBounds_toArray, List.set_cons_succ, List.set_cons_zero]
      refine wpAnyT_take (i := 18) (v := .slice ae n ce) rfl (by kernel_rfl) (by kernel_rfl) (by kernel_rfl) (by decide) (fun _ _ _ h => h) (Or.inl ⟨by rfl, fun w9 hS9 => by have hc9 := (hS9.cell hdl).trans hdc; go_simp; try with_reducible rfl⟩) hS0 ?_
      change wpAnyT _ _ _ _ _ _ _ _ _ (Act.put _ (some 93) _) _; dsimp only [Act.put]; simp only [List.setIfInBounds_toArray, List.set_cons_succ, List.set_cons_zero]
      refine wpAnyT_take (i := 19) (v := .int .i64 (i : Int)) rfl (by kernel_rfl) (by kernel_rfl) (by kernel_rfl) (by decide) (fun _ _ _ h => h) (Yields.yieldsIf (Or.inl ⟨by rfl, fun w9 => by (go_simp; first | done | with_reducible rfl | (intro h9; exfalso; omega))⟩)) hS0 ?_
      change wpAnyT _ _ _ _ _ _ _ _ _ (Act.put _ (some 94) _) _; dsimp only [Act.put]; simp only [List.setIfInBounds_toArray, List.set_cons_succ, List.set_cons_zero]
      refine wpAnyT_take (i := 20) (v := .slice (cutA ae ce i 14) (n - i) (ce - i)) rfl (by kernel_rfl) (by kernel_rfl) (by kernel_rfl) (by decide) (fun _ _ _ h => h) (Or.inl ⟨by rfl, fun w9 hS9 => exec_fromEn 93 94 rfl (by first | rfl | simp [Act.eval, Act.put]) (by first | rfl | simp [Act.eval, Act.put]) hkl hce1 hnen hfe⟩) hS0 ?_
      change wpAnyT _ _ _ _ _ _ _ _ _ (Act.put _ (some 95) _) _; dsimp only [Act.put]; simp only [List.setIfInBounds_toArray, List.set_cons_succ, List.set_cons_zero]
      refine wpAnyT_ready (rs := [7]) (by kernel_rfl) (by simp) (by rfl) ?_
      refine (AllReadyT.cons rfl (fun K hK => ?_) AllReadyT.nil)
      refine step_append_ownA rfl (.const (.slice none 0 0)) (.tmp 81) 68 rfl w6.heap.size 82 i0 (.agg zeroEnt.row) 14 112 Try.underlying68 hi0 hz0 hzs hzb rfl (by decide) (.slice none 0 0) (0) ([]) (by first | rfl | simp [Act.eval, Act.put]) (World.ownsRow_nil _ _ _ _) (ae) (i) (ce) (((entsF s.f ks).take i).flatMap Ent.L) (by first | rfl | simp [Act.eval, Act.put]) (fun h => by have := hnen h; omega) HTL.out (take_newsD Ent.L_len14 (hrW.below hS0) i) (by first | exact flat_oneD Ent.L_one _ | exact Ent.L_one _) (by unfold maxLen; omega) (by omega) hS0.size ?_
      intro v1 w1x hown1 hgr1
      simp only [Nat.zero_add, List.nil_append] at hown1
      have hT1 := hS0.trans ((grown_lowM hgr1 (fun k h => by cases h) (Nat.le_refl _)).mono hS0.size)
      refine (Shut.out hK) _ _ hT1 (fun _ => ?_)
      clear hK K
      change wpAnyT _ _ _ _ _ _ _ _ _ (Act.put _ (some 82) _) _; dsimp only [Act.put]; simp only [List.setIfInBounds_toArray, List.set_cons_succ, List.set_cons_zero]
      refine wpAnyT_ready (rs := [12]) (by kernel_rfl) (by simp) (by rfl) ?_
      refine (AllReadyT.cons rfl (fun K hK => ?_) AllReadyT.nil)
      go_simp
      refine (CMK _).mono ?_
      rintro e9 wM ⟨rfl, hbm⟩
      have hT2 := hT1.trans (hbm.mono hT1.size)
      refine (Shut.out hK) _ _ hT2 (fun _ => ?_)
      clear hK K
      have hown1 := own_kept9 hown1 hbm
      refine wpAnyT_ready (rs := [13]) (by kernel_rfl) (by simp) (by rfl) ?_
      refine (AllReadyT.cons rfl (fun K hK => ?_) AllReadyT.nil)
      refine step_oneEn rfl (.tmp 87) rfl M (by first | rfl | simp [Act.eval, Act.put]) ?_
      have hT3x := hT2.alloc hT2.size (.cells M.row 82)
      have hown1 := hown1.alloc (.cells M.row 82)
      have hN := heap_push wM M.row 82
      refine (Shut.out hK) _ _ hT3x (fun _ => ?_)
      clear hK K
      change wpAnyT _ _ _ _ _ _ _ _ _ (Act.put _ (some 88) _) _; dsimp only [Act.put]; simp only [List.setIfInBounds_toArray, List.set_cons_succ, List.set_cons_zero]
      generalize hg9 : wM.alloc (.cells M.row 82) = wN at hT3x hown1 hN ⊢
      clear hg9
      generalize wM.heap.size = g1 at hN ⊢
      refine wpAnyT_ready (rs := [14]) (by kernel_rfl) (by simp) (by rfl) ?_
      refine (AllReadyT.cons rfl (fun K hK => ?_) AllReadyT.nil)
      refine step_append_ownA rfl (.tmp 82) (.tmp 88) 68 rfl w6.heap.size 82 i0 (.agg zeroEnt.row) 14 112 Try.underlying68 hi0 hz0 hzs hzb rfl (by decide) (v1) (i) (((entsF s.f ks).take i).flatMap Ent.L) (by first | rfl | simp [Act.eval, Act.put]) hown1 (some ⟨g1, 0, none⟩) (1) (1) (Ent.L M) (by first | rfl | simp [Act.eval, Act.put]) (fun h => by cases h) (by rfl) (some_funD (row_newD hN rfl)) (by first | exact flat_oneD Ent.L_one _ | exact Ent.L_one _) (by unfold maxLen; omega) (by omega) hT3x.size ?_
      intro v2 w2x hown2 hgr2
      have hT3 := hT3x.trans (below_grown hown1 hgr2 hT3x.size)
      refine (Shut.out hK) _ _ hT3 (fun _ => ?_)
      clear hK K
      change wpAnyT _ _ _ _ _ _ _ _ _ (Act.put _ (some 89) _) _; dsimp only [Act.put]; simp only [List.setIfInBounds_toArray, List.set_cons_succ, List.set_cons_zero]
      refine wpAnyT_ready (rs := [21]) (by kernel_rfl) (by simp) (by rfl) ?_
      refine (AllReadyT.cons rfl (fun K hK => ?_) AllReadyT.nil)
      refine step_append_ownA rfl (.tmp 89) (.tmp 95) 68 rfl w6.heap.size 82 i0 (.agg zeroEnt.row) 14 112 Try.underlying68 hi0 hz0 hzs hzb rfl (by decide) (v2) (i + 1) (((entsF s.f ks).take i).flatMap Ent.L ++ Ent.L M) (by first | rfl | simp [Act.eval, Act.put]) hown2 (cutA ae ce i 14) (n - i) (ce - i) (((entsF s.f ks).drop i).flatMap Ent.L) (by first | rfl | simp [Act.eval, Act.put]) (cutA_none hnen) HDL.out (cut_newsD Ent.L_len14 (hrW.below hT3) HNE.out hce1 hfe) (by first | exact flat_oneD Ent.L_one _ | exact Ent.L_one _) (by unfold maxLen; omega) (by omega) hT3.size ?_
      intro v3 w3x hown3 hgr3
      rw [HL9.out] at hown3
      obtain ⟨a9, c9, rfl, _⟩ := own_sliceN hown3
      have hT4 := hT3.trans (below_grown hown2 hgr3 hT3.size)
      refine (Shut.out hK) _ _ hT4 (fun _ => ?_)
      clear hK K
      change wpAnyT _ _ _ _ _ _ _ _ _ (Act.put _ (some 96) _) _; dsimp only [Act.put]; simp only [List.setIfInBounds_toArray, List.set_cons_succ, List.set_cons_zero]
      refine wpAnyT_take (i := 22) (v := .pointer (some ⟨d, 0, none⟩)) rfl (by kernel_rfl) (by kernel_rfl) (by kernel_rfl) (by decide) (fun _ _ _ h => h) (Yields.yieldsIf (Or.inl ⟨by rfl, fun w9 => by (go_simp; first | done | with_reducible rfl | (intro h9; exfalso; omega))⟩)) hT4 ?_
      change wpAnyT _ _ _ _ _ _ _ _ _ (Act.put _ (some 97) _) _; dsimp only [Act.put]; simp only [List.setIfInBounds_toArray, List.set_cons_succ, List.set_cons_zero]
      refine wpAnyT_take (i := 23) (v := .pointer (some ⟨d, 1, none⟩)) rfl (by kernel_rfl) (by kernel_rfl) (by kernel_rfl) (by decide) (fun _ _ _ h => h) (Yields.yieldsIf (Or.inl ⟨by rfl, fun w9 => by (go_simp; first | done | with_reducible rfl | (intro h9; exfalso; omega))⟩)) hT4 ?_
      change wpAnyT _ _ _ _ _ _ _ _ _ (Act.put _ (some 98) _) _; dsimp only [Act.put]; simp only [List.setIfInBounds_toArray, List.set_cons_succ, List.set_cons_zero]
      refine wpAnyT_tail (by kernel_rfl) ?_
      refine wpAny_ready (rs := [24]) (by kernel_rfl) (by simp) ?_
      refine AllReady.cons rfl (fun K hK => ?_) AllReady.nil
      have hc9 := (hT4.cell hdl).trans hdc
      have hf9 := frozen_heap (cells_of hd6 hT4 hdl) 1
      go_simp
      refine hK _ _ ?_
      clear hK K
      try dsimp only [Act.put]
      refine wpAny_done (by kernel_rfl) ?_ _
      have hown3 := hown3
      have hn0 : n ≤ 1000 := hm
      have hbA := hT4
      have h9 := own_lowerM hown3 (Nat.le_trans hB hB6)
      go_wp2
      go_ret
      rw [← HIF.out] at h9
      have hD8 := (hD6.kept hbA).setE h9 HIL.out
      refine ⟨by rw [HA.out]; first | done | rfl, ⟨_, HKN.out, ?_, by rw [HEF.out]; exact hD8⟩, ?_⟩
      · rw [List.length_append, List.length_cons, List.length_take, List.length_drop]; omega
      · exact ⟨d, _, _, hD.1, HD0.out, by decide, grown_trD hg6 (grown_trD (grown_one hbA d) (grown_put _ _ _ _))⟩
  · have hlt := HFB rfl
    obtain ⟨x, hx, H3, H8, H16, H0⟩ := HOLD rfl
    have hlti := Lib.hid hlt
    clear HNEW HOLD HFB hrk hfk hkl
    obtain ⟨b, off, rfl, hbx, hrg⟩ := ent_at hre (by rw [HNE.out]; exact hlt)
    have hxe : (entsF s.f ks)[i]'(by rw [HNE.out]; exact hlt) = x := by rw [List.getElem?_eq_getElem (by rw [HNE.out]; exact hlt)] at hx; exact Option.some.inj hx
    rw [hxe] at hrg
    clear hxe hx
    obtain ⟨g9, e9⟩ := hfe _ rfl
    have hoff : off = 0 := by cases e9; rfl
    have HOFF := Lib.hid hoff
    clear e9 hoff hfe hre
    obtain ⟨u, hu⟩ : ∃ u, pkEq (pkX x) (pkV e) = u := ⟨_, rfl⟩
    rw [hu] at H3 H8 H16 H0
    have HU := Lib.hid hu
    clear hu
    obtain ⟨M, hM9⟩ : ∃ M, markR x e.kd e.ack = M := ⟨_, rfl⟩
    have CMK := fun W => markEv_any x e W
    rw [hM9] at H0 CMK
    clear hM9
    simp only [HKD.out] at H8 H16 H0
    have CMB := fun W => refMarked_any x 5 W
    obtain ⟨m, hm9⟩ : ∃ m, mkB x 5 = m := ⟨_, rfl⟩
    rw [hm9] at CMB H8 H16 H0
    clear hm9
    have HH3 := Lib.hid H3
    have HH8 := Lib.hid H8
    have HH16 := Lib.hid H16
    have HH0 := Lib.hid H0
    clear H3 H8 H16 H0
    have n0 : (0 : Int) ≤ (i : Int) := by omega
    have n1 : (i : Int) < (n : Int) := by omega
    have n2' : ((i : Nat) : Int).toNat = i := by omega
    have d9 : decide ((i : Int) < (n : Int)) = true := decide_eq_true n1
    have d9n : decide (i < n) = true := decide_eq_true hlt
    have hdc : w5.cell? ⟨d, 1, none⟩ = some (.slice (some ⟨b, off, none⟩) n ce) := cell_heap hd5 1
    go_upto_region 15 with (first | (refine wpList_loadEnt2 (.tmp 104) rfl b (off + i * 14) rfl x hrg (by rfl) ?_) | (refine wpList_storeRowTo (Z := x.row) rfl (.tmp 11) (.tmp 105) 82 rfl (infoEnt2_row _) rfl rfl (heap_push _ zeroEnt.row 82) rfl (Ent.row_one _) ?_))
    refine wp_nameE _ (fun w7 hw7 => ?_)
    have hx7 : w7.heap[w5.heap.size]? = some (.cells x.row 82 (0, 0)) := by rw [hw7]; exact setRow_heap _ _ zeroEnt.row x.row _ _ (heap_push w5 zeroEnt.row 82)
    have hb7 : Below w5.heap.size w5 w7 := by rw [hw7]; exact below_setRow ((Below.refl _ _).alloc (Nat.le_refl _) _) (Nat.le_refl _) _
    clear hw7
    have hq7 := cells_of hq5 hb7 (row_lt hq5)
    have hd7 := cells_of hd5 hb7 (row_lt hd5)
    have hbw := hb54.trans (hb7.mono hb54.size)
    clear hrg hbx hdc hq5 hd5 hk5 hD5 hB5 hb7
    cases u
    · go_wp2_with (first | (refine wpList_loadPkX (.tmp 107) rfl w5.heap.size 0 rfl x (pk_range hx7) (by rfl) ?_) | (refine wpList_loadPkV (.tmp 109) rfl w.heap.size 1 rfl e (evpk_range hq7) (by rfl) ?_) | (refine wpList_neqPkG rfl 108 110 rfl (pkX x) (pkV e) rfl rfl HU.out ?_))
      go_ret
      obtain ⟨hA, hst⟩ := HH3.out (by simp)
      rw [hA, hst]
      exact ⟨rfl, ⟨ks, hKs, by omega, hD.kept hbw⟩, GrD.of_below hD hbw⟩
    · have q0 : w7.cell? ⟨w.heap.size, 0, none⟩ = some (.int .i64 5) := by rw [← HKD.out]; exact cell_heap hq7 0
      cases m
      rotate_left
      · go_wp2_with (first | (refine wpList_loadPkX (.tmp 107) rfl w5.heap.size 0 rfl x (pk_range hx7) (by rfl) ?_) | (refine wpList_loadPkV (.tmp 109) rfl w.heap.size 1 rfl e (evpk_range hq7) (by rfl) ?_) | (refine wpList_neqPkG rfl 108 110 rfl (pkX x) (pkV e) rfl rfl HU.out ?_) | (refine wpList_loadEnt2 (.tmp 11) rfl w5.heap.size 0 rfl x (ent_range hx7) (by rfl) ?_) | (go_at_call 66; refine (CMB _).mono ?_; rintro e9 w8 ⟨rfl, hb8⟩))
        have hbw8 := hbw.trans (hb8.mono hbw.size)
        go_ret
        obtain ⟨hA, hst⟩ := HH8.out (by simp) (by simp)
        rw [hA, hst]
        exact ⟨rfl, ⟨ks, hKs, by omega, hD.kept hbw8⟩, GrD.of_below hD hbw8⟩
      go_upto_region 19 with (first | (refine wpList_loadPkX (.tmp 107) rfl w5.heap.size 0 rfl x (pk_range hx7) (by rfl) ?_) | (refine wpList_loadPkV (.tmp 109) rfl w.heap.size 1 rfl e (evpk_range hq7) (by rfl) ?_) | (refine wpList_neqPkG rfl 108 110 rfl (pkX x) (pkV e) rfl rfl HU.out ?_) | (refine wpList_loadEnt2 (.tmp 11) rfl w5.heap.size 0 rfl x (ent_range hx7) (by rfl) ?_) | (go_at_call 66; refine (CMB _).mono ?_; rintro e9 w8 ⟨rfl, hb8⟩))
      have hx8 := cells_of hx7 hb8 (row_lt hx7)
      have hq8 := cells_of hq7 hb8 (row_lt hq7)
      have hd8 := cells_of hd7 hb8 (row_lt hd7)
      have hbw8 := hbw.trans (hb8.mono hbw.size)
      have q0 : w8.cell? ⟨w.heap.size, 0, none⟩ = some (.int .i64 5) := by rw [← HKD.out]; exact cell_heap hq8 0
      clear hx7 hq7 hd7 hb8 CMB
      obtain ⟨t9, ht9⟩ : ∃ t, x.ac = t := ⟨_, rfl⟩
      have p9 : w8.cell? ⟨w5.heap.size, 12, none⟩ = some (.bool t9) := by rw [← ht9]; exact cell_heap hx8 12
      have HT := Lib.hid ht9
      clear ht9
      cases t9
      rotate_left
      · go_wp2
        go_ret
        obtain ⟨hA, hst⟩ := HH16.out (by simp) (by simp) (by first | exact .inr ⟨rfl, HT.out⟩ | exact .inr ⟨trivial, HT.out⟩)
        rw [hA, hst]
        exact ⟨rfl, ⟨ks, hKs, by omega, hD.kept hbw8⟩, GrD.of_below hD hbw8⟩
      have hno : ¬ ((5 : Int) = 4 ∧ x.ti = true ∨ (5 : Int) = 5 ∧ x.ac = true) := fun q9 => q9.elim (fun z => by first | (have z2 := z.2; rw [HT.out] at z2; cases z2) | exact absurd z.1 (by decide)) (fun z => by first | (have z2 := z.2; rw [HT.out] at z2; cases z2) | exact absurd z.1 (by decide))
      obtain ⟨hA, hcl, hKN, hEF⟩ := HH0.out (by simp) (by simp) (by first | exact hno | simpa using hno)
      have HA9 := Lib.hid hA
      have HKN := Lib.hid hKN
      have HEF := Lib.hid hEF
      clear hA hcl hKN hEF hno HH0 HH3 HH8 HH16
      go_upto_region 21 with fail
      have hdl := row_lt hd8
      have hdc : w8.cell? ⟨d, 1, none⟩ = some (.slice (some ⟨b, off, none⟩) n ce) := cell_heap hd8 1
      refine wp_region_tail 9 1 (S := fun X => Below w8.heap.size w8 X) (by kernel_rfl) (by rfl) (by decide) (by kernel_rfl) (by kernel_rfl) ((Below.refl _ _).drew) (fun hS0 => ?_)
      refine wpAnyT_take (i := 0) (v := .pointer (some ⟨d, 0, none⟩)) rfl (by kernel_rfl) (by kernel_rfl) (by kernel_rfl) (by decide) (fun _ _ _ h => h) (Yields.yieldsIf (Or.inl ⟨by rfl, fun w9 => by (go_simp; first | done | with_reducible rfl | (intro h9; exfalso; omega))⟩)) hS0 ?_
      change wpAnyT _ _ _ _ _ _ _ _ _ (Act.put _ (some 134) _) _; dsimp only [Act.put]; simp only [List.setIfInBounds_toArray, List.set_cons_succ, List.set_cons_zero]
      refine wpAnyT_take (i := 1) (v := .pointer (some ⟨d, 0, none⟩)) rfl (by kernel_rfl) (by kernel_rfl) (by kernel_rfl) (by decide) (fun _ _ _ h => h) (Yields.yieldsIf (Or.inl ⟨by rfl, fun w9 => by (go_simp; first | done | with_reducible rfl | (intro h9; exfalso; omega))⟩)) hS0 ?_
      change wpAnyT _ _ _ _ _ _ _ _ _ (Act.put _ (some 135) _) _; dsimp only [Act.put]; simp only [List.setIfInBounds_toArray, List.set_cons_succ, List.set_cons_zero]
      refine wpAnyT_take (i := 2) (v := .pointer (some ⟨d, 1, none⟩)) rfl (by kernel_rfl) (by kernel_rfl) (by kernel_rfl) (by decide) (fun _ _ _ h => h) (Yields.yieldsIf (Or.inl ⟨by rfl, fun w9 => by (go_simp; first | done | with_reducible rfl | (intro h9; exfalso; omega))⟩)) hS0 ?_
      change wpAnyT _ _ _ _ _ _ _ _ _ (Act.put _ (some 136) _) _; dsimp only [Act.put]; simp only [List.setIfInBounds_toArray, List.set_cons_succ, List.set_cons_zero]
      refine wpAnyT_take (i := 3) (v := .slice (some ⟨b, off, none⟩) n ce) rfl (by kernel_rfl) (by kernel_rfl) (by kernel_rfl) (by decide) (fun _ _ _ h => h) (Or.inl ⟨by rfl, fun w9 hS9 => by have hc9 := (hS9.cell hdl).trans hdc; go_simp; try with_reducible rfl⟩) hS0 ?_
      change wpAnyT _ _ _ _ _ _ _ _ _ (Act.put _ (some 137) _) _; dsimp only [Act.put]; simp only [List.setIfInBounds_toArray, List.set_cons_succ, List.set_cons_zero]
      refine wpAnyT_take (i := 4) (v := .int .i64 (i : Int)) rfl (by kernel_rfl) (by kernel_rfl) (by kernel_rfl) (by decide) (fun _ _ _ h => h) (Yields.yieldsIf (Or.inl ⟨by rfl, fun w9 => by (go_simp; first | done | with_reducible rfl | (intro h9; exfalso; omega))⟩)) hS0 ?_
      change wpAnyT _ _ _ _ _ _ _ _ _ (Act.put _ (some 138) _) _; dsimp only [Act.put]; simp only [List.setIfInBounds_toArray, List.set_cons_succ, List.set_cons_zero]
      refine wpAnyT_take (i := 5) (v := .agg x.row) rfl (by kernel_rfl) (by kernel_rfl) (by kernel_rfl) (by decide) (fun _ _ _ h => h) (Or.inl ⟨by rfl, fun w9 hS9 => exec_loadEnt2 (.tmp 11) rfl w5.heap.size 0 (by first | rfl | simp [Act.eval, Act.put]) x (range_belowS (ent_range hx8) hS9 (row_lt hx8))⟩) hS0 ?_
      change wpAnyT _ _ _ _ _ _ _ _ _ (Act.put _ (some 139) _) _; dsimp only [Act.put]; simp only [List.setIfInBounds_toArray, List.set_cons_succ, List.set_cons_zero]
      refine wpAnyT_take (i := 6) (v := .agg e.row) rfl (by kernel_rfl) (by kernel_rfl) (by kernel_rfl) (by decide) (fun _ _ _ h => h) (Or.inl ⟨by rfl, fun w9 hS9 => exec_loadEvR (.tmp 3) rfl w.heap.size 0 (by first | rfl | simp [Act.eval, Act.put]) e (range_belowS (evr_range hq8) hS9 (row_lt hq8))⟩) hS0 ?_
      change wpAnyT _ _ _ _ _ _ _ _ _ (Act.put _ (some 140) _) _; dsimp only [Act.put]; simp only [List.setIfInBounds_toArray, List.set_cons_succ, List.set_cons_zero]
      refine wpAnyT_ready (rs := [7]) (by kernel_rfl) (by simp) (by rfl) ?_
      refine (AllReadyT.cons rfl (fun K hK => ?_) AllReadyT.nil)
      go_simp
      refine (CMK _).mono ?_
      rintro e9 wM ⟨rfl, hbm⟩
      have hS1 := hS0.trans (hbm.mono hS0.size)
      refine (Shut.out hK) _ _ hS1 (fun _ => ?_)
      clear hK K
      refine wpAnyT_take (i := 8) (v := .pointer (some ⟨b, off + i * 14, none⟩)) rfl (by kernel_rfl) (by kernel_rfl) (by kernel_rfl) (by decide) (fun _ _ _ h => h) (Yields.yieldsIf (Or.inl ⟨by rfl, fun w9 => by (go_simp; first | done | with_reducible rfl | (intro h9; exfalso; omega))⟩)) hS1 ?_
      change wpAnyT _ _ _ _ _ _ _ _ _ (Act.put _ (some 142) _) _; dsimp only [Act.put]; simp only [List.setIfInBounds_toArray, List.set_cons_succ, List.set_cons_zero]
      refine wpAnyT_tail (by kernel_rfl) ?_
      refine wpAny_ready (rs := [9]) (by kernel_rfl) (by simp) ?_
      refine AllReady.cons rfl (fun K hK => ?_) AllReady.nil
      have hbM := hbw8.trans (hS1.mono hbw8.size)
      have hdM := cells_of hd8 hS1 hdl
      have hoff := HOFF.out
      have e0 : off + i * 14 = i * 14 := by rw [HOFF.out, Nat.zero_add]
      rw [HOFF.out] at hdM
      obtain ⟨hDP, hTH⟩ := (hD.kept hbM).put hdM (by rw [HNE.out]; exact hlti.out) M
      refine step_storeMid rfl 82 (.tmp 142) (.tmp 141) rfl b (off + i * 14) M.row (by first | rfl | simp [Act.eval, Act.put]) (by first | rfl | simp [Act.eval, Act.put]) (by rw [e0]; exact hTH) (infoEnt2_row _) (Ent.row_one _) ?_
      refine hK _ _ ?_
      clear hK K
      rw [e0]
      try dsimp only [Act.put]
      refine wpAny_done (by kernel_rfl) ?_ _
      go_wp2
      go_ret
      have hoe0 := HOE0.out
      rw [HOFF.out] at hoe0
      obtain ⟨hBg, R, hR, _⟩ := own_cellsD hoe0
      refine ⟨by rw [HA9.out]; first | done | rfl, ⟨ks, HKN.out, by omega, by rw [HEF.out]; exact hDP⟩, ⟨b, R, _, hBg, hR, by decide, grown_trD (grown_one hbM b) (grown_puts _ _ _ _)⟩⟩
end Go.Proofs.Ytbckncopdkmoeaa
