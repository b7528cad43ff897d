/- The document's packets in bytes; Over; when two packets are the same. -/
import Derived.Test.YtfblbholkhdldaaDoorPkB
import Derived.Test.YtfblbholkhdldaaDoorGD
import Derived.Test.YtfblbholkhdldaaDoorTreeN
import Derived.WalkKit
import Derived.ProofKit
import Derived.Handy
import Derived.Below
import Derived.Lib.Hide
import Derived.IntWalk
import Derived.Outline
import Derived.WalkLawsBesides
import Derived.WalkSpells
namespace Go.Proofs.YtfblbholkhdldaaDoor
open Go.RowKit
attribute [local go_sem] strV
set_option linter.unusedVariables false
def pkEq (a b : PkT) : Bool := (a.1.1.toList == b.1.1.toList) && (a.1.2 == b.1.2) && (a.2.1.1.toList == b.2.1.1.toList) && (a.2.1.2 == b.2.1.2) && (a.2.2.1 == b.2.2.1) && (a.2.2.2.1.toList == b.2.2.2.1.toList) && (a.2.2.2.2.1 == b.2.2.2.2.1) && (a.2.2.2.2.2 == b.2.2.2.2.2)
set_option maxRecDepth 100000 in
set_option maxHeartbeats 1600000 in
theorem run_equal_pk (sp1 sp2 : ByteArray) (sc1 sc2 : Int) (dp1 dp2 : ByteArray) (dc1 dc2 : Int) (sq1 sq2 : Int) (da1 da2 : ByteArray) (th1 th2 : Int) (ta1 ta2 : Int) (W : World) :
    (Op.equalIn 10000 45 (.agg #[.string sp1, .int .i64 sc1, .string dp1, .int .i64 dc1, .int .i64 sq1, .string da1, .int .i64 th1, .int .i64 ta1]) (.agg #[.string sp2, .int .i64 sc2, .string dp2, .int .i64 dc2, .int .i64 sq2, .string da2, .int .i64 th2, .int .i64 ta2])).run Tryd.prog W = .ok (pkEq ((sp1, sc1), (dp1, dc1), sq1, da1, th1, ta1) ((sp2, sc2), (dp2, dc2), sq2, da2, th2, ta2)) W := by
  unfold pkEq
  simp only
  cases hsp : (sp1.toList == sp2.toList)
  · simp [go_sem, hsp]
  cases hsc : (sc1 == sc2)
  · simp [go_sem, hsp, hsc]
  cases hdp : (dp1.toList == dp2.toList)
  · simp [go_sem, hsp, hsc, hdp]
  cases hdc : (dc1 == dc2)
  · simp [go_sem, hsp, hsc, hdp, hdc]
  cases hsq : (sq1 == sq2)
  · simp [go_sem, hsp, hsc, hdp, hdc, hsq]
  cases hda : (da1.toList == da2.toList)
  · simp [go_sem, hsp, hsc, hdp, hdc, hsq, hda]
  cases hth : (th1 == th2)
  · simp [go_sem, hsp, hsc, hdp, hdc, hsq, hda, hth]
  cases hta : (ta1 == ta2)
  · simp [go_sem, hsp, hsc, hdp, hdc, hsq, hda, hth, hta]
  simp [go_sem, hsp, hsc, hdp, hdc, hsq, hda, hth, hta]
theorem pkEq_self (p : PkT) : pkEq p p = true := by unfold pkEq; simp
set_option maxRecDepth 100000 in
set_option maxHeartbeats 3200000 in
theorem pkSame_any (sp1 sp2 : ByteArray) (sc1 sc2 : Int) (dp1 dp2 : ByteArray) (dc1 dc2 : Int) (sq1 sq2 : Int) (da1 da2 : ByteArray) (th1 th2 : Int) (ta1 ta2 : Int) (w : World) :
    Calls Tryd.prog 40 #[.agg #[.string sp1, .int .i64 sc1, .string dp1, .int .i64 dc1, .int .i64 sq1, .string da1, .int .i64 th1, .int .i64 ta1], .agg #[.string sp2, .int .i64 sc2, .string dp2, .int .i64 dc2, .int .i64 sq2, .string da2, .int .i64 th2, .int .i64 ta2]] w fun e w' => e = .returned (.bool (pkEq ((sp1, sc1), (dp1, dc1), sq1, da1, th1, ta1) ((sp2, sc2), (dp2, dc2), sq2, da2, th2, ta2))) ∧ Below w.heap.size w w' := by
  have hEQ := run_equal_pk sp1 sp2 sc1 sc2 dp1 dp2 dc1 dc2 sq1 sq2 da1 da2 th1 th2 ta1 ta2
  obtain ⟨B, hB⟩ : ∃ B, pkEq ((sp1, sc1), (dp1, dc1), sq1, da1, th1, ta1) ((sp2, sc2), (dp2, dc2), sq2, da2, th2, ta2) = B := ⟨_, rfl⟩
  simp only [hB] at hEQ ⊢
  have hg0 := al2_0 w (.cells #[.string sp1, .int .i64 sc1, .string dp1, .int .i64 dc1, .int .i64 sq1, .string da1, .int .i64 th1, .int .i64 ta1] 45) (.cells #[.string sp2, .int .i64 sc2, .string dp2, .int .i64 dc2, .int .i64 sq2, .string da2, .int .i64 th2, .int .i64 ta2] 45)
  have hg1 := al2_1 w (.cells #[.string sp1, .int .i64 sc1, .string dp1, .int .i64 dc1, .int .i64 sq1, .string da1, .int .i64 th1, .int .i64 ta1] 45) (.cells #[.string sp2, .int .i64 sc2, .string dp2, .int .i64 dc2, .int .i64 sq2, .string da2, .int .i64 th2, .int .i64 ta2] 45)
  have hbA := al2_below w (.cells #[.string sp1, .int .i64 sc1, .string dp1, .int .i64 dc1, .int .i64 sq1, .string da1, .int .i64 th1, .int .i64 ta1] 45) (.cells #[.string sp2, .int .i64 sc2, .string dp2, .int .i64 dc2, .int .i64 sq2, .string da2, .int .i64 th2, .int .i64 ta2] 45)
  clear hB
  go_enter Tryd.func40, Tryd.ntmps40
  go_upto_region 1 with fail
  refine wp_nameE _ (fun W1 hX => ?_)
  have hg : W1.heap[w.heap.size]? = some (.cells #[.string sp1, .int .i64 sc1, .string dp1, .int .i64 dc1, .int .i64 sq1, .string da1, .int .i64 th1, .int .i64 ta1] 45 (0, 0)) := by rw [hX]; exact hg0
  have hh : W1.heap[w.heap.size + 1]? = some (.cells #[.string sp2, .int .i64 sc2, .string dp2, .int .i64 dc2, .int .i64 sq2, .string da2, .int .i64 th2, .int .i64 ta2] 45 (0, 0)) := by rw [hX]; exact hg1
  have hbel : Below w.heap.size w W1 := by rw [hX]; exact hbA
  clear hX hg0 hg1 hbA
  have q0 := cell_heap hg 0; have q1 := cell_heap hg 1; have q2 := cell_heap hg 2; have q3 := cell_heap hg 3; have q4 := cell_heap hg 4; have q5 := cell_heap hg 5; have q6 := cell_heap hg 6; have q7 := cell_heap hg 7
  have r0 := cell_heap hh 0; have r1 := cell_heap hh 1; have r2 := cell_heap hh 2; have r3 := cell_heap hh 3; have r4 := cell_heap hh 4; have r5 := cell_heap hh 5; have r6 := cell_heap hh 6; have r7 := cell_heap hh 7
  go_wp2
  go_ret
  exact ⟨rfl, hbel⟩
set_option maxRecDepth 100000 in
set_option maxHeartbeats 3200000 in
theorem refOver_any (th ta h t : Int) (w : World) :
    Calls Tryd.prog 39 #[.int .i64 th, .int .i64 ta, .int .i64 h, .int .i64 t] w fun e w' => e = .returned (.bool (overB th ta h t)) ∧ Below w.heap.size w w' := by
  have HR : overB th ta h t = ((decide (0 < th) && decide (th ≤ h)) || (decide (0 < ta) && decide (ta ≤ t))) := by unfold overB reachB; rfl
  rw [HR]; clear HR
  cases h1 : decide (0 < th) <;> cases h2 : decide (th ≤ h) <;> cases h3 : decide (0 < ta) <;> cases h4 : decide (ta ≤ t)
  all_goals
    go_enter Tryd.func39, Tryd.ntmps39
    go_wp2
    go_ret
    exact ⟨rfl, Below.refl _ _⟩
theorem ba_app (a b : List UInt8) : (⟨a.toArray⟩ : ByteArray) ++ ⟨b.toArray⟩ = ⟨(a ++ b).toArray⟩ := by
  apply ByteArray.ext; simp
theorem pkB_parts (sp : ByteArray) (sc : Int) (dp : ByteArray) (dc sq : Int) (da : ByteArray) (th ta : Int) : (⟨(pkB ((sp, sc), (dp, dc), sq, da, th, ta)).toArray⟩ : ByteArray) = ⟨(putL (sp.size : Int) ++ sp.data.toList).toArray⟩ ++ ⟨(putL sc).toArray⟩ ++ ⟨(putL (dp.size : Int) ++ dp.data.toList).toArray⟩ ++ ⟨(putL dc).toArray⟩ ++ ⟨(putL sq).toArray⟩ ++ ⟨(putL (da.size : Int) ++ da.data.toList).toArray⟩ ++ ⟨(putL th).toArray⟩ ++ ⟨(putL ta).toArray⟩ := by
  simp only [ba_app]
  rw [pkB_eq]
  unfold pkBy endBy
  simp only [List.append_assoc]
set_option maxRecDepth 100000 in
set_option maxHeartbeats 12800000 in
theorem refPutPk_any (sp : ByteArray) (sc : Int) (dp : ByteArray) (dc sq : Int) (da : ByteArray) (th ta : Int) (w : World) (h1 : sp.size ≤ 12) (h2 : dp.size ≤ 12) (h3 : da.size ≤ 200) :
    Calls Tryd.prog 68 #[.agg #[.string sp, .int .i64 sc, .string dp, .int .i64 dc, .int .i64 sq, .string da, .int .i64 th, .int .i64 ta]] w fun e w' => e = .returned (.string ⟨(pkB ((sp, sc), (dp, dc), sq, da, th, ta)).toArray⟩) ∧ Below w.heap.size w w' := by
  rw [pkB_parts]
  have P0 := fun W => refPutText_any sp W (by omega)
  unfold strV at P0
  have z0 : (⟨(putL (sp.size : Int) ++ sp.data.toList).toArray⟩ : ByteArray).size ≤ 220 := by show (putL (sp.size : Int) ++ sp.data.toList).length ≤ 220; have := putL_len8 (sp.size : Int); rw [List.length_append, str_len]; omega
  obtain ⟨x0, hx0⟩ : ∃ x : ByteArray, (⟨(putL (sp.size : Int) ++ sp.data.toList).toArray⟩ : ByteArray) = x := ⟨_, rfl⟩
  simp only [hx0] at P0 z0 ⊢
  have P1 := fun W => putNum_any sc W
  unfold strV at P1
  have z1 : (⟨(putL sc).toArray⟩ : ByteArray).size ≤ 220 := by show (putL sc).length ≤ 220; have := putL_len8 sc; omega
  obtain ⟨x1, hx1⟩ : ∃ x : ByteArray, (⟨(putL sc).toArray⟩ : ByteArray) = x := ⟨_, rfl⟩
  simp only [hx1] at P1 z1 ⊢
  have P2 := fun W => refPutText_any dp W (by omega)
  unfold strV at P2
  have z2 : (⟨(putL (dp.size : Int) ++ dp.data.toList).toArray⟩ : ByteArray).size ≤ 220 := by show (putL (dp.size : Int) ++ dp.data.toList).length ≤ 220; have := putL_len8 (dp.size : Int); rw [List.length_append, str_len]; omega
  obtain ⟨x2, hx2⟩ : ∃ x : ByteArray, (⟨(putL (dp.size : Int) ++ dp.data.toList).toArray⟩ : ByteArray) = x := ⟨_, rfl⟩
  simp only [hx2] at P2 z2 ⊢
  have P3 := fun W => putNum_any dc W
  unfold strV at P3
  have z3 : (⟨(putL dc).toArray⟩ : ByteArray).size ≤ 220 := by show (putL dc).length ≤ 220; have := putL_len8 dc; omega
  obtain ⟨x3, hx3⟩ : ∃ x : ByteArray, (⟨(putL dc).toArray⟩ : ByteArray) = x := ⟨_, rfl⟩
  simp only [hx3] at P3 z3 ⊢
  have P4 := fun W => putNum_any sq W
  unfold strV at P4
  have z4 : (⟨(putL sq).toArray⟩ : ByteArray).size ≤ 220 := by show (putL sq).length ≤ 220; have := putL_len8 sq; omega
  obtain ⟨x4, hx4⟩ : ∃ x : ByteArray, (⟨(putL sq).toArray⟩ : ByteArray) = x := ⟨_, rfl⟩
  simp only [hx4] at P4 z4 ⊢
  have P5 := fun W => refPutText_any da W (by omega)
  unfold strV at P5
  have z5 : (⟨(putL (da.size : Int) ++ da.data.toList).toArray⟩ : ByteArray).size ≤ 220 := by show (putL (da.size : Int) ++ da.data.toList).length ≤ 220; have := putL_len8 (da.size : Int); rw [List.length_append, str_len]; omega
  obtain ⟨x5, hx5⟩ : ∃ x : ByteArray, (⟨(putL (da.size : Int) ++ da.data.toList).toArray⟩ : ByteArray) = x := ⟨_, rfl⟩
  simp only [hx5] at P5 z5 ⊢
  have P6 := fun W => putNum_any th W
  unfold strV at P6
  have z6 : (⟨(putL th).toArray⟩ : ByteArray).size ≤ 220 := by show (putL th).length ≤ 220; have := putL_len8 th; omega
  obtain ⟨x6, hx6⟩ : ∃ x : ByteArray, (⟨(putL th).toArray⟩ : ByteArray) = x := ⟨_, rfl⟩
  simp only [hx6] at P6 z6 ⊢
  have P7 := fun W => putNum_any ta W
  unfold strV at P7
  have z7 : (⟨(putL ta).toArray⟩ : ByteArray).size ≤ 220 := by show (putL ta).length ≤ 220; have := putL_len8 ta; omega
  obtain ⟨x7, hx7⟩ : ∃ x : ByteArray, (⟨(putL ta).toArray⟩ : ByteArray) = x := ⟨_, rfl⟩
  simp only [hx7] at P7 z7 ⊢
  have n1 : ¬ 9223372036854775807 < x0.size + x1.size := by omega
  have m1 : ¬ 9223372036854775807 < (x0).size + x1.size := by first | omega | (simp only [ByteArray.size_append]; omega)
  have n2 : ¬ 9223372036854775807 < x0.size + x1.size + x2.size := by omega
  have m2 : ¬ 9223372036854775807 < (x0 ++ x1).size + x2.size := by first | omega | (simp only [ByteArray.size_append]; omega)
  have n3 : ¬ 9223372036854775807 < x0.size + x1.size + x2.size + x3.size := by omega
  have m3 : ¬ 9223372036854775807 < (x0 ++ x1 ++ x2).size + x3.size := by first | omega | (simp only [ByteArray.size_append]; omega)
  have n4 : ¬ 9223372036854775807 < x0.size + x1.size + x2.size + x3.size + x4.size := by omega
  have m4 : ¬ 9223372036854775807 < (x0 ++ x1 ++ x2 ++ x3).size + x4.size := by first | omega | (simp only [ByteArray.size_append]; omega)
  have n5 : ¬ 9223372036854775807 < x0.size + x1.size + x2.size + x3.size + x4.size + x5.size := by omega
  have m5 : ¬ 9223372036854775807 < (x0 ++ x1 ++ x2 ++ x3 ++ x4).size + x5.size := by first | omega | (simp only [ByteArray.size_append]; omega)
  have n6 : ¬ 9223372036854775807 < x0.size + x1.size + x2.size + x3.size + x4.size + x5.size + x6.size := by omega
  have m6 : ¬ 9223372036854775807 < (x0 ++ x1 ++ x2 ++ x3 ++ x4 ++ x5).size + x6.size := by first | omega | (simp only [ByteArray.size_append]; omega)
  have n7 : ¬ 9223372036854775807 < x0.size + x1.size + x2.size + x3.size + x4.size + x5.size + x6.size + x7.size := by omega
  have m7 : ¬ 9223372036854775807 < (x0 ++ x1 ++ x2 ++ x3 ++ x4 ++ x5 ++ x6).size + x7.size := by first | omega | (simp only [ByteArray.size_append]; omega)
  clear hx0 z0 hx1 z1 hx2 z2 hx3 z3 hx4 z4 hx5 z5 hx6 z6 hx7 z7
  have hg0 := heap_push w #[.string sp, .int .i64 sc, .string dp, .int .i64 dc, .int .i64 sq, .string da, .int .i64 th, .int .i64 ta] 45
  have hbA : Below w.heap.size w (w.alloc (.cells #[.string sp, .int .i64 sc, .string dp, .int .i64 dc, .int .i64 sq, .string da, .int .i64 th, .int .i64 ta] 45)) := Below.alloc (Below.refl _ _) (Nat.le_refl _) _
  go_enter Tryd.func68, Tryd.ntmps68
  go_upto_region 1 with fail
  refine wp_nameE _ (fun W1 hX => ?_)
  have hg : W1.heap[w.heap.size]? = some (.cells #[.string sp, .int .i64 sc, .string dp, .int .i64 dc, .int .i64 sq, .string da, .int .i64 th, .int .i64 ta] 45 (0, 0)) := by rw [hX]; exact hg0
  have hbel : Below w.heap.size w W1 := by rw [hX]; exact hbA
  clear hX hg0 hbA
  have hgB : w.heap.size < W1.heap.size := (Array.getElem?_eq_some_iff.1 hg).1
  have q0 := cell_heap hg 0; have q1 := cell_heap hg 1; have q2 := cell_heap hg 2; have q3 := cell_heap hg 3; have q4 := cell_heap hg 4; have q5 := cell_heap hg 5; have q6 := cell_heap hg 6; have q7 := cell_heap hg 7
  obtain ⟨hcb, hfb⟩ := beyond_cells (W := W1)
  refine wp_region_below (by kernel_rfl) (by kernel_rfl) ?_
  repeat (go_big_quiet_step (first | (go_at_call 92; first | with_reducible exact quiet_below (P0 _) | with_reducible exact quiet_below (P2 _) | with_reducible exact quiet_below (P5 _)) | (go_at_call 93; first | with_reducible exact quiet_below (P1 _) | with_reducible exact quiet_below (P3 _) | with_reducible exact quiet_below (P4 _) | with_reducible exact quiet_below (P6 _) | with_reducible exact quiet_below (P7 _))))
  intro w9 hw9
  have hb9 := beyond_below hw9
  clear hcb hfb
  go_wp2
  go_ret
  exact ⟨rfl, hbel.trans (hb9.mono hbel.size)⟩
set_option maxRecDepth 100000 in
set_option maxHeartbeats 6400000 in
theorem refEncodePk_any (sp : ByteArray) (sc : Int) (dp : ByteArray) (dc sq : Int) (da : ByteArray) (th ta : Int) (w : World) (h1 : sp.size ≤ maxLen) (h2 : dp.size ≤ maxLen) :
    Calls Tryd.prog 34 #[.agg #[.string sp, .int .i64 sc, .string dp, .int .i64 dc, .int .i64 sq, .string da, .int .i64 th, .int .i64 ta]] w fun e w' => e = .returned (encPk ((sp, sc), (dp, dc), sq, da, th, ta)) ∧ Below w.heap.size w w' := by
  have CM := fun W => refMayPk_any sp sc dp dc sq da th ta W h1 h2
  have hg0 := heap_push w #[.string sp, .int .i64 sc, .string dp, .int .i64 dc, .int .i64 sq, .string da, .int .i64 th, .int .i64 ta] 45
  have hbA : Below w.heap.size w (w.alloc (.cells #[.string sp, .int .i64 sc, .string dp, .int .i64 dc, .int .i64 sq, .string da, .int .i64 th, .int .i64 ta] 45)) := Below.alloc (Below.refl _ _) (Nat.le_refl _) _
  cases hM : mayK sp sc dp dc sq da th ta
  · have hR : encPk ((sp, sc), (dp, dc), sq, da, th, ta) = .tuple #[.string ⟨#[]⟩, .int .i64 1] := by unfold encPk mayT; simp only [hM]; rfl
    rw [hR]
    simp only [hM] at CM
    clear hR hM
    go_enter Tryd.func34, Tryd.ntmps34
    go_upto_region 1 with fail
    refine wp_nameE _ (fun W1 hX => ?_)
    have hg : W1.heap[w.heap.size]? = some (.cells #[.string sp, .int .i64 sc, .string dp, .int .i64 dc, .int .i64 sq, .string da, .int .i64 th, .int .i64 ta] 45 (0, 0)) := by rw [hX]; exact hg0
    have hbel : Below w.heap.size w W1 := by rw [hX]; exact hbA
    clear hX hg0 hbA
    have q0 := cell_heap hg 0; have q1 := cell_heap hg 1; have q2 := cell_heap hg 2; have q3 := cell_heap hg 3; have q4 := cell_heap hg 4; have q5 := cell_heap hg 5; have q6 := cell_heap hg 6; have q7 := cell_heap hg 7
    go_wp2_with (go_at_call 31; refine (CM _).mono ?_; rintro e w1 ⟨rfl, hb⟩; have hbel := hbel.trans (hb.mono hbel.size); clear hb)
    go_returns
    exact ⟨rfl, hbel⟩
  · have hbd := Pk.mayK_bounds hM
    have CP := fun W => refPutPk_any sp sc dp dc sq da th ta W (by omega) (by omega) (by omega)
    have hR : encPk ((sp, sc), (dp, dc), sq, da, th, ta) = .tuple #[.string ⟨(pkB ((sp, sc), (dp, dc), sq, da, th, ta)).toArray⟩, .int .i64 0] := by unfold encPk mayT; simp only [hM]; rfl
    rw [hR]
    obtain ⟨X, hX⟩ : ∃ X : ByteArray, (⟨(pkB ((sp, sc), (dp, dc), sq, da, th, ta)).toArray⟩ : ByteArray) = X := ⟨_, rfl⟩
    simp only [hX] at CP ⊢
    simp only [hM] at CM
    clear hR hM hX hbd
    go_enter Tryd.func34, Tryd.ntmps34
    go_upto_region 1 with fail
    refine wp_nameE _ (fun W1 hX => ?_)
    have hg : W1.heap[w.heap.size]? = some (.cells #[.string sp, .int .i64 sc, .string dp, .int .i64 dc, .int .i64 sq, .string da, .int .i64 th, .int .i64 ta] 45 (0, 0)) := by rw [hX]; exact hg0
    have hbel : Below w.heap.size w W1 := by rw [hX]; exact hbA
    clear hX hg0 hbA
    have hgB : w.heap.size < W1.heap.size := (Array.getElem?_eq_some_iff.1 hg).1
    have q0 := cell_heap hg 0; have q1 := cell_heap hg 1; have q2 := cell_heap hg 2; have q3 := cell_heap hg 3; have q4 := cell_heap hg 4; have q5 := cell_heap hg 5; have q6 := cell_heap hg 6; have q7 := cell_heap hg 7
    go_wp2_with (first | (go_at_call 31; refine (CM _).mono ?_; rintro e w1 ⟨rfl, hb⟩; have hbel := hbel.trans (hb.mono hbel.size); have hg := cells_of hg hb hgB; have q0 := cell_heap hg 0; have q1 := cell_heap hg 1; have q2 := cell_heap hg 2; have q3 := cell_heap hg 3; have q4 := cell_heap hg 4; have q5 := cell_heap hg 5; have q6 := cell_heap hg 6; have q7 := cell_heap hg 7; clear hb) | (go_at_call 68; refine (CP _).mono ?_; rintro e w2 ⟨rfl, hb⟩; have hbel := hbel.trans (hb.mono hbel.size); clear hb))
    go_returns
    exact ⟨rfl, hbel⟩
end Go.Proofs.YtfblbholkhdldaaDoor
