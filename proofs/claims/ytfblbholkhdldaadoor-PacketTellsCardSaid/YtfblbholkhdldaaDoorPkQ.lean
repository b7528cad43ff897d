/- The document's packets out of bytes. -/
import Derived.Test.YtfblbholkhdldaaDoorPkR
import Derived.Test.YtfblbholkhdldaaDoorReaderQK
import Derived.WalkKit
import Derived.ProofKit
import Derived.Handy
import Derived.Below
import Derived.Lib.Hide
import Derived.IntWalk
import Derived.Outline
import Derived.WalkLawsBesides
import Derived.WalkSpells
namespace Go.Proofs.YtfblbholkhdldaaDoor
open Go.RowKit
attribute [local go_sem] strV
set_option linter.unusedVariables false
theorem QAt.put8 {b g k : Nat} {w : World} {s : ByteArray} {A E : Int} (h : QAt b w s A E) (hne : g ≠ b) (x : Value) : QAt b (w.setCell ⟨g, k, none⟩ x) s A E := by
  unfold QAt at h ⊢
  rw [row_oth' w g k b x (Ne.symm hne)]; exact h
theorem QAt.setRow8 {b g : Nat} {w : World} {s : ByteArray} {A E : Int} (h : QAt b w s A E) (hne : g ≠ b) (cs : Array Value) : QAt b (w.setRow g cs) s A E := by
  unfold QAt at h ⊢
  rw [setRow_other w g b cs (Ne.symm hne)]; exact h
set_option maxRecDepth 100000 in
set_option maxHeartbeats 6400000 in
theorem rdPk_any (b : Nat) (w : World) (s : ByteArray) (at_ err : Int) (h : QAt b w s at_ err) (hs : s.size ≤ 1000000000) :
    Calls Tryd.prog 72 #[.pointer (some ⟨b, 0, none⟩)] w fun e w' => e = .returned (.agg #[.string (pkG s at_ err).sp, .int .i64 (pkG s at_ err).sc, .string (pkG s at_ err).dp, .int .i64 (pkG s at_ err).dc, .int .i64 (pkG s at_ err).sq, .string (pkG s at_ err).da, .int .i64 (pkG s at_ err).th, .int .i64 (pkG s at_ err).ta]) ∧ QAt b w' s (pkG s at_ err).a (pkG s at_ err).e ∧ Kept b w w' := by
  obtain ⟨⟨sp, a1, e1⟩, h1⟩ : ∃ t, textG s at_ err 12 = t := ⟨_, rfl⟩
  obtain ⟨⟨sc, a2, e2⟩, h2⟩ : ∃ t, numG s a1 e1 0 999 = t := ⟨_, rfl⟩
  obtain ⟨⟨dp, a3, e3⟩, h3⟩ : ∃ t, textG s a2 e2 12 = t := ⟨_, rfl⟩
  obtain ⟨⟨dc, a4, e4⟩, h4⟩ : ∃ t, numG s a3 e3 0 999 = t := ⟨_, rfl⟩
  obtain ⟨⟨sq, a5, e5⟩, h5⟩ : ∃ t, numG s a4 e4 1 1099511627776 = t := ⟨_, rfl⟩
  obtain ⟨⟨da, a6, e6⟩, h6⟩ : ∃ t, textG s a5 e5 200 = t := ⟨_, rfl⟩
  obtain ⟨⟨th, a7, e7⟩, h7⟩ : ∃ t, numG s a6 e6 0 1099511627776 = t := ⟨_, rfl⟩
  obtain ⟨⟨ta, a8, e8⟩, h8⟩ : ∃ t, numG s a7 e7 0 1099511627776 = t := ⟨_, rfl⟩
  have hE : pkG s at_ err = ⟨sp, sc, dp, dc, sq, da, th, ta, a8, e8⟩ := by unfold pkG endG; simp only [h1, h2, h3, h4, h5, h6, h7, h8]
  rw [hE]
  have C1 := fun W h => qtextK_all b W s at_ err 12 h hs
  have C2 := fun W h => qnumK_all b W s a1 e1 0 999 h hs
  have C3 := fun W h => qtextK_all b W s a2 e2 12 h hs
  have C4 := fun W h => qnumK_all b W s a3 e3 0 999 h hs
  have C5 := fun W h => qnumK_all b W s a4 e4 1 1099511627776 h hs
  have C6 := fun W h => qtextK_all b W s a5 e5 200 h hs
  have C7 := fun W h => qnumK_all b W s a6 e6 0 1099511627776 h hs
  have C8 := fun W h => qnumK_all b W s a7 e7 0 1099511627776 h hs
  simp only [h1] at C1
  simp only [h2] at C2
  simp only [h3] at C3
  simp only [h4] at C4
  simp only [h5] at C5
  simp only [h6] at C6
  simp only [h7] at C7
  simp only [h8] at C8
  clear h1 h2 h3 h4 h5 h6 h7 h8 hE
  have hlt := h.lt
  have hz0 := al2_0 w (.cells #[.string ⟨#[]⟩, .int .i64 0, .string ⟨#[]⟩, .int .i64 0, .int .i64 0, .string ⟨#[]⟩, .int .i64 0, .int .i64 0] 45) (.cells #[.string ⟨#[]⟩, .int .i64 0, .string ⟨#[]⟩, .int .i64 0, .int .i64 0, .string ⟨#[]⟩, .int .i64 0, .int .i64 0] 45)
  have hg0 := al2_1 w (.cells #[.string ⟨#[]⟩, .int .i64 0, .string ⟨#[]⟩, .int .i64 0, .int .i64 0, .string ⟨#[]⟩, .int .i64 0, .int .i64 0] 45) (.cells #[.string ⟨#[]⟩, .int .i64 0, .string ⟨#[]⟩, .int .i64 0, .int .i64 0, .string ⟨#[]⟩, .int .i64 0, .int .i64 0] 45)
  have hbA := al2_below w (.cells #[.string ⟨#[]⟩, .int .i64 0, .string ⟨#[]⟩, .int .i64 0, .int .i64 0, .string ⟨#[]⟩, .int .i64 0, .int .i64 0] 45) (.cells #[.string ⟨#[]⟩, .int .i64 0, .string ⟨#[]⟩, .int .i64 0, .int .i64 0, .string ⟨#[]⟩, .int .i64 0, .int .i64 0] 45)
  go_enter Tryd.func72, Tryd.ntmps72
  go_upto_region 2 with fail
  refine wp_nameE _ (fun W2 hW => ?_)
  have hZ := hz0
  have hG := hg0
  rw [← hW] at hZ hG
  have hb1 : Below w.heap.size w W2 := by rw [hW]; exact hbA
  have hR := h.below hb1 hlt
  have hK : Kept b w W2 := Kept.of hb1
  have hzb : w.heap.size ≠ b := by omega
  have hgb : w.heap.size + 1 ≠ b := by omega
  have hgz : w.heap.size + 1 ≠ w.heap.size := by omega
  clear hW hz0 hg0 hbA hb1 h
  have qk := cell_heap hG 0; have fk := frozen_heap hG 0
  go_upto_region 3 with (go_at_call 97; refine (C1 _ hR).mono ?_; rintro e w1 ⟨rfl, hR, hk⟩; have hG := hk.row5 hG hgb; have hZ := hk.row5 hZ hzb; have hK := hK.trans hk; have qk := cell_heap hG 0; have fk := frozen_heap hG 0)
  refine wp_nameE _ (fun W3 hW => ?_)
  have hR : QAt b W3 s a1 e1 := by rw [hW]; exact hR.put8 hgb _
  have hG : W3.heap[w.heap.size + 1]? = some (.cells #[.string sp, .int .i64 0, .string ⟨#[]⟩, .int .i64 0, .int .i64 0, .string ⟨#[]⟩, .int .i64 0, .int .i64 0] 45 (0, 0)) := by rw [hW]; exact row_put5 hG
  have hZ : W3.heap[w.heap.size]? = some (.cells #[.string ⟨#[]⟩, .int .i64 0, .string ⟨#[]⟩, .int .i64 0, .int .i64 0, .string ⟨#[]⟩, .int .i64 0, .int .i64 0] 45 (0, 0)) := by rw [hW]; exact row_oth hZ hgz
  have hK : Kept b w W3 := by rw [hW]; exact hK.setFar (Nat.le_succ _)
  clear hW qk fk
  have qk := cell_heap hG 1; have fk := frozen_heap hG 1
  go_upto_region 4 with (go_at_call 98; refine (C2 _ hR).mono ?_; rintro e w1 ⟨rfl, hR, hk⟩; have hG := hk.row5 hG hgb; have hZ := hk.row5 hZ hzb; have hK := hK.trans hk; have qk := cell_heap hG 1; have fk := frozen_heap hG 1)
  refine wp_nameE _ (fun W4 hW => ?_)
  have hR : QAt b W4 s a2 e2 := by rw [hW]; exact hR.put8 hgb _
  have hG : W4.heap[w.heap.size + 1]? = some (.cells #[.string sp, .int .i64 sc, .string ⟨#[]⟩, .int .i64 0, .int .i64 0, .string ⟨#[]⟩, .int .i64 0, .int .i64 0] 45 (0, 0)) := by rw [hW]; exact row_put5 hG
  have hZ : W4.heap[w.heap.size]? = some (.cells #[.string ⟨#[]⟩, .int .i64 0, .string ⟨#[]⟩, .int .i64 0, .int .i64 0, .string ⟨#[]⟩, .int .i64 0, .int .i64 0] 45 (0, 0)) := by rw [hW]; exact row_oth hZ hgz
  have hK : Kept b w W4 := by rw [hW]; exact hK.setFar (Nat.le_succ _)
  clear hW qk fk
  have qk := cell_heap hG 2; have fk := frozen_heap hG 2
  go_upto_region 5 with (go_at_call 97; refine (C3 _ hR).mono ?_; rintro e w1 ⟨rfl, hR, hk⟩; have hG := hk.row5 hG hgb; have hZ := hk.row5 hZ hzb; have hK := hK.trans hk; have qk := cell_heap hG 2; have fk := frozen_heap hG 2)
  refine wp_nameE _ (fun W5 hW => ?_)
  have hR : QAt b W5 s a3 e3 := by rw [hW]; exact hR.put8 hgb _
  have hG : W5.heap[w.heap.size + 1]? = some (.cells #[.string sp, .int .i64 sc, .string dp, .int .i64 0, .int .i64 0, .string ⟨#[]⟩, .int .i64 0, .int .i64 0] 45 (0, 0)) := by rw [hW]; exact row_put5 hG
  have hZ : W5.heap[w.heap.size]? = some (.cells #[.string ⟨#[]⟩, .int .i64 0, .string ⟨#[]⟩, .int .i64 0, .int .i64 0, .string ⟨#[]⟩, .int .i64 0, .int .i64 0] 45 (0, 0)) := by rw [hW]; exact row_oth hZ hgz
  have hK : Kept b w W5 := by rw [hW]; exact hK.setFar (Nat.le_succ _)
  clear hW qk fk
  have qk := cell_heap hG 3; have fk := frozen_heap hG 3
  go_upto_region 6 with (go_at_call 98; refine (C4 _ hR).mono ?_; rintro e w1 ⟨rfl, hR, hk⟩; have hG := hk.row5 hG hgb; have hZ := hk.row5 hZ hzb; have hK := hK.trans hk; have qk := cell_heap hG 3; have fk := frozen_heap hG 3)
  refine wp_nameE _ (fun W6 hW => ?_)
  have hR : QAt b W6 s a4 e4 := by rw [hW]; exact hR.put8 hgb _
  have hG : W6.heap[w.heap.size + 1]? = some (.cells #[.string sp, .int .i64 sc, .string dp, .int .i64 dc, .int .i64 0, .string ⟨#[]⟩, .int .i64 0, .int .i64 0] 45 (0, 0)) := by rw [hW]; exact row_put5 hG
  have hZ : W6.heap[w.heap.size]? = some (.cells #[.string ⟨#[]⟩, .int .i64 0, .string ⟨#[]⟩, .int .i64 0, .int .i64 0, .string ⟨#[]⟩, .int .i64 0, .int .i64 0] 45 (0, 0)) := by rw [hW]; exact row_oth hZ hgz
  have hK : Kept b w W6 := by rw [hW]; exact hK.setFar (Nat.le_succ _)
  clear hW qk fk
  have qk := cell_heap hG 4; have fk := frozen_heap hG 4
  go_upto_region 7 with (go_at_call 98; refine (C5 _ hR).mono ?_; rintro e w1 ⟨rfl, hR, hk⟩; have hG := hk.row5 hG hgb; have hZ := hk.row5 hZ hzb; have hK := hK.trans hk; have qk := cell_heap hG 4; have fk := frozen_heap hG 4)
  refine wp_nameE _ (fun W7 hW => ?_)
  have hR : QAt b W7 s a5 e5 := by rw [hW]; exact hR.put8 hgb _
  have hG : W7.heap[w.heap.size + 1]? = some (.cells #[.string sp, .int .i64 sc, .string dp, .int .i64 dc, .int .i64 sq, .string ⟨#[]⟩, .int .i64 0, .int .i64 0] 45 (0, 0)) := by rw [hW]; exact row_put5 hG
  have hZ : W7.heap[w.heap.size]? = some (.cells #[.string ⟨#[]⟩, .int .i64 0, .string ⟨#[]⟩, .int .i64 0, .int .i64 0, .string ⟨#[]⟩, .int .i64 0, .int .i64 0] 45 (0, 0)) := by rw [hW]; exact row_oth hZ hgz
  have hK : Kept b w W7 := by rw [hW]; exact hK.setFar (Nat.le_succ _)
  clear hW qk fk
  have qk := cell_heap hG 5; have fk := frozen_heap hG 5
  go_upto_region 8 with (go_at_call 97; refine (C6 _ hR).mono ?_; rintro e w1 ⟨rfl, hR, hk⟩; have hG := hk.row5 hG hgb; have hZ := hk.row5 hZ hzb; have hK := hK.trans hk; have qk := cell_heap hG 5; have fk := frozen_heap hG 5)
  refine wp_nameE _ (fun W8 hW => ?_)
  have hR : QAt b W8 s a6 e6 := by rw [hW]; exact hR.put8 hgb _
  have hG : W8.heap[w.heap.size + 1]? = some (.cells #[.string sp, .int .i64 sc, .string dp, .int .i64 dc, .int .i64 sq, .string da, .int .i64 0, .int .i64 0] 45 (0, 0)) := by rw [hW]; exact row_put5 hG
  have hZ : W8.heap[w.heap.size]? = some (.cells #[.string ⟨#[]⟩, .int .i64 0, .string ⟨#[]⟩, .int .i64 0, .int .i64 0, .string ⟨#[]⟩, .int .i64 0, .int .i64 0] 45 (0, 0)) := by rw [hW]; exact row_oth hZ hgz
  have hK : Kept b w W8 := by rw [hW]; exact hK.setFar (Nat.le_succ _)
  clear hW qk fk
  have qk := cell_heap hG 6; have fk := frozen_heap hG 6
  go_upto_region 9 with (go_at_call 98; refine (C7 _ hR).mono ?_; rintro e w1 ⟨rfl, hR, hk⟩; have hG := hk.row5 hG hgb; have hZ := hk.row5 hZ hzb; have hK := hK.trans hk; have qk := cell_heap hG 6; have fk := frozen_heap hG 6)
  refine wp_nameE _ (fun W9 hW => ?_)
  have hR : QAt b W9 s a7 e7 := by rw [hW]; exact hR.put8 hgb _
  have hG : W9.heap[w.heap.size + 1]? = some (.cells #[.string sp, .int .i64 sc, .string dp, .int .i64 dc, .int .i64 sq, .string da, .int .i64 th, .int .i64 0] 45 (0, 0)) := by rw [hW]; exact row_put5 hG
  have hZ : W9.heap[w.heap.size]? = some (.cells #[.string ⟨#[]⟩, .int .i64 0, .string ⟨#[]⟩, .int .i64 0, .int .i64 0, .string ⟨#[]⟩, .int .i64 0, .int .i64 0] 45 (0, 0)) := by rw [hW]; exact row_oth hZ hgz
  have hK : Kept b w W9 := by rw [hW]; exact hK.setFar (Nat.le_succ _)
  clear hW qk fk
  have qk := cell_heap hG 7; have fk := frozen_heap hG 7
  go_upto_region 10 with (go_at_call 98; refine (C8 _ hR).mono ?_; rintro e w1 ⟨rfl, hR, hk⟩; have hG := hk.row5 hG hgb; have hZ := hk.row5 hZ hzb; have hK := hK.trans hk; have qk := cell_heap hG 7; have fk := frozen_heap hG 7)
  refine wp_nameE _ (fun W10 hW => ?_)
  have hR : QAt b W10 s a8 e8 := by rw [hW]; exact hR.put8 hgb _
  have hG : W10.heap[w.heap.size + 1]? = some (.cells #[.string sp, .int .i64 sc, .string dp, .int .i64 dc, .int .i64 sq, .string da, .int .i64 th, .int .i64 ta] 45 (0, 0)) := by rw [hW]; exact row_put5 hG
  have hZ : W10.heap[w.heap.size]? = some (.cells #[.string ⟨#[]⟩, .int .i64 0, .string ⟨#[]⟩, .int .i64 0, .int .i64 0, .string ⟨#[]⟩, .int .i64 0, .int .i64 0] 45 (0, 0)) := by rw [hW]; exact row_oth hZ hgz
  have hK : Kept b w W10 := by rw [hW]; exact hK.setFar (Nat.le_succ _)
  clear hW qk fk
  have q0 := cell_heap hG 0; have q1 := cell_heap hG 1; have q2 := cell_heap hG 2; have q3 := cell_heap hG 3; have q4 := cell_heap hG 4; have q5 := cell_heap hG 5; have q6 := cell_heap hG 6; have q7 := cell_heap hG 7
  go_wp2_with (refine wpList_storeRowTo rfl (.tmp 2) (.tmp 32) 45 rfl (by kernel_rfl) rfl rfl hZ rfl (Pk.row_one8 _ _ _ _ _ _ _ _) ?_)
  have hZ2 : (World.setRow _ w.heap.size #[.string sp, .int .i64 sc, .string dp, .int .i64 dc, .int .i64 sq, .string da, .int .i64 th, .int .i64 ta]).heap[w.heap.size]? = some (.cells #[.string sp, .int .i64 sc, .string dp, .int .i64 dc, .int .i64 sq, .string da, .int .i64 th, .int .i64 ta] 45 (0, 0)) := setRow_heap _ _ _ _ _ _ hZ
  have hrd := run_loadVar_mid (P := Tryd.prog) _ w.heap.size 0 45 (#[.string sp, .int .i64 sc, .string dp, .int .i64 dc, .int .i64 sq, .string da, .int .i64 th, .int .i64 ta] : Array Value).toList _ (rangeAt_row5 hZ2) Tryd.underlying45 rfl (by kernel_rfl)
  refine bodyPost_ret (v := .agg #[.string sp, .int .i64 sc, .string dp, .int .i64 dc, .int .i64 sq, .string da, .int .i64 th, .int .i64 ta]) ?_ rfl ?_
  · simp [results, Tryd.results72, asAddr]
    exact hrd
  exact ⟨rfl, hR.setRow8 hzb _, hK.setRow (Nat.le_refl _) _⟩
set_option maxRecDepth 100000 in
set_option maxHeartbeats 6400000 in
theorem refDecodePk_any (v : ByteArray) (w : World) (hv : v.size ≤ 1000000000) :
    Calls Tryd.prog 36 #[.string v] w fun e w' => e = .returned (.tuple #[.agg (decPk v).1.row, .int .i64 (decPk v).2]) ∧ Below w.heap.size w w' := by
  have hsz := pkG_size v 0 0
  have CP := fun b W h => rdPk_any b W v 0 0 h hv
  obtain ⟨⟨sp, sc, dp, dc, sq, da, th, ta, a6, e6⟩, hX⟩ : ∃ t, pkG v 0 0 = t := ⟨_, rfl⟩
  rw [hX] at hsz
  simp only [hX] at CP
  simp only at hsz
  have CM := fun W => refMayPk_any sp sc dp dc sq da th ta W (by unfold maxLen; omega) (by unfold maxLen; omega)
  have C9 := fun b W h => qend_any b W v a6 e6 h
  obtain ⟨E9, h9⟩ : ∃ t, endF v a6 e6 = t := ⟨_, rfl⟩
  simp only [h9] at C9
  have hD : decPk v = if E9 = 0 then (bif mayK sp sc dp dc sq da th ta then (((sp, sc), (dp, dc), sq, da, th, ta), 0) else (PkT.zero, 1)) else (PkT.zero, E9) := by
    unfold decPk decP
    rw [pkP_eq, hX]
    simp only [h9]
    rfl
  have HD := Lib.hid hD
  clear hD hsz hX h9
  have hz0 := al2_0 w (.cells #[.string ⟨#[]⟩, .int .i64 0, .string ⟨#[]⟩, .int .i64 0, .int .i64 0, .string ⟨#[]⟩, .int .i64 0, .int .i64 0] 45) (.cells #[.string v, .int .i64 0, .int .i64 0] 103)
  have hr0 := al2_1 w (.cells #[.string ⟨#[]⟩, .int .i64 0, .string ⟨#[]⟩, .int .i64 0, .int .i64 0, .string ⟨#[]⟩, .int .i64 0, .int .i64 0] 45) (.cells #[.string v, .int .i64 0, .int .i64 0] 103)
  have hbA := al2_below w (.cells #[.string ⟨#[]⟩, .int .i64 0, .string ⟨#[]⟩, .int .i64 0, .int .i64 0, .string ⟨#[]⟩, .int .i64 0, .int .i64 0] 45) (.cells #[.string v, .int .i64 0, .int .i64 0] 103)
  go_enter Tryd.func36, Tryd.ntmps36
  go_upto_region 2 with fail
  refine wp_nameE _ (fun wb hwb => ?_)
  have hZ : wb.heap[w.heap.size]? = some (.cells #[.string ⟨#[]⟩, .int .i64 0, .string ⟨#[]⟩, .int .i64 0, .int .i64 0, .string ⟨#[]⟩, .int .i64 0, .int .i64 0] 45 (0, 0)) := by rw [hwb]; exact hz0
  have hR : QAt (w.heap.size + 1) wb v 0 0 := by rw [hwb]; unfold QAt; exact hr0
  have hbel : Below w.heap.size w wb := by rw [hwb]; exact hbA
  have hzb : w.heap.size ≠ w.heap.size + 1 := by omega
  clear hz0 hr0 hbA hwb
  go_upto_region 3 with (go_at_call 72; refine (CP _ _ hR).mono ?_; rintro e w1 ⟨rfl, hR, hk⟩; have hZ := hk.row5 hZ hzb; have hbel := hbel.trans (hk.below (Nat.le_succ _) hbel.size))
  refine wp_nameE _ (fun W3 hW3 => ?_)
  have hba : Below w1.heap.size w1 W3 := by rw [hW3]; exact Below.alloc (Below.refl _ _) (Nat.le_refl _) _
  have hG : W3.heap[w1.heap.size]? = some (.cells #[.string sp, .int .i64 sc, .string dp, .int .i64 dc, .int .i64 sq, .string da, .int .i64 th, .int .i64 ta] 45 (0, 0)) := by
    rw [hW3]; exact heap_push _ _ _
  have hZ := cells_of hZ hba (by have := hR.lt; omega)
  have hR := hR.below hba hR.lt
  have hbel := hbel.trans (hba.mono hbel.size)
  clear hW3 hba
  have q0 := cell_heap hG 0; have q1 := cell_heap hG 1; have q2 := cell_heap hG 2; have q3 := cell_heap hG 3; have q4 := cell_heap hG 4; have q5 := cell_heap hG 5; have q6 := cell_heap hG 6; have q7 := cell_heap hG 7
  have hgl : w1.heap.size < W3.heap.size := (Array.getElem?_eq_some_iff.1 hG).1
  have hzl : w.heap.size < W3.heap.size := (Array.getElem?_eq_some_iff.1 hZ).1
  by_cases hE : E9 = 0
  · subst hE
    cases hM : mayK sp sc dp dc sq da th ta
    · simp only [hM] at CM
      go_upto_region 7 with (first | (go_at_call 73; refine (C9 _ _ hR).mono ?_; rintro e w9 ⟨rfl, hb9⟩; have hG := cells_of hG hb9 hgl; have hZ := cells_of hZ hb9 hzl; have hbel := hbel.trans (hb9.mono hbel.size); have hgl := Nat.lt_of_lt_of_le hgl hb9.size; have hzl := Nat.lt_of_lt_of_le hzl hb9.size; have q0 := cell_heap hG 0; have q1 := cell_heap hG 1; have q2 := cell_heap hG 2; have q3 := cell_heap hG 3; have q4 := cell_heap hG 4; have q5 := cell_heap hG 5; have q6 := cell_heap hG 6; have q7 := cell_heap hG 7) | (go_at_call 31; refine (CM _).mono ?_; rintro e w10 ⟨rfl, hb10⟩; have hG := cells_of hG hb10 hgl; have hZ := cells_of hZ hb10 hzl; have hbel := hbel.trans (hb10.mono hbel.size); have q0 := cell_heap hG 0; have q1 := cell_heap hG 1; have q2 := cell_heap hG 2; have q3 := cell_heap hG 3; have q4 := cell_heap hG 4; have q5 := cell_heap hG 5; have q6 := cell_heap hG 6; have q7 := cell_heap hG 7))
      go_wp2_with (refine wpList_storeRowTo rfl (.tmp 2) (.tmp 23) 45 rfl (by kernel_rfl) rfl rfl hZ rfl (Pk.row_one8 _ _ _ _ _ _ _ _) ?_)
      have hZ : (World.setRow _ w.heap.size #[.string ⟨#[]⟩, .int .i64 0, .string ⟨#[]⟩, .int .i64 0, .int .i64 0, .string ⟨#[]⟩, .int .i64 0, .int .i64 0]).heap[w.heap.size]? = some (.cells #[.string ⟨#[]⟩, .int .i64 0, .string ⟨#[]⟩, .int .i64 0, .int .i64 0, .string ⟨#[]⟩, .int .i64 0, .int .i64 0] 45 (0, 0)) := setRow_heap _ _ _ _ _ _ hZ
      have hrd := run_loadVar_mid (P := Tryd.prog) _ w.heap.size 0 45 (#[.string ⟨#[]⟩, .int .i64 0, .string ⟨#[]⟩, .int .i64 0, .int .i64 0, .string ⟨#[]⟩, .int .i64 0, .int .i64 0] : Array Value).toList _ (rangeAt_row5 hZ) Tryd.underlying45 rfl (by kernel_rfl)
      refine bodyPost_ret (v := .tuple #[.agg #[.string ⟨#[]⟩, .int .i64 0, .string ⟨#[]⟩, .int .i64 0, .int .i64 0, .string ⟨#[]⟩, .int .i64 0, .int .i64 0], .int .i64 1]) ?_ rfl ?_
      · simp [results, Tryd.results36, asAddr, hrd]
        try rfl
      exact ⟨by rw [HD.out]; rw [if_pos trivial, hM]; rfl, below_setRow hbel (Nat.le_refl _) _⟩
    · simp only [hM] at CM
      go_upto_region 8 with (first | (go_at_call 73; refine (C9 _ _ hR).mono ?_; rintro e w9 ⟨rfl, hb9⟩; have hG := cells_of hG hb9 hgl; have hZ := cells_of hZ hb9 hzl; have hbel := hbel.trans (hb9.mono hbel.size); have hgl := Nat.lt_of_lt_of_le hgl hb9.size; have hzl := Nat.lt_of_lt_of_le hzl hb9.size; have q0 := cell_heap hG 0; have q1 := cell_heap hG 1; have q2 := cell_heap hG 2; have q3 := cell_heap hG 3; have q4 := cell_heap hG 4; have q5 := cell_heap hG 5; have q6 := cell_heap hG 6; have q7 := cell_heap hG 7) | (go_at_call 31; refine (CM _).mono ?_; rintro e w10 ⟨rfl, hb10⟩; have hG := cells_of hG hb10 hgl; have hZ := cells_of hZ hb10 hzl; have hbel := hbel.trans (hb10.mono hbel.size); have q0 := cell_heap hG 0; have q1 := cell_heap hG 1; have q2 := cell_heap hG 2; have q3 := cell_heap hG 3; have q4 := cell_heap hG 4; have q5 := cell_heap hG 5; have q6 := cell_heap hG 6; have q7 := cell_heap hG 7))
      go_wp2_with (refine wpList_storeRowTo rfl (.tmp 2) (.tmp 25) 45 rfl (by kernel_rfl) rfl rfl hZ rfl (Pk.row_one8 _ _ _ _ _ _ _ _) ?_)
      have hZ : (World.setRow _ w.heap.size #[.string sp, .int .i64 sc, .string dp, .int .i64 dc, .int .i64 sq, .string da, .int .i64 th, .int .i64 ta]).heap[w.heap.size]? = some (.cells #[.string sp, .int .i64 sc, .string dp, .int .i64 dc, .int .i64 sq, .string da, .int .i64 th, .int .i64 ta] 45 (0, 0)) := setRow_heap _ _ _ _ _ _ hZ
      have hrd := run_loadVar_mid (P := Tryd.prog) _ w.heap.size 0 45 (#[.string sp, .int .i64 sc, .string dp, .int .i64 dc, .int .i64 sq, .string da, .int .i64 th, .int .i64 ta] : Array Value).toList _ (rangeAt_row5 hZ) Tryd.underlying45 rfl (by kernel_rfl)
      refine bodyPost_ret (v := .tuple #[.agg #[.string sp, .int .i64 sc, .string dp, .int .i64 dc, .int .i64 sq, .string da, .int .i64 th, .int .i64 ta], .int .i64 0]) ?_ rfl ?_
      · simp [results, Tryd.results36, asAddr, hrd]
        try rfl
      exact ⟨by rw [HD.out]; rw [if_pos trivial, hM]; rfl, below_setRow hbel (Nat.le_refl _) _⟩
  · have hE0 : (E9 == 0) = false := beq_eq_false_iff_ne.2 hE
    go_upto_region 7 with (first | (go_at_call 73; refine (C9 _ _ hR).mono ?_; rintro e w9 ⟨rfl, hb9⟩; have hG := cells_of hG hb9 hgl; have hZ := cells_of hZ hb9 hzl; have hbel := hbel.trans (hb9.mono hbel.size); have hgl := Nat.lt_of_lt_of_le hgl hb9.size; have hzl := Nat.lt_of_lt_of_le hzl hb9.size; have q0 := cell_heap hG 0; have q1 := cell_heap hG 1; have q2 := cell_heap hG 2; have q3 := cell_heap hG 3; have q4 := cell_heap hG 4; have q5 := cell_heap hG 5; have q6 := cell_heap hG 6; have q7 := cell_heap hG 7))
    go_wp2_with (refine wpList_storeRowTo rfl (.tmp 2) (.tmp 23) 45 rfl (by kernel_rfl) rfl rfl hZ rfl (Pk.row_one8 _ _ _ _ _ _ _ _) ?_)
    have hZ : (World.setRow _ w.heap.size #[.string ⟨#[]⟩, .int .i64 0, .string ⟨#[]⟩, .int .i64 0, .int .i64 0, .string ⟨#[]⟩, .int .i64 0, .int .i64 0]).heap[w.heap.size]? = some (.cells #[.string ⟨#[]⟩, .int .i64 0, .string ⟨#[]⟩, .int .i64 0, .int .i64 0, .string ⟨#[]⟩, .int .i64 0, .int .i64 0] 45 (0, 0)) := setRow_heap _ _ _ _ _ _ hZ
    have hrd := run_loadVar_mid (P := Tryd.prog) _ w.heap.size 0 45 (#[.string ⟨#[]⟩, .int .i64 0, .string ⟨#[]⟩, .int .i64 0, .int .i64 0, .string ⟨#[]⟩, .int .i64 0, .int .i64 0] : Array Value).toList _ (rangeAt_row5 hZ) Tryd.underlying45 rfl (by kernel_rfl)
    refine bodyPost_ret (v := .tuple #[.agg #[.string ⟨#[]⟩, .int .i64 0, .string ⟨#[]⟩, .int .i64 0, .int .i64 0, .string ⟨#[]⟩, .int .i64 0, .int .i64 0], .int .i64 E9]) ?_ rfl ?_
    · simp [results, Tryd.results36, asAddr, hrd]
      try rfl
    exact ⟨by rw [HD.out]; rw [if_neg hE]; rfl, below_setRow hbel (Nat.le_refl _) _⟩
end Go.Proofs.YtfblbholkhdldaaDoor
