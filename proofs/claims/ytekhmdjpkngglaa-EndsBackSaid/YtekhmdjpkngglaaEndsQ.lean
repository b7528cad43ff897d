/- States of ends out of bytes: the document. -/
import Derived.Test.YtekhmdjpkngglaaEndsD
import Derived.Test.YtekhmdjpkngglaaReaderQK
import Derived.Deep.MidRow
import Derived.Deep.Cut
import Derived.WalkKit
import Derived.ProofKit
import Derived.Handy
import Derived.Below
import Derived.BigQuiet
import Derived.Lib.Hide
import Derived.IntWalk
import Derived.Outline
import Derived.WalkLawsBesides
import Derived.WalkSpells
namespace Go.Proofs.Ytekhmdjpkngglaa
open Go.RowKit
attribute [local go_sem] strV
theorem QAt.put {b g k : Nat} {w : World} {s : ByteArray} {A E : Int} (h : QAt b w s A E) (hne : g ≠ b) (x : Value) : QAt b (w.setCell ⟨g, k, none⟩ x) s A E := by
  unfold QAt at h ⊢
  show (w.heap.modify g _)[b]? = _
  rw [Array.getElem?_modify, if_neg hne]; exact h
set_option maxRecDepth 100000 in
set_option maxHeartbeats 3200000 in
theorem refDecode_any (v : ByteArray) (w : World) (hv : v.size ≤ 1000000000) :
    Calls Try.prog 19 #[.string v] w fun e w' => e = .returned (.tuple #[(decS v).1.val, .int .i64 (decS v).2]) ∧ Below w.heap.size w w' := by
  obtain ⟨⟨r1, a1, e1⟩, h1⟩ : ∃ t, numG v 0 0 0 1 = t := ⟨_, rfl⟩
  obtain ⟨⟨r2, a2, e2⟩, h2⟩ : ∃ t, numG v a1 e1 0 1 = t := ⟨_, rfl⟩
  obtain ⟨⟨r3, a3, e3⟩, h3⟩ : ∃ t, textG v a2 e2 12 = t := ⟨_, rfl⟩
  obtain ⟨⟨r4, a4, e4⟩, h4⟩ : ∃ t, numG v a3 e3 0 999 = t := ⟨_, rfl⟩
  obtain ⟨⟨r5, a5, e5⟩, h5⟩ : ∃ t, numG v a4 e4 0 1099511627777 = t := ⟨_, rfl⟩
  obtain ⟨E9, h9⟩ : ∃ t, endF v a5 e5 = t := ⟨_, rfl⟩
  have hD : decS v = if E9 = 0 then (bif mayS ⟨r3, r4, r2 == 1, r1 == 1, r5⟩ then (⟨r3, r4, r2 == 1, r1 == 1, r5⟩, 0) else (St.zero, 1)) else (St.zero, E9) := by
    unfold decS five Five.state
    simp only [h1, h2, h3, h4, h5, h9]
  have hr3 : r3.size ≤ maxLen := by
    have := textG_size v a2 e2 12
    rw [h3] at this
    simp only at this
    unfold maxLen; omega
  have CM := fun W => refMayS_any r3 r4 (r2 == 1) (r1 == 1) r5 W hr3
  have C1 := fun b W h => qnumK_all b W v 0 0 0 1 h hv
  have C2 := fun b W h => qnumK_all b W v a1 e1 0 1 h hv
  have C3 := fun b W h => qtextK_all b W v a2 e2 12 h hv
  have C4 := fun b W h => qnumK_all b W v a3 e3 0 999 h hv
  have C5 := fun b W h => qnumK_all b W v a4 e4 0 1099511627777 h hv
  have C9 := fun b W h => qend_any b W v a5 e5 h
  simp only [h1] at C1
  simp only [h2] at C2
  simp only [h3] at C3
  simp only [h4] at C4
  simp only [h5] at C5
  simp only [h9] at C9
  clear h1 h2 h3 h4 h5 h9
  obtain ⟨o1, ho1⟩ : ∃ t, (r1 == 1) = t := ⟨_, rfl⟩
  obtain ⟨o2, ho2⟩ : ∃ t, (r2 == 1) = t := ⟨_, rfl⟩
  rw [ho1, ho2] at hD CM
  have HD := Lib.hid hD
  clear hD hr3
  go_enter Try.func19, Try.ntmps19
  go_upto_region 2 with fail
  refine wp_nameE _ (fun wb hwb => ?_)
  have hz0 : (w.alloc (.cells #[.string ⟨#[]⟩, .int .i64 0, .bool false, .bool false, .int .i64 0] 46)).heap[w.heap.size]? = some (.cells #[.string ⟨#[]⟩, .int .i64 0, .bool false, .bool false, .int .i64 0] 46 (0, 0)) := by
    show (w.heap.push _)[w.heap.size]? = _
    rw [Array.getElem?_push_size]
  have hbs : (w.alloc (.cells #[.string ⟨#[]⟩, .int .i64 0, .bool false, .bool false, .int .i64 0] 46)).heap.size = w.heap.size + 1 := by simp
  have hbb : Below (w.heap.size + 1) (w.alloc (.cells #[.string ⟨#[]⟩, .int .i64 0, .bool false, .bool false, .int .i64 0] 46)) wb := by rw [hwb]; exact Below.alloc (Below.refl _ _) (by simp) _
  have hZ := cells_of hz0 hbb (by omega)
  have hR : QAt (w.heap.size + 1) wb v 0 0 := by
    rw [hwb]; unfold QAt
    show ((w.heap.push _).push _)[w.heap.size + 1]? = _
    rw [show w.heap.size + 1 = (w.heap.push (Obj.cells #[.string ⟨#[]⟩, .int .i64 0, .bool false, .bool false, .int .i64 0] 46 (0, 0))).size by simp, Array.getElem?_push_size]
  have hbel : Below w.heap.size w wb := (Below.alloc (Below.refl _ _) (Nat.le_refl _) _).trans (hbb.mono (by omega))
  have hzb : w.heap.size ≠ w.heap.size + 1 := by omega
  clear hz0 hbb hbs hwb
  go_upto_region 3 with (go_at_call 41; refine (C1 _ _ hR).mono ?_; rintro e w1 ⟨rfl, hR, hk⟩; have hZ := hk.row5 hZ hzb; have hbel := hbel.trans (hk.below (Nat.le_succ _) hbel.size))
  refine wp_nameE _ (fun W3 hW3 => ?_)
  have hba : Below w1.heap.size w1 W3 := by rw [hW3]; exact Below.alloc (Below.refl _ _) (Nat.le_refl _) _
  have hG : W3.heap[w1.heap.size]? = some (.cells #[.string ⟨#[]⟩, .int .i64 0, .bool false, .bool o1, .int .i64 0] 46 (0, 0)) := by
    rw [hW3]; show (w1.heap.push _)[w1.heap.size]? = _; rw [Array.getElem?_push_size]
  have hgb : w1.heap.size ≠ w.heap.size + 1 := by have := hR.lt; omega
  have hgz : w1.heap.size ≠ w.heap.size := by have := hR.lt; omega
  have hgw : w.heap.size ≤ w1.heap.size := hbel.size
  have hZ := cells_of hZ hba (by have := hR.lt; omega)
  have hR := hR.below hba hR.lt
  have hbel := hbel.trans (hba.mono hgw)
  clear hW3 hba
  have qk : W3.cell? ⟨w1.heap.size, 2, none⟩ = some (.bool false) := cell_heap hG 2
  have fk : W3.frozen? ⟨w1.heap.size, 2, none⟩ = false := frozen_heap hG 2
  go_upto_region 4 with (go_at_call 41; refine (C2 _ _ hR).mono ?_; rintro e w2 ⟨rfl, hR, hk⟩; have hG := hk.row5 hG hgb; have hZ := hk.row5 hZ hzb; have hbel := hbel.trans (hk.below (Nat.le_succ _) hbel.size); have qk := cell_heap hG 2; have fk := frozen_heap hG 2)
  refine wp_nameE _ (fun W4 hW => ?_)
  have hR : QAt (w.heap.size + 1) W4 v a2 e2 := by rw [hW]; exact hR.put hgb _
  have hG : W4.heap[w1.heap.size]? = some (.cells #[.string ⟨#[]⟩, .int .i64 0, .bool o2, .bool o1, .int .i64 0] 46 (0, 0)) := by rw [hW]; exact row_put5 hG
  have hZ : W4.heap[w.heap.size]? = some (.cells #[.string ⟨#[]⟩, .int .i64 0, .bool false, .bool false, .int .i64 0] 46 (0, 0)) := by rw [hW]; exact row_oth hZ hgz
  have hbel : Below w.heap.size w W4 := by rw [hW]; exact hbel.setCell (p := ⟨w1.heap.size, 2, none⟩) hgw _
  clear hW qk fk
  have qk : W4.cell? ⟨w1.heap.size, 0, none⟩ = some (.string ⟨#[]⟩) := cell_heap hG 0
  have fk : W4.frozen? ⟨w1.heap.size, 0, none⟩ = false := frozen_heap hG 0
  go_upto_region 5 with (go_at_call 42; refine (C3 _ _ hR).mono ?_; rintro e w2 ⟨rfl, hR, hk⟩; have hG := hk.row5 hG hgb; have hZ := hk.row5 hZ hzb; have hbel := hbel.trans (hk.below (Nat.le_succ _) hbel.size); have qk := cell_heap hG 0; have fk := frozen_heap hG 0)
  refine wp_nameE _ (fun W5 hW => ?_)
  have hR : QAt (w.heap.size + 1) W5 v a3 e3 := by rw [hW]; exact hR.put hgb _
  have hG : W5.heap[w1.heap.size]? = some (.cells #[.string r3, .int .i64 0, .bool o2, .bool o1, .int .i64 0] 46 (0, 0)) := by rw [hW]; exact row_put5 hG
  have hZ : W5.heap[w.heap.size]? = some (.cells #[.string ⟨#[]⟩, .int .i64 0, .bool false, .bool false, .int .i64 0] 46 (0, 0)) := by rw [hW]; exact row_oth hZ hgz
  have hbel : Below w.heap.size w W5 := by rw [hW]; exact hbel.setCell (p := ⟨w1.heap.size, 0, none⟩) hgw _
  clear hW qk fk
  have qk : W5.cell? ⟨w1.heap.size, 1, none⟩ = some (.int .i64 0) := cell_heap hG 1
  have fk : W5.frozen? ⟨w1.heap.size, 1, none⟩ = false := frozen_heap hG 1
  go_upto_region 6 with (go_at_call 41; refine (C4 _ _ hR).mono ?_; rintro e w2 ⟨rfl, hR, hk⟩; have hG := hk.row5 hG hgb; have hZ := hk.row5 hZ hzb; have hbel := hbel.trans (hk.below (Nat.le_succ _) hbel.size); have qk := cell_heap hG 1; have fk := frozen_heap hG 1)
  refine wp_nameE _ (fun W6 hW => ?_)
  have hR : QAt (w.heap.size + 1) W6 v a4 e4 := by rw [hW]; exact hR.put hgb _
  have hG : W6.heap[w1.heap.size]? = some (.cells #[.string r3, .int .i64 r4, .bool o2, .bool o1, .int .i64 0] 46 (0, 0)) := by rw [hW]; exact row_put5 hG
  have hZ : W6.heap[w.heap.size]? = some (.cells #[.string ⟨#[]⟩, .int .i64 0, .bool false, .bool false, .int .i64 0] 46 (0, 0)) := by rw [hW]; exact row_oth hZ hgz
  have hbel : Below w.heap.size w W6 := by rw [hW]; exact hbel.setCell (p := ⟨w1.heap.size, 1, none⟩) hgw _
  clear hW qk fk
  have qk : W6.cell? ⟨w1.heap.size, 4, none⟩ = some (.int .i64 0) := cell_heap hG 4
  have fk : W6.frozen? ⟨w1.heap.size, 4, none⟩ = false := frozen_heap hG 4
  go_upto_region 7 with (go_at_call 41; refine (C5 _ _ hR).mono ?_; rintro e w2 ⟨rfl, hR, hk⟩; have hG := hk.row5 hG hgb; have hZ := hk.row5 hZ hzb; have hbel := hbel.trans (hk.below (Nat.le_succ _) hbel.size); have qk := cell_heap hG 4; have fk := frozen_heap hG 4)
  refine wp_nameE _ (fun W7 hW => ?_)
  have hR : QAt (w.heap.size + 1) W7 v a5 e5 := by rw [hW]; exact hR.put hgb _
  have hG : W7.heap[w1.heap.size]? = some (.cells #[.string r3, .int .i64 r4, .bool o2, .bool o1, .int .i64 r5] 46 (0, 0)) := by rw [hW]; exact row_put5 hG
  have hZ : W7.heap[w.heap.size]? = some (.cells #[.string ⟨#[]⟩, .int .i64 0, .bool false, .bool false, .int .i64 0] 46 (0, 0)) := by rw [hW]; exact row_oth hZ hgz
  have hbel : Below w.heap.size w W7 := by rw [hW]; exact hbel.setCell (p := ⟨w1.heap.size, 4, none⟩) hgw _
  clear hW qk fk
  have q0 := cell_heap hG 0; have q1 := cell_heap hG 1; have q2 := cell_heap hG 2; have q3 := cell_heap hG 3; have q4 := cell_heap hG 4
  have hgl : w1.heap.size < W7.heap.size := (Array.getElem?_eq_some_iff.1 hG).1
  have hzl : w.heap.size < W7.heap.size := (Array.getElem?_eq_some_iff.1 hZ).1
  by_cases hE : E9 = 0
  · subst hE
    cases hM : mayS ⟨r3, r4, o2, o1, r5⟩
    · simp only [hM] at CM
      go_upto_region 11 with (first | (go_at_call 43; refine (C9 _ _ hR).mono ?_; rintro e w9 ⟨rfl, hb9⟩; have hG := cells_of hG hb9 hgl; have hZ := cells_of hZ hb9 hzl; have hbel := hbel.trans (hb9.mono hbel.size); have q0 := cell_heap hG 0; have q1 := cell_heap hG 1; have q2 := cell_heap hG 2; have q3 := cell_heap hG 3; have q4 := cell_heap hG 4) | (go_at_call 21; refine (CM _).mono ?_; rintro e w10 ⟨rfl, hb10⟩; have hG := cells_of hG hb10 (Nat.lt_of_lt_of_le hgl hb9.size); have hZ := cells_of hZ hb10 (Nat.lt_of_lt_of_le hzl hb9.size); have hbel := hbel.trans (hb10.mono hbel.size); have q0 := cell_heap hG 0; have q1 := cell_heap hG 1; have q2 := cell_heap hG 2; have q3 := cell_heap hG 3; have q4 := cell_heap hG 4))
      go_wp2_with (refine wpList_storeRowTo rfl (.tmp 2) (.tmp 40) 46 rfl (by kernel_rfl) rfl rfl hZ rfl (St.row_one _ _ _ _ _) ?_)
      have hZ : (World.setRow _ w.heap.size #[.string ⟨#[]⟩, .int .i64 0, .bool false, .bool false, .int .i64 0]).heap[w.heap.size]? = some (.cells #[.string ⟨#[]⟩, .int .i64 0, .bool false, .bool false, .int .i64 0] 46 (0, 0)) := setRow_heap _ _ _ _ _ _ hZ
      have hrd := run_loadVar_mid (P := Try.prog) _ w.heap.size 0 46 (#[.string ⟨#[]⟩, .int .i64 0, .bool false, .bool false, .int .i64 0] : Array Value).toList _ (rangeAt_row5 hZ) Try.underlying46 rfl (by kernel_rfl)
      
      refine bodyPost_ret (v := .tuple #[.agg #[.string ⟨#[]⟩, .int .i64 0, .bool false, .bool false, .int .i64 0], .int .i64 1]) ?_ rfl ?_
      · simp [results, Try.results19, asAddr, hrd]
        try rfl
      exact ⟨by rw [HD.out]; rw [if_pos trivial, hM]; rfl, below_setRow hbel (Nat.le_refl _) _⟩
    · simp only [hM] at CM
      go_upto_region 12 with (first | (go_at_call 43; refine (C9 _ _ hR).mono ?_; rintro e w9 ⟨rfl, hb9⟩; have hG := cells_of hG hb9 hgl; have hZ := cells_of hZ hb9 hzl; have hbel := hbel.trans (hb9.mono hbel.size); have q0 := cell_heap hG 0; have q1 := cell_heap hG 1; have q2 := cell_heap hG 2; have q3 := cell_heap hG 3; have q4 := cell_heap hG 4) | (go_at_call 21; refine (CM _).mono ?_; rintro e w10 ⟨rfl, hb10⟩; have hG := cells_of hG hb10 (Nat.lt_of_lt_of_le hgl hb9.size); have hZ := cells_of hZ hb10 (Nat.lt_of_lt_of_le hzl hb9.size); have hbel := hbel.trans (hb10.mono hbel.size); have q0 := cell_heap hG 0; have q1 := cell_heap hG 1; have q2 := cell_heap hG 2; have q3 := cell_heap hG 3; have q4 := cell_heap hG 4))
      go_wp2_with (refine wpList_storeRowTo rfl (.tmp 2) (.tmp 42) 46 rfl (by kernel_rfl) rfl rfl hZ rfl (St.row_one _ _ _ _ _) ?_)
      have hZ : (World.setRow _ w.heap.size #[.string r3, .int .i64 r4, .bool o2, .bool o1, .int .i64 r5]).heap[w.heap.size]? = some (.cells #[.string r3, .int .i64 r4, .bool o2, .bool o1, .int .i64 r5] 46 (0, 0)) := setRow_heap _ _ _ _ _ _ hZ
      have hrd := run_loadVar_mid (P := Try.prog) _ w.heap.size 0 46 (#[.string r3, .int .i64 r4, .bool o2, .bool o1, .int .i64 r5] : Array Value).toList _ (rangeAt_row5 hZ) Try.underlying46 rfl (by kernel_rfl)
      
      refine bodyPost_ret (v := .tuple #[.agg #[.string r3, .int .i64 r4, .bool o2, .bool o1, .int .i64 r5], .int .i64 0]) ?_ rfl ?_
      · simp [results, Try.results19, asAddr, hrd]
        try rfl
      exact ⟨by rw [HD.out]; rw [if_pos trivial, hM]; rfl, below_setRow hbel (Nat.le_refl _) _⟩
  · have hE0 : (E9 == 0) = false := beq_eq_false_iff_ne.2 hE
    go_upto_region 11 with (first | (go_at_call 43; refine (C9 _ _ hR).mono ?_; rintro e w9 ⟨rfl, hb9⟩; have hG := cells_of hG hb9 hgl; have hZ := cells_of hZ hb9 hzl; have hbel := hbel.trans (hb9.mono hbel.size); have q0 := cell_heap hG 0; have q1 := cell_heap hG 1; have q2 := cell_heap hG 2; have q3 := cell_heap hG 3; have q4 := cell_heap hG 4))
    go_wp2_with (refine wpList_storeRowTo rfl (.tmp 2) (.tmp 40) 46 rfl (by kernel_rfl) rfl rfl hZ rfl (St.row_one _ _ _ _ _) ?_)
    have hZ : (World.setRow _ w.heap.size #[.string ⟨#[]⟩, .int .i64 0, .bool false, .bool false, .int .i64 0]).heap[w.heap.size]? = some (.cells #[.string ⟨#[]⟩, .int .i64 0, .bool false, .bool false, .int .i64 0] 46 (0, 0)) := setRow_heap _ _ _ _ _ _ hZ
    have hrd := run_loadVar_mid (P := Try.prog) _ w.heap.size 0 46 (#[.string ⟨#[]⟩, .int .i64 0, .bool false, .bool false, .int .i64 0] : Array Value).toList _ (rangeAt_row5 hZ) Try.underlying46 rfl (by kernel_rfl)
    
    refine bodyPost_ret (v := .tuple #[.agg #[.string ⟨#[]⟩, .int .i64 0, .bool false, .bool false, .int .i64 0], .int .i64 E9]) ?_ rfl ?_
    · simp [results, Try.results19, asAddr, hrd]
      try rfl
    exact ⟨by rw [HD.out]; rw [if_neg hE]; rfl, below_setRow hbel (Nat.le_refl _) _⟩
end Go.Proofs.Ytekhmdjpkngglaa
