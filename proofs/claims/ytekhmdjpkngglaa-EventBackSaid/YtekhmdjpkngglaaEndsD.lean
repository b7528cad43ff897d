/- States of ends out of bytes: Decode. -/
import Derived.Test.YtekhmdjpkngglaaEndsE
import Derived.Deep.MidRow
import Derived.Deep.Cut
import Derived.WalkKit
import Derived.ProofKit
import Derived.Handy
import Derived.Below
import Derived.BigQuiet
import Derived.Lib.Hide
import Derived.IntWalk
import Derived.Outline
import Derived.WalkLawsBesides
import Derived.WalkSpells
namespace Go.Proofs.Ytekhmdjpkngglaa
open Go.RowKit
attribute [local go_sem] strV
theorem wp_nameE {P : Program} {c : Code} {Q : Exit → Act → World → Prop} {a : Act} (E : World) (h : ∀ W, W = E → c.wp P Q a W) : c.wp P Q a E := h E rfl
theorem RAt.put {b g k : Nat} {w : World} {s : ByteArray} {A E : Int} (h : RAt b w s A E) (hne : g ≠ b) (x : Value) : RAt b (w.setCell ⟨g, k, none⟩ x) s A E := by
  unfold RAt at h ⊢
  show (w.heap.modify g _)[b]? = _
  rw [Array.getElem?_modify, if_neg hne]; exact h
theorem row_put5 {w : World} {g k : Nat} {cur : Array Value} {t : TypeId} {v : Value} (h : w.heap[g]? = some (.cells cur t (0, 0))) : (w.setCell ⟨g, k, none⟩ v).heap[g]? = some (.cells (cur.setIfInBounds k v) t (0, 0)) := by
  show (w.heap.modify g _)[g]? = _
  rw [Array.getElem?_modify, if_pos rfl, h]; rfl
theorem row_oth {w : World} {g k b : Nat} {X : Obj} {v : Value} (h : w.heap[b]? = some X) (hne : g ≠ b) : (w.setCell ⟨g, k, none⟩ v).heap[b]? = some X := by
  show (w.heap.modify g _)[b]? = _
  rw [Array.getElem?_modify, if_neg hne]; exact h
theorem Kept.row5 {b g : Nat} {w w' : World} {X : Obj} (h : Kept b w w') (hg : w.heap[g]? = some X) (hb : g ≠ b) : w'.heap[g]? = some X := by
  rw [h.block g (Array.getElem?_eq_some_iff.1 hg).1 hb]; exact hg
theorem rangeAt_row5 {w : World} {b : Nat} {e : TypeId} {fz : Nat × Nat} {C : Array Value} (h : w.heap[b]? = some (.cells C e fz)) : w.rangeAt b 0 C.toList := fun j v hv => by
  unfold World.cell?; rw [h, Nat.zero_add]; simpa using hv
theorem St.row_one (p : ByteArray) (c : Int) (o cl : Bool) (st : Int) : (#[.string p, .int .i64 c, .bool o, .bool cl, .int .i64 st] : Array Value).all (·.oneCell') = true := by
  rw [Array.all_eq_true_iff_forall_mem]; intro v hv; simp at hv; rcases hv with rfl | rfl | rfl | rfl | rfl <;> rfl
theorem textG_size (v : ByteArray) (a e m : Int) : (textG v a e m).1.size ≤ v.size := by
  unfold textG
  split
  · unfold textF
    dsimp only
    split
    · split
      · exact Nat.zero_le _
      · split
        · exact Nat.zero_le _
        · simp; omega
    · exact Nat.zero_le _
  · exact Nat.zero_le _
set_option maxRecDepth 100000 in
set_option maxHeartbeats 3200000 in
theorem decode_any (v : ByteArray) (w : World) (hv : v.size ≤ 1000000000) :
    Calls Try.prog 18 #[.string v] w fun e w' => e = .returned (.tuple #[(decS v).1.val, .int .i64 (decS v).2]) ∧ Below w.heap.size w w' := by
  obtain ⟨⟨r1, a1, e1⟩, h1⟩ : ∃ t, numG v 0 0 0 1 = t := ⟨_, rfl⟩
  obtain ⟨⟨r2, a2, e2⟩, h2⟩ : ∃ t, numG v a1 e1 0 1 = t := ⟨_, rfl⟩
  obtain ⟨⟨r3, a3, e3⟩, h3⟩ : ∃ t, textG v a2 e2 12 = t := ⟨_, rfl⟩
  obtain ⟨⟨r4, a4, e4⟩, h4⟩ : ∃ t, numG v a3 e3 0 999 = t := ⟨_, rfl⟩
  obtain ⟨⟨r5, a5, e5⟩, h5⟩ : ∃ t, numG v a4 e4 0 1099511627777 = t := ⟨_, rfl⟩
  obtain ⟨E9, h9⟩ : ∃ t, endF v a5 e5 = t := ⟨_, rfl⟩
  have hD : decS v = if E9 = 0 then (bif mayS ⟨r3, r4, r2 == 1, r1 == 1, r5⟩ then (⟨r3, r4, r2 == 1, r1 == 1, r5⟩, 0) else (St.zero, 1)) else (St.zero, E9) := by
    unfold decS five Five.state
    simp only [h1, h2, h3, h4, h5, h9]
  have hr3 : r3.size ≤ maxLen := by
    have := textG_size v a2 e2 12
    rw [h3] at this
    simp only at this
    unfold maxLen; omega
  have CM := fun W => mayS_any r3 r4 (r2 == 1) (r1 == 1) r5 W hr3
  have C1 := fun b W h => rnum_all b W v 0 0 0 1 h hv
  have C2 := fun b W h => rnum_all b W v a1 e1 0 1 h hv
  have C3 := fun b W h => rtext_all b W v a2 e2 12 h hv
  have C4 := fun b W h => rnum_all b W v a3 e3 0 999 h hv
  have C5 := fun b W h => rnum_all b W v a4 e4 0 1099511627777 h hv
  have C9 := fun b W h => rend_any b W v a5 e5 h
  simp only [h1] at C1
  simp only [h2] at C2
  simp only [h3] at C3
  simp only [h4] at C4
  simp only [h5] at C5
  simp only [h9] at C9
  clear h1 h2 h3 h4 h5 h9
  obtain ⟨o1, ho1⟩ : ∃ t, (r1 == 1) = t := ⟨_, rfl⟩
  obtain ⟨o2, ho2⟩ : ∃ t, (r2 == 1) = t := ⟨_, rfl⟩
  rw [ho1, ho2] at hD CM
  have HD := Lib.hid hD
  clear hD hr3
  go_enter Try.func18, Try.ntmps18
  go_upto_region 2 with (go_at_call 32; refine (rof_any v _).mono ?_; rintro e wb ⟨rfl, hR, hbb⟩)
  have hz0 : (w.alloc (.cells #[.string ⟨#[]⟩, .int .i64 0, .bool false, .bool false, .int .i64 0] 43)).heap[w.heap.size]? = some (.cells #[.string ⟨#[]⟩, .int .i64 0, .bool false, .bool false, .int .i64 0] 43 (0, 0)) := by
    show (w.heap.push _)[w.heap.size]? = _
    rw [Array.getElem?_push_size]
  have hbs : (w.alloc (.cells #[.string ⟨#[]⟩, .int .i64 0, .bool false, .bool false, .int .i64 0] 43)).heap.size = w.heap.size + 1 := by simp
  rw [hbs] at hR hbb
  have hZ := cells_of hz0 hbb (by omega)
  have hbel : Below w.heap.size w wb := (Below.alloc (Below.refl _ _) (Nat.le_refl _) _).trans (hbb.mono (by omega))
  clear hz0 hbb
  go_upto_region 3 with fail
  refine wp_nameE _ (fun W3 hW3 => ?_)
  have hba : Below wb.heap.size wb W3 := by rw [hW3]; exact Below.alloc (Below.refl _ _) (Nat.le_refl _) _
  have hG : W3.heap[wb.heap.size]? = some (.cells #[.string ⟨#[]⟩, .int .i64 0, .bool false, .bool false, .int .i64 0] 43 (0, 0)) := by
    rw [hW3]; show (wb.heap.push _)[wb.heap.size]? = _; rw [Array.getElem?_push_size]
  have hgb : wb.heap.size ≠ w.heap.size + 1 := by have := hR.lt; omega
  have hzb : w.heap.size ≠ w.heap.size + 1 := by omega
  have hgz : wb.heap.size ≠ w.heap.size := by have := hR.lt; omega
  have hgw : w.heap.size ≤ wb.heap.size := hbel.size
  have hZ := cells_of hZ hba (by have := hR.lt; omega)
  have hR := hR.below hba hR.lt
  have hbel := hbel.trans (hba.mono hgw)
  clear hW3 hba hbs
  have qk : W3.cell? ⟨wb.heap.size, 3, none⟩ = some (.bool false) := cell_heap hG 3
  have fk : W3.frozen? ⟨wb.heap.size, 3, none⟩ = false := frozen_heap hG 3
  go_upto_region 4 with (go_at_call 39; refine (C1 _ _ hR).mono ?_; rintro e w1 ⟨rfl, hR, hk⟩; have hG := hk.row5 hG hgb; have hZ := hk.row5 hZ hzb; have hbel := hbel.trans (hk.below (Nat.le_succ _) hbel.size); have qk := cell_heap hG 3; have fk := frozen_heap hG 3)
  refine wp_nameE _ (fun W4 hW => ?_)
  have hR : RAt (w.heap.size + 1) W4 v a1 e1 := by rw [hW]; exact hR.put hgb _
  have hG : W4.heap[wb.heap.size]? = some (.cells #[.string ⟨#[]⟩, .int .i64 0, .bool false, .bool o1, .int .i64 0] 43 (0, 0)) := by rw [hW]; exact row_put5 hG
  have hZ : W4.heap[w.heap.size]? = some (.cells #[.string ⟨#[]⟩, .int .i64 0, .bool false, .bool false, .int .i64 0] 43 (0, 0)) := by rw [hW]; exact row_oth hZ hgz
  have hbel : Below w.heap.size w W4 := by rw [hW]; exact hbel.setCell (p := ⟨wb.heap.size, 3, none⟩) hgw _
  clear hW qk fk
  have qk : W4.cell? ⟨wb.heap.size, 2, none⟩ = some (.bool false) := cell_heap hG 2
  have fk : W4.frozen? ⟨wb.heap.size, 2, none⟩ = false := frozen_heap hG 2
  go_upto_region 5 with (go_at_call 39; refine (C2 _ _ hR).mono ?_; rintro e w1 ⟨rfl, hR, hk⟩; have hG := hk.row5 hG hgb; have hZ := hk.row5 hZ hzb; have hbel := hbel.trans (hk.below (Nat.le_succ _) hbel.size); have qk := cell_heap hG 2; have fk := frozen_heap hG 2)
  refine wp_nameE _ (fun W5 hW => ?_)
  have hR : RAt (w.heap.size + 1) W5 v a2 e2 := by rw [hW]; exact hR.put hgb _
  have hG : W5.heap[wb.heap.size]? = some (.cells #[.string ⟨#[]⟩, .int .i64 0, .bool o2, .bool o1, .int .i64 0] 43 (0, 0)) := by rw [hW]; exact row_put5 hG
  have hZ : W5.heap[w.heap.size]? = some (.cells #[.string ⟨#[]⟩, .int .i64 0, .bool false, .bool false, .int .i64 0] 43 (0, 0)) := by rw [hW]; exact row_oth hZ hgz
  have hbel : Below w.heap.size w W5 := by rw [hW]; exact hbel.setCell (p := ⟨wb.heap.size, 2, none⟩) hgw _
  clear hW qk fk
  have qk : W5.cell? ⟨wb.heap.size, 0, none⟩ = some (.string ⟨#[]⟩) := cell_heap hG 0
  have fk : W5.frozen? ⟨wb.heap.size, 0, none⟩ = false := frozen_heap hG 0
  go_upto_region 6 with (go_at_call 40; refine (C3 _ _ hR).mono ?_; rintro e w1 ⟨rfl, hR, hk⟩; have hG := hk.row5 hG hgb; have hZ := hk.row5 hZ hzb; have hbel := hbel.trans (hk.below (Nat.le_succ _) hbel.size); have qk := cell_heap hG 0; have fk := frozen_heap hG 0)
  refine wp_nameE _ (fun W6 hW => ?_)
  have hR : RAt (w.heap.size + 1) W6 v a3 e3 := by rw [hW]; exact hR.put hgb _
  have hG : W6.heap[wb.heap.size]? = some (.cells #[.string r3, .int .i64 0, .bool o2, .bool o1, .int .i64 0] 43 (0, 0)) := by rw [hW]; exact row_put5 hG
  have hZ : W6.heap[w.heap.size]? = some (.cells #[.string ⟨#[]⟩, .int .i64 0, .bool false, .bool false, .int .i64 0] 43 (0, 0)) := by rw [hW]; exact row_oth hZ hgz
  have hbel : Below w.heap.size w W6 := by rw [hW]; exact hbel.setCell (p := ⟨wb.heap.size, 0, none⟩) hgw _
  clear hW qk fk
  have qk : W6.cell? ⟨wb.heap.size, 1, none⟩ = some (.int .i64 0) := cell_heap hG 1
  have fk : W6.frozen? ⟨wb.heap.size, 1, none⟩ = false := frozen_heap hG 1
  go_upto_region 7 with (go_at_call 39; refine (C4 _ _ hR).mono ?_; rintro e w1 ⟨rfl, hR, hk⟩; have hG := hk.row5 hG hgb; have hZ := hk.row5 hZ hzb; have hbel := hbel.trans (hk.below (Nat.le_succ _) hbel.size); have qk := cell_heap hG 1; have fk := frozen_heap hG 1)
  refine wp_nameE _ (fun W7 hW => ?_)
  have hR : RAt (w.heap.size + 1) W7 v a4 e4 := by rw [hW]; exact hR.put hgb _
  have hG : W7.heap[wb.heap.size]? = some (.cells #[.string r3, .int .i64 r4, .bool o2, .bool o1, .int .i64 0] 43 (0, 0)) := by rw [hW]; exact row_put5 hG
  have hZ : W7.heap[w.heap.size]? = some (.cells #[.string ⟨#[]⟩, .int .i64 0, .bool false, .bool false, .int .i64 0] 43 (0, 0)) := by rw [hW]; exact row_oth hZ hgz
  have hbel : Below w.heap.size w W7 := by rw [hW]; exact hbel.setCell (p := ⟨wb.heap.size, 1, none⟩) hgw _
  clear hW qk fk
  have qk : W7.cell? ⟨wb.heap.size, 4, none⟩ = some (.int .i64 0) := cell_heap hG 4
  have fk : W7.frozen? ⟨wb.heap.size, 4, none⟩ = false := frozen_heap hG 4
  go_upto_region 8 with (go_at_call 39; refine (C5 _ _ hR).mono ?_; rintro e w1 ⟨rfl, hR, hk⟩; have hG := hk.row5 hG hgb; have hZ := hk.row5 hZ hzb; have hbel := hbel.trans (hk.below (Nat.le_succ _) hbel.size); have qk := cell_heap hG 4; have fk := frozen_heap hG 4)
  refine wp_nameE _ (fun W8 hW => ?_)
  have hR : RAt (w.heap.size + 1) W8 v a5 e5 := by rw [hW]; exact hR.put hgb _
  have hG : W8.heap[wb.heap.size]? = some (.cells #[.string r3, .int .i64 r4, .bool o2, .bool o1, .int .i64 r5] 43 (0, 0)) := by rw [hW]; exact row_put5 hG
  have hZ : W8.heap[w.heap.size]? = some (.cells #[.string ⟨#[]⟩, .int .i64 0, .bool false, .bool false, .int .i64 0] 43 (0, 0)) := by rw [hW]; exact row_oth hZ hgz
  have hbel : Below w.heap.size w W8 := by rw [hW]; exact hbel.setCell (p := ⟨wb.heap.size, 4, none⟩) hgw _
  clear hW qk fk
  have q0 := cell_heap hG 0; have q1 := cell_heap hG 1; have q2 := cell_heap hG 2; have q3 := cell_heap hG 3; have q4 := cell_heap hG 4
  have hgl : wb.heap.size < W8.heap.size := (Array.getElem?_eq_some_iff.1 hG).1
  have hzl : w.heap.size < W8.heap.size := (Array.getElem?_eq_some_iff.1 hZ).1
  by_cases hE : E9 = 0
  · subst hE
    cases hM : mayS ⟨r3, r4, o2, o1, r5⟩
    · simp only [hM] at CM
      go_upto_region 12 with (first | (go_at_call 34; refine (C9 _ _ hR).mono ?_; rintro e w9 ⟨rfl, hb9⟩; have hG := cells_of hG hb9 hgl; have hZ := cells_of hZ hb9 hzl; have hbel := hbel.trans (hb9.mono hbel.size); have q0 := cell_heap hG 0; have q1 := cell_heap hG 1; have q2 := cell_heap hG 2; have q3 := cell_heap hG 3; have q4 := cell_heap hG 4) | (go_at_call 20; refine (CM _).mono ?_; rintro e w10 ⟨rfl, hb10⟩; have hG := cells_of hG hb10 (Nat.lt_of_lt_of_le hgl hb9.size); have hZ := cells_of hZ hb10 (Nat.lt_of_lt_of_le hzl hb9.size); have hbel := hbel.trans (hb10.mono hbel.size); have q0 := cell_heap hG 0; have q1 := cell_heap hG 1; have q2 := cell_heap hG 2; have q3 := cell_heap hG 3; have q4 := cell_heap hG 4))
      go_wp2_with (refine wpList_storeRowTo rfl (.tmp 2) (.tmp 37) 43 rfl (by kernel_rfl) rfl rfl hZ rfl (St.row_one _ _ _ _ _) ?_)
      have hZ : (World.setRow _ w.heap.size #[.string ⟨#[]⟩, .int .i64 0, .bool false, .bool false, .int .i64 0]).heap[w.heap.size]? = some (.cells #[.string ⟨#[]⟩, .int .i64 0, .bool false, .bool false, .int .i64 0] 43 (0, 0)) := setRow_heap _ _ _ _ _ _ hZ
      have hrd := run_loadVar_mid (P := Try.prog) _ w.heap.size 0 43 (#[.string ⟨#[]⟩, .int .i64 0, .bool false, .bool false, .int .i64 0] : Array Value).toList _ (rangeAt_row5 hZ) Try.underlying43 rfl (by kernel_rfl)
      
      refine bodyPost_ret (v := .tuple #[.agg #[.string ⟨#[]⟩, .int .i64 0, .bool false, .bool false, .int .i64 0], .int .i64 1]) ?_ rfl ?_
      · simp [results, Try.results18, asAddr, hrd]
        try rfl
      exact ⟨by rw [HD.out]; rw [if_pos trivial, hM]; rfl, below_setRow hbel (Nat.le_refl _) _⟩
    · simp only [hM] at CM
      go_upto_region 13 with (first | (go_at_call 34; refine (C9 _ _ hR).mono ?_; rintro e w9 ⟨rfl, hb9⟩; have hG := cells_of hG hb9 hgl; have hZ := cells_of hZ hb9 hzl; have hbel := hbel.trans (hb9.mono hbel.size); have q0 := cell_heap hG 0; have q1 := cell_heap hG 1; have q2 := cell_heap hG 2; have q3 := cell_heap hG 3; have q4 := cell_heap hG 4) | (go_at_call 20; refine (CM _).mono ?_; rintro e w10 ⟨rfl, hb10⟩; have hG := cells_of hG hb10 (Nat.lt_of_lt_of_le hgl hb9.size); have hZ := cells_of hZ hb10 (Nat.lt_of_lt_of_le hzl hb9.size); have hbel := hbel.trans (hb10.mono hbel.size); have q0 := cell_heap hG 0; have q1 := cell_heap hG 1; have q2 := cell_heap hG 2; have q3 := cell_heap hG 3; have q4 := cell_heap hG 4))
      go_wp2_with (refine wpList_storeRowTo rfl (.tmp 2) (.tmp 38) 43 rfl (by kernel_rfl) rfl rfl hZ rfl (St.row_one _ _ _ _ _) ?_)
      have hZ : (World.setRow _ w.heap.size #[.string r3, .int .i64 r4, .bool o2, .bool o1, .int .i64 r5]).heap[w.heap.size]? = some (.cells #[.string r3, .int .i64 r4, .bool o2, .bool o1, .int .i64 r5] 43 (0, 0)) := setRow_heap _ _ _ _ _ _ hZ
      have hrd := run_loadVar_mid (P := Try.prog) _ w.heap.size 0 43 (#[.string r3, .int .i64 r4, .bool o2, .bool o1, .int .i64 r5] : Array Value).toList _ (rangeAt_row5 hZ) Try.underlying43 rfl (by kernel_rfl)
      
      refine bodyPost_ret (v := .tuple #[.agg #[.string r3, .int .i64 r4, .bool o2, .bool o1, .int .i64 r5], .int .i64 0]) ?_ rfl ?_
      · simp [results, Try.results18, asAddr, hrd]
        try rfl
      exact ⟨by rw [HD.out]; rw [if_pos trivial, hM]; rfl, below_setRow hbel (Nat.le_refl _) _⟩
  · have hE0 : (E9 == 0) = false := beq_eq_false_iff_ne.2 hE
    go_upto_region 10 with (first | (go_at_call 34; refine (C9 _ _ hR).mono ?_; rintro e w9 ⟨rfl, hb9⟩; have hG := cells_of hG hb9 hgl; have hZ := cells_of hZ hb9 hzl; have hbel := hbel.trans (hb9.mono hbel.size); have q0 := cell_heap hG 0; have q1 := cell_heap hG 1; have q2 := cell_heap hG 2; have q3 := cell_heap hG 3; have q4 := cell_heap hG 4))
    go_wp2_with (refine wpList_storeRowTo rfl (.tmp 2) (.tmp 32) 43 rfl (by kernel_rfl) rfl rfl hZ rfl (St.row_one _ _ _ _ _) ?_)
    have hZ : (World.setRow _ w.heap.size #[.string ⟨#[]⟩, .int .i64 0, .bool false, .bool false, .int .i64 0]).heap[w.heap.size]? = some (.cells #[.string ⟨#[]⟩, .int .i64 0, .bool false, .bool false, .int .i64 0] 43 (0, 0)) := setRow_heap _ _ _ _ _ _ hZ
    have hrd := run_loadVar_mid (P := Try.prog) _ w.heap.size 0 43 (#[.string ⟨#[]⟩, .int .i64 0, .bool false, .bool false, .int .i64 0] : Array Value).toList _ (rangeAt_row5 hZ) Try.underlying43 rfl (by kernel_rfl)
    
    refine bodyPost_ret (v := .tuple #[.agg #[.string ⟨#[]⟩, .int .i64 0, .bool false, .bool false, .int .i64 0], .int .i64 E9]) ?_ rfl ?_
    · simp [results, Try.results18, asAddr, hrd]
      try rfl
    exact ⟨by rw [HD.out]; rw [if_neg hE]; rfl, below_setRow hbel (Nat.le_refl _) _⟩
end Go.Proofs.Ytekhmdjpkngglaa
