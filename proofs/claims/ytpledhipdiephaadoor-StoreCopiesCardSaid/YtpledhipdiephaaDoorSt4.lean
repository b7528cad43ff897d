/- A store's Set, Drop, Under. -/
import Derived.Test.YtpledhipdiephaaDoorSt2
import Derived.Test.YtpledhipdiephaaDoorSt3
import Derived.BigRegion
import Derived.RegionTactic
import Derived.BigQuiet
import Derived.Deep.QuietTactic
import Derived.Deep.MidRow
import Derived.Deep.RegionLaw
import Derived.LoopTactic
import Derived.BigFrame
import Derived.OwnWalk
import Derived.OneCell
import Derived.Laws.OwnMore
import Derived.WalkKit
import Derived.ProofKit
import Derived.Handy
import Derived.Below
import Derived.Lib.Hide
import Derived.IntWalk
import Derived.Outline
import Derived.WalkLawsBesides
import Derived.WalkSpells
namespace Go.Proofs.YtpledhipdiephaaDoor
open Go.RowKit
attribute [local go_sem] strV
set_option linter.unusedVariables false
/-- At block g lies a store that holds l; its row is its own. -/
def StAt (w : World) (g : Nat) (l : List Pr) : Prop := goodL l = true ∧ ∃ a cap, w.heap[g]? = some (.cells #[.slice a l.length cap] 93 (0, 0)) ∧ w.ownsRow g 41 2 (.slice a l.length cap) l.length (l.flatMap Pr.cells)
theorem StAt.kept {w w' : World} {g : Nat} {l : List Pr} (h : StAt w g l) (hb : Below w.heap.size w w') : StAt w' g l := by
  obtain ⟨h1, a, cap, h2, h3⟩ := h
  exact ⟨h1, a, cap, cells_of h2 hb (row_lt h2), own_keptH h3 hb⟩
theorem StAt.lt {w : World} {g : Nat} {l : List Pr} (h : StAt w g l) : g < w.heap.size := by
  obtain ⟨h1, a, cap, h2, h3⟩ := h
  exact row_lt h2
theorem good_one (p : Pr) : goodL [p] = fitsB p.k p.v := by
  unfold goodL goodAt
  simp [List.range_succ]
theorem setCell_frame {w : World} {g k : Nat} {u : Value} {base : Nat} (h : base ≤ g) : Below base w (w.setCell ⟨g, k, none⟩ u) :=
  ⟨rfl, rfl, rfl, by simp [World.setCell], fun j hj => heap_setCell_other w ⟨g, k, none⟩ j u (fun e => by simp at e; omega)⟩
def setS (l : List Pr) (key val : ByteArray) : List Pr := riseStep l ⟨key, val⟩
def setE (key val : ByteArray) : Int := if fitsB key val = true then 0 else 1
theorem set_found {l : List Pr} {k v : ByteArray} (hf : foundL l k = true) : setL l k v = l.set (placeL l k) ⟨k, v⟩ := by
  obtain ⟨hi, _⟩ := found_at hf
  unfold setL
  rw [if_pos hf, List.set_eq_take_append_cons_drop, if_pos hi]
  simp
theorem set_flat (l : List Pr) (i : Nat) (p : Pr) : ((l.flatMap Pr.cells).set (i * 2) (.string p.k)).set (i * 2 + 1) (.string p.v) = (l.set i p).flatMap Pr.cells := by
  induction l generalizing i with
  | nil => rfl
  | cons q l ih =>
    cases i with
    | zero => rfl
    | succ i =>
      rw [List.set_cons_succ, List.flatMap_cons, List.flatMap_cons, ← ih i]
      rw [show (i + 1) * 2 = i * 2 + 1 + 1 by omega]
      rfl
theorem ins_flat (l : List Pr) (i : Nat) (p : Pr) : (l.flatMap Pr.cells).take (i * 2) ++ [.string p.k, .string p.v] ++ (l.flatMap Pr.cells).drop (i * 2) = (l.take i ++ [p] ++ l.drop i).flatMap Pr.cells := by
  have h1 : ∀ (l : List Pr) (i : Nat), (l.flatMap Pr.cells).take (i * 2) = (l.take i).flatMap Pr.cells := by
    intro l
    induction l with
    | nil => intro i; simp
    | cons q l ih =>
      intro i
      cases i with
      | zero => simp
      | succ i =>
        rw [List.take_succ_cons, List.flatMap_cons, List.flatMap_cons, ← ih i, show (i + 1) * 2 = i * 2 + 1 + 1 by omega]
        rfl
  have h2 : ∀ (l : List Pr) (i : Nat), (l.flatMap Pr.cells).drop (i * 2) = (l.drop i).flatMap Pr.cells := by
    intro l
    induction l with
    | nil => intro i; simp
    | cons q l ih =>
      intro i
      cases i with
      | zero => simp
      | succ i =>
        rw [List.drop_succ_cons, List.flatMap_cons, ← ih i, show (i + 1) * 2 = i * 2 + 1 + 1 by omega]
        rfl
  rw [h1, h2, List.flatMap_append, List.flatMap_append]
  rfl
set_option maxRecDepth 100000 in
set_option maxHeartbeats 6400000 in
theorem setS_any (g : Nat) (l : List Pr) (key val : ByteArray) (w : World) (h : StAt w g l) (hn6 : l.length ≤ 100000) :
    Calls Tryd.prog 13 #[.pointer (some ⟨g, 0, none⟩), .string key, .string val] w fun e w' => e = .returned (.int .i64 (setE key val)) ∧ StAt w' g (setS l key val) ∧ Below g w w' := by
  have hgl := h.lt
  obtain ⟨hgd, a, cap, hg, hown⟩ := h
  obtain ⟨a9, cap9, hv9, hr, hcap, hcm, hnone⟩ := own_sliceN hown
  simp only [Value.slice.injEq, true_and] at hv9
  obtain ⟨rfl, rfl⟩ := hv9
  obtain ⟨n, hn⟩ : ∃ n, l.length = n := ⟨_, rfl⟩
  rw [hn] at hg hown hcap hn6
  have hso := goodL_sorted hgd
  unfold maxLen at hcm
  have hw1 : Below w.heap.size w (w.alloc (.cells #[.string key, .string val] 41)) := (Below.refl _ _).alloc (Nat.le_refl _) _
  have hw2 : Below w.heap.size w ((w.alloc (.cells #[.string key, .string val] 41)).alloc (.cells #[.string key, .string val] 41)) := al2_below w _ _
  have hrow2 : RowAt ((w.alloc (.cells #[.string key, .string val] 41)).alloc (.cells #[.string key, .string val] 41)) (some ⟨w.heap.size + 1, 0, none⟩) ([(⟨key, val⟩ : Pr)].flatMap Pr.cells) := by
    have h1 := row_newI (w.alloc (.cells #[.string key, .string val] 41)) #[.string key, .string val] 41
    rw [show (w.alloc (.cells #[.string key, .string val] 41)).heap.size = w.heap.size + 1 by simp] at h1
    exact h1
  have CG := goodPr_any (some ⟨w.heap.size + 1, 0, none⟩) 1 1 [⟨key, val⟩] _ hrow2 rfl (Nat.le_refl _) (by unfold maxLen; omega)
  rw [good_one] at CG
  simp only [] at CG
  obtain ⟨fit, hfit⟩ : ∃ b, fitsB key val = b := ⟨_, rfl⟩
  have HS : setS l key val = if fit = true then setL l key val else l := by unfold setS riseStep; rw [hfit]
  have HE : setE key val = if fit = true then 0 else 1 := by unfold setE; rw [hfit]
  rw [hfit] at CG
  rw [HS, HE]
  have p0 : (w.alloc (.cells #[.string key, .string val] 41)).cell? ⟨w.heap.size, 0, none⟩ = some (.string key) := cell_heap (heap_push w _ _) 0
  have p1 : (w.alloc (.cells #[.string key, .string val] 41)).cell? ⟨w.heap.size, 1, none⟩ = some (.string val) := cell_heap (heap_push w _ _) 1
  have hp2 : ((w.alloc (.cells #[.string key, .string val] 41)).alloc (.cells #[.string key, .string val] 41)).heap[w.heap.size]? = some (.cells #[.string key, .string val] 41 (0, 0)) := al2_0 w _ _
  have e1 : (w.alloc (.cells #[.string key, .string val] 41)).heap.size = w.heap.size + 1 := by simp
  have HN := Lib.hid hn
  clear HS HE hn
  cases fit
  · simp only [Bool.false_eq_true, if_false]
    clear hso
    go_enter Tryd.func13, Tryd.ntmps13
    go_wp2_with (go_at_call 48; refine CG.mono ?_; rintro e w3 ⟨rfl, hb3⟩)
    go_ret
    have hb := hw2.trans (hb3.mono hw2.size)
    exact ⟨by first | rfl | simp, StAt.kept ⟨hgd, a, cap, by rw [HN.out]; exact hg, by rw [HN.out]; exact hown⟩ hb, hb.mono (Nat.le_of_lt hgl)⟩
  simp only [if_true]
  have CF := fun W (hb : Below w.heap.size w W) => find_any g a n cap l key W (cells_of hg hb hgl) (hr.below hb) HN.out hcap (by unfold maxLen; omega) (by omega) hso
  have hgd' := setL_good hgd hfit
  have hfl : foundL l key = true → placeL l key < l.length := fun h => (found_at h).1
  have hpl : placeL l key ≤ l.length := List.findIdx_le_length
  have HSF := @set_found l key val
  have HIF : foundL l key = false → setL l key val = l.take (placeL l key) ++ [⟨key, val⟩] ++ l.drop (placeL l key) := fun h => by unfold setL; rw [h]; simp
  obtain ⟨R, hR⟩ : ∃ R, setL l key val = R := ⟨_, rfl⟩
  rw [hR] at hgd' HSF HIF ⊢
  obtain ⟨k, hk⟩ : ∃ k, placeL l key = k := ⟨_, rfl⟩
  obtain ⟨fd, hfd⟩ : ∃ f, foundL l key = f := ⟨_, rfl⟩
  rw [hk] at hpl
  rw [hk, hfd] at hfl
  rw [hk, hfd] at HSF HIF
  simp only [hk, hfd] at CF
  rw [HN.out] at hpl hfl
  clear hk hfd hR hso hfit
  have n0 : (0 : Int) ≤ (k : Int) := by omega
  have n2 : ((k : Nat) : Int).toNat = k := by omega
  cases fd
  rotate_left
  · have hkn := hfl rfl
    have n1 : (k : Int) < (n : Int) := by omega
    have hRR := HSF rfl
    clear HSF HIF hfl
    obtain ⟨gr, cr, hf9⟩ := own_formS hown (by omega)
    simp only [Value.slice.injEq, true_and] at hf9
    obtain ⟨rfl, rfl⟩ := hf9
    have hgr := (hown.lt gr rfl)
    go_enter Tryd.func13, Tryd.ntmps13
    go_upto_region 6 with (first | (go_at_call 48; refine CG.mono ?_; rintro e w3 ⟨rfl, hb3⟩; have hb := hw2.trans (hb3.mono hw2.size)) | (go_at_call 49; refine (CF _ hb).mono ?_; rintro e w4 ⟨rfl, hb4⟩; have hb := hb.trans (hb4.mono hb.size)))
    have hs3 := hb3.size
    have hs2 : ((w.alloc (.cells #[.string key, .string val] 41)).alloc (.cells #[.string key, .string val] 41)).heap.size = w.heap.size + 2 := by simp
    have hs4 := hb4.size
    have hp4 := cells_of (cells_of hp2 hb3 (by omega)) hb4 (by omega)
    have hown4 := own_keptH hown hb
    have c0 : w4.cell? ⟨g, 0, none⟩ = some (.slice (some ⟨gr, 0, none⟩) n cap) := cell_heap (cells_of hg hb hgl) 0
    have q0 : w4.cell? ⟨w.heap.size, 0, none⟩ = some (.string key) := cell_heap hp4 0
    have q1 : w4.cell? ⟨w.heap.size, 1, none⟩ = some (.string val) := cell_heap hp4 1
    have f0 := hown4.frozenAt (k * 2)
    have f1 := hown4.frozenAt (k * 2 + 1)
    have hlen := hown4.1
    obtain ⟨u0, hu0⟩ : ∃ u, (l.flatMap Pr.cells)[k * 2]? = some u := ⟨_, List.getElem?_eq_getElem (by omega)⟩
    obtain ⟨u1, hu1⟩ : ∃ u, (l.flatMap Pr.cells)[k * 2 + 1]? = some u := ⟨_, List.getElem?_eq_getElem (by omega)⟩
    have d0 := (hown4.cellAt (k * 2) (by omega)).trans hu0
    have d1 := (hown4.cellAt (k * 2 + 1) (by omega)).trans hu1
    obtain ⟨s1, hg1⟩ := hown4.stored (k * 2) (.string key)
    obtain ⟨s2, hg2⟩ := s1.stored (k * 2 + 1) (.string val)
    have hlenN := HN
    clear hu0 hu1 hp2 hp4 p0 p1 CF CG hrow2 hr HN e1 hs2
    go_region
    go_wp2
    go_ret
    have hne : gr ≠ g := fun e => by
      subst e
      have := own_tagS hown rfl hg
      revert this; decide
    have hb5 : Below w.heap.size w w4 := hb
    rw [set_flat l k ⟨key, val⟩] at s2
    have hRl : R.length = n := by rw [hRR, List.length_set]; exact hlenN.out
    refine ⟨by first | rfl | simp, ⟨hgd', some ⟨gr, 0, none⟩, cap, ?_, ?_⟩, ?_⟩
    · rw [hRl]
      show ((w4.setCell ⟨gr, k * 2, none⟩ (.string key)).setCell ⟨gr, k * 2 + 1, none⟩ (.string val)).heap[g]? = _
      rw [heap_setCell_other _ _ _ _ (fun e => hne (by simp at e; exact e.symm)), heap_setCell_other _ _ _ _ (fun e => hne (by simp at e; exact e.symm))]
      exact cells_of hg hb hgl
    · rw [hRl, hRR]; exact s2
    · exact (((hb5.mono (Nat.le_of_lt hgl)).trans (setCell_frame hgr.1)).trans (setCell_frame hgr.1)).drew
  · have hRR := HIF rfl
    clear HSF HIF hfl
    have n1 : (k : Int) ≤ (n : Int) := by omega
    have n1k : k ≤ n := by omega
    go_enter Tryd.func13, Tryd.ntmps13
    go_upto_region 7 with (first | (go_at_call 48; refine CG.mono ?_; rintro e w3 ⟨rfl, hb3⟩; have hb := hw2.trans (hb3.mono hw2.size)) | (go_at_call 49; refine (CF _ hb).mono ?_; rintro e w4 ⟨rfl, hb4⟩; have hb := hb.trans (hb4.mono hb.size)))
    have hs3 := hb3.size
    have hs2 : ((w.alloc (.cells #[.string key, .string val] 41)).alloc (.cells #[.string key, .string val] 41)).heap.size = w.heap.size + 2 := by simp
    have hs4 := hb4.size
    have hp4 := cells_of (cells_of hp2 hb3 (by omega)) hb4 (by omega)
    have hown4 := own_keptH hown hb
    have hg4 := cells_of hg hb hgl
    have c0 : w4.cell? ⟨g, 0, none⟩ = some (.slice a n cap) := cell_heap hg4 0
    have q0 : w4.cell? ⟨w.heap.size, 0, none⟩ = some (.string key) := cell_heap hp4 0
    have q1 : w4.cell? ⟨w.heap.size, 1, none⟩ = some (.string val) := cell_heap hp4 1
    have hlenN := HN
    have hobl : ∀ j, (Value.slice a n cap).ownBlock = some j → j < w.heap.size := fun j hj => (hown.lt j hj).2
    have hobg : (Value.slice a n cap).ownBlock ≠ some g := fun e => by
      have := own_tagS hown e hg
      revert this; decide
    have c0a : (w4.alloc (.cells #[.string key, .string val] 41)).cell? ⟨g, 0, none⟩ = some (.slice a n cap) := cell_heap (cells_of hg4 ((Below.refl _ _).alloc (Nat.le_refl _) _) (by omega)) 0
    have hbs := hb.size
    clear hp2 hp4 p0 p1 CF CG hrow2 hr HN e1 hs2
    refine wp_region_any (by kernel_rfl) ?_
    change wpAny _ _ _ _ _ _ _ (World.drew _)
    refine wpAny_take (i := 0) (v := .pointer (some ⟨g, 0, none⟩)) rfl (by kernel_rfl) (by kernel_rfl) (by kernel_rfl) (fun _ _ _ h => h) (Or.inl ⟨by rfl, fun w9 => by (go_simp; try with_reducible rfl)⟩) ?_
    change wpAny _ _ _ _ _ _ (Act.put _ (some 31) _) _; dsimp only [Act.put]; simp only [List.setIfInBounds_toArray, List.set_cons_succ, List.set_cons_zero]
    refine wpAny_take (i := 1) (v := .pointer (some ⟨g, 0, none⟩)) rfl (by kernel_rfl) (by kernel_rfl) (by kernel_rfl) (fun _ _ _ h => h) (Or.inl ⟨by rfl, fun w9 => by (go_simp; try with_reducible rfl)⟩) ?_
    change wpAny _ _ _ _ _ _ (Act.put _ (some 32) _) _; dsimp only [Act.put]; simp only [List.setIfInBounds_toArray, List.set_cons_succ, List.set_cons_zero]
    refine wpAny_take (i := 2) (v := .pointer (some ⟨g, 0, none⟩)) rfl (by kernel_rfl) (by kernel_rfl) (by kernel_rfl) (fun _ _ _ h => h) (Or.inl ⟨by rfl, fun w9 => by (go_simp; try with_reducible rfl)⟩) ?_
    change wpAny _ _ _ _ _ _ (Act.put _ (some 33) _) _; dsimp only [Act.put]; simp only [List.setIfInBounds_toArray, List.set_cons_succ, List.set_cons_zero]
    refine wpAny_take (i := 3) (v := .pointer (some ⟨g, 0, none⟩)) rfl (by kernel_rfl) (by kernel_rfl) (by kernel_rfl) (fun _ _ _ h => h) (Or.inl ⟨by rfl, fun w9 => by (go_simp; try with_reducible rfl)⟩) ?_
    change wpAny _ _ _ _ _ _ (Act.put _ (some 34) _) _; dsimp only [Act.put]; simp only [List.setIfInBounds_toArray, List.set_cons_succ, List.set_cons_zero]
    refine wpAny_take (i := 5) (v := .int .i64 (k : Int)) rfl (by kernel_rfl) (by kernel_rfl) (by kernel_rfl) (fun _ _ _ h => h) (Or.inl ⟨by rfl, fun w9 => by (go_simp; try with_reducible rfl)⟩) ?_
    change wpAny _ _ _ _ _ _ (Act.put _ (some 36) _) _; dsimp only [Act.put]; simp only [List.setIfInBounds_toArray, List.set_cons_succ, List.set_cons_zero]
    refine wpAny_ready (rs := [4, 6]) (by kernel_rfl) (by simp) ?_
    refine (AllReady.cons rfl (fun K hK => ?_) (AllReady.cons rfl (fun K hK => ?_) AllReady.nil))
    · go_simp
      refine hK _ _ ?_
      clear hK K
      refine wpAny_ready (rs := [6]) (by kernel_rfl) (by simp) ?_
      refine (AllReady.cons rfl (fun K hK => ?_) AllReady.nil)
      go_simp
      refine hK _ _ ?_
      clear hK K
      refine wpAny_ready (rs := [7]) (by kernel_rfl) (by simp) ?_
      refine (AllReady.cons rfl (fun K hK => ?_) AllReady.nil)
      go_simp
      refine hK _ _ ?_
      clear hK K
      refine wpAny_ready (rs := [8]) (by kernel_rfl) (by simp) ?_
      refine (AllReady.cons rfl (fun K hK => ?_) AllReady.nil)
      go_simp
      refine (insPr_any (w := (w4.alloc (.cells #[.string key, .string val] 41)).drew) (base := g) (xs := l.flatMap Pr.cells) (u0 := .string key) (u1 := .string val) (World.ownsRow.drew (hown4.alloc _)) (pr_cells_one l) n1k (by omega) (Nat.le_trans (Nat.le_of_lt hgl) (Nat.le_trans hb.size (by simp))) (heap_push w4 _ _) (fun e => by have := hobl _ e; omega) rfl rfl).mono ?_
      rintro e w5 ⟨v5, rfl, hown5, hgr5, hat5⟩
      rw [ins_flat l k ⟨key, val⟩, ← hRR] at hown5
      have hg5 := grown_at hgr5 (show (w4.alloc (.cells #[.string key, .string val] 41)).drew.heap[g]? = _ from cells_of (K := w4.heap.size) hg4 ((Below.refl _ w4).alloc (Nat.le_refl _) _).drew (by omega)) (fun e => hobg e.symm)
      have c5 := cell_heap hg5 0
      have f5 := free_of_one hg5
      have hv5 : v5.ownBlock ≠ some g := fun e => by have := own_tagS hown5 e hg5; revert this; decide
      obtain ⟨a5, cap5, hv9, _⟩ := own_sliceN hown5
      subst hv9
      refine hK _ _ ?_
      clear hK K
      refine wpAny_take (i := 9) (v := .pointer (some ⟨g, 0, none⟩)) rfl (by kernel_rfl) (by kernel_rfl) (by kernel_rfl) (fun _ _ _ h => h) (Or.inl ⟨by rfl, fun w9 => by (go_simp; try with_reducible rfl)⟩) ?_
      change wpAny _ _ _ _ _ _ (Act.put _ (some 40) _) _; dsimp only [Act.put]; simp only [List.setIfInBounds_toArray, List.set_cons_succ, List.set_cons_zero]
      refine wpAny_take (i := 10) (v := .pointer (some ⟨g, 0, none⟩)) rfl (by kernel_rfl) (by kernel_rfl) (by kernel_rfl) (fun _ _ _ h => h) (Or.inl ⟨by rfl, fun w9 => by (go_simp; try with_reducible rfl)⟩) ?_
      change wpAny _ _ _ _ _ _ (Act.put _ (some 41) _) _; dsimp only [Act.put]; simp only [List.setIfInBounds_toArray, List.set_cons_succ, List.set_cons_zero]
      refine wpAny_ready (rs := [11]) (by kernel_rfl) (by simp) ?_
      refine (AllReady.cons rfl (fun K hK => ?_) AllReady.nil)
      go_simp
      refine hK _ _ ?_
      clear hK K
      refine wpAny_done (by kernel_rfl) ?_ _
      go_wp2
      go_ret
      have hRl : R.length = n + 1 := by rw [hRR]; simp only [List.length_append, List.length_take, List.length_drop, List.length_cons, List.length_nil, hlenN.out]; omega
      refine ⟨by first | rfl | simp, ⟨hgd', a5, cap5, ?_, ?_⟩, ?_⟩
      · rw [hRl]; exact one_setCell hg5
      · rw [hRl]; exact ownsRow_setCell_other hown5 hv5 _
      · have hb6 := ((hb.mono (Nat.le_of_lt hgl)).alloc (by omega) (.cells #[.string key, .string val] 41)).drew
        exact (hb6.grown hgr5 (by have := hb6.size; omega) (fun j hj => (hown.lt j hj).1)).trans (setCell_frame (Nat.le_refl _))
    · go_simp
      refine hK _ _ ?_
      clear hK K
      refine wpAny_ready (rs := [4, 7]) (by kernel_rfl) (by simp) ?_
      refine (AllReady.cons rfl (fun K hK => ?_) (AllReady.cons rfl (fun K hK => ?_) AllReady.nil))
      · go_simp
        refine hK _ _ ?_
        clear hK K
        refine wpAny_ready (rs := [7]) (by kernel_rfl) (by simp) ?_
        refine (AllReady.cons rfl (fun K hK => ?_) AllReady.nil)
        go_simp
        refine hK _ _ ?_
        clear hK K
        refine wpAny_ready (rs := [8]) (by kernel_rfl) (by simp) ?_
        refine (AllReady.cons rfl (fun K hK => ?_) AllReady.nil)
        go_simp
        refine (insPr_any (w := (w4.alloc (.cells #[.string key, .string val] 41)).drew) (base := g) (xs := l.flatMap Pr.cells) (u0 := .string key) (u1 := .string val) (World.ownsRow.drew (hown4.alloc _)) (pr_cells_one l) n1k (by omega) (Nat.le_trans (Nat.le_of_lt hgl) (Nat.le_trans hb.size (by simp))) (heap_push w4 _ _) (fun e => by have := hobl _ e; omega) rfl rfl).mono ?_
        rintro e w5 ⟨v5, rfl, hown5, hgr5, hat5⟩
        rw [ins_flat l k ⟨key, val⟩, ← hRR] at hown5
        have hg5 := grown_at hgr5 (show (w4.alloc (.cells #[.string key, .string val] 41)).drew.heap[g]? = _ from cells_of (K := w4.heap.size) hg4 ((Below.refl _ w4).alloc (Nat.le_refl _) _).drew (by omega)) (fun e => hobg e.symm)
        have c5 := cell_heap hg5 0
        have f5 := free_of_one hg5
        have hv5 : v5.ownBlock ≠ some g := fun e => by have := own_tagS hown5 e hg5; revert this; decide
        obtain ⟨a5, cap5, hv9, _⟩ := own_sliceN hown5
        subst hv9
        refine hK _ _ ?_
        clear hK K
        refine wpAny_take (i := 9) (v := .pointer (some ⟨g, 0, none⟩)) rfl (by kernel_rfl) (by kernel_rfl) (by kernel_rfl) (fun _ _ _ h => h) (Or.inl ⟨by rfl, fun w9 => by (go_simp; try with_reducible rfl)⟩) ?_
        change wpAny _ _ _ _ _ _ (Act.put _ (some 40) _) _; dsimp only [Act.put]; simp only [List.setIfInBounds_toArray, List.set_cons_succ, List.set_cons_zero]
        refine wpAny_take (i := 10) (v := .pointer (some ⟨g, 0, none⟩)) rfl (by kernel_rfl) (by kernel_rfl) (by kernel_rfl) (fun _ _ _ h => h) (Or.inl ⟨by rfl, fun w9 => by (go_simp; try with_reducible rfl)⟩) ?_
        change wpAny _ _ _ _ _ _ (Act.put _ (some 41) _) _; dsimp only [Act.put]; simp only [List.setIfInBounds_toArray, List.set_cons_succ, List.set_cons_zero]
        refine wpAny_ready (rs := [11]) (by kernel_rfl) (by simp) ?_
        refine (AllReady.cons rfl (fun K hK => ?_) AllReady.nil)
        go_simp
        refine hK _ _ ?_
        clear hK K
        refine wpAny_done (by kernel_rfl) ?_ _
        go_wp2
        go_ret
        have hRl : R.length = n + 1 := by rw [hRR]; simp only [List.length_append, List.length_take, List.length_drop, List.length_cons, List.length_nil, hlenN.out]; omega
        refine ⟨by first | rfl | simp, ⟨hgd', a5, cap5, ?_, ?_⟩, ?_⟩
        · rw [hRl]; exact one_setCell hg5
        · rw [hRl]; exact ownsRow_setCell_other hown5 hv5 _
        · have hb6 := ((hb.mono (Nat.le_of_lt hgl)).alloc (by omega) (.cells #[.string key, .string val] 41)).drew
          exact (hb6.grown hgr5 (by have := hb6.size; omega) (fun j hj => (hown.lt j hj).1)).trans (setCell_frame (Nat.le_refl _))
      · go_simp
        refine hK _ _ ?_
        clear hK K
        refine wpAny_ready (rs := [4]) (by kernel_rfl) (by simp) ?_
        refine (AllReady.cons rfl (fun K hK => ?_) AllReady.nil)
        go_simp
        refine hK _ _ ?_
        clear hK K
        refine wpAny_ready (rs := [8]) (by kernel_rfl) (by simp) ?_
        refine (AllReady.cons rfl (fun K hK => ?_) AllReady.nil)
        go_simp
        refine (insPr_any (w := (w4.alloc (.cells #[.string key, .string val] 41)).drew) (base := g) (xs := l.flatMap Pr.cells) (u0 := .string key) (u1 := .string val) (World.ownsRow.drew (hown4.alloc _)) (pr_cells_one l) n1k (by omega) (Nat.le_trans (Nat.le_of_lt hgl) (Nat.le_trans hb.size (by simp))) (heap_push w4 _ _) (fun e => by have := hobl _ e; omega) rfl rfl).mono ?_
        rintro e w5 ⟨v5, rfl, hown5, hgr5, hat5⟩
        rw [ins_flat l k ⟨key, val⟩, ← hRR] at hown5
        have hg5 := grown_at hgr5 (show (w4.alloc (.cells #[.string key, .string val] 41)).drew.heap[g]? = _ from cells_of (K := w4.heap.size) hg4 ((Below.refl _ w4).alloc (Nat.le_refl _) _).drew (by omega)) (fun e => hobg e.symm)
        have c5 := cell_heap hg5 0
        have f5 := free_of_one hg5
        have hv5 : v5.ownBlock ≠ some g := fun e => by have := own_tagS hown5 e hg5; revert this; decide
        obtain ⟨a5, cap5, hv9, _⟩ := own_sliceN hown5
        subst hv9
        refine hK _ _ ?_
        clear hK K
        refine wpAny_take (i := 9) (v := .pointer (some ⟨g, 0, none⟩)) rfl (by kernel_rfl) (by kernel_rfl) (by kernel_rfl) (fun _ _ _ h => h) (Or.inl ⟨by rfl, fun w9 => by (go_simp; try with_reducible rfl)⟩) ?_
        change wpAny _ _ _ _ _ _ (Act.put _ (some 40) _) _; dsimp only [Act.put]; simp only [List.setIfInBounds_toArray, List.set_cons_succ, List.set_cons_zero]
        refine wpAny_take (i := 10) (v := .pointer (some ⟨g, 0, none⟩)) rfl (by kernel_rfl) (by kernel_rfl) (by kernel_rfl) (fun _ _ _ h => h) (Or.inl ⟨by rfl, fun w9 => by (go_simp; try with_reducible rfl)⟩) ?_
        change wpAny _ _ _ _ _ _ (Act.put _ (some 41) _) _; dsimp only [Act.put]; simp only [List.setIfInBounds_toArray, List.set_cons_succ, List.set_cons_zero]
        refine wpAny_ready (rs := [11]) (by kernel_rfl) (by simp) ?_
        refine (AllReady.cons rfl (fun K hK => ?_) AllReady.nil)
        go_simp
        refine hK _ _ ?_
        clear hK K
        refine wpAny_done (by kernel_rfl) ?_ _
        go_wp2
        go_ret
        have hRl : R.length = n + 1 := by rw [hRR]; simp only [List.length_append, List.length_take, List.length_drop, List.length_cons, List.length_nil, hlenN.out]; omega
        refine ⟨by first | rfl | simp, ⟨hgd', a5, cap5, ?_, ?_⟩, ?_⟩
        · rw [hRl]; exact one_setCell hg5
        · rw [hRl]; exact ownsRow_setCell_other hown5 hv5 _
        · have hb6 := ((hb.mono (Nat.le_of_lt hgl)).alloc (by omega) (.cells #[.string key, .string val] 41)).drew
          exact (hb6.grown hgr5 (by have := hb6.size; omega) (fun j hj => (hown.lt j hj).1)).trans (setCell_frame (Nat.le_refl _))
end Go.Proofs.YtpledhipdiephaaDoor
