/- Store.Set and what it leaves as it was. -/
import Derived.Test.YtpledhipdiephaaDoorSt6
import Derived.BigRegion
import Derived.RegionTactic
import Derived.BigQuiet
import Derived.Deep.QuietTactic
import Derived.Deep.MidRow
import Derived.Deep.RegionLaw
import Derived.LoopTactic
import Derived.BigFrame
import Derived.OwnWalk
import Derived.OneCell
import Derived.Laws.OwnMore
import Derived.WalkKit
import Derived.ProofKit
import Derived.Handy
import Derived.Below
import Derived.Lib.Hide
import Derived.IntWalk
import Derived.Outline
import Derived.WalkLawsBesides
import Derived.WalkSpells
namespace Go.Proofs.YtpledhipdiephaaDoor
open Go.RowKit
attribute [local go_sem] strV
set_option linter.unusedVariables false
/-- A store at block g whose pairs lie in block r. -/
def StB (w : World) (g : Nat) (r : Option Nat) (l : List Pr) : Prop := goodL l = true ∧ ∃ a cap, w.heap[g]? = some (.cells #[.slice a l.length cap] 93 (0, 0)) ∧ w.ownsRow g 41 2 (.slice a l.length cap) l.length (l.flatMap Pr.cells) ∧ (Value.slice a l.length cap).ownBlock = r
theorem StB.at {w : World} {g : Nat} {r : Option Nat} {l : List Pr} (h : StB w g r l) : StAt w g l := by
  obtain ⟨h1, a, cap, h2, h3, _⟩ := h
  exact ⟨h1, a, cap, h2, h3⟩
theorem StB.lt {w : World} {g : Nat} {r : Option Nat} {l : List Pr} (h : StB w g r l) : g < w.heap.size := h.at.lt
theorem StB.kept {w w' : World} {g : Nat} {r : Option Nat} {l : List Pr} (h : StB w g r l) (hb : Below w.heap.size w w') : StB w' g r l := by
  obtain ⟨h1, a, cap, h2, h3, h4⟩ := h
  exact ⟨h1, a, cap, cells_of h2 hb (row_lt h2), own_keptH h3 hb, h4⟩
theorem StB.new {w : World} {g : Nat} (h : w.heap[g]? = some (.cells #[.slice none 0 0] 93 (0, 0))) : StB w g none [] := ⟨rfl, none, 0, h, World.ownsRow_nil _ _ _ _, rfl⟩
theorem StB.row {w : World} {g : Nat} {r : Option Nat} {l : List Pr} (h : StB w g r l) : ∀ k, r = some k → g ≤ k ∧ k < w.heap.size ∧ ∃ R, w.heap[k]? = some (.cells R 41 (0, 0)) := by
  intro k hk
  obtain ⟨h1, a, cap, h2, h3, h4⟩ := h
  subst hk
  rcases h3.2 with ⟨e0, _⟩ | ⟨g9, cap9, cur, e0, hb, hg9, _⟩
  · rw [e0] at h4; cases h4
  · rw [e0] at h4
    have e1 : g9 = k := by simpa [Value.ownBlock] using h4
    subst e1
    exact ⟨hb, row_lt hg9, cur, hg9⟩
/-- Of what stood, only the blocks g and r may have changed. -/
structure Fr (w w' : World) (g : Nat) (r : Option Nat) : Prop where
  os : w'.os = w.os
  tape : w'.tape = w.tape
  output : w'.output = w.output
  size : w.heap.size ≤ w'.heap.size
  block : ∀ k, k < w.heap.size → k ≠ g → some k ≠ r → w'.heap[k]? = w.heap[k]?
theorem Fr.of_below {w w' : World} {g : Nat} {r : Option Nat} (h : Below w.heap.size w w') : Fr w w' g r := ⟨h.os, h.tape, h.output, h.size, fun k hk _ _ => h.block k hk⟩
theorem Fr.grown {w x y : World} {g : Nat} {r : Option Nat} (h : Fr w x g r) (hg : x.grownBy y r) : Fr w y g r :=
  ⟨hg.os.trans h.os, hg.tape.trans h.tape, hg.output.trans h.output, Nat.le_trans h.size hg.size, fun k hk hn hr => (hg.block k (Nat.lt_of_lt_of_le hk h.size) hr).trans (h.block k hk hn hr)⟩
theorem Fr.set {w x : World} {g j b : Nat} {r : Option Nat} {v : Value} (h : Fr w x g r) (hb : b = g ∨ some b = r) : Fr w (x.setCell ⟨b, j, none⟩ v) g r := by
  refine ⟨h.os, h.tape, h.output, ?_, fun k hk hn hr => ?_⟩
  · show w.heap.size ≤ (x.heap.modify b _).size
    rw [Array.size_modify]; exact h.size
  · show (x.heap.modify b _)[k]? = _
    rw [Array.getElem?_modify, if_neg (fun e => by subst e; rcases hb with hb | hb; exact hn hb; exact hr hb)]
    exact h.block k hk hn hr
theorem Fr.setG {w x : World} {g j : Nat} {r : Option Nat} {v : Value} (h : Fr w x g r) : Fr w (x.setCell ⟨g, j, none⟩ v) g r := h.set (.inl rfl)
theorem Fr.setR {w x : World} {g j b : Nat} {r : Option Nat} {v : Value} (h : Fr w x g r) (hb : r = some b) : Fr w (x.setCell ⟨b, j, none⟩ v) g r := h.set (.inr hb.symm)
theorem Fr.drew {w x : World} {g : Nat} {r : Option Nat} (h : Fr w x g r) : Fr w x.drew g r := ⟨h.os, h.tape, h.output, h.size, h.block⟩
theorem Fr.below {w w' : World} {B g : Nat} {r : Option Nat} (h : Fr w w' g r) (hg : B ≤ g) (hr : ∀ k, r = some k → B ≤ k) (hB : B ≤ w.heap.size) : Below B w w' := by
  refine ⟨h.os, h.tape, h.output, h.size, fun k hk => ?_⟩
  exact h.block k (Nat.lt_of_lt_of_le hk hB) (by omega) (fun e => by have := hr k e.symm; omega)
theorem StB.other {w w' : World} {g g' : Nat} {r r' : Option Nat} {l : List Pr} (h : StB w g r l) (hf : Fr w w' g' r') (h1 : g ≠ g') (h2 : r' ≠ some g) (h3 : r ≠ some g') (h4 : r = none ∨ r ≠ r') : StB w' g r l := by
  obtain ⟨q1, a, cap, q2, q3, q4⟩ := h
  refine ⟨q1, a, cap, (hf.block g (row_lt q2) h1 (fun e => h2 e.symm)).trans q2, ?_, q4⟩
  refine ⟨q3.1, ?_⟩
  rcases q3.2 with q | ⟨b, c, cur, e0, hb, hh, rest⟩
  · exact .inl q
  · have e1 : r = some b := by rw [← q4, e0]; rfl
    refine .inr ⟨b, c, cur, e0, hb, ?_, rest⟩
    refine (hf.block b (row_lt hh) (fun e => h3 (by rw [e1, e])) (fun e => ?_)).trans hh
    rcases h4 with h4 | h4
    · rw [e1] at h4; cases h4
    · exact h4 (by rw [e1]; exact e)
set_option maxRecDepth 100000 in
set_option maxHeartbeats 6400000 in
theorem setB_any (g : Nat) (r : Option Nat) (l : List Pr) (key val : ByteArray) (w : World) (h : StB w g r l) (hn6 : l.length ≤ 100000) :
    Calls Tryd.prog 13 #[.pointer (some ⟨g, 0, none⟩), .string key, .string val] w fun e w' => e = .returned (.int .i64 (setE key val)) ∧ ∃ r', StB w' g r' (setS l key val) ∧ Fr w w' g r ∧ (r' = r ∨ ∃ k, r' = some k ∧ w.heap.size ≤ k) := by
  have hgl := h.lt
  obtain ⟨hgd, a, cap, hg, hown, hrb⟩ := h
  obtain ⟨a9, cap9, hv9, hr, hcap, hcm, hnone⟩ := own_sliceN hown
  simp only [Value.slice.injEq, true_and] at hv9
  obtain ⟨rfl, rfl⟩ := hv9
  obtain ⟨n, hn⟩ : ∃ n, l.length = n := ⟨_, rfl⟩
  rw [hn] at hg hown hcap hn6 hrb
  have hso := goodL_sorted hgd
  unfold maxLen at hcm
  have hw1 : Below w.heap.size w (w.alloc (.cells #[.string key, .string val] 41)) := (Below.refl _ _).alloc (Nat.le_refl _) _
  have hw2 : Below w.heap.size w ((w.alloc (.cells #[.string key, .string val] 41)).alloc (.cells #[.string key, .string val] 41)) := al2_below w _ _
  have hrow2 : RowAt ((w.alloc (.cells #[.string key, .string val] 41)).alloc (.cells #[.string key, .string val] 41)) (some ⟨w.heap.size + 1, 0, none⟩) ([(⟨key, val⟩ : Pr)].flatMap Pr.cells) := by
    have h1 := row_newI (w.alloc (.cells #[.string key, .string val] 41)) #[.string key, .string val] 41
    rw [show (w.alloc (.cells #[.string key, .string val] 41)).heap.size = w.heap.size + 1 by simp] at h1
    exact h1
  have CG := goodPr_any (some ⟨w.heap.size + 1, 0, none⟩) 1 1 [⟨key, val⟩] _ hrow2 rfl (Nat.le_refl _) (by unfold maxLen; omega)
  rw [good_one] at CG
  simp only [] at CG
  obtain ⟨fit, hfit⟩ : ∃ b, fitsB key val = b := ⟨_, rfl⟩
  have HS : setS l key val = if fit = true then setL l key val else l := by unfold setS riseStep; rw [hfit]
  have HE : setE key val = if fit = true then 0 else 1 := by unfold setE; rw [hfit]
  rw [hfit] at CG
  rw [HS, HE]
  have p0 : (w.alloc (.cells #[.string key, .string val] 41)).cell? ⟨w.heap.size, 0, none⟩ = some (.string key) := cell_heap (heap_push w _ _) 0
  have p1 : (w.alloc (.cells #[.string key, .string val] 41)).cell? ⟨w.heap.size, 1, none⟩ = some (.string val) := cell_heap (heap_push w _ _) 1
  have hp2 : ((w.alloc (.cells #[.string key, .string val] 41)).alloc (.cells #[.string key, .string val] 41)).heap[w.heap.size]? = some (.cells #[.string key, .string val] 41 (0, 0)) := al2_0 w _ _
  have e1 : (w.alloc (.cells #[.string key, .string val] 41)).heap.size = w.heap.size + 1 := by simp
  have HN := Lib.hid hn
  clear HS HE hn
  cases fit
  · simp only [Bool.false_eq_true, if_false]
    clear hso
    go_enter Tryd.func13, Tryd.ntmps13
    go_wp2_with (go_at_call 48; refine CG.mono ?_; rintro e w3 ⟨rfl, hb3⟩)
    go_ret
    have hb := hw2.trans (hb3.mono hw2.size)
    exact ⟨by first | rfl | simp, r, StB.kept ⟨hgd, a, cap, by rw [HN.out]; exact hg, by rw [HN.out]; exact hown, by rw [HN.out]; exact hrb⟩ hb, Fr.of_below hb, .inl rfl⟩
  simp only [if_true]
  have CF := fun W (hb : Below w.heap.size w W) => find_any g a n cap l key W (cells_of hg hb hgl) (hr.below hb) HN.out hcap (by unfold maxLen; omega) (by omega) hso
  have hgd' := setL_good hgd hfit
  have hfl : foundL l key = true → placeL l key < l.length := fun h => (found_at h).1
  have hpl : placeL l key ≤ l.length := List.findIdx_le_length
  have HSF := @set_found l key val
  have HIF : foundL l key = false → setL l key val = l.take (placeL l key) ++ [⟨key, val⟩] ++ l.drop (placeL l key) := fun h => by unfold setL; rw [h]; simp
  obtain ⟨R, hR⟩ : ∃ R, setL l key val = R := ⟨_, rfl⟩
  rw [hR] at hgd' HSF HIF ⊢
  obtain ⟨k, hk⟩ : ∃ k, placeL l key = k := ⟨_, rfl⟩
  obtain ⟨fd, hfd⟩ : ∃ f, foundL l key = f := ⟨_, rfl⟩
  rw [hk] at hpl
  rw [hk, hfd] at hfl
  rw [hk, hfd] at HSF HIF
  simp only [hk, hfd] at CF
  rw [HN.out] at hpl hfl
  clear hk hfd hR hso hfit
  have n0 : (0 : Int) ≤ (k : Int) := by omega
  have n2 : ((k : Nat) : Int).toNat = k := by omega
  cases fd
  rotate_left
  · have hkn := hfl rfl
    have n1 : (k : Int) < (n : Int) := by omega
    have hRR := HSF rfl
    clear HSF HIF hfl
    obtain ⟨gr, cr, hf9⟩ := own_formS hown (by omega)
    simp only [Value.slice.injEq, true_and] at hf9
    obtain ⟨rfl, rfl⟩ := hf9
    have hgr := (hown.lt gr rfl)
    go_enter Tryd.func13, Tryd.ntmps13
    go_upto_region 6 with (first | (go_at_call 48; refine CG.mono ?_; rintro e w3 ⟨rfl, hb3⟩; have hb := hw2.trans (hb3.mono hw2.size)) | (go_at_call 49; refine (CF _ hb).mono ?_; rintro e w4 ⟨rfl, hb4⟩; have hb := hb.trans (hb4.mono hb.size)))
    have hs3 := hb3.size
    have hs2 : ((w.alloc (.cells #[.string key, .string val] 41)).alloc (.cells #[.string key, .string val] 41)).heap.size = w.heap.size + 2 := by simp
    have hs4 := hb4.size
    have hp4 := cells_of (cells_of hp2 hb3 (by omega)) hb4 (by omega)
    have hown4 := own_keptH hown hb
    have c0 : w4.cell? ⟨g, 0, none⟩ = some (.slice (some ⟨gr, 0, none⟩) n cap) := cell_heap (cells_of hg hb hgl) 0
    have q0 : w4.cell? ⟨w.heap.size, 0, none⟩ = some (.string key) := cell_heap hp4 0
    have q1 : w4.cell? ⟨w.heap.size, 1, none⟩ = some (.string val) := cell_heap hp4 1
    have f0 := hown4.frozenAt (k * 2)
    have f1 := hown4.frozenAt (k * 2 + 1)
    have hlen := hown4.1
    obtain ⟨u0, hu0⟩ : ∃ u, (l.flatMap Pr.cells)[k * 2]? = some u := ⟨_, List.getElem?_eq_getElem (by omega)⟩
    obtain ⟨u1, hu1⟩ : ∃ u, (l.flatMap Pr.cells)[k * 2 + 1]? = some u := ⟨_, List.getElem?_eq_getElem (by omega)⟩
    have d0 := (hown4.cellAt (k * 2) (by omega)).trans hu0
    have d1 := (hown4.cellAt (k * 2 + 1) (by omega)).trans hu1
    obtain ⟨s1, hg1⟩ := hown4.stored (k * 2) (.string key)
    obtain ⟨s2, hg2⟩ := s1.stored (k * 2 + 1) (.string val)
    have hlenN := HN
    clear hu0 hu1 hp2 hp4 p0 p1 CF CG hrow2 hr HN e1 hs2
    go_region
    go_wp2
    go_ret
    have hne : gr ≠ g := fun e => by
      subst e
      have := own_tagS hown rfl hg
      revert this; decide
    have hb5 : Below w.heap.size w w4 := hb
    rw [set_flat l k ⟨key, val⟩] at s2
    have hRl : R.length = n := by rw [hRR, List.length_set]; exact hlenN.out
    refine ⟨by first | rfl | simp, r, ⟨hgd', some ⟨gr, 0, none⟩, cap, ?_, ?_, by rw [hRl]; exact hrb⟩, ?_, .inl rfl⟩
    · rw [hRl]
      show ((w4.setCell ⟨gr, k * 2, none⟩ (.string key)).setCell ⟨gr, k * 2 + 1, none⟩ (.string val)).heap[g]? = _
      rw [heap_setCell_other _ _ _ _ (fun e => hne (by simp at e; exact e.symm)), heap_setCell_other _ _ _ _ (fun e => hne (by simp at e; exact e.symm))]
      exact cells_of hg hb hgl
    · rw [hRl, hRR]; exact s2
    · have hrg : r = some gr := hrb.symm
      exact (((Fr.of_below hb5).setR hrg).setR hrg).drew
  · have hRR := HIF rfl
    clear HSF HIF hfl
    have n1 : (k : Int) ≤ (n : Int) := by omega
    have n1k : k ≤ n := by omega
    go_enter Tryd.func13, Tryd.ntmps13
    go_upto_region 7 with (first | (go_at_call 48; refine CG.mono ?_; rintro e w3 ⟨rfl, hb3⟩; have hb := hw2.trans (hb3.mono hw2.size)) | (go_at_call 49; refine (CF _ hb).mono ?_; rintro e w4 ⟨rfl, hb4⟩; have hb := hb.trans (hb4.mono hb.size)))
    have hs3 := hb3.size
    have hs2 : ((w.alloc (.cells #[.string key, .string val] 41)).alloc (.cells #[.string key, .string val] 41)).heap.size = w.heap.size + 2 := by simp
    have hs4 := hb4.size
    have hp4 := cells_of (cells_of hp2 hb3 (by omega)) hb4 (by omega)
    have hown4 := own_keptH hown hb
    have hg4 := cells_of hg hb hgl
    have c0 : w4.cell? ⟨g, 0, none⟩ = some (.slice a n cap) := cell_heap hg4 0
    have q0 : w4.cell? ⟨w.heap.size, 0, none⟩ = some (.string key) := cell_heap hp4 0
    have q1 : w4.cell? ⟨w.heap.size, 1, none⟩ = some (.string val) := cell_heap hp4 1
    have hlenN := HN
    have hobl : ∀ j, (Value.slice a n cap).ownBlock = some j → j < w.heap.size := fun j hj => (hown.lt j hj).2
    have hobg : (Value.slice a n cap).ownBlock ≠ some g := fun e => by
      have := own_tagS hown e hg
      revert this; decide
    have c0a : (w4.alloc (.cells #[.string key, .string val] 41)).cell? ⟨g, 0, none⟩ = some (.slice a n cap) := cell_heap (cells_of hg4 ((Below.refl _ _).alloc (Nat.le_refl _) _) (by omega)) 0
    have hbs := hb.size
    clear hp2 hp4 p0 p1 CF CG hrow2 hr HN e1 hs2
    refine wp_region_any (by kernel_rfl) ?_
    change wpAny _ _ _ _ _ _ _ (World.drew _)
    refine wpAny_take (i := 0) (v := .pointer (some ⟨g, 0, none⟩)) rfl (by kernel_rfl) (by kernel_rfl) (by kernel_rfl) (fun _ _ _ h => h) (Or.inl ⟨by rfl, fun w9 => by (go_simp; try with_reducible rfl)⟩) ?_
    change wpAny _ _ _ _ _ _ (Act.put _ (some 31) _) _; dsimp only [Act.put]; simp only [List.setIfInBounds_toArray, List.set_cons_succ, List.set_cons_zero]
    refine wpAny_take (i := 1) (v := .pointer (some ⟨g, 0, none⟩)) rfl (by kernel_rfl) (by kernel_rfl) (by kernel_rfl) (fun _ _ _ h => h) (Or.inl ⟨by rfl, fun w9 => by (go_simp; try with_reducible rfl)⟩) ?_
    change wpAny _ _ _ _ _ _ (Act.put _ (some 32) _) _; dsimp only [Act.put]; simp only [List.setIfInBounds_toArray, List.set_cons_succ, List.set_cons_zero]
    refine wpAny_take (i := 2) (v := .pointer (some ⟨g, 0, none⟩)) rfl (by kernel_rfl) (by kernel_rfl) (by kernel_rfl) (fun _ _ _ h => h) (Or.inl ⟨by rfl, fun w9 => by (go_simp; try with_reducible rfl)⟩) ?_
    change wpAny _ _ _ _ _ _ (Act.put _ (some 33) _) _; dsimp only [Act.put]; simp only [List.setIfInBounds_toArray, List.set_cons_succ, List.set_cons_zero]
    refine wpAny_take (i := 3) (v := .pointer (some ⟨g, 0, none⟩)) rfl (by kernel_rfl) (by kernel_rfl) (by kernel_rfl) (fun _ _ _ h => h) (Or.inl ⟨by rfl, fun w9 => by (go_simp; try with_reducible rfl)⟩) ?_
    change wpAny _ _ _ _ _ _ (Act.put _ (some 34) _) _; dsimp only [Act.put]; simp only [List.setIfInBounds_toArray, List.set_cons_succ, List.set_cons_zero]
    refine wpAny_take (i := 5) (v := .int .i64 (k : Int)) rfl (by kernel_rfl) (by kernel_rfl) (by kernel_rfl) (fun _ _ _ h => h) (Or.inl ⟨by rfl, fun w9 => by (go_simp; try with_reducible rfl)⟩) ?_
    change wpAny _ _ _ _ _ _ (Act.put _ (some 36) _) _; dsimp only [Act.put]; simp only [List.setIfInBounds_toArray, List.set_cons_succ, List.set_cons_zero]
    refine wpAny_ready (rs := [4, 6]) (by kernel_rfl) (by simp) ?_
    refine (AllReady.cons rfl (fun K hK => ?_) (AllReady.cons rfl (fun K hK => ?_) AllReady.nil))
    · go_simp
      refine hK _ _ ?_
      clear hK K
      refine wpAny_ready (rs := [6]) (by kernel_rfl) (by simp) ?_
      refine (AllReady.cons rfl (fun K hK => ?_) AllReady.nil)
      go_simp
      refine hK _ _ ?_
      clear hK K
      refine wpAny_ready (rs := [7]) (by kernel_rfl) (by simp) ?_
      refine (AllReady.cons rfl (fun K hK => ?_) AllReady.nil)
      go_simp
      refine hK _ _ ?_
      clear hK K
      refine wpAny_ready (rs := [8]) (by kernel_rfl) (by simp) ?_
      refine (AllReady.cons rfl (fun K hK => ?_) AllReady.nil)
      go_simp
      refine (insPr_any (w := (w4.alloc (.cells #[.string key, .string val] 41)).drew) (base := g) (xs := l.flatMap Pr.cells) (u0 := .string key) (u1 := .string val) (World.ownsRow.drew (hown4.alloc _)) (pr_cells_one l) n1k (by omega) (Nat.le_trans (Nat.le_of_lt hgl) (Nat.le_trans hb.size (by simp))) (heap_push w4 _ _) (fun e => by have := hobl _ e; omega) rfl rfl).mono ?_
      rintro e w5 ⟨v5, rfl, hown5, hgr5, hat5⟩
      rw [ins_flat l k ⟨key, val⟩, ← hRR] at hown5
      have hg5 := grown_at hgr5 (show (w4.alloc (.cells #[.string key, .string val] 41)).drew.heap[g]? = _ from cells_of (K := w4.heap.size) hg4 ((Below.refl _ w4).alloc (Nat.le_refl _) _).drew (by omega)) (fun e => hobg e.symm)
      have c5 := cell_heap hg5 0
      have f5 := free_of_one hg5
      have hv5 : v5.ownBlock ≠ some g := fun e => by have := own_tagS hown5 e hg5; revert this; decide
      obtain ⟨a5, cap5, hv9, _⟩ := own_sliceN hown5
      subst hv9
      refine hK _ _ ?_
      clear hK K
      refine wpAny_take (i := 9) (v := .pointer (some ⟨g, 0, none⟩)) rfl (by kernel_rfl) (by kernel_rfl) (by kernel_rfl) (fun _ _ _ h => h) (Or.inl ⟨by rfl, fun w9 => by (go_simp; try with_reducible rfl)⟩) ?_
      change wpAny _ _ _ _ _ _ (Act.put _ (some 40) _) _; dsimp only [Act.put]; simp only [List.setIfInBounds_toArray, List.set_cons_succ, List.set_cons_zero]
      refine wpAny_take (i := 10) (v := .pointer (some ⟨g, 0, none⟩)) rfl (by kernel_rfl) (by kernel_rfl) (by kernel_rfl) (fun _ _ _ h => h) (Or.inl ⟨by rfl, fun w9 => by (go_simp; try with_reducible rfl)⟩) ?_
      change wpAny _ _ _ _ _ _ (Act.put _ (some 41) _) _; dsimp only [Act.put]; simp only [List.setIfInBounds_toArray, List.set_cons_succ, List.set_cons_zero]
      refine wpAny_ready (rs := [11]) (by kernel_rfl) (by simp) ?_
      refine (AllReady.cons rfl (fun K hK => ?_) AllReady.nil)
      go_simp
      refine hK _ _ ?_
      clear hK K
      refine wpAny_done (by kernel_rfl) ?_ _
      go_wp2
      go_ret
      have hRl : R.length = n + 1 := by rw [hRR]; simp only [List.length_append, List.length_take, List.length_drop, List.length_cons, List.length_nil, hlenN.out]; omega
      refine ⟨by first | rfl | simp, _, ⟨hgd', a5, cap5, ?_, ?_, rfl⟩, ?_, ?_⟩
      · rw [hRl]; exact one_setCell hg5
      · rw [hRl]; exact ownsRow_setCell_other hown5 hv5 _
      · have hb6 := (hb.alloc hb.size (.cells #[.string key, .string val] 41)).drew
        rw [hrb] at hgr5
        exact ((Fr.of_below hb6).grown hgr5).setG
      · rw [hRl]
        rcases hat5 with hat5 | hat5
        · exact .inl (hat5.trans hrb)
        · exact .inr ⟨_, hat5, Nat.le_trans hb.size (by first | exact Nat.le_succ _ | simp)⟩
    · go_simp
      refine hK _ _ ?_
      clear hK K
      refine wpAny_ready (rs := [4, 7]) (by kernel_rfl) (by simp) ?_
      refine (AllReady.cons rfl (fun K hK => ?_) (AllReady.cons rfl (fun K hK => ?_) AllReady.nil))
      · go_simp
        refine hK _ _ ?_
        clear hK K
        refine wpAny_ready (rs := [7]) (by kernel_rfl) (by simp) ?_
        refine (AllReady.cons rfl (fun K hK => ?_) AllReady.nil)
        go_simp
        refine hK _ _ ?_
        clear hK K
        refine wpAny_ready (rs := [8]) (by kernel_rfl) (by simp) ?_
        refine (AllReady.cons rfl (fun K hK => ?_) AllReady.nil)
        go_simp
        refine (insPr_any (w := (w4.alloc (.cells #[.string key, .string val] 41)).drew) (base := g) (xs := l.flatMap Pr.cells) (u0 := .string key) (u1 := .string val) (World.ownsRow.drew (hown4.alloc _)) (pr_cells_one l) n1k (by omega) (Nat.le_trans (Nat.le_of_lt hgl) (Nat.le_trans hb.size (by simp))) (heap_push w4 _ _) (fun e => by have := hobl _ e; omega) rfl rfl).mono ?_
        rintro e w5 ⟨v5, rfl, hown5, hgr5, hat5⟩
        rw [ins_flat l k ⟨key, val⟩, ← hRR] at hown5
        have hg5 := grown_at hgr5 (show (w4.alloc (.cells #[.string key, .string val] 41)).drew.heap[g]? = _ from cells_of (K := w4.heap.size) hg4 ((Below.refl _ w4).alloc (Nat.le_refl _) _).drew (by omega)) (fun e => hobg e.symm)
        have c5 := cell_heap hg5 0
        have f5 := free_of_one hg5
        have hv5 : v5.ownBlock ≠ some g := fun e => by have := own_tagS hown5 e hg5; revert this; decide
        obtain ⟨a5, cap5, hv9, _⟩ := own_sliceN hown5
        subst hv9
        refine hK _ _ ?_
        clear hK K
        refine wpAny_take (i := 9) (v := .pointer (some ⟨g, 0, none⟩)) rfl (by kernel_rfl) (by kernel_rfl) (by kernel_rfl) (fun _ _ _ h => h) (Or.inl ⟨by rfl, fun w9 => by (go_simp; try with_reducible rfl)⟩) ?_
        change wpAny _ _ _ _ _ _ (Act.put _ (some 40) _) _; dsimp only [Act.put]; simp only [List.setIfInBounds_toArray, List.set_cons_succ, List.set_cons_zero]
        refine wpAny_take (i := 10) (v := .pointer (some ⟨g, 0, none⟩)) rfl (by kernel_rfl) (by kernel_rfl) (by kernel_rfl) (fun _ _ _ h => h) (Or.inl ⟨by rfl, fun w9 => by (go_simp; try with_reducible rfl)⟩) ?_
        change wpAny _ _ _ _ _ _ (Act.put _ (some 41) _) _; dsimp only [Act.put]; simp only [List.setIfInBounds_toArray, List.set_cons_succ, List.set_cons_zero]
        refine wpAny_ready (rs := [11]) (by kernel_rfl) (by simp) ?_
        refine (AllReady.cons rfl (fun K hK => ?_) AllReady.nil)
        go_simp
        refine hK _ _ ?_
        clear hK K
        refine wpAny_done (by kernel_rfl) ?_ _
        go_wp2
        go_ret
        have hRl : R.length = n + 1 := by rw [hRR]; simp only [List.length_append, List.length_take, List.length_drop, List.length_cons, List.length_nil, hlenN.out]; omega
        refine ⟨by first | rfl | simp, _, ⟨hgd', a5, cap5, ?_, ?_, rfl⟩, ?_, ?_⟩
        · rw [hRl]; exact one_setCell hg5
        · rw [hRl]; exact ownsRow_setCell_other hown5 hv5 _
        · have hb6 := (hb.alloc hb.size (.cells #[.string key, .string val] 41)).drew
          rw [hrb] at hgr5
          exact ((Fr.of_below hb6).grown hgr5).setG
        · rw [hRl]
          rcases hat5 with hat5 | hat5
          · exact .inl (hat5.trans hrb)
          · exact .inr ⟨_, hat5, Nat.le_trans hb.size (by first | exact Nat.le_succ _ | simp)⟩
      · go_simp
        refine hK _ _ ?_
        clear hK K
        refine wpAny_ready (rs := [4]) (by kernel_rfl) (by simp) ?_
        refine (AllReady.cons rfl (fun K hK => ?_) AllReady.nil)
        go_simp
        refine hK _ _ ?_
        clear hK K
        refine wpAny_ready (rs := [8]) (by kernel_rfl) (by simp) ?_
        refine (AllReady.cons rfl (fun K hK => ?_) AllReady.nil)
        go_simp
        refine (insPr_any (w := (w4.alloc (.cells #[.string key, .string val] 41)).drew) (base := g) (xs := l.flatMap Pr.cells) (u0 := .string key) (u1 := .string val) (World.ownsRow.drew (hown4.alloc _)) (pr_cells_one l) n1k (by omega) (Nat.le_trans (Nat.le_of_lt hgl) (Nat.le_trans hb.size (by simp))) (heap_push w4 _ _) (fun e => by have := hobl _ e; omega) rfl rfl).mono ?_
        rintro e w5 ⟨v5, rfl, hown5, hgr5, hat5⟩
        rw [ins_flat l k ⟨key, val⟩, ← hRR] at hown5
        have hg5 := grown_at hgr5 (show (w4.alloc (.cells #[.string key, .string val] 41)).drew.heap[g]? = _ from cells_of (K := w4.heap.size) hg4 ((Below.refl _ w4).alloc (Nat.le_refl _) _).drew (by omega)) (fun e => hobg e.symm)
        have c5 := cell_heap hg5 0
        have f5 := free_of_one hg5
        have hv5 : v5.ownBlock ≠ some g := fun e => by have := own_tagS hown5 e hg5; revert this; decide
        obtain ⟨a5, cap5, hv9, _⟩ := own_sliceN hown5
        subst hv9
        refine hK _ _ ?_
        clear hK K
        refine wpAny_take (i := 9) (v := .pointer (some ⟨g, 0, none⟩)) rfl (by kernel_rfl) (by kernel_rfl) (by kernel_rfl) (fun _ _ _ h => h) (Or.inl ⟨by rfl, fun w9 => by (go_simp; try with_reducible rfl)⟩) ?_
        change wpAny _ _ _ _ _ _ (Act.put _ (some 40) _) _; dsimp only [Act.put]; simp only [List.setIfInBounds_toArray, List.set_cons_succ, List.set_cons_zero]
        refine wpAny_take (i := 10) (v := .pointer (some ⟨g, 0, none⟩)) rfl (by kernel_rfl) (by kernel_rfl) (by kernel_rfl) (fun _ _ _ h => h) (Or.inl ⟨by rfl, fun w9 => by (go_simp; try with_reducible rfl)⟩) ?_
        change wpAny _ _ _ _ _ _ (Act.put _ (some 41) _) _; dsimp only [Act.put]; simp only [List.setIfInBounds_toArray, List.set_cons_succ, List.set_cons_zero]
        refine wpAny_ready (rs := [11]) (by kernel_rfl) (by simp) ?_
        refine (AllReady.cons rfl (fun K hK => ?_) AllReady.nil)
        go_simp
        refine hK _ _ ?_
        clear hK K
        refine wpAny_done (by kernel_rfl) ?_ _
        go_wp2
        go_ret
        have hRl : R.length = n + 1 := by rw [hRR]; simp only [List.length_append, List.length_take, List.length_drop, List.length_cons, List.length_nil, hlenN.out]; omega
        refine ⟨by first | rfl | simp, _, ⟨hgd', a5, cap5, ?_, ?_, rfl⟩, ?_, ?_⟩
        · rw [hRl]; exact one_setCell hg5
        · rw [hRl]; exact ownsRow_setCell_other hown5 hv5 _
        · have hb6 := (hb.alloc hb.size (.cells #[.string key, .string val] 41)).drew
          rw [hrb] at hgr5
          exact ((Fr.of_below hb6).grown hgr5).setG
        · rw [hRl]
          rcases hat5 with hat5 | hat5
          · exact .inl (hat5.trans hrb)
          · exact .inr ⟨_, hat5, Nat.le_trans hb.size (by first | exact Nat.le_succ _ | simp)⟩
end Go.Proofs.YtpledhipdiephaaDoor
