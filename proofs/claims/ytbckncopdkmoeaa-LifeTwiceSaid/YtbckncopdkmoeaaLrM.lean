/- Where a key goes in a sorted list. -/
import Derived.Test.YtbckncopdkmoeaaLr4
import Derived.WalkKit
import Derived.ProofKit
import Derived.Handy
import Derived.Below
import Derived.Lib.Hide
import Derived.IntWalk
import Derived.Outline
import Derived.WalkLawsBesides
import Derived.WalkSpells
namespace Go.Proofs.Ytbckncopdkmoeaa
open Go.RowKit
attribute [local go_sem] strV
set_option linter.unusedVariables false
theorem tw_filter {α : Type} {lt : α → α → Bool} (ht : ∀ x y z, lt x y = true → lt y z = true → lt x z = true) {k : α} : ∀ {ks : List α}, ks.Pairwise (fun x y => lt x y = true) → ks.takeWhile (fun y => lt y k) = ks.filter (fun y => lt y k) := by
  intro ks
  induction ks with
  | nil => intro _; rfl
  | cons a l ih =>
    intro h
    have h' := List.pairwise_cons.1 h
    cases hk : lt a k
    · rw [List.takeWhile_cons, hk, List.filter_cons, hk]
      simp only [Bool.false_eq_true, if_false]
      refine (List.filter_eq_nil_iff.2 (fun y hy => ?_)).symm
      intro hyk
      have := ht a y k (h'.1 y hy) hyk
      rw [hk] at this; cases this
    · rw [List.takeWhile_cons, hk, List.filter_cons, hk]
      simp only [if_true]
      rw [ih h'.2]
theorem take_find {ks : List Lk} (h : ks.Pairwise (fun x y => lkLess x y = true)) (k : Lk) : ks.take (findI ks k) = ks.filter (fun y => lkLess y k) := by
  rw [← tw_filter (lt := lkLess) (fun _ _ _ a b => lkLess_trans a b) h]
  unfold findI
  exact (List.prefix_iff_eq_take.1 (List.takeWhile_prefix _)).symm
theorem find_le (ks : List Lk) (k : Lk) : findI ks k ≤ ks.length := by
  unfold findI
  exact (List.takeWhile_prefix _).length_le
theorem mem_drop_find {ks : List Lk} (h : ks.Pairwise (fun x y => lkLess x y = true)) (k y : Lk) : y ∈ ks.drop (findI ks k) ↔ y ∈ ks ∧ lkLess y k = false := by
  have hnd : ks.Nodup := h.imp (fun {a b} q e => by subst e; rw [lkLess_irr] at q; cases q)
  have hap : ks = ks.take (findI ks k) ++ ks.drop (findI ks k) := (List.take_append_drop _ _).symm
  constructor
  · intro hy
    refine ⟨List.mem_of_mem_drop hy, ?_⟩
    cases hk : lkLess y k
    · rfl
    · have hm : y ∈ ks.take (findI ks k) := by rw [take_find h]; exact List.mem_filter.2 ⟨List.mem_of_mem_drop hy, hk⟩
      rw [hap] at hnd
      exact absurd rfl ((List.nodup_append.1 hnd).2.2 y hm y hy)
  · rintro ⟨hy, hk⟩
    rw [hap] at hy
    rcases List.mem_append.1 hy with hm | hm
    · rw [take_find h] at hm
      rw [(List.mem_filter.1 hm).2] at hk; cases hk
    · exact hm
open Classical in
theorem findB_mem {ks : List Lk} (h : ks.Pairwise (fun x y => lkLess x y = true)) (k : Lk) : findB ks k = true ↔ k ∈ ks := by
  unfold findB
  rw [decide_eq_true_iff]
  constructor
  · intro hq; exact List.mem_of_getElem? hq
  · intro hk
    have hm := (mem_drop_find h k k).2 ⟨hk, lkLess_irr k⟩
    cases hd : ks.drop (findI ks k) with
    | nil => rw [hd] at hm; cases hm
    | cons y r =>
      have h0 : ks[findI ks k]? = some y := by
        have h6 : (ks.drop (findI ks k))[0]? = some y := by rw [hd]; rfl
        rwa [List.getElem?_drop, Nat.add_zero] at h6
      rw [hd] at hm
      rcases List.mem_cons.1 hm with rfl | hr
      · exact h0
      · have hp : (ks.drop (findI ks k)).Pairwise (fun x y => lkLess x y = true) := h.drop
        rw [hd] at hp
        have h1 := (List.pairwise_cons.1 hp).1 k hr
        have h2 := (mem_drop_find h k y).1 (by rw [hd]; exact List.mem_cons_self ..)
        rw [h2.2] at h1; cases h1
/-- A key that is not there, put in its place: the sorted list with it. -/
theorem ins_find {ks : List Lk} (h : ks.Pairwise (fun x y => lkLess x y = true)) {k : Lk} (hk : k ∉ ks) :
    (ks.take (findI ks k) ++ k :: ks.drop (findI ks k)).Pairwise (fun x y => lkLess x y = true) ∧ ∀ x, x ∈ ks.take (findI ks k) ++ k :: ks.drop (findI ks k) ↔ x = k ∨ x ∈ ks := by
  have hup : ∀ y ∈ ks.drop (findI ks k), lkLess k y = true := fun y hy => by
    have h2 := (mem_drop_find h k y).1 hy
    cases h3 : lkLess k y
    · exact absurd (lkLess_tri h2.2 h3 ▸ h2.1) hk
    · rfl
  have hlow : ∀ y ∈ ks.take (findI ks k), lkLess y k = true := fun y hy => by rw [take_find h] at hy; exact (List.mem_filter.1 hy).2
  refine ⟨List.pairwise_append.2 ⟨h.take, List.pairwise_cons.2 ⟨hup, h.drop⟩, fun x hx y hy => ?_⟩, fun x => ?_⟩
  · rcases List.mem_cons.1 hy with rfl | hy
    · exact hlow x hx
    · exact lkLess_trans (hlow x hx) (hup y hy)
  · have e : x ∈ ks ↔ x ∈ ks.take (findI ks k) ∨ x ∈ ks.drop (findI ks k) := by
      rw [← List.mem_append, List.take_append_drop]
    rw [e, List.mem_append, List.mem_cons]
    constructor
    · rintro (h1 | h1 | h1)
      · exact .inr (.inl h1)
      · exact .inl h1
      · exact .inr (.inr h1)
    · rintro (h1 | h1 | h1)
      · exact .inr (.inl h1)
      · exact .inl h1
      · exact .inr (.inr h1)
theorem findB_at {ks : List Lk} {k : Lk} (hb : findB ks k = true) : ks[findI ks k]? = some k := by
  classical
  unfold findB at hb
  exact of_decide_eq_true hb
/-- What the document's Get gives is what the table holds. -/
theorem getE_of {f : Lk → Option Ent} {cl : ByteArray → Int → Bool} {ks : List Lk} (h : KeysOf ⟨f, cl⟩ ks) {k : Lk} (hk : k.wf) : getE ks (ks.map fun y => (f y).getD zeroEnt) k = (f k).getD zeroEnt ∧ findB ks k = (f k).isSome := by
  have h2 := h.2.2 k hk
  have h3 := findB_mem h.1 k
  cases hb : findB ks k
  · have hn : k ∉ ks := fun q => by rw [h3.2 q] at hb; cases hb
    have hf : (f k).isSome = false := by
      cases hq : (f k).isSome
      · rfl
      · exact absurd (h2.1 hq) hn
    unfold getE
    rw [hb, if_neg (by decide), hf]
    refine ⟨?_, rfl⟩
    cases hv : f k with
    | none => rfl
    | some v => rw [hv] at hf; cases hf
  · have hm := h3.1 hb
    refine ⟨?_, (h2.2 hm).symm⟩
    unfold getE
    rw [hb, if_pos rfl, List.getElem?_map, findB_at hb]; rfl
/-- A new entry in its place: the entries of the table with it. -/
theorem ents_ins {f : Lk → Option Ent} {ks : List Lk} {k : Lk} (hk : k ∉ ks) (e : Ent) (i : Nat) :
    (ks.take i ++ k :: ks.drop i).map (fun y => ((setF f k e) y).getD zeroEnt) = (ks.map fun y => (f y).getD zeroEnt).take i ++ e :: (ks.map fun y => (f y).getD zeroEnt).drop i := by
  have hg : ∀ l : List Lk, (∀ y ∈ l, y ∈ ks) → l.map (fun y => ((setF f k e) y).getD zeroEnt) = l.map (fun y => (f y).getD zeroEnt) := fun l hl => List.map_congr_left (fun y hy => by have hne : y ≠ k := fun q => hk (by rw [← q]; exact hl y hy); rw [setF_other hne])
  rw [List.map_append, List.map_cons, hg _ (fun y hy => List.mem_of_mem_take hy), hg _ (fun y hy => List.mem_of_mem_drop hy), setF_same, List.map_take, List.map_drop]
  rfl
/-- An entry written in place: the entries of the table with it. -/
theorem ents_set {f : Lk → Option Ent} {ks : List Lk} (h : ks.Pairwise (fun x y => lkLess x y = true)) {k : Lk} (hk : k ∈ ks) (e : Ent) :
    ks.map (fun y => ((setF f k e) y).getD zeroEnt) = (ks.map fun y => (f y).getD zeroEnt).set (findI ks k) e := by
  have hb := findB_at ((findB_mem h k).2 hk)
  obtain ⟨hi, hik⟩ := List.getElem?_eq_some_iff.1 hb
  apply List.ext_getElem?
  intro j
  rw [List.getElem?_map, List.getElem?_set]
  by_cases hj : findI ks k = j
  · subst hj
    rw [if_pos rfl, hb]
    simp [setF_same, hi]
  · rw [if_neg hj, List.getElem?_map]
    cases hv : ks[j]? with
    | none => rfl
    | some y =>
      have hne : y ≠ k := fun q => by
        subst q
        obtain ⟨hjl, hjk⟩ := List.getElem?_eq_some_iff.1 hv
        rcases Nat.lt_or_gt_of_ne hj with hlt | hlt
        · have h9 := List.pairwise_iff_getElem.1 h _ _ hi hjl hlt
          rw [hik, hjk, lkLess_irr] at h9; cases h9
        · have h9 := List.pairwise_iff_getElem.1 h _ _ hjl hi hlt
          rw [hik, hjk, lkLess_irr] at h9; cases h9
      simp [setF_other hne]
/-- The place of an end; is it there? -/
def findIE (ks : List Pe) (k : Pe) : Nat := (ks.takeWhile (fun y => peLess y k)).length
open Classical in
noncomputable def findBE (ks : List Pe) (k : Pe) : Bool := decide (ks[findIE ks k]? = some k)
theorem take_findE {ks : List Pe} (h : ks.Pairwise (fun x y => peLess x y = true)) (k : Pe) : ks.take (findIE ks k) = ks.filter (fun y => peLess y k) := by
  rw [← tw_filter (lt := peLess) (fun _ _ _ a b => peLess_trans a b) h]
  unfold findIE
  exact (List.prefix_iff_eq_take.1 (List.takeWhile_prefix _)).symm
theorem find_leE (ks : List Pe) (k : Pe) : findIE ks k ≤ ks.length := by
  unfold findIE
  exact (List.takeWhile_prefix _).length_le
theorem mem_drop_findE {ks : List Pe} (h : ks.Pairwise (fun x y => peLess x y = true)) (k y : Pe) : y ∈ ks.drop (findIE ks k) ↔ y ∈ ks ∧ peLess y k = false := by
  have hnd : ks.Nodup := h.imp (fun {a b} q e => by subst e; rw [peLess_irr] at q; cases q)
  have hap : ks = ks.take (findIE ks k) ++ ks.drop (findIE ks k) := (List.take_append_drop _ _).symm
  constructor
  · intro hy
    refine ⟨List.mem_of_mem_drop hy, ?_⟩
    cases hk : peLess y k
    · rfl
    · have hm : y ∈ ks.take (findIE ks k) := by rw [take_findE h]; exact List.mem_filter.2 ⟨List.mem_of_mem_drop hy, hk⟩
      rw [hap] at hnd
      exact absurd rfl ((List.nodup_append.1 hnd).2.2 y hm y hy)
  · rintro ⟨hy, hk⟩
    rw [hap] at hy
    rcases List.mem_append.1 hy with hm | hm
    · rw [take_findE h] at hm
      rw [(List.mem_filter.1 hm).2] at hk; cases hk
    · exact hm
open Classical in
theorem findBE_mem {ks : List Pe} (h : ks.Pairwise (fun x y => peLess x y = true)) (k : Pe) : findBE ks k = true ↔ k ∈ ks := by
  unfold findBE
  rw [decide_eq_true_iff]
  constructor
  · intro hq; exact List.mem_of_getElem? hq
  · intro hk
    have hm := (mem_drop_findE h k k).2 ⟨hk, peLess_irr k⟩
    cases hd : ks.drop (findIE ks k) with
    | nil => rw [hd] at hm; cases hm
    | cons y r =>
      have h0 : ks[findIE ks k]? = some y := by
        have h6 : (ks.drop (findIE ks k))[0]? = some y := by rw [hd]; rfl
        rwa [List.getElem?_drop, Nat.add_zero] at h6
      rw [hd] at hm
      rcases List.mem_cons.1 hm with rfl | hr
      · exact h0
      · have hp : (ks.drop (findIE ks k)).Pairwise (fun x y => peLess x y = true) := h.drop
        rw [hd] at hp
        have h1 := (List.pairwise_cons.1 hp).1 k hr
        have h2 := (mem_drop_findE h k y).1 (by rw [hd]; exact List.mem_cons_self ..)
        rw [h2.2] at h1; cases h1
/-- A key that is not there, put in its place: the sorted list with it. -/
theorem ins_findE {ks : List Pe} (h : ks.Pairwise (fun x y => peLess x y = true)) {k : Pe} (hk : k ∉ ks) :
    (ks.take (findIE ks k) ++ k :: ks.drop (findIE ks k)).Pairwise (fun x y => peLess x y = true) ∧ ∀ x, x ∈ ks.take (findIE ks k) ++ k :: ks.drop (findIE ks k) ↔ x = k ∨ x ∈ ks := by
  have hup : ∀ y ∈ ks.drop (findIE ks k), peLess k y = true := fun y hy => by
    have h2 := (mem_drop_findE h k y).1 hy
    cases h3 : peLess k y
    · exact absurd (peLess_tri h2.2 h3 ▸ h2.1) hk
    · rfl
  have hlow : ∀ y ∈ ks.take (findIE ks k), peLess y k = true := fun y hy => by rw [take_findE h] at hy; exact (List.mem_filter.1 hy).2
  refine ⟨List.pairwise_append.2 ⟨h.take, List.pairwise_cons.2 ⟨hup, h.drop⟩, fun x hx y hy => ?_⟩, fun x => ?_⟩
  · rcases List.mem_cons.1 hy with rfl | hy
    · exact hlow x hx
    · exact peLess_trans (hlow x hx) (hup y hy)
  · have e : x ∈ ks ↔ x ∈ ks.take (findIE ks k) ∨ x ∈ ks.drop (findIE ks k) := by
      rw [← List.mem_append, List.take_append_drop]
    rw [e, List.mem_append, List.mem_cons]
    constructor
    · rintro (h1 | h1 | h1)
      · exact .inr (.inl h1)
      · exact .inl h1
      · exact .inr (.inr h1)
    · rintro (h1 | h1 | h1)
      · exact .inr (.inl h1)
      · exact .inl h1
      · exact .inr (.inr h1)
end Go.Proofs.Ytbckncopdkmoeaa
