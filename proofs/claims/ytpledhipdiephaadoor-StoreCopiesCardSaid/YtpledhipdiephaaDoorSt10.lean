/- Store.Drop; members of lists of pairs. -/
import Derived.Test.YtpledhipdiephaaDoorSt9
import Derived.BigRegion
import Derived.RegionTactic
import Derived.BigQuiet
import Derived.Deep.QuietTactic
import Derived.OneCell
import Derived.WalkKit
import Derived.ProofKit
import Derived.Handy
import Derived.Below
import Derived.Lib.Hide
import Derived.IntWalk
import Derived.Outline
import Derived.WalkLawsBesides
import Derived.WalkSpells
namespace Go.Proofs.YtpledhipdiephaaDoor
open Go.RowKit
attribute [local go_sem] strV
set_option linter.unusedVariables false
set_option linter.unusedSimpArgs false
theorem good_pair {l : List Pr} (h : goodL l = true) : l.Pairwise (fun p q => lessK p.k q.k = true) := (good_iff.1 h).2
theorem good_sub {l m : List Pr} (h : goodL l = true) (hs : m.Sublist l) : goodL m = true :=
  good_iff.2 ⟨fun p hp => (good_iff.1 h).1 p (hs.subset hp), (good_iff.1 h).2.sublist hs⟩
theorem key_inj {l : List Pr} (h : goodL l = true) {p q : Pr} (hp : p ∈ l) (hq : q ∈ l) (hk : p.k = q.k) : p = q := by
  obtain ⟨i, hi, rfl⟩ := List.getElem_of_mem hp
  obtain ⟨j, hj, rfl⟩ := List.getElem_of_mem hq
  rcases Nat.lt_trichotomy i j with h1 | h1 | h1
  · have := List.pairwise_iff_getElem.1 (good_pair h) i j hi hj h1
    rw [hk, lessK_irr] at this; cases this
  · subst h1; rfl
  · have := List.pairwise_iff_getElem.1 (good_pair h) j i hj hi h1
    rw [hk, lessK_irr] at this; cases this
theorem dropL_good {l : List Pr} (h : goodL l = true) (k : ByteArray) : goodL (dropL l k) = true := by
  unfold dropL
  split
  · refine good_sub h ?_
    have h1 : l = l.take (placeL l k) ++ l.drop (placeL l k) := (List.take_append_drop _ _).symm
    have h2 : (l.drop (placeL l k + 1)).Sublist (l.drop (placeL l k)) := by
      rw [← List.drop_drop]; exact List.drop_sublist _ _
    conv => rhs; rw [h1]
    exact List.Sublist.append (List.Sublist.refl _) h2
  · exact h
theorem dropL_len (l : List Pr) (k : ByteArray) : (dropL l k).length ≤ l.length := by
  unfold dropL
  split
  · rw [List.length_append, List.length_take, List.length_drop]; omega
  · exact Nat.le_refl _
/-- Who is in a list of pairs behind a Set. -/
theorem mem_setL {l : List Pr} (h : goodL l = true) {k v : ByteArray} {p : Pr} : p ∈ setL l k v ↔ p = ⟨k, v⟩ ∨ (p ∈ l ∧ p.k ≠ k) := by
  have hsp := good_pair h
  have hpl : placeL l k ≤ l.length := List.findIdx_le_length
  have hlow : ∀ q ∈ l.take (placeL l k), lessK q.k k = true := fun q hq => by
    obtain ⟨i, hi, rfl⟩ := List.getElem_of_mem hq
    rw [List.length_take] at hi
    rw [List.getElem_take]
    exact (place_less (show i < placeL l k by omega)).2
  have hdrop : ∀ i, (hi : placeL l k + i < l.length) → lessK l[placeL l k + i].k k = false := fun i hi => by
    cases i with
    | zero => exact place_not (by omega)
    | succ i =>
      have h0 : placeL l k < l.length := by omega
      have h1 := List.pairwise_iff_getElem.1 hsp (placeL l k) (placeL l k + (i + 1)) h0 hi (by omega)
      have h2 := place_not h0
      cases hc : lessK l[placeL l k + (i + 1)].k k
      · rfl
      · rw [lessK_trans h1 hc] at h2; cases h2
  unfold setL
  cases hf : foundL l k
  · simp only [Bool.false_eq_true, if_false, Nat.add_zero]
    have hne : ∀ q ∈ l, q.k ≠ k := fun q hq e => by
      obtain ⟨i, hi, rfl⟩ := List.getElem_of_mem hq
      rw [found_of h hi e] at hf; cases hf
    have e : p ∈ l ↔ p ∈ l.take (placeL l k) ∨ p ∈ l.drop (placeL l k) := by rw [← List.mem_append, List.take_append_drop]
    rw [List.mem_append, List.mem_append, List.mem_singleton]
    constructor
    · rintro ((h1 | h1) | h1)
      · exact .inr ⟨e.2 (.inl h1), hne p (e.2 (.inl h1))⟩
      · exact .inl h1
      · exact .inr ⟨e.2 (.inr h1), hne p (e.2 (.inr h1))⟩
    · rintro (h1 | ⟨h1, _⟩)
      · exact .inl (.inr h1)
      · rcases e.1 h1 with h1 | h1
        · exact .inl (.inl h1)
        · exact .inr h1
  · simp only [if_true]
    obtain ⟨hi, hik⟩ := found_at hf
    have hl : l = l.take (placeL l k) ++ l[placeL l k] :: l.drop (placeL l k + 1) := by
      rw [← List.drop_eq_getElem_cons hi, List.take_append_drop]
    have hq : ∀ q ∈ l, q.k = k → q = l[placeL l k] := fun q hq e => key_inj h hq (List.getElem_mem hi) (by rw [e, hik])
    have hnd : ∀ q, q ∈ l.take (placeL l k) ∨ q ∈ l.drop (placeL l k + 1) → q ∈ l ∧ q.k ≠ k := fun q hq9 => by
      rcases hq9 with h1 | h1
      · refine ⟨List.mem_of_mem_take h1, fun e => ?_⟩
        have h2 := hlow q h1
        rw [e, lessK_irr] at h2; cases h2
      · refine ⟨List.mem_of_mem_drop h1, fun e => ?_⟩
        obtain ⟨i, hi9, rfl⟩ := List.getElem_of_mem h1
        rw [List.length_drop] at hi9
        rw [List.getElem_drop] at e
        have h3 := List.pairwise_iff_getElem.1 hsp (placeL l k) (placeL l k + 1 + i) hi (by omega) (by omega)
        rw [hik, e, lessK_irr] at h3; cases h3
    rw [List.mem_append, List.mem_append, List.mem_singleton]
    constructor
    · rintro ((h1 | h1) | h1)
      · exact .inr (hnd p (.inl h1))
      · exact .inl h1
      · exact .inr (hnd p (.inr h1))
    · rintro (h1 | ⟨h1, h2⟩)
      · exact .inl (.inr h1)
      · rw [hl] at h1
        rcases List.mem_append.1 h1 with h1 | h1
        · exact .inl (.inl h1)
        · rcases List.mem_cons.1 h1 with h1 | h1
          · exact absurd (by rw [h1]; exact hik) h2
          · exact .inr h1
/-- Who is in a list of pairs behind a Drop. -/
theorem mem_dropL {l : List Pr} (h : goodL l = true) {k : ByteArray} {p : Pr} : p ∈ dropL l k ↔ p ∈ l ∧ p.k ≠ k := by
  unfold dropL
  cases hf : foundL l k
  · simp only [Bool.false_eq_true, if_false]
    exact ⟨fun hp => ⟨hp, fun e => by
      obtain ⟨i, hi, rfl⟩ := List.getElem_of_mem hp
      rw [found_of h hi e] at hf; cases hf⟩, fun hp => hp.1⟩
  · simp only [if_true]
    have h1 := mem_setL h (k := k) (v := ⟨#[]⟩) (p := p)
    unfold setL at h1
    rw [hf] at h1
    simp only [if_true] at h1
    obtain ⟨hi, hik⟩ := found_at hf
    have hs : p ∈ l.take (placeL l k) ++ [⟨k, ⟨#[]⟩⟩] ++ l.drop (placeL l k + 1) ↔ p = ⟨k, ⟨#[]⟩⟩ ∨ p ∈ l.take (placeL l k) ++ l.drop (placeL l k + 1) := by
      simp only [List.mem_append, List.mem_singleton]
      constructor
      · rintro ((h | h) | h)
        · exact .inr (.inl h)
        · exact .inl h
        · exact .inr (.inr h)
      · rintro (h | h | h)
        · exact .inl (.inr h)
        · exact .inl (.inl h)
        · exact .inr h
    rw [hs] at h1
    have hno : p ∈ l.take (placeL l k) ++ l.drop (placeL l k + 1) → p.k ≠ k := fun hp e => by
      have hl : l = l.take (placeL l k) ++ l[placeL l k] :: l.drop (placeL l k + 1) := by
        rw [← List.drop_eq_getElem_cons hi, List.take_append_drop]
      have hpw := good_pair h
      rw [hl] at hpw
      rw [List.pairwise_append, List.pairwise_cons] at hpw
      rcases List.mem_append.1 hp with h3 | h3
      · have := hpw.2.2 p h3 _ (List.mem_cons_self ..)
        rw [e, hik, lessK_irr] at this; cases this
      · have := hpw.2.1.1 p h3
        rw [e, hik, lessK_irr] at this; cases this
    constructor
    · intro hp
      rcases h1.1 (.inr hp) with h2 | h2
      · exact absurd (by rw [h2]) (hno hp)
      · exact h2
    · intro hp
      rcases h1.2 (.inr hp) with h2 | h2
      · exact absurd (by rw [h2]) hp.2
      · exact h2
theorem sorted_ext9 : ∀ {x y : List Pr}, x.Pairwise (fun p q => lessK p.k q.k = true) → y.Pairwise (fun p q => lessK p.k q.k = true) → (∀ p, p ∈ x ↔ p ∈ y) → x = y := by
  intro x
  induction x with
  | nil =>
    intro y _ _ h
    cases y with
    | nil => rfl
    | cons b y => exact absurd ((h b).2 (List.mem_cons_self ..)) (by simp)
  | cons a x ih =>
    intro y hx hy h
    cases y with
    | nil => exact absurd ((h a).1 (List.mem_cons_self ..)) (by simp)
    | cons b y =>
      have hx' := List.pairwise_cons.1 hx
      have hy' := List.pairwise_cons.1 hy
      have hab : a = b := by
        rcases List.mem_cons.1 ((h a).1 (List.mem_cons_self ..)) with h1 | h1
        · exact h1
        · rcases List.mem_cons.1 ((h b).2 (List.mem_cons_self ..)) with h2 | h2
          · exact h2.symm
          · have := lessK_trans (hy'.1 a h1) (hx'.1 b h2)
            rw [lessK_irr] at this; cases this
      subst hab
      rw [ih hx'.2 hy'.2 (fun p => ?_)]
      constructor
      · intro hp
        rcases List.mem_cons.1 ((h p).1 (List.mem_cons_of_mem _ hp)) with h1 | h1
        · subst h1
          have := hx'.1 p hp
          rw [lessK_irr] at this; cases this
        · exact h1
      · intro hp
        rcases List.mem_cons.1 ((h p).2 (List.mem_cons_of_mem _ hp)) with h1 | h1
        · subst h1
          have := hy'.1 p hp
          rw [lessK_irr] at this; cases this
        · exact h1
theorem good_ext {x y : List Pr} (hx : goodL x = true) (hy : goodL y = true) (h : ∀ p, p ∈ x ↔ p ∈ y) : x = y := sorted_ext9 (good_pair hx) (good_pair hy) h
theorem mem_setS {l : List Pr} (h : goodL l = true) {k v : ByteArray} (hf : fitsB k v = true) {p : Pr} : p ∈ setS l k v ↔ p = ⟨k, v⟩ ∨ (p ∈ l ∧ p.k ≠ k) := by
  unfold setS riseStep
  rw [hf]
  exact mem_setL h
theorem setS_good {l : List Pr} (h : goodL l = true) (k v : ByteArray) : goodL (setS l k v) = true := riseStep_good h ⟨k, v⟩
theorem setS_len (l : List Pr) (k v : ByteArray) : (setS l k v).length ≤ l.length + 1 := riseStep_len l ⟨k, v⟩
set_option maxRecDepth 100000 in
set_option maxHeartbeats 3200000 in
theorem dropB_any (g : Nat) (r : Option Nat) (l : List Pr) (key : ByteArray) (w : World) (h : StB w g r l) (hn6 : l.length ≤ 100000) :
    Calls Tryd.prog 15 #[.pointer (some ⟨g, 0, none⟩), .string key] w fun e w' => e = .returned (.bool (foundL l key)) ∧ StB w' g r (dropL l key) ∧ Fr w w' g r := by
  have hB := h
  have hgd9 := dropL_good h.1 key
  obtain ⟨hgd, a, cap, hg, hown, hrb⟩ := h
  obtain ⟨_, _, e9, hr, hcap, hcm, hnone⟩ := own_sliceN hown
  cases e9
  obtain ⟨n, hn⟩ : ∃ n, l.length = n := ⟨_, rfl⟩
  rw [hn] at hg hown hcap hn6 hrb
  have hgl := row_lt hg
  have CF := find_any g a n cap l key w hg hr hn hcap hcm (by omega) (goodL_sorted hgd)
  unfold maxLen at hcm
  have HN := Lib.hid hn
  have hfl : foundL l key = true → placeL l key < l.length := fun h => (found_at h).1
  have hD : dropL l key = if foundL l key = true then l.take (placeL l key) ++ l.drop (placeL l key + 1) else l := rfl
  rw [hn] at hfl
  obtain ⟨i, hi⟩ : ∃ i, placeL l key = i := ⟨_, rfl⟩
  obtain ⟨f, hf⟩ : ∃ f, foundL l key = f := ⟨_, rfl⟩
  rw [hi, hf] at CF hfl hD
  rw [hf]
  obtain ⟨R, hR⟩ : ∃ R, dropL l key = R := ⟨_, rfl⟩
  rw [hR] at hgd9 hD ⊢
  clear hn hi hf hR
  have c0 : ∀ W, Below w.heap.size w W → W.cell? ⟨g, 0, none⟩ = some (.slice a n cap) := fun W hb => cell_heap (cells_of hg hb hgl) 0
  cases f
  · simp only [Bool.false_eq_true, if_false] at hD
    subst hD
    go_enter Tryd.func15, Tryd.ntmps15
    go_wp2_with (go_at_call 49; refine CF.mono ?_; rintro e w1 ⟨rfl, hb1⟩)
    go_ret
    exact ⟨rfl, hB.kept hb1, Fr.of_below hb1⟩
  · simp only [if_true] at hD
    have hin := hfl rfl
    obtain ⟨gr, cr, hf9⟩ := own_formS hown (by omega)
    simp only [Value.slice.injEq, true_and] at hf9
    obtain ⟨rfl, rfl⟩ := hf9
    have hrg : r = some gr := hrb.symm
    have hne : gr ≠ g := fun e => by
      subst e
      have := own_tagS hown rfl hg
      revert this; decide
    have hadd : (i : Int) + 1 = ((i + 1 : Nat) : Int) := by omega
    have wq2 : IntKind.i64.wrap ((i : Int) + 1) = (i : Int) + 1 := by rw [IntKind.wrap_i64]; omega
    have CD := fun W (hb : Below w.heap.size w W) => delPr_any (w := W) (i := i) (j := i + 1) (own_kept9 hown hb) HN.out hin rfl (by omega) hcm
    go_enter Tryd.func15, Tryd.ntmps15
    go_upto_region 3 with (go_at_call 49; refine CF.mono ?_; rintro e w1 ⟨rfl, hb1⟩)
    have c1 := c0 w1 hb1
    have hg1 := cells_of hg hb1 hgl
    have CD1 := CD w1 hb1
    rw [← hadd] at CD1
    clear CD CF c0 hadd
    go_wp2_with (go_at_call 51; refine CD1.mono ?_; rintro e w2 ⟨rfl, hown2, hgr2⟩; have hg2 := grown_at hgr2 hg1 (fun q => hne (Option.some.inj q).symm); have c2 := cell_heap hg2 0; have f2 := frozen9 hg2 0)
    go_ret
    have hRl : R.length = n - 1 := by rw [hD, List.length_append, List.length_take, List.length_drop, HN.out]; omega
    rw [← hD] at hown2
    refine ⟨rfl, ⟨hgd9, some ⟨gr, 0, none⟩, cap, ?_, ?_, ?_⟩, ?_⟩
    · rw [hRl]; exact cells_put hg2 _
    · rw [hRl]; exact ownsRow_setCell_other hown2 (fun q => hne (by simpa [Value.ownBlock] using q)) _
    · rw [hRl, hrg]; rfl
    · refine Fr.setG ?_
      rw [hrg]
      exact (Fr.of_below hb1).grown hgr2
end Go.Proofs.YtpledhipdiephaaDoor
