/- Adding a number to ranges; lists of ranges with the same numbers are the same. -/
import Derived.Test.YtdlngadcgcgenaaSp4
namespace Go.Proofs.Ytdlngadcgcgenaa
open Go.RowKit
set_option linter.unusedVariables false
theorem good_weaken {l : List (Int × Int)} {p q : Int} (h : goodFrom p l = true) (hq : q ≤ p) : goodFrom q l = true := by
  cases l with
  | nil => rfl
  | cons r l =>
    obtain ⟨h1, h2⟩ := goodFrom_cons.1 h
    exact goodFrom_cons.2 ⟨⟨h1.1, h1.2.1, h1.2.2.1, by omega⟩, h2⟩
theorem has_ge {y : Int × Int} {l : List (Int × Int)} {p v : Int} (h : goodFrom p (y :: l) = true) (hv : hasR (y :: l) v = true) : y.1 ≤ v := by
  obtain ⟨h1, h2⟩ := goodFrom_cons.1 h
  rw [hasR_cons, Bool.or_eq_true] at hv
  rcases hv with hv | hv
  · simp at hv; exact hv.1
  · have : ¬ v < y.2 + 2 := fun h3 => by rw [has_low h2 h3] at hv; cases hv
    omega
theorem has_self {y : Int × Int} {l : List (Int × Int)} {v : Int} (h1 : y.1 ≤ v) (h2 : v ≤ y.2) : hasR (y :: l) v = true := by
  rw [hasR_cons, decide_eq_true h1, decide_eq_true h2]; rfl
theorem good_unique : ∀ {a b : List (Int × Int)} {p q : Int}, goodFrom p a = true → goodFrom q b = true → (∀ v, hasR a v = hasR b v) → a = b
  | [], [], _, _, _, _, _ => rfl
  | [], y :: b, p, q, _, hb, h => by
    have hb2 := (goodFrom_cons.1 hb).1
    have := h y.1
    rw [has_self (Int.le_refl _) hb2.2.1] at this
    cases this
  | x :: a, [], p, q, ha, _, h => by
    have ha2 := (goodFrom_cons.1 ha).1
    have := h x.1
    rw [has_self (Int.le_refl _) ha2.2.1] at this
    cases this
  | x :: a, y :: b, p, q, ha, hb, h => by
    obtain ⟨ha1, ha2⟩ := goodFrom_cons.1 ha
    obtain ⟨hb1, hb2⟩ := goodFrom_cons.1 hb
    have e1 : x.1 = y.1 := by
      have h1 := has_ge hb (by rw [← h]; exact has_self (Int.le_refl _) ha1.2.1)
      have h2 := has_ge ha (by rw [h]; exact has_self (Int.le_refl _) hb1.2.1)
      omega
    have e2 : x.2 = y.2 := by
      rcases Int.lt_trichotomy x.2 y.2 with h3 | h3 | h3
      · exfalso
        have h4 := h (x.2 + 1)
        rw [has_self (y := y) (by omega) (by omega), hasR_cons, has_low ha2 (by omega), decide_eq_false (by omega : ¬ x.2 + 1 ≤ x.2)] at h4
        simp at h4
      · exact h3
      · exfalso
        have h4 := h (y.2 + 1)
        rw [has_self (y := x) (by omega) (by omega), hasR_cons, has_low hb2 (by omega), decide_eq_false (by omega : ¬ y.2 + 1 ≤ y.2)] at h4
        simp at h4
    have exy : x = y := Prod.ext e1 e2
    subst exy
    have : a = b := good_unique ha2 hb2 (fun v => by
      rcases Int.lt_or_le v (x.2 + 2) with h5 | h5
      · rw [has_low ha2 h5, has_low hb2 h5]
      · have h6 := h v
        rw [hasR_cons, hasR_cons, decide_eq_false (by omega : ¬ v ≤ x.2), Bool.and_false, Bool.false_or, Bool.false_or] at h6
        exact h6)
    rw [this]
def addS : List (Int × Int) → Int × Int → List (Int × Int)
  | [], m => [m]
  | r :: rs, m => if r.2 + 1 < m.1 then r :: addS rs m else if m.2 + 1 < r.1 then m :: r :: rs else addS rs (min m.1 r.1, max m.2 r.2)
theorem addS_has {l : List (Int × Int)} : ∀ {p : Int} {m : Int × Int}, goodFrom p l = true → m.1 ≤ m.2 → ∀ v, (hasR (addS l m) v = true ↔ hasR l v = true ∨ (m.1 ≤ v ∧ v ≤ m.2)) := by
  induction l with
  | nil => intro p m _ _ v; show hasR [m] v = true ↔ _; simp [hasR]
  | cons r l ih =>
    intro p m hg hm v
    obtain ⟨h1, h2⟩ := goodFrom_cons.1 hg
    show hasR (if r.2 + 1 < m.1 then r :: addS l m else if m.2 + 1 < r.1 then m :: r :: l else addS l (min m.1 r.1, max m.2 r.2)) v = true ↔ _
    have er : hasR (r :: l) v = true ↔ (r.1 ≤ v ∧ v ≤ r.2) ∨ hasR l v = true := by rw [hasR_cons]; simp
    split
    · rw [hasR_cons, Bool.or_eq_true, ih h2 hm v, er]
      simp only [Bool.and_eq_true, decide_eq_true_eq]
      constructor
      · rintro (h | h | h)
        · exact .inl (.inl h)
        · exact .inl (.inr h)
        · exact .inr h
      · rintro ((h | h) | h)
        · exact .inl h
        · exact .inr (.inl h)
        · exact .inr (.inr h)
    · split
      · rw [hasR_cons, Bool.or_eq_true, er]
        simp only [Bool.and_eq_true, decide_eq_true_eq]
        exact ⟨fun h => h.symm, fun h => h.symm⟩
      · rw [ih h2 (by show min m.1 r.1 ≤ max m.2 r.2; omega) v, er]
        have e : (min m.1 r.1 ≤ v ∧ v ≤ max m.2 r.2) ↔ (r.1 ≤ v ∧ v ≤ r.2) ∨ (m.1 ≤ v ∧ v ≤ m.2) := by omega
        show hasR l v = true ∨ (min m.1 r.1 ≤ v ∧ v ≤ max m.2 r.2) ↔ _
        rw [e]
        constructor
        · rintro (h | h | h)
          · exact .inl (.inr h)
          · exact .inl (.inl h)
          · exact .inr h
        · rintro ((h | h) | h)
          · exact .inr (.inl h)
          · exact .inl h
          · exact .inr (.inr h)
theorem addS_good {l : List (Int × Int)} : ∀ {p : Int} {m : Int × Int}, goodFrom p l = true → 0 ≤ m.1 → m.1 ≤ m.2 → m.2 ≤ maxN → p + 2 ≤ m.1 → goodFrom p (addS l m) = true := by
  induction l with
  | nil => intro p m _ h1 h2 h3 h4; exact goodFrom_cons.2 ⟨⟨h1, h2, h3, h4⟩, rfl⟩
  | cons r l ih =>
    intro p m hg g1 g2 g3 g4
    obtain ⟨h1, h2⟩ := goodFrom_cons.1 hg
    show goodFrom p (if r.2 + 1 < m.1 then r :: addS l m else if m.2 + 1 < r.1 then m :: r :: l else addS l (min m.1 r.1, max m.2 r.2)) = true
    split
    · exact goodFrom_cons.2 ⟨h1, ih h2 g1 g2 g3 (by omega)⟩
    · split
      · exact goodFrom_cons.2 ⟨⟨g1, g2, g3, g4⟩, goodFrom_cons.2 ⟨⟨h1.1, h1.2.1, h1.2.2.1, by omega⟩, h2⟩⟩
      · exact ih (good_weaken h2 (by omega)) (by show 0 ≤ min m.1 r.1; omega) (by show min m.1 r.1 ≤ max m.2 r.2; omega) (by show max m.2 r.2 ≤ maxN; omega) (by show p + 2 ≤ min m.1 r.1; omega)
theorem addS_app {A X : List (Int × Int)} {m : Int × Int} (h : ∀ r ∈ A, r.2 + 1 < m.1) : addS (A ++ X) m = A ++ addS X m := by
  induction A with
  | nil => rfl
  | cons a A ih =>
    show (if a.2 + 1 < m.1 then a :: addS (A ++ X) m else _) = _
    rw [if_pos (h a (List.mem_cons_self ..)), ih (fun r hr => h r (List.mem_cons_of_mem _ hr))]; rfl
/-- n in addition. -/
def addR (l : List (Int × Int)) (n : Int) : List (Int × Int) := if insideB n = true then addS l (n, n) else l
theorem inside_bd {n : Int} (h : insideB n = true) : 0 ≤ n ∧ n ≤ maxN := by unfold insideB at h; simpa using h
theorem addR_good {l : List (Int × Int)} {n : Int} (h : goodR l = true) : goodR (addR l n) = true := by
  unfold addR
  split
  · rename_i hn
    have hb := inside_bd hn
    exact addS_good h hb.1 (Int.le_refl _) hb.2 (by show -2 + 2 ≤ n; omega)
  · exact h
theorem addR_has {l : List (Int × Int)} {n : Int} (h : goodR l = true) (v : Int) : hasR (addR l n) v = true ↔ hasR l v = true ∨ (v = n ∧ insideB n = true) := by
  unfold addR
  split
  · rename_i hn
    rw [addS_has h (Int.le_refl _) v]
    show hasR l v = true ∨ (n ≤ v ∧ v ≤ n) ↔ _
    constructor
    · rintro (h1 | h1)
      · exact .inl h1
      · exact .inr ⟨by omega, hn⟩
    · rintro (h1 | ⟨h1, _⟩)
      · exact .inl h1
      · exact .inr (by omega)
  · rename_i hn
    exact ⟨.inl, fun h1 => h1.resolve_right (fun h2 => hn h2.2)⟩
theorem addR_len (l : List (Int × Int)) (n : Int) : (addR l n).length ≤ l.length + 1 := by
  have key : ∀ (l : List (Int × Int)) (m : Int × Int), (addS l m).length ≤ l.length + 1 := by
    intro l
    induction l with
    | nil => intro m; exact Nat.le_refl _
    | cons r l ih =>
      intro m
      show (if r.2 + 1 < m.1 then r :: addS l m else if m.2 + 1 < r.1 then m :: r :: l else addS l (min m.1 r.1, max m.2 r.2)).length ≤ _
      split
      · have := ih m; simp; omega
      · split
        · simp
        · have := ih (min m.1 r.1, max m.2 r.2); simp; omega
  unfold addR
  split
  · exact key l _
  · omega
/-- Numbers added one after the other. -/
def addAll (l : List Int) : List (Int × Int) := l.foldl addR []
theorem addAll_ok (l : List Int) : goodR (addAll l) = true ∧ ∀ v, hasR (addAll l) v = true ↔ v ∈ l ∧ insideB v = true := by
  have key : ∀ (l : List Int) (R : List (Int × Int)) (P : Int → Prop), goodR R = true → (∀ v, hasR R v = true ↔ P v) → goodR (l.foldl addR R) = true ∧ ∀ v, hasR (l.foldl addR R) v = true ↔ P v ∨ (v ∈ l ∧ insideB v = true) := by
    intro l
    induction l with
    | nil => intro R P h1 h2; exact ⟨h1, fun v => by rw [List.foldl_nil, h2]; simp⟩
    | cons n l ih =>
      intro R P h1 h2
      rw [List.foldl_cons]
      obtain ⟨g1, g2⟩ := ih (addR R n) (fun v => P v ∨ (v = n ∧ insideB n = true)) (addR_good h1) (fun v => by rw [addR_has h1, h2])
      refine ⟨g1, fun v => ?_⟩
      rw [g2, List.mem_cons]
      constructor
      · rintro ((h | ⟨rfl, h⟩) | ⟨h3, h4⟩)
        · exact .inl h
        · exact .inr ⟨.inl rfl, h⟩
        · exact .inr ⟨.inr h3, h4⟩
      · rintro (h | ⟨rfl | h3, h4⟩)
        · exact .inl (.inl h)
        · exact .inl (.inr ⟨rfl, h4⟩)
        · exact .inr ⟨h3, h4⟩
  obtain ⟨g1, g2⟩ := key l [] (fun _ => False) rfl (fun v => by simp [hasR])
  exact ⟨g1, fun v => by show hasR (l.foldl addR []) v = true ↔ _; rw [g2]; simp⟩
theorem addAll_of (l : List Int) : addAll l = ofR l := by
  obtain ⟨g1, g2⟩ := addAll_ok l
  exact good_unique g1 (ofR_ok l).good (fun v => by rw [Bool.eq_iff_iff, g2, ofR_has])
theorem addAll_rev (l : List Int) : addAll l.reverse = ofR l := by
  obtain ⟨g1, g2⟩ := addAll_ok l.reverse
  exact good_unique g1 (ofR_ok l).good (fun v => by rw [Bool.eq_iff_iff, g2, ofR_has, List.mem_reverse])
theorem addAll_take {l : List Int} {k : Nat} (hk : k < l.length) : addAll (l.take (k + 1)) = addR (addAll (l.take k)) l[k] := by
  unfold addAll
  rw [List.take_succ_eq_append_getElem hk, List.foldl_append]; rfl
theorem addAll_len (l : List Int) : (addAll l).length ≤ l.length := by
  have key : ∀ (l : List Int) (R : List (Int × Int)), (l.foldl addR R).length ≤ R.length + l.length := by
    intro l
    induction l with
    | nil => intro R; exact Nat.le_refl _
    | cons n l ih => intro R; rw [List.foldl_cons]; have := ih (addR R n); have := addR_len R n; simp; omega
  have := key l []
  show (l.foldl addR []).length ≤ _
  simpa using this
end Go.Proofs.Ytdlngadcgcgenaa
