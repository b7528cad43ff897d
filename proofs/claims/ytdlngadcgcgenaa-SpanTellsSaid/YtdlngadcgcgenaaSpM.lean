/- Ranges of numbers: the plain functions and what they say. -/
import Derived.Test.YtdlngadcgcgenaaGen
namespace Go.Proofs.Ytdlngadcgcgenaa
open Go.RowKit
set_option linter.unusedVariables false
def rgL (r : Int × Int) : List Value := [.int .i64 r.1, .int .i64 r.2]
theorem rgL_len (r : Int × Int) : (rgL r).length = 2 := rfl
def maxN : Int := 72057594037927935
def insideB (n : Int) : Bool := decide (0 ≤ n) && decide (n ≤ maxN)
def goodFrom (last : Int) : List (Int × Int) → Bool
  | [] => true
  | r :: rs => if r.1 < 0 ∨ r.2 < r.1 ∨ maxN < r.2 ∨ r.1 < last + 2 then false else goodFrom r.2 rs
def goodR (l : List (Int × Int)) : Bool := goodFrom (-2) l
theorem goodFrom_cons {p : Int} {r : Int × Int} {rs : List (Int × Int)} : goodFrom p (r :: rs) = true ↔ (0 ≤ r.1 ∧ r.1 ≤ r.2 ∧ r.2 ≤ maxN ∧ p + 2 ≤ r.1) ∧ goodFrom r.2 rs = true := by
  show (if r.1 < 0 ∨ r.2 < r.1 ∨ maxN < r.2 ∨ r.1 < p + 2 then false else goodFrom r.2 rs) = true ↔ _
  split
  · constructor
    · intro h; cases h
    · intro h; omega
  · constructor
    · intro h; exact ⟨by omega, h⟩
    · intro h; exact h.2
def hasR (l : List (Int × Int)) (v : Int) : Bool := l.any (fun r => decide (r.1 ≤ v) && decide (v ≤ r.2))
theorem hasR_cons (r : Int × Int) (rs : List (Int × Int)) (v : Int) : hasR (r :: rs) v = ((decide (r.1 ≤ v) && decide (v ≤ r.2)) || hasR rs v) := rfl
theorem hasR_app (a b : List (Int × Int)) (v : Int) : hasR (a ++ b) v = (hasR a v || hasR b v) := List.any_append ..
theorem has_low {rs : List (Int × Int)} : ∀ {p v : Int}, goodFrom p rs = true → v < p + 2 → hasR rs v = false := by
  induction rs with
  | nil => intro p v _ _; rfl
  | cons r rs ih =>
    intro p v hg hv
    obtain ⟨h1, h2⟩ := goodFrom_cons.1 hg
    rw [hasR_cons, ih h2 (by omega), decide_eq_false (by omega)]
    rfl
def countR (l : List (Int × Int)) : Int := (l.map (fun r => r.2 - r.1 + 1)).sum
theorem countR_cons (r : Int × Int) (rs : List (Int × Int)) : countR (r :: rs) = r.2 - r.1 + 1 + countR rs := List.sum_cons ..
def lacksF (next to_ : Int) : List (Int × Int) → List (Int × Int)
  | [] => if next ≤ to_ then [(next, to_)] else []
  | r :: rs => if to_ < r.1 then (if next ≤ to_ then [(next, to_)] else []) else (if next < r.1 then [(next, r.1 - 1)] else []) ++ lacksF (max next (r.2 + 1)) to_ rs
theorem lacks_has {rs : List (Int × Int)} : ∀ {p next to_ : Int}, goodFrom p rs = true → ∀ v, (hasR (lacksF next to_ rs) v = true ↔ (next ≤ v ∧ v ≤ to_) ∧ hasR rs v = false) := by
  induction rs with
  | nil =>
    intro p next to_ _ v
    show hasR (if next ≤ to_ then [(next, to_)] else []) v = true ↔ _
    split
    · simp [hasR]
    · simp [hasR]; omega
  | cons r rs ih =>
    intro p next to_ hg v
    obtain ⟨h1, h2⟩ := goodFrom_cons.1 hg
    show hasR (if to_ < r.1 then (if next ≤ to_ then [(next, to_)] else []) else (if next < r.1 then [(next, r.1 - 1)] else []) ++ lacksF (max next (r.2 + 1)) to_ rs) v = true ↔ _
    rw [hasR_cons]
    by_cases ht : to_ < r.1
    · rw [if_pos ht]
      have hlow : v ≤ to_ → hasR rs v = false := fun hv => has_low h2 (by omega)
      split
      · simp only [hasR, List.any_cons, List.any_nil, Bool.or_false, Bool.and_eq_true, decide_eq_true_eq, Bool.or_eq_false_iff, Bool.and_eq_false_iff, decide_eq_false_iff_not]
        constructor
        · rintro ⟨h3, h4⟩; exact ⟨⟨h3, h4⟩, .inl (by omega), hlow h4⟩
        · rintro ⟨h3, _⟩; exact h3
      · simp only [hasR, List.any_nil]
        constructor
        · intro h; cases h
        · rintro ⟨h3, _⟩; omega
    · rw [if_neg ht, hasR_app, Bool.or_eq_true, ih h2 v]
      have hlow : v < r.1 → hasR rs v = false := fun hv => has_low h2 (by omega)
      have e1 : hasR (if next < r.1 then [(next, r.1 - 1)] else []) v = true ↔ next ≤ v ∧ v < r.1 := by
        split
        · simp only [hasR, List.any_cons, List.any_nil, Bool.or_false, Bool.and_eq_true, decide_eq_true_eq]; omega
        · simp only [hasR, List.any_nil]
          constructor
          · intro h; cases h
          · omega
      rw [e1]
      simp only [Bool.or_eq_false_iff, Bool.and_eq_false_iff, decide_eq_false_iff_not]
      constructor
      · rintro (⟨h3, h4⟩ | ⟨⟨h3, h4⟩, h5⟩)
        · exact ⟨⟨h3, by omega⟩, .inl (by omega), hlow h4⟩
        · exact ⟨⟨by omega, h4⟩, .inr (by omega), h5⟩
      · rintro ⟨⟨h3, h4⟩, h5, h6⟩
        by_cases hv : v < r.1
        · exact .inl ⟨h3, hv⟩
        · exact .inr ⟨⟨by omega, h4⟩, h6⟩
theorem lacks_good {rs : List (Int × Int)} : ∀ {p q next to_ : Int}, goodFrom p rs = true → 0 ≤ next → q + 2 ≤ next → to_ ≤ maxN → goodFrom q (lacksF next to_ rs) = true := by
  induction rs with
  | nil =>
    intro p q next to_ _ hn hq ht
    show goodFrom q (if next ≤ to_ then [(next, to_)] else []) = true
    split
    · rw [goodFrom_cons]; exact ⟨⟨hn, by assumption, ht, hq⟩, rfl⟩
    · rfl
  | cons r rs ih =>
    intro p q next to_ hg hn hq ht
    obtain ⟨h1, h2⟩ := goodFrom_cons.1 hg
    show goodFrom q (if to_ < r.1 then (if next ≤ to_ then [(next, to_)] else []) else (if next < r.1 then [(next, r.1 - 1)] else []) ++ lacksF (max next (r.2 + 1)) to_ rs) = true
    split
    · split
      · rw [goodFrom_cons]; exact ⟨⟨hn, by assumption, ht, hq⟩, rfl⟩
      · rfl
    · split
      · show goodFrom q ((next, r.1 - 1) :: lacksF (max next (r.2 + 1)) to_ rs) = true
        rw [goodFrom_cons]
        refine ⟨⟨hn, by show next ≤ r.1 - 1; omega, by show r.1 - 1 ≤ maxN; omega, hq⟩, ih h2 (by omega) (by show r.1 - 1 + 2 ≤ _; omega) ht⟩
      · exact ih h2 (by omega) (by omega) ht
theorem lacks_len {rs : List (Int × Int)} : ∀ {next to_ : Int}, (lacksF next to_ rs).length ≤ rs.length + 1 := by
  induction rs with
  | nil => intro next to_; show (if next ≤ to_ then [(next, to_)] else []).length ≤ _; split <;> simp
  | cons r rs ih =>
    intro next to_
    show (if to_ < r.1 then (if next ≤ to_ then [(next, to_)] else []) else (if next < r.1 then [(next, r.1 - 1)] else []) ++ lacksF (max next (r.2 + 1)) to_ rs).length ≤ _
    split
    · split <;> simp
    · rw [List.length_append, List.length_cons]
      have := ih (next := max next (r.2 + 1)) (to_ := to_)
      split
      · simp only [List.length_singleton]; omega
      · simp only [List.length_nil]; omega
/-- How many of the n numbers from a on are there. -/
def cntR (m : List (Int × Int)) (a : Int) : Nat → Int
  | 0 => 0
  | k + 1 => cntR m a k + (if hasR m (a + k) = true then 1 else 0)
theorem cnt_one (r : Int × Int) (a : Int) : ∀ n : Nat, r.1 ≤ r.2 → cntR [r] a n = max 0 (min (a + n - 1) r.2 - max a r.1 + 1) := by
  intro n hr
  induction n with
  | zero => show (0 : Int) = _; omega
  | succ n ih =>
    show cntR [r] a n + _ = _
    rw [ih]
    simp only [hasR, List.any_cons, List.any_nil, Bool.or_false, Bool.and_eq_true, decide_eq_true_eq]
    split <;> omega
theorem cnt_cons (r : Int × Int) (rs : List (Int × Int)) (a : Int) (h : ∀ v, r.1 ≤ v → v ≤ r.2 → hasR rs v = false) : ∀ n : Nat, cntR (r :: rs) a n = cntR [r] a n + cntR rs a n := by
  intro n
  induction n with
  | zero => rfl
  | succ n ih =>
    show cntR (r :: rs) a n + _ = cntR [r] a n + _ + (cntR rs a n + _)
    rw [ih, hasR_cons]
    have e : hasR [r] (a + n) = (decide (r.1 ≤ a + n) && decide (a + n ≤ r.2)) := by simp [hasR]
    rw [e]
    by_cases hin : r.1 ≤ a + n ∧ a + n ≤ r.2
    · rw [h _ hin.1 hin.2, decide_eq_true hin.1, decide_eq_true hin.2]
      simp; omega
    · have : (decide (r.1 ≤ a + n) && decide (a + n ≤ r.2)) = false := by
        rw [Bool.and_eq_false_iff, decide_eq_false_iff_not, decide_eq_false_iff_not]; omega
      rw [this]; simp; omega
theorem cnt_all {m : List (Int × Int)} {a : Int} {n : Nat} : ∀ {p : Int}, goodFrom p m = true → (∀ v, hasR m v = true → a ≤ v ∧ v < a + n) → cntR m a n = countR m := by
  induction m with
  | nil =>
    intro p _ _
    have : ∀ k, cntR [] a k = 0 := by intro k; induction k with
      | zero => rfl
      | succ k ih => show cntR [] a k + _ = 0; rw [ih]; simp [hasR]
    rw [this]; rfl
  | cons r rs ih =>
    intro p hg hw
    obtain ⟨h1, h2⟩ := goodFrom_cons.1 hg
    rw [cnt_cons r rs a (fun v _ hv => has_low h2 (by omega)), cnt_one r a n h1.2.1, countR_cons, ih h2 (fun v hv => hw v (by rw [hasR_cons, hv, Bool.or_true]))]
    have w1 := hw r.1 (by rw [hasR_cons, decide_eq_true (Int.le_refl _), decide_eq_true h1.2.1]; rfl)
    have w2 := hw r.2 (by rw [hasR_cons, decide_eq_true h1.2.1, decide_eq_true (Int.le_refl _)]; rfl)
    omega
theorem good_take {l : List (Int × Int)} : ∀ {p : Int}, goodFrom p l = true → ∀ {k : Nat} {r : Int × Int}, l[k]? = some r → 0 ≤ r.1 ∧ r.1 ≤ r.2 ∧ r.2 ≤ maxN := by
  induction l with
  | nil => intro p _ k r h; simp at h
  | cons x l ih =>
    intro p hg k r h
    obtain ⟨h1, h2⟩ := goodFrom_cons.1 hg
    cases k with
    | zero => simp at h; subst h; exact ⟨h1.1, h1.2.1, h1.2.2.1⟩
    | succ k => exact ih h2 (by simpa using h)
end Go.Proofs.Ytdlngadcgcgenaa
