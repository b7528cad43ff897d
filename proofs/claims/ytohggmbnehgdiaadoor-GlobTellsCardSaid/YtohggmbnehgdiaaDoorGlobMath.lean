/- Patterns: the plain function 'gm' on lists of bytes, and what is true of it. No program. -/
import Derived.WalkKit
namespace Go.Proofs.YtohggmbnehgdiaaDoor

/-- Some rest of s has f. -/
def gmS (f : List UInt8 → Bool) : List UInt8 → Bool
  | [] => f []
  | x :: s => f (x :: s) || gmS f s

/-- The pattern (42: any bytes; 63: any byte) matches the whole of s. -/
def gm : List UInt8 → List UInt8 → Bool
  | [], s => s.isEmpty
  | c :: p, s => if c = 42 then gmS (gm p) s else match s with
    | [] => false
    | x :: s => (c == 63 || c == x) && gm p s

theorem gmS_iff (f : List UInt8 → Bool) (s : List UInt8) : gmS f s = true ↔ ∃ j, j ≤ s.length ∧ f (s.drop j) = true := by
  induction s with
  | nil => simp [gmS]
  | cons x s ih =>
    simp only [gmS, Bool.or_eq_true, ih, List.length_cons]
    constructor
    · rintro (h | ⟨j, h1, h2⟩)
      · exact ⟨0, by omega, h⟩
      · exact ⟨j + 1, by omega, h2⟩
    · rintro ⟨j, h1, h2⟩
      cases j with
      | zero => exact .inl h2
      | succ j => exact .inr ⟨j, by omega, h2⟩
theorem gm_nil (s : List UInt8) : gm [] s = s.isEmpty := by rw [gm]
theorem gm_star (p s : List UInt8) : gm (42 :: p) s = true ↔ ∃ j, j ≤ s.length ∧ gm p (s.drop j) = true := by
  have h : gm (42 :: p) s = gmS (gm p) s := by simp [gm]
  rw [h, gmS_iff]
theorem gm_one_nil {c : UInt8} (p : List UInt8) (h : c ≠ 42) : gm (c :: p) [] = false := by simp [gm, h]
theorem gm_one_cons {c : UInt8} (p : List UInt8) (x : UInt8) (s : List UInt8) (h : c ≠ 42) : gm (c :: p) (x :: s) = ((c == 63 || c == x) && gm p s) := by simp [gm, h]

/-- Two patterns put together. -/
theorem gm_append (p : List UInt8) : ∀ (q s : List UInt8), gm (p ++ q) s = true ↔ ∃ j, j ≤ s.length ∧ gm p (s.take j) = true ∧ gm q (s.drop j) = true := by
  induction p with
  | nil =>
    intro q s
    simp only [List.nil_append, gm_nil]
    constructor
    · intro h; exact ⟨0, by omega, by simp, h⟩
    · rintro ⟨j, h1, h2, h3⟩
      have : j = 0 ∨ s = [] := by
        have := List.isEmpty_iff.1 h2
        rcases Nat.eq_zero_or_pos j with h | h
        · exact .inl h
        · right
          have hl : (s.take j).length = 0 := by rw [this]; rfl
          rw [List.length_take] at hl
          exact List.eq_nil_of_length_eq_zero (by omega)
      rcases this with rfl | rfl
      · exact h3
      · simpa using h3
  | cons c p ih =>
    intro q s
    rw [List.cons_append]
    by_cases hc : c = 42
    · subst hc
      rw [gm_star]
      constructor
      · rintro ⟨i, hi, h⟩
        obtain ⟨j, hj, h1, h2⟩ := (ih _ _).1 h
        rw [List.length_drop] at hj
        refine ⟨i + j, by omega, ?_, by rw [List.drop_drop] at h2; exact h2⟩
        rw [gm_star]
        refine ⟨i, by rw [List.length_take]; omega, ?_⟩
        rw [List.drop_take, show i + j - i = j by omega]; exact h1
      · rintro ⟨j, hj, h1, h2⟩
        obtain ⟨i, hi, h3⟩ := (gm_star _ _).1 h1
        rw [List.length_take] at hi
        refine ⟨i, by omega, (ih _ _).2 ⟨j - i, by rw [List.length_drop]; omega, ?_, ?_⟩⟩
        · rw [List.drop_take] at h3; exact h3
        · rw [List.drop_drop, show i + (j - i) = j by omega]; exact h2
    · cases s with
      | nil =>
        rw [gm_one_nil _ hc]
        constructor
        · intro h; cases h
        · rintro ⟨j, hj, h1, _⟩
          rw [List.take_nil, gm_one_nil _ hc] at h1; cases h1
      | cons x s =>
        rw [gm_one_cons _ _ _ hc]
        constructor
        · intro h
          obtain ⟨h1, h2⟩ := Bool.and_eq_true_iff.1 h
          obtain ⟨j, hj, h3, h4⟩ := (ih _ _).1 h2
          exact ⟨j + 1, by simpa using hj, by rw [List.take_succ_cons, gm_one_cons _ _ _ hc, h1, h3]; rfl, h4⟩
        · rintro ⟨j, hj, h1, h2⟩
          cases j with
          | zero => rw [List.take_zero, gm_one_nil _ hc] at h1; cases h1
          | succ j =>
            rw [List.take_succ_cons, gm_one_cons _ _ _ hc] at h1
            obtain ⟨h3, h4⟩ := Bool.and_eq_true_iff.1 h1
            rw [h3, Bool.true_and]
            exact (ih _ _).2 ⟨j, by simpa using hj, h4, h2⟩

/-! ### Sign by sign, from the front -/
theorem gm_one (c : UInt8) (hc : c ≠ 42) (s : List UInt8) : gm [c] s = true ↔ ∃ x, s = [x] ∧ (c == 63 || c == x) = true := by
  cases s with
  | nil => rw [gm_one_nil _ hc]; simp
  | cons x s =>
    rw [gm_one_cons _ _ _ hc, gm_nil]
    simp only [Bool.and_eq_true, List.isEmpty_iff]
    constructor
    · rintro ⟨h1, rfl⟩; exact ⟨x, rfl, h1⟩
    · rintro ⟨y, h1, h2⟩; simp only [List.cons.injEq] at h1; obtain ⟨rfl, rfl⟩ := h1; exact ⟨h2, rfl⟩
theorem gm_allstar (s : List UInt8) : gm [42] s = true := by
  rw [gm_star]; exact ⟨s.length, Nat.le_refl _, by simp [gm_nil]⟩
theorem dp_star (p s : List UInt8) (k : Nat) (hk : k ≤ s.length) : gm (p ++ [42]) (s.take k) = (gm p (s.take k) || (decide (0 < k) && gm (p ++ [42]) (s.take (k - 1)))) := by
  rw [Bool.eq_iff_iff]
  simp only [Bool.or_eq_true, Bool.and_eq_true, decide_eq_true_eq, gm_append, List.length_take]
  constructor
  · rintro ⟨j, h1, h2, _⟩
    rw [List.take_take] at h2
    by_cases hj : j = k
    · left; rwa [hj, Nat.min_self] at h2
    · right
      refine ⟨by omega, j, by omega, ?_, gm_allstar _⟩
      rw [List.take_take, show min j (k - 1) = min j k by omega]; exact h2
  · rintro (h | ⟨h0, j, h1, h2, _⟩)
    · exact ⟨k, by omega, by rw [List.take_take, Nat.min_self]; exact h, gm_allstar _⟩
    · refine ⟨j, by omega, ?_, gm_allstar _⟩
      rw [List.take_take] at h2 ⊢
      rw [show min j k = min j (k - 1) by omega]; exact h2
theorem dp_one (p s : List UInt8) (c : UInt8) (hc : c ≠ 42) (k : Nat) (hk : k < s.length) :
    gm (p ++ [c]) (s.take (k + 1)) = (gm p (s.take k) && (c == 63 || c == s[k])) := by
  rw [Bool.eq_iff_iff]
  simp only [Bool.and_eq_true, gm_append, List.length_take, gm_one c hc]
  constructor
  · rintro ⟨j, h1, h2, x, h3, h4⟩
    have hl : ((s.take (k + 1)).drop j).length = 1 := by rw [h3]; rfl
    rw [List.length_drop, List.length_take] at hl
    obtain rfl : j = k := by omega
    rw [List.take_take, Nat.min_eq_left (by omega)] at h2
    rw [List.take_succ_eq_append_getElem hk, List.drop_left' (by rw [List.length_take]; omega)] at h3
    simp only [List.cons.injEq, and_true] at h3
    exact ⟨h2, by rw [h3]; exact h4⟩
  · rintro ⟨h1, h2⟩
    refine ⟨k, by omega, ?_, s[k], ?_, h2⟩
    · rw [List.take_take, Nat.min_eq_left (by omega)]; exact h1
    · rw [List.take_succ_eq_append_getElem hk, List.drop_left' (by rw [List.length_take]; omega)]
theorem dp_one0 (p s : List UInt8) (c : UInt8) (hc : c ≠ 42) : gm (p ++ [c]) (s.take 0) = false := by
  rw [Bool.eq_false_iff]
  intro h
  obtain ⟨j, _, _, h2⟩ := (gm_append _ _ _).1 h
  rw [List.take_zero, List.drop_nil, gm_one_nil _ hc] at h2; cases h2
theorem dp_zero (s : List UInt8) (k : Nat) (hk : k ≤ s.length) : gm [] (s.take k) = decide (k = 0) := by
  rw [gm_nil, Bool.eq_iff_iff, List.isEmpty_iff, decide_eq_true_eq]
  constructor
  · intro h
    have : (s.take k).length = 0 := by rw [h]; rfl
    rw [List.length_take] at this; omega
  · rintro rfl; rfl

/-! ### The greedy way -/
/-- Patterns without a star match byte by byte. -/
def fixed (p s : List UInt8) : Prop := p.length = s.length ∧ (∀ c ∈ p, c ≠ 42) ∧ gm p s = true
theorem fixed_nil : fixed [] [] := ⟨rfl, by simp, rfl⟩
theorem fixed_snoc {p s : List UInt8} {c x : UInt8} (h : fixed p s) (hc : c ≠ 42) (hm : (c == 63 || c == x) = true) : fixed (p ++ [c]) (s ++ [x]) := by
  obtain ⟨h1, h2, h3⟩ := h
  refine ⟨by simp [h1], ?_, ?_⟩
  · intro d hd
    rcases List.mem_append.1 hd with hd | hd
    · exact h2 d hd
    · simp at hd; rw [hd]; exact hc
  · rw [gm_append]
    exact ⟨s.length, by simp, by simpa using h3, by simpa [gm_one c hc] using hm⟩
/-- A pattern without a star matches just texts of its length. -/
theorem gm_len {p : List UInt8} (hp : ∀ c ∈ p, c ≠ 42) : ∀ s, gm p s = true → s.length = p.length := by
  induction p with
  | nil => intro s h; rw [gm_nil, List.isEmpty_iff] at h; rw [h]
  | cons c p ih =>
    intro s h
    have hc := hp c (by simp)
    cases s with
    | nil => rw [gm_one_nil _ hc] at h; cases h
    | cons x s =>
      rw [gm_one_cons _ _ _ hc] at h
      have := ih (fun d hd => hp d (by simp [hd])) s (Bool.and_eq_true_iff.1 h).2
      simp [this]
/-- Behind a front without a star that fits, only the rest counts; where it does not fit, nothing matches. -/
theorem gm_front {p s : List UInt8} (h : fixed p s) (q t : List UInt8) : gm (p ++ q) (s ++ t) = gm q t := by
  obtain ⟨h1, h2, h3⟩ := h
  rw [Bool.eq_iff_iff, gm_append]
  constructor
  · rintro ⟨j, hj, h4, h5⟩
    have := gm_len h2 _ h4
    rw [List.length_take] at this
    obtain rfl : j = s.length := by rw [List.length_append] at *; omega
    simpa using h5
  · intro h
    exact ⟨s.length, by simp, by simpa using h3, by simpa using h⟩
theorem gm_short {p : List UInt8} (hp : ∀ c ∈ p, c ≠ 42) (q s : List UInt8) (h : s.length < p.length) : gm (p ++ q) s = false := by
  rw [Bool.eq_false_iff]
  intro hg
  obtain ⟨j, hj, h4, _⟩ := (gm_append _ _ _).1 hg
  have := gm_len hp _ h4
  rw [List.length_take] at this
  omega
theorem gm_end (q : List UInt8) : gm q [] = q.all (· == 42) := by
  induction q with
  | nil => rw [gm_nil]; rfl
  | cons c q ih =>
    by_cases hc : c = 42
    · subst hc
      rw [Bool.eq_iff_iff, gm_star]
      simp [ih]
    · rw [gm_one_nil _ hc]; simp [hc]
end Go.Proofs.YtohggmbnehgdiaaDoor
