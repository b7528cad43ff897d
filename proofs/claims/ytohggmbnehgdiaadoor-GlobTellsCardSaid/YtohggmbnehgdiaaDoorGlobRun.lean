/- Patterns: the greedy run, as facts on lists. No program. -/
import Derived.Test.YtohggmbnehgdiaaDoorGlobMath
namespace Go.Proofs.YtohggmbnehgdiaaDoor

theorem star_left {q v : List UInt8} (h : fixed q v) (r u : List UInt8) : gm (42 :: (q ++ 42 :: r)) (v ++ u) = gm (42 :: r) u := by
  rw [Bool.eq_iff_iff]
  constructor
  · intro hg
    obtain ⟨j, hj, hg⟩ := (gm_star _ _).1 hg
    obtain ⟨m, hm, h1, h2⟩ := (gm_append _ _ _).1 hg
    have hl := gm_len h.2.1 _ h1
    rw [List.length_take] at hl
    obtain ⟨n, hn, h3⟩ := (gm_star _ _).1 h2
    rw [gm_star]
    have hq := h.1
    have hmq : m = v.length := by rw [List.length_drop] at hl hm; omega
    rw [List.drop_drop, List.drop_drop] at h3
    have e : (v ++ u).drop (j + (m + n)) = u.drop (j + n) := by
      rw [List.drop_append, List.drop_eq_nil_of_le (by omega), List.nil_append]; congr 1; omega
    simp only [List.length_drop, List.length_append] at hn hm hj
    by_cases hle : j + n ≤ u.length
    · refine ⟨j + n, hle, ?_⟩
      rw [← e]
      have e2 : j + m + n = j + (m + n) := by omega
      first | rwa [e2] at h3 | exact h3
    · refine ⟨u.length, Nat.le_refl _, ?_⟩
      have e3 : u.drop (j + n) = u.drop u.length := by rw [List.drop_eq_nil_of_le (by omega), List.drop_eq_nil_of_le (Nat.le_refl _)]
      rw [← e3, ← e]
      have e2 : j + m + n = j + (m + n) := by omega
      first | rwa [e2] at h3 | exact h3
  · intro hg
    rw [gm_star]
    exact ⟨0, Nat.zero_le _, by rw [List.drop_zero, gm_front h]; exact hg⟩
theorem star_next {q : List UInt8} {x : UInt8} {u : List UInt8} (h : gm q (x :: u) = false) : gm (42 :: q) (x :: u) = gm (42 :: q) u := by
  rw [Bool.eq_iff_iff, gm_star, gm_star]
  constructor
  · rintro ⟨j, hj, hg⟩
    cases j with
    | zero => rw [List.drop_zero, h] at hg; cases hg
    | succ j => exact ⟨j, by simpa using hj, by simpa using hg⟩
  · rintro ⟨j, hj, hg⟩
    exact ⟨j + 1, by simpa using hj, by simpa using hg⟩
theorem star_last {q v : List UInt8} (h : fixed q v) (r : List UInt8) : gm (42 :: (q ++ r)) v = gm r [] := by
  have hf := gm_front h r []
  rw [List.append_nil] at hf
  rw [← hf, Bool.eq_iff_iff, gm_star]
  constructor
  · rintro ⟨j, hj, hg⟩
    cases j with
    | zero => simpa using hg
    | succ j =>
      rw [gm_short h.2.1 _ _ (by rw [List.length_drop, h.1]; omega)] at hg
      cases hg
  · intro hg
    exact ⟨0, Nat.zero_le _, by simpa using hg⟩

/-- What holds at the head of each round: i, k: how far pattern and text are; st, t: the last star and where what follows it was tried last. -/
def GInv (p s : List UInt8) (i k : Nat) (st : Int) (t : Nat) : Prop :=
  (st = -1 ∧ t = 0 ∧ gm p s = gm (p.drop i) (s.drop k)) ∨
  (∃ (j : Nat) (q v : List UInt8), st = j ∧ j + 1 + q.length = i ∧ t + v.length = k ∧ p.drop j = 42 :: (q ++ p.drop i) ∧ s.drop t = v ++ s.drop k ∧ fixed q v ∧ gm p s = gm (p.drop j) (s.drop t))
theorem ginv_start (p s : List UInt8) : GInv p s 0 0 (-1) 0 := .inl ⟨rfl, rfl, rfl⟩
theorem drop_cons {p : List UInt8} {i : Nat} {c : UInt8} (h : p[i]? = some c) : p.drop i = c :: p.drop (i + 1) := by
  obtain ⟨h1, h2⟩ := List.getElem?_eq_some_iff.1 h
  rw [List.drop_eq_getElem_cons h1, h2]
theorem ginv_star {p s : List UInt8} {i k t : Nat} {st : Int} (h : GInv p s i k st t) (hp : p[i]? = some 42) : GInv p s (i + 1) k i k := by
  refine .inr ⟨i, [], [], rfl, by simp, by simp, by rw [drop_cons hp]; rfl, rfl, fixed_nil, ?_⟩
  rcases h with ⟨_, _, h⟩ | ⟨j, q, v, _, _, _, h1, h2, h3, h4⟩
  · exact h
  · rw [h4, h1, h2, drop_cons hp, star_left h3]
theorem ginv_one {p s : List UInt8} {i k t : Nat} {st : Int} {c x : UInt8} (h : GInv p s i k st t) (hp : p[i]? = some c) (hs : s[k]? = some x) (hc : c ≠ 42) (hm : (c == 63 || c == x) = true) :
    GInv p s (i + 1) (k + 1) st t := by
  rcases h with ⟨h1, h2, h⟩ | ⟨j, q, v, h5, h6, h7, h1, h2, h3, h4⟩
  · refine .inl ⟨h1, h2, ?_⟩
    rw [h, drop_cons hp, drop_cons hs, gm_one_cons _ _ _ hc, hm, Bool.true_and]
  · refine .inr ⟨j, q ++ [c], v ++ [x], h5, by simp; omega, by simp; omega, ?_, ?_, fixed_snoc h3 hc hm, h4⟩
    · rw [h1, drop_cons hp]; simp
    · rw [h2, drop_cons hs]; simp
theorem ginv_back {p s : List UInt8} {i k t : Nat} {st : Int} (h : GInv p s i k st t) (hk : k < s.length) (hst : 0 ≤ st) (hm : gm (p.drop i) (s.drop k) = false) :
    ∃ j : Nat, st = j ∧ j + 1 ≤ i ∧ t ≤ k ∧ GInv p s (j + 1) (t + 1) j (t + 1) := by
  rcases h with ⟨h1, _, _⟩ | ⟨j, q, v, h5, h6, h7, h1, h2, h3, h4⟩
  · omega
  · have htl : t < s.length := by omega
    have e1 : s.drop t = s[t] :: s.drop (t + 1) := List.drop_eq_getElem_cons htl
    have hd : p.drop (j + 1) = q ++ p.drop i := by
      have := congrArg (List.drop 1) h1
      rw [List.drop_drop] at this
      simpa [Nat.add_comm] using this
    refine ⟨j, h5, by omega, by omega, .inr ⟨j, [], [], rfl, by simp, by simp, by rw [h1, hd]; rfl, rfl, fixed_nil, ?_⟩⟩
    have hno : gm (q ++ p.drop i) (s.drop t) = false := by rw [h2, gm_front h3]; exact hm
    rw [h4, h1]
    rw [e1] at hno ⊢
    exact star_next hno
theorem ginv_fail {p s : List UInt8} {i k t : Nat} (h : GInv p s i k (-1) t) (hm : gm (p.drop i) (s.drop k) = false) : gm p s = false := by
  rcases h with ⟨_, _, h⟩ | ⟨j, q, v, h5, _⟩
  · rw [h, hm]
  · omega
theorem ginv_end {p s : List UInt8} {i k t : Nat} {st : Int} (h : GInv p s i k st t) (hk : s.length ≤ k) : gm p s = (p.drop i).all (· == 42) := by
  have e : s.drop k = [] := List.drop_eq_nil_of_le hk
  rw [← gm_end]
  rcases h with ⟨_, _, h⟩ | ⟨j, q, v, h5, h6, h7, h1, h2, h3, h4⟩
  · rw [h, e]
  · rw [h4, h1, h2, e, List.append_nil, star_last h3]
theorem miss_past {p s : List UInt8} {i k : Nat} (hi : p.length ≤ i) (hk : k < s.length) : gm (p.drop i) (s.drop k) = false := by
  rw [List.drop_eq_nil_of_le hi, gm_nil, List.drop_eq_getElem_cons hk]; rfl
theorem miss_one {p s : List UInt8} {i k : Nat} {c x : UInt8} (hp : p[i]? = some c) (hs : s[k]? = some x) (hc : c ≠ 42) (hm : (c == 63 || c == x) = false) : gm (p.drop i) (s.drop k) = false := by
  rw [drop_cons hp, drop_cons hs, gm_one_cons _ _ _ hc, hm]; rfl
/-- Three counters, the first the heaviest. -/
theorem lex3 {A B C A' B' C' P N : Nat} (h : (A' < A ∧ B' ≤ P ∧ C' ≤ N) ∨ (A' ≤ A ∧ B' < B ∧ C' ≤ N) ∨ (A' = A ∧ B' = B ∧ C' < C)) :
    (A' * (P + 1) + B') * (N + 1) + C' < (A * (P + 1) + B) * (N + 1) + C := by
  have key : ∀ {X Y : Nat}, X < Y → C' ≤ N → X * (N + 1) + C' < Y * (N + 1) + C := fun {X Y} hxy hc => by
    have := Nat.mul_le_mul_right (N + 1) (show X + 1 ≤ Y from hxy)
    rw [Nat.add_mul, Nat.one_mul] at this; omega
  rcases h with ⟨h1, h2, h3⟩ | ⟨h1, h2, h3⟩ | ⟨h1, h2, h3⟩
  · refine key ?_ h3
    have := Nat.mul_le_mul_right (P + 1) (show A' + 1 ≤ A from h1)
    rw [Nat.add_mul, Nat.one_mul] at this; omega
  · refine key ?_ h3
    have := Nat.mul_le_mul_right (P + 1) h1
    omega
  · subst h1 h2; omega
end Go.Proofs.YtohggmbnehgdiaaDoor
