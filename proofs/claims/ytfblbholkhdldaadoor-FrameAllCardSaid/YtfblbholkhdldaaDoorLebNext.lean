/- Reading back what was written in groups of seven bits, and what a reading that succeeds tells. Plain lists, no program. -/
import Derived.Test.YtfblbholkhdldaaDoorLebMath
namespace Go.Proofs.YtfblbholkhdldaaDoor

theorem get_mid {A B : List UInt8} {b : UInt8} : (A ++ b :: B)[A.length]? = some b := by simp

theorem nx_grp (f : Nat) : ∀ (A B : List UInt8) (v k u : Nat), v < 128 ^ (f + 1) → (0 < k → v ≠ 0) →
    nx (A ++ (grp f v ++ B)) (f + 1) k u A.length = (((u + v * 128 ^ k : Nat) : Int), ((A.length + (grp f v).length : Nat) : Int), 0) := by
  induction f with
  | zero =>
    intro A B v k u hv h0
    have hv' : v < 128 := by simpa using hv
    have ht : (UInt8.ofNat v).toNat = v := by rw [UInt8.toNat_ofNat', Nat.mod_eq_of_lt (show v < 2 ^ 8 by omega)]
    have hg : (A ++ (grp 0 v ++ B))[A.length]? = some (UInt8.ofNat v) := by simp [grp]
    rw [nx_done hg (by omega) (by rw [ht]; intro h; exact h0 h.2 h.1), ht, Nat.mod_eq_of_lt hv']
    rfl
  | succ f ih =>
    intro A B v k u hv h0
    by_cases h : v < 128
    · have ht : (UInt8.ofNat v).toNat = v := by rw [UInt8.toNat_ofNat', Nat.mod_eq_of_lt (show v < 2 ^ 8 by omega)]
      have hg : (A ++ (grp (f + 1) v ++ B))[A.length]? = some (UInt8.ofNat v) := by rw [grp_small h]; simp
      rw [nx_done hg (by omega) (by rw [ht]; intro h'; exact h0 h'.2 h'.1), ht, Nat.mod_eq_of_lt h, grp_small h]
      rfl
    · have hq : v / 128 < 128 ^ (f + 1) := by rw [Nat.div_lt_iff_lt_mul (by decide)]; rwa [← Nat.pow_succ]
      have ht : (UInt8.ofNat (v % 128 + 128)).toNat = v % 128 + 128 := by rw [UInt8.toNat_ofNat', Nat.mod_eq_of_lt (show v % 128 + 128 < 2 ^ 8 by omega)]
      rw [grp_big (by omega)]
      have hg : (A ++ (UInt8.ofNat (v % 128 + 128) :: grp f (v / 128) ++ B))[A.length]? = some (UInt8.ofNat (v % 128 + 128)) := by simp
      rw [nx_more hg (by omega), ht]
      have := ih (A ++ [UInt8.ofNat (v % 128 + 128)]) B (v / 128) (k + 1) (u + (v % 128 + 128) % 128 * 128 ^ k) hq (by omega)
      simp only [List.append_assoc, List.singleton_append, List.length_append, List.length_singleton] at this
      simp only [List.cons_append]
      rw [this]
      have e1 : u + (v % 128 + 128) % 128 * 128 ^ k + v / 128 * 128 ^ (k + 1) = u + v * 128 ^ k := by
        rw [show (v % 128 + 128) % 128 = v % 128 by omega, Nat.pow_succ, Nat.mul_comm (128 ^ k) 128, ← Nat.mul_assoc, Nat.add_assoc, ← Nat.add_mul]
        congr 2; omega
      rw [e1]
      simp only [List.length_cons]
      congr 2
      omega

theorem next_put {A B : List UInt8} {x : Nat} (h : x ≤ 72057594037927935) :
    nextS (A ++ putL x ++ B) A.length = ((x : Int), ((A.length + (putL x).length : Nat) : Int), 0) := by
  have he : encB (x : Int) = true := by simp [encB]; omega
  have hp : putL (x : Int) = grp 7 x := by unfold putL; rw [if_pos he]; rfl
  rw [hp]
  unfold nextS
  rw [if_neg (by simp; omega), Int.toNat_natCast, List.append_assoc, nx_grp 7 A B x 0 0 (by omega) (by omega)]
  simp

/-- What a reading that fails tells. -/
theorem nx_err (l : List UInt8) : ∀ (f k u i : Nat), (nx l f k u i).2.2 ≠ 0 → (nx l f k u i).1 = 0 ∧ (nx l f k u i).2.1 = 0 ∧ (nx l f k u i).2.2 ≠ 1 := by
  intro f
  induction f with
  | zero => intro k u i h; simp [nx]
  | succ f ih =>
    intro k u i h
    unfold nx at h ⊢
    split
    · simp
    · rename_i b hb
      simp only [hb] at h
      split
      · rename_i h1; rw [if_pos h1] at h; exact ih _ _ _ h
      · rename_i h1; rw [if_neg h1] at h
        split
        · simp
        · rename_i h2; rw [if_neg h2] at h; simp at h

/-- What a reading that succeeds tells: the bytes are the groups of the number. -/
theorem nx_ok (l : List UInt8) : ∀ (f k u i : Nat) (V E : Int), nx l (f + 1) k u i = (V, E, 0) →
    ∃ m x : Nat, V = ((u + x * 128 ^ k : Nat) : Int) ∧ E = ((i + m : Nat) : Int) ∧ 1 ≤ m ∧ i + m ≤ l.length ∧ x < 128 ^ (f + 1) ∧ (0 < k → 0 < x) ∧ grp f x = (l.drop i).take m ∧
      ∀ j, i ≤ j → j < i + m → nx (l.take j) (f + 1) k u i = (0, 0, 2) := by
  intro f
  induction f with
  | zero =>
    intro k u i V E h
    unfold nx at h
    split at h
    · simp at h
    · rename_i b hb
      split at h
      · simp [nx] at h
      · rename_i h1
        split at h
        · simp at h
        · rename_i h2
          simp only [Prod.mk.injEq, and_true] at h
          obtain ⟨hi, hb'⟩ := List.getElem?_eq_some_iff.1 hb
          refine ⟨1, b.toNat, ?_, h.2.symm, by omega, by omega, by simp; omega, by omega, ?_, ?_⟩
          · rw [← h.1, Nat.mod_eq_of_lt (by omega)]
          · rw [List.drop_eq_getElem_cons hi, List.take_succ_cons, hb']; simp [grp]
          · intro j h3 h4
            exact nx_short (by rw [List.length_take]; omega)
  | succ f ih =>
    intro k u i V E h
    rw [nx] at h
    split at h
    · simp at h
    · rename_i b hb
      obtain ⟨hi, hb'⟩ := List.getElem?_eq_some_iff.1 hb
      have hlt := b.toNat_lt
      split at h
      · rename_i h1
        obtain ⟨m, x, h3, h4, h5, h6, h7, h8, h9, h10⟩ := ih _ _ _ _ _ h
        have hx := h8 (by omega)
        refine ⟨m + 1, b.toNat % 128 + x * 128, ?_, ?_, by omega, by omega, ?_, by omega, ?_, ?_⟩
        · rw [h3, Nat.pow_succ, Nat.add_mul, Nat.add_assoc, Nat.mul_comm (128 ^ k) 128, ← Nat.mul_assoc]
        · rw [h4]; congr 1; omega
        · rw [Nat.pow_succ 128 (f + 1)]; omega
        · rw [grp_big (by omega), show (b.toNat % 128 + x * 128) / 128 = x by omega, h9, List.drop_eq_getElem_cons hi, List.take_succ_cons, hb']
          congr 1
          rw [show (b.toNat % 128 + x * 128) % 128 + 128 = b.toNat by omega, UInt8.ofNat_toNat]
        · intro j h11 h12
          by_cases hj : j = i
          · exact nx_short (by rw [List.length_take]; omega)
          · have hg : (l.take j)[i]? = some b := by rw [List.getElem?_take, if_pos (by omega), hb]
            rw [nx_more hg h1]
            exact h10 j (by omega) (by omega)
      · rename_i h1
        split at h
        · simp at h
        · rename_i h2
          simp only [Prod.mk.injEq, and_true] at h
          refine ⟨1, b.toNat, ?_, h.2.symm, by omega, by omega, ?_, by omega, ?_, ?_⟩
          · rw [← h.1, Nat.mod_eq_of_lt (by omega)]
          · have : 128 ^ 1 ≤ 128 ^ (f + 1 + 1) := Nat.pow_le_pow_right (by omega) (by omega)
            omega
          · rw [List.drop_eq_getElem_cons hi, List.take_succ_cons, hb', grp_small (by omega)]; simp
          · intro j h3 h4
            exact nx_short (by rw [List.length_take]; omega)

/-- Both for nextS. -/
theorem next_err {l : List UInt8} {a : Int} (h : (nextS l a).2.2 ≠ 0) : (nextS l a).1 = 0 ∧ (nextS l a).2.1 = 0 ∧ ((nextS l a).2.2 = 1 ↔ (a < 0 ∨ (l.length : Int) < a)) := by
  unfold nextS at h ⊢
  split
  · rename_i h1; simp [h1]
  · rename_i h1
    rw [if_neg h1] at h
    have := nx_err l 8 0 0 a.toNat h
    exact ⟨this.1, this.2.1, ⟨fun e => absurd e this.2.2, fun e => absurd e h1⟩⟩
theorem next_ok {l : List UInt8} {a V E : Int} (h : nextS l a = (V, E, 0)) :
    ∃ i m x : Nat, a = i ∧ V = x ∧ E = ((i + m : Nat) : Int) ∧ 1 ≤ m ∧ i + m ≤ l.length ∧ putL V = (l.drop i).take m ∧ x ≤ 72057594037927935 ∧
      ∀ j, i ≤ j → j < i + m → nextS (l.take j) a = (0, 0, 2) := by
  unfold nextS at h
  split at h
  · simp at h
  · rename_i h1
    obtain ⟨i, rfl⟩ := Int.eq_ofNat_of_zero_le (show 0 ≤ a by omega)
    rw [Int.toNat_natCast] at h
    obtain ⟨m, x, h3, h4, h5, h6, h7, h8, h9, h10⟩ := nx_ok l 7 0 0 i V E h
    have hV : V = (x : Int) := by rw [h3]; simp
    have he : encB (x : Int) = true := by simp [encB]; omega
    refine ⟨i, m, x, rfl, hV, h4, h5, h6, ?_, by omega, ?_⟩
    · rw [hV]; unfold putL; rw [if_pos he, Int.toNat_natCast, h9]
    · intro j h11 h12
      unfold nextS
      rw [if_neg (by rw [List.length_take]; omega), Int.toNat_natCast]
      exact h10 j h11 h12

end Go.Proofs.YtfblbholkhdldaaDoor
