/- Numbers in groups of seven bits and in eight bytes: the plain functions on lists of bytes, and what is true of them. Nothing of a program is imported. -/
import Derived.Laws.BitsAllLaws
import Derived.IntWalk
import Derived.WalkKit
import Derived.Below
import Derived.Test.YtfblbholkhdldaaDoorBits
namespace Go.Proofs.YtfblbholkhdldaaDoor
open Go.RowKit

def maxNum : Nat := 72057594037927935
def encB (v : Int) : Bool := decide (0 ≤ v ∧ v ≤ 72057594037927935)

/-- The groups of v, the least first; fuel f. -/
def grp : Nat → Nat → List UInt8
  | 0, v => [UInt8.ofNat v]
  | f + 1, v => if v < 128 then [UInt8.ofNat v] else UInt8.ofNat (v % 128 + 128) :: grp f (v / 128)

def putL (v : Int) : List UInt8 := if encB v then grp 7 v.toNat else []

/-- One reading: f rounds are left, k are done, u is the sum so far, i is the place. -/
def nx (l : List UInt8) : Nat → Nat → Nat → Nat → Int × Int × Int
  | 0, _, _, _ => (0, 0, 4)
  | f + 1, k, u, i =>
    match l[i]? with
    | none => (0, 0, 2)
    | some b =>
      if 128 ≤ b.toNat then nx l f (k + 1) (u + b.toNat % 128 * 128 ^ k) (i + 1)
      else if b.toNat = 0 ∧ 0 < k then (0, 0, 3)
      else (((u + b.toNat % 128 * 128 ^ k : Nat) : Int), ((i + 1 : Nat) : Int), 0)

def nextS (l : List UInt8) (a : Int) : Int × Int × Int :=
  if a < 0 ∨ (l.length : Int) < a then (0, 0, 1) else nx l 8 0 0 a.toNat

theorem nx_short {l : List UInt8} {f k u i : Nat} (h : l.length ≤ i) : nx l (f + 1) k u i = (0, 0, 2) := by
  unfold nx; rw [List.getElem?_eq_none h]
theorem nx_more {l : List UInt8} {f k u i : Nat} {b : UInt8} (hb : l[i]? = some b) (h : 128 ≤ b.toNat) :
    nx l (f + 1) k u i = nx l f (k + 1) (u + b.toNat % 128 * 128 ^ k) (i + 1) := by
  rw [nx, hb]; simp only []; rw [if_pos h]
theorem nx_form {l : List UInt8} {f k u i : Nat} {b : UInt8} (hb : l[i]? = some b) (h : b.toNat = 0) (hk : 0 < k) :
    nx l (f + 1) k u i = (0, 0, 3) := by
  rw [nx, hb]; simp only []; rw [if_neg (by omega), if_pos ⟨h, hk⟩]
theorem nx_done {l : List UInt8} {f k u i : Nat} {b : UInt8} (hb : l[i]? = some b) (h : b.toNat < 128) (hk : ¬ (b.toNat = 0 ∧ 0 < k)) :
    nx l (f + 1) k u i = (((u + b.toNat % 128 * 128 ^ k : Nat) : Int), ((i + 1 : Nat) : Int), 0) := by
  rw [nx, hb]; simp only []; rw [if_neg (by omega), if_neg hk]

theorem pow7 (k : Nat) : 2 ^ (7 * k) = 128 ^ k := by rw [Nat.pow_mul]
theorem pow128_le {k : Nat} (h : k < 8) : 128 ^ k ≤ 562949953421312 := by
  have : k ≤ 7 := by omega
  exact Nat.le_trans (Nat.pow_le_pow_right (by omega) this) (by decide)

/-- u < 128^k, k < 8, b a byte: what the shift and the or of one group give. -/
theorem group_or {k u b : Nat} (hk : k < 8) (hu : u < 128 ^ k) (hb : b < 256) :
    bits .or .i64 (u : Int) (wrap64 (wrap64 (bits .andNot .u8 (b : Int) 128) * 2 ^ (7 * k))) = ((u + b % 128 * 128 ^ k : Nat) : Int) := by
  have h1 : bits .andNot .u8 (b : Int) 128 = ((b % 128 : Nat) : Int) := by
    have := u8_andNot_nat b 128 hb (by omega)
    rw [show ((128 : Nat) : Int) = 128 from rfl] at this
    rw [this, show 255 - 128 = 127 from rfl, nat_mask7]
  rw [h1]
  have hp := pow128_le hk
  have hx : b % 128 * 128 ^ k ≤ 127 * 562949953421312 := Nat.mul_le_mul (by omega) hp
  have hw1 : wrap64 ((b % 128 : Nat) : Int) = ((b % 128 : Nat) : Int) := IntWalk.wrap64_in _ (by omega)
  have e1 : ((b % 128 : Nat) : Int) * 2 ^ (7 * k) = ((b % 128 * 128 ^ k : Nat) : Int) := by
    rw [← pow7]; push_cast; rfl
  rw [hw1, e1, IntWalk.wrap64_in _ (by omega)]
  have hz : b % 128 * 128 ^ k % 2 ^ (7 * k) = 0 := by rw [pow7]; exact Nat.mul_mod_left _ _
  have hj : b % 128 * 128 ^ k ||| u = b % 128 * 128 ^ k + u := nat_join (7 * k) _ _ hz (by rw [pow7]; exact hu)
  have hu' : u < 562949953421312 := by omega
  have hor := i64_or_nat u (b % 128 * 128 ^ k) (by omega) (by omega)
  rw [hor, Nat.or_comm, hj, Nat.add_comm]
theorem group_bound {k u b : Nat} (hu : u < 128 ^ k) : u + b % 128 * 128 ^ k < 128 ^ (k + 1) := by
  have : b % 128 * 128 ^ k ≤ 127 * 128 ^ k := Nat.mul_le_mul_right _ (by omega)
  rw [Nat.pow_succ]; omega

/-! ### How many groups, and which -/
theorem grp_small {f v : Nat} (h : v < 128) : grp f v = [UInt8.ofNat v] := by
  cases f with
  | zero => rfl
  | succ f => rw [grp, if_pos h]
theorem grp_big {f v : Nat} (h : 128 ≤ v) : grp (f + 1) v = UInt8.ofNat (v % 128 + 128) :: grp f (v / 128) := by
  rw [grp, if_neg (by omega)]
/-- How many groups x still has. -/
def gl (f x : Nat) : Nat := if x = 0 then 0 else (grp f x).length
theorem gl_zero (f : Nat) : gl f 0 = 0 := rfl
theorem gl_step {f x : Nat} (hx : 0 < x) (hb : x < 128 ^ (f + 1)) : gl f x = 1 + gl (f - 1) (x / 128) := by
  unfold gl
  rw [if_neg (by omega)]
  by_cases h : x < 128
  · rw [grp_small h, if_pos (by omega)]; rfl
  · cases f with
    | zero => simp at hb; omega
    | succ f =>
      rw [grp_big (by omega), if_neg (by omega)]
      simp only [List.length_cons, Nat.add_sub_cancel]; omega
theorem grp_first (v : Nat) : (grp 7 v).length = 1 + gl 6 (v / 128) := by
  by_cases h : v < 128
  · rw [grp_small h, show v / 128 = 0 by omega, gl_zero]; rfl
  · rw [grp_big (by omega)]; unfold gl; rw [if_neg (by omega)]; simp only [List.length_cons]; omega
theorem grp_pos (f v : Nat) : 0 < (grp f v).length := by
  cases f with
  | zero => simp [grp]
  | succ f => rw [grp]; split <;> simp
theorem grp_le (f v : Nat) : (grp f v).length ≤ f + 1 := by
  induction f generalizing v with
  | zero => simp [grp]
  | succ f ih =>
    rw [grp]; split
    · simp
    · have := ih (v / 128); simp only [List.length_cons]; omega

/-- The first n groups of v, each marked as having one behind it. -/
def marked : Nat → Nat → List UInt8
  | 0, _ => []
  | n + 1, v => UInt8.ofNat (v % 128 + 128) :: marked n (v / 128)
theorem marked_length (n v : Nat) : (marked n v).length = n := by
  induction n generalizing v with
  | zero => rfl
  | succ n ih => simp [marked, ih]
theorem marked_snoc (n v : Nat) : marked (n + 1) v = marked n v ++ [UInt8.ofNat (v / 128 ^ n % 128 + 128)] := by
  induction n generalizing v with
  | zero => simp [marked]
  | succ n ih =>
    rw [marked, ih (v / 128), marked]
    simp only [List.cons_append, Nat.div_div_eq_div_mul, Nat.pow_succ, Nat.mul_comm]
/-- The groups are marked but for the last one. -/
theorem grp_marked {f v : Nat} (hb : v < 128 ^ (f + 1)) : grp f v = marked ((grp f v).length - 1) v ++ [UInt8.ofNat (v / 128 ^ ((grp f v).length - 1))] := by
  induction f generalizing v with
  | zero => simp [grp, marked]
  | succ f ih =>
    by_cases h : v < 128
    · rw [grp_small h]; simp [marked]
    · have hq : v / 128 < 128 ^ (f + 1) := by rw [Nat.div_lt_iff_lt_mul (by decide)]; rwa [← Nat.pow_succ]
      have hp := grp_pos f (v / 128)
      rw [grp_big (by omega)]
      simp only [List.length_cons, Nat.add_sub_cancel]
      obtain ⟨m, hm⟩ : ∃ m, (grp f (v / 128)).length = m + 1 := ⟨_, (Nat.succ_pred_eq_of_pos hp).symm⟩
      have := ih hq
      rw [hm] at this ⊢
      simp only [Nat.add_sub_cancel] at this
      rw [marked, List.cons_append, Nat.pow_succ, Nat.mul_comm, ← Nat.div_div_eq_div_mul, ← this]
theorem last_small {f v : Nat} (hb : v < 128 ^ (f + 1)) : v / 128 ^ ((grp f v).length - 1) < 128 := by
  induction f generalizing v with
  | zero => simp [grp] at *; exact hb
  | succ f ih =>
    by_cases h : v < 128
    · rw [grp_small h]; simpa using h
    · have hq : v / 128 < 128 ^ (f + 1) := by rw [Nat.div_lt_iff_lt_mul (by decide)]; rwa [← Nat.pow_succ]
      have hp := grp_pos f (v / 128)
      rw [grp_big (by omega)]
      simp only [List.length_cons, Nat.add_sub_cancel]
      obtain ⟨m, hm⟩ : ∃ m, (grp f (v / 128)).length = m + 1 := ⟨_, (Nat.succ_pred_eq_of_pos hp).symm⟩
      have := ih hq
      rw [hm] at this ⊢
      simp only [Nat.add_sub_cancel] at this
      rwa [Nat.pow_succ, Nat.mul_comm, ← Nat.div_div_eq_div_mul]
end Go.Proofs.YtfblbholkhdldaaDoor
