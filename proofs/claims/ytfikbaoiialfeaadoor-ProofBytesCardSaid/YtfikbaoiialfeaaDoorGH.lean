/- Hexadecimal digits read: the math. Hexadecimal digits: one digit, read and written. Hexadecimal digits: a hash read. -/
import Derived.Test.YtfikbaoiialfeaaDoorGS
import Derived.BigQuiet
import Derived.WalkKit
import Derived.ProofKit
import Derived.Handy
import Derived.Below
import Derived.Lib.Hide
import Derived.IntWalk
import Derived.Outline
import Derived.WalkLawsBesides
import Derived.WalkSpells
namespace Go.Proofs.YtfikbaoiialfeaaDoor
open Go.RowKit
/-- The value of a hexadecimal digit, and whether it is one. -/
def digv (c : UInt8) : Nat := if 48 ≤ c.toNat ∧ c.toNat ≤ 57 then c.toNat - 48 else if 97 ≤ c.toNat ∧ c.toNat ≤ 102 then c.toNat - 87 else 0
def digk (c : UInt8) : Bool := (decide (48 ≤ c.toNat) && decide (c.toNat ≤ 57)) || (decide (97 ≤ c.toNat) && decide (c.toNat ≤ 102))
theorem hexd_dig0 : ∀ n, n < 16 → ∀ k, k < 256 → (hexd n = UInt8.ofNat k ↔ digk (UInt8.ofNat k) = true ∧ digv (UInt8.ofNat k) = n) := by decide +kernel
theorem hexd_dig {n : Nat} (h : n < 16) (c : UInt8) : hexd n = c ↔ digk c = true ∧ digv c = n := by
  have := hexd_dig0 n h c.toNat c.toNat_lt
  rwa [UInt8.ofNat_toNat] at this
theorem digv_lt (c : UInt8) : digv c < 16 := by
  unfold digv; split
  · omega
  · split <;> omega
theorem digk_hexd {n : Nat} (h : n < 16) : digk (hexd n) = true ∧ digv (hexd n) = n := (hexd_dig h _).1 rfl
/-- The byte of the pair i of digits. -/
def pairV (L : List UInt8) (i : Nat) : Nat := digv (L.getD (2 * i) 0) * 16 + digv (L.getD (2 * i + 1) 0)
def pairB (L : List UInt8) (i : Nat) : UInt8 := UInt8.ofNat (pairV L i)
theorem pairV_lt (L : List UInt8) (i : Nat) : pairV L i < 256 := by
  have h1 := digv_lt (L.getD (2 * i) 0)
  have h2 := digv_lt (L.getD (2 * i + 1) 0)
  unfold pairV; omega
theorem pairB_nat (L : List UInt8) (i : Nat) : (pairB L i).toNat = pairV L i := by
  unfold pairB; rw [UInt8.toNat_ofNat']; exact Nat.mod_eq_of_lt (pairV_lt L i)
def pairs (L : List UInt8) (k : Nat) : List UInt8 := (List.range k).map (pairB L)
theorem pairs_len (L : List UInt8) (k : Nat) : (pairs L k).length = k := by simp [pairs]
theorem pairs_succ (L : List UInt8) (k : Nat) : pairs L (k + 1) = pairs L k ++ [pairB L k] := by simp [pairs, List.range_succ]
theorem pairs_at (L : List UInt8) {k i : Nat} (h : i < k) : (pairs L k)[i]? = some (pairB L i) := by simp [pairs, h]
/-- Are the digits of the pair i digits? -/
def pok (L : List UInt8) (i : Nat) : Bool := digk (L.getD (2 * i) 0) && digk (L.getD (2 * i + 1) 0)
def allok (L : List UInt8) (k : Nat) : Bool := (List.range k).all (pok L)
theorem allok_succ (L : List UInt8) (k : Nat) : allok L (k + 1) = (allok L k && pok L k) := by simp [allok, List.range_succ]
theorem allok_not {L : List UInt8} {k n : Nat} (h : pok L k = false) (hk : k < n) : allok L n = false := by
  unfold allok
  rw [List.all_eq_false]
  exact ⟨k, List.mem_range.2 hk, by rw [h]; decide⟩
theorem hexL_append (a b : List UInt8) : hexL (a ++ b) = hexL a ++ hexL b := by simp [hexL]
/-- What was read, written. -/
theorem hexL_pairs (L : List UInt8) : ∀ k, 2 * k ≤ L.length → allok L k = true → hexL (pairs L k) = L.take (2 * k)
  | 0, _, _ => by simp [pairs, hexL]
  | k + 1, hk, ho => by
    rw [allok_succ, Bool.and_eq_true] at ho
    obtain ⟨ho, hp⟩ := ho
    unfold pok at hp
    rw [Bool.and_eq_true] at hp
    rw [pairs_succ, hexL_append, hexL_pairs L k (by omega) ho]
    have e1 : L[2 * k]? = some (L.getD (2 * k) 0) := by rw [List.getD_eq_getElem?_getD, List.getElem?_eq_getElem (by omega)]; rfl
    have e2 : L[2 * k + 1]? = some (L.getD (2 * k + 1) 0) := by rw [List.getD_eq_getElem?_getD, List.getElem?_eq_getElem (by omega)]; rfl
    have h1 := digv_lt (L.getD (2 * k) 0)
    have h2 := digv_lt (L.getD (2 * k + 1) 0)
    have q1 : (pairB L k).toNat / 16 = digv (L.getD (2 * k) 0) := by rw [pairB_nat]; unfold pairV; omega
    have q2 : (pairB L k).toNat % 16 = digv (L.getD (2 * k + 1) 0) := by rw [pairB_nat]; unfold pairV; omega
    rw [show 2 * (k + 1) = (2 * k + 1) + 1 by omega, List.take_add_one, List.take_add_one, e1, e2]
    simp only [hexL, List.flatMap_cons, List.flatMap_nil, List.append_nil, Option.toList_some, q1, q2]
    rw [(hexd_dig h1 _).2 ⟨hp.1, rfl⟩, (hexd_dig h2 _).2 ⟨hp.2, rfl⟩, List.append_assoc]
    rfl
/-- What was written, read. -/
theorem pairs_hexL (l : List UInt8) : allok (hexL l) l.length = true ∧ pairs (hexL l) l.length = l := by
  have key : ∀ i, (h : i < l.length) → pok (hexL l) i = true ∧ pairB (hexL l) i = l[i] := by
    intro i h
    obtain ⟨g1, g2⟩ := hexL_at l (List.getElem?_eq_getElem h)
    have hx := l[i].toNat_lt
    have d1 : (hexL l).getD (2 * i) 0 = hexd (l[i].toNat / 16) := by rw [List.getD_eq_getElem?_getD, g1]; rfl
    have d2 : (hexL l).getD (2 * i + 1) 0 = hexd (l[i].toNat % 16) := by rw [List.getD_eq_getElem?_getD, g2]; rfl
    have k1 := digk_hexd (n := l[i].toNat / 16) (by omega)
    have k2 := digk_hexd (n := l[i].toNat % 16) (by omega)
    refine ⟨by unfold pok; rw [d1, d2, k1.1, k2.1]; rfl, ?_⟩
    apply UInt8.toNat_inj.1
    rw [pairB_nat]
    unfold pairV
    rw [d1, d2, k1.2, k2.2]
    omega
  refine ⟨by unfold allok; rw [List.all_eq_true]; intro i hi; exact (key i (List.mem_range.1 hi)).1, ?_⟩
  apply List.ext_getElem
  · rw [pairs_len]
  · intro i h1 h2
    have := pairs_at (hexL l) (k := l.length) h2
    rw [List.getElem?_eq_getElem h1] at this
    exact (Option.some.inj this).trans (key i h2).2
end Go.Proofs.YtfikbaoiialfeaaDoor
namespace Go.Proofs.YtfikbaoiialfeaaDoor
open Go.RowKit
attribute [local go_sem] strV
set_option linter.unusedVariables false
theorem hexd_nat : ∀ n, n < 16 → (hexd n).toNat = if n < 10 then 48 + n else 87 + n := by decide +kernel
end Go.Proofs.YtfikbaoiialfeaaDoor
namespace Go.Proofs.YtfikbaoiialfeaaDoor
open Go.RowKit
attribute [local go_sem] strV
set_option linter.unusedVariables false
def z32 : List UInt8 := List.replicate 32 0
/-- What FromHex yields. -/
def fhV (L : List UInt8) : List UInt8 × Int := if L.length < 64 then (z32, 2) else if 64 < L.length then (z32, 4) else if allok L 32 = true then (pairs L 32, 0) else (z32, 3)
theorem fhV_len (L : List UInt8) : (fhV L).1.length = 32 := by
  unfold fhV; split
  · rfl
  · split
    · rfl
    · split
      · exact pairs_len _ _
      · rfl
theorem bytes_get (s : ByteArray) (i : Nat) : s[i]? = s.data.toList[i]? := by
  by_cases h : i < s.size
  · rw [getElem?_pos s i h, bget h]
  · rw [getElem?_neg s i h, List.getElem?_eq_none (by rw [str_len]; omega)]
theorem or16 : ∀ a, a < 16 → ∀ b, b < 16 → bits .or .u8 ((a : Nat) * 16 : Int) ((b : Nat) : Int) = (((a * 16 + b : Nat)) : Int) := by decide +kernel
end Go.Proofs.YtfikbaoiialfeaaDoor
