/- Small facts on strings of bytes and the lists of their bytes, in the walk's spelling. -/
import Derived.Test.YtpledhipdiephaaDoorKit
import Derived.WalkLawsBesides
import Derived.WalkSpells
namespace Go.Proofs.YtpledhipdiephaaDoor
open Go.RowKit

theorem str_eq {x : ByteArray} {l : List UInt8} (h : x.data.toList = l) : Value.string x = strV l := by
  subst h; rfl
theorem str_len (s : ByteArray) : s.data.toList.length = s.size := by simp
theorem str_nil {s : ByteArray} (h : s.size = 0) : s = ByteArray.empty := by
  have : s.data = #[] := Array.eq_empty_of_size_eq_zero h
  exact ByteArray.ext this
theorem str_ne {s : ByteArray} (h : 0 < s.size) : s.data.toList ≠ [] := by
  intro e
  have h2 := str_len s
  rw [e] at h2
  simp only [List.length_nil] at h2
  omega
theorem str_ne' {s : ByteArray} (h : 0 < s.size) : s.toList.isEmpty = false := by
  rw [ByteArray.toList_eq, List.isEmpty_eq_false_iff]; exact str_ne h
theorem str_ne'' {s : ByteArray} (h : 0 < s.size) : (s.toList == []) = false := by
  rw [ByteArray.toList_eq, beq_eq_false_iff_ne]; exact str_ne h
theorem str_get {s : ByteArray} {i : Nat} (h : i < s.size) : s.data.toList[i]? = some s[i] := by
  rw [List.getElem?_eq_getElem (by simpa using h)]; rfl
theorem str_take (s : ByteArray) (j : Nat) : (s.extract 0 j).data.toList = s.data.toList.take j := by
  rw [ByteArray.data_extract, Array.toList_extract]; simp [List.extract]
theorem str_cut (s : ByteArray) (i j : Nat) : (s.extract i j).data.toList = (s.data.toList.take j).drop i := by
  rw [ByteArray.data_extract, Array.toList_extract]; simp [List.extract, List.drop_take]
theorem str_drop (s : ByteArray) (i : Nat) : (s.extract i s.size).data.toList = s.data.toList.drop i := by
  rw [str_cut, List.take_of_length_le (by rw [str_len]; exact Nat.le_refl _)]
theorem str_append (a b : ByteArray) : (a ++ b).data.toList = a.data.toList ++ b.data.toList := by
  rw [ByteArray.data_append, Array.toList_append]
theorem str_lit (l : List UInt8) : (⟨l.toArray⟩ : ByteArray).data.toList = l := rfl
theorem str_size (l : List UInt8) : (⟨l.toArray⟩ : ByteArray).size = l.length := by
  show l.toArray.size = _; simp
/-- Two bytes are one exactly if the numbers are. -/
theorem byte_eq {b : UInt8} {n : Nat} (hn : n < 256) : ((b.toNat : Int) == (n : Int)) = (b == UInt8.ofNat n) := by
  rw [Bool.eq_iff_iff, beq_iff_eq, beq_iff_eq]
  constructor
  · intro h
    refine UInt8.toNat_inj.1 ?_
    rw [UInt8.toNat_ofNat', Nat.mod_eq_of_lt (show n < 2 ^ 8 from hn)]; omega
  · rintro rfl
    rw [UInt8.toNat_ofNat', Nat.mod_eq_of_lt (show n < 2 ^ 8 from hn)]
theorem byte_ne {b : UInt8} {n : Nat} (hn : n < 256) (h : b ≠ UInt8.ofNat n) : ((b.toNat : Int) == (n : Int)) = false := by
  rw [byte_eq hn, beq_eq_false_iff_ne]; exact h
end Go.Proofs.YtpledhipdiephaaDoor
