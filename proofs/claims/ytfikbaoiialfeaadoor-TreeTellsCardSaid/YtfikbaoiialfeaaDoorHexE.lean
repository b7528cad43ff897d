/- Hexadecimal digits: a hash read. -/
import Derived.Test.YtfikbaoiialfeaaDoorHexD
import Derived.Test.YtfikbaoiialfeaaDoorSha7
import Derived.WalkKit
import Derived.ProofKit
import Derived.Handy
import Derived.Below
import Derived.Lib.Hide
import Derived.IntWalk
import Derived.Outline
import Derived.WalkLawsBesides
import Derived.WalkSpells
namespace Go.Proofs.YtfikbaoiialfeaaDoor
open Go.RowKit
attribute [local go_sem] strV
set_option linter.unusedVariables false
def z32 : List UInt8 := List.replicate 32 0
/-- What FromHex yields. -/
def fhV (L : List UInt8) : List UInt8 × Int := if L.length < 64 then (z32, 2) else if 64 < L.length then (z32, 4) else if allok L 32 = true then (pairs L 32, 0) else (z32, 3)
theorem fhV_len (L : List UInt8) : (fhV L).1.length = 32 := by
  unfold fhV; split
  · rfl
  · split
    · rfl
    · split
      · exact pairs_len _ _
      · rfl
theorem bytes_get (s : ByteArray) (i : Nat) : s[i]? = s.data.toList[i]? := by
  by_cases h : i < s.size
  · rw [getElem?_pos s i h, bget h]
  · rw [getElem?_neg s i h, List.getElem?_eq_none (by rw [str_len]; omega)]
theorem or16 : ∀ a, a < 16 → ∀ b, b < 16 → bits .or .u8 ((a : Nat) * 16 : Int) ((b : Nat) : Int) = (((a * 16 + b : Nat)) : Int) := by decide +kernel
end Go.Proofs.YtfikbaoiialfeaaDoor
