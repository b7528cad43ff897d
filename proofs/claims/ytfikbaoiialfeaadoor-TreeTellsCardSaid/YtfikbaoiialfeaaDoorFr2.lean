/- Records out of bytes. -/
import Derived.Test.YtfikbaoiialfeaaDoorFr1
import Derived.Test.YtfikbaoiialfeaaDoorGA
import Derived.WalkKit
import Derived.ProofKit
import Derived.Handy
import Derived.Below
import Derived.Lib.Hide
import Derived.IntWalk
import Derived.Outline
import Derived.WalkLawsBesides
import Derived.WalkSpells
namespace Go.Proofs.YtfikbaoiialfeaaDoor
open Go.RowKit
attribute [local go_sem] strV
set_option linter.unusedVariables false
def byb (L : ByteArray) (i : Nat) : Nat := (L.data.toList.getD i 0).toNat
/-- The number that the first four bytes tell. -/
def val4 (L : ByteArray) : Nat := byb L 0 * 16777216 + byb L 1 * 65536 + byb L 2 * 256 + byb L 3
def nextFr (s : ByteArray) (a : Int) : ByteArray × Int × Int :=
  if a < 0 ∨ (s.size : Int) < a then (⟨#[]⟩, 0, 1)
  else
    let L := s.extract a.toNat s.size
    if L.size < 8 then (⟨#[]⟩, 0, 2)
    else if 2147483647 < val4 L then (⟨#[]⟩, 0, 4)
    else if L.size < 8 + val4 L then (⟨#[]⟩, 0, 2)
    else
      let b := L.extract 8 (8 + val4 L)
      if L.extract 4 8 = ⟨(chk b.data.toList).toArray⟩ then (b, a + 8 + val4 L, 0) else (⟨#[]⟩, 0, 5)
theorem byb_lt (L : ByteArray) (i : Nat) : byb L i < 256 := UInt8.toNat_lt _
theorem byb_get {L : ByteArray} {i : Nat} (h : i < L.size) : ∃ c : UInt8, L[i]? = some c ∧ c.toNat = byb L i ∧ L[i] = c := by
  refine ⟨L[i], getElem?_pos L i h, ?_, rfl⟩
  unfold byb
  rw [List.getD_eq_getElem?_getD, List.getElem?_eq_getElem (by rw [str_len]; exact h)]
  rfl
theorem or4 (a b c d : Nat) (ha : a < 256) (hb : b < 256) (hc : c < 256) (hd : d < 256) :
    bits .or .i64 (bits .or .i64 (bits .or .i64 ((a : Int) * 16777216) ((b : Int) * 65536)) ((c : Int) * 256)) (d : Int) = ((a * 16777216 + b * 65536 + c * 256 + d : Nat) : Int) := by
  have e1 : bits .or .i64 ((a : Int) * 16777216) ((b : Int) * 65536) = ((a * 16777216 + b * 65536 : Nat) : Int) := by
    have := i64_or_nat (a * 16777216) (b * 65536) (by omega) (by omega)
    rw [nat_join 24 (a * 16777216) (b * 65536) (by omega) (by omega)] at this
    exact this
  have e2 : bits .or .i64 ((a * 16777216 + b * 65536 : Nat) : Int) ((c : Int) * 256) = ((a * 16777216 + b * 65536 + c * 256 : Nat) : Int) := by
    have := i64_or_nat (a * 16777216 + b * 65536) (c * 256) (by omega) (by omega)
    rw [nat_join 16 (a * 16777216 + b * 65536) (c * 256) (by omega) (by omega)] at this
    exact this
  have e3 : bits .or .i64 ((a * 16777216 + b * 65536 + c * 256 : Nat) : Int) (d : Int) = ((a * 16777216 + b * 65536 + c * 256 + d : Nat) : Int) := by
    have := i64_or_nat (a * 16777216 + b * 65536 + c * 256) d (by omega) (by omega)
    rw [nat_join 8 (a * 16777216 + b * 65536 + c * 256) d (by omega) (by omega)] at this
    exact this
  rw [e1, e2, e3]
/-- What Open answers. -/
def openFr (s : ByteArray) : ByteArray × Int :=
  let x := nextFr s 0
  if x.2.2 = 0 then (if x.2.1 < (s.size : Int) then (⟨#[]⟩, 3) else (x.1, 0)) else (⟨#[]⟩, x.2.2)
end Go.Proofs.YtfikbaoiialfeaaDoor
