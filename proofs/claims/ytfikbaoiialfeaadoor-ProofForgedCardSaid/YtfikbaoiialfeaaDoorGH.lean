/- Hexadecimal digits read: the math. Hexadecimal digits: one digit, read and written. Hexadecimal digits: a hash read. -/
import Derived.Test.YtfikbaoiialfeaaDoorGS
import Derived.BigQuiet
import Derived.WalkKit
import Derived.ProofKit
import Derived.Handy
import Derived.Below
import Derived.Lib.Hide
import Derived.IntWalk
import Derived.Outline
import Derived.WalkLawsBesides
import Derived.WalkSpells
namespace Go.Proofs.YtfikbaoiialfeaaDoor
open Go.RowKit
/-- The value of a hexadecimal digit, and whether it is one. -/
def digv (c : UInt8) : Nat := if 48 ≤ c.toNat ∧ c.toNat ≤ 57 then c.toNat - 48 else if 97 ≤ c.toNat ∧ c.toNat ≤ 102 then c.toNat - 87 else 0
/-- The byte of the pair i of digits. -/
def pairV (L : List UInt8) (i : Nat) : Nat := digv (L.getD (2 * i) 0) * 16 + digv (L.getD (2 * i + 1) 0)
def pairB (L : List UInt8) (i : Nat) : UInt8 := UInt8.ofNat (pairV L i)
def pairs (L : List UInt8) (k : Nat) : List UInt8 := (List.range k).map (pairB L)
end Go.Proofs.YtfikbaoiialfeaaDoor
namespace Go.Proofs.YtfikbaoiialfeaaDoor
open Go.RowKit
attribute [local go_sem] strV
set_option linter.unusedVariables false
end Go.Proofs.YtfikbaoiialfeaaDoor
namespace Go.Proofs.YtfikbaoiialfeaaDoor
open Go.RowKit
attribute [local go_sem] strV
set_option linter.unusedVariables false
def z32 : List UInt8 := List.replicate 32 0
end Go.Proofs.YtfikbaoiialfeaaDoor
