/- Hexadecimal digits: one digit, read and written. -/
import Derived.Test.YtfikbaoiialfeaaDoorHexM
import Derived.Test.YtfikbaoiialfeaaDoorQTail
import Derived.BigQuiet
import Derived.WalkKit
import Derived.ProofKit
import Derived.Handy
import Derived.Below
import Derived.Lib.Hide
import Derived.IntWalk
import Derived.Outline
import Derived.WalkLawsBesides
import Derived.WalkSpells
namespace Go.Proofs.YtfikbaoiialfeaaDoor
open Go.RowKit
attribute [local go_sem] strV
set_option linter.unusedVariables false
theorem hexd_nat : ∀ n, n < 16 → (hexd n).toNat = if n < 10 then 48 + n else 87 + n := by decide +kernel
end Go.Proofs.YtfikbaoiialfeaaDoor
