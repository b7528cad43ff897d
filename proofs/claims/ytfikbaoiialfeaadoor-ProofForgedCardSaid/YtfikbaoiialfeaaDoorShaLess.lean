/- ShaLess, walked. -/
import Derived.Test.YtfikbaoiialfeaaDoorLess
import Derived.Test.YtfikbaoiialfeaaDoorGF
import Derived.Test.YtfikbaoiialfeaaDoorHashEq
import Derived.Deep.MidRow
import Derived.WalkKit
import Derived.ProofKit
import Derived.Handy
import Derived.Below
import Derived.Lib.Hide
import Derived.IntWalk
import Derived.Outline
import Derived.WalkLawsBesides
import Derived.WalkSpells
namespace Go.Proofs.YtfikbaoiialfeaaDoor
open Go.RowKit
attribute [local go_sem] strV
set_option linter.unusedVariables false
end Go.Proofs.YtfikbaoiialfeaaDoor
