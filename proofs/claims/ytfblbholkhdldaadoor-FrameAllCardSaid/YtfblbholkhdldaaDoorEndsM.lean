/- States of ends: which may be, in the program and in the document. -/
import Derived.Test.YtfblbholkhdldaaDoorEndsF
import Derived.Test.YtfblbholkhdldaaDoorWriterB
import Derived.Deep.Cut
import Derived.WalkKit
import Derived.ProofKit
import Derived.Handy
import Derived.Below
import Derived.BigQuiet
import Derived.Lib.Hide
import Derived.IntWalk
import Derived.Outline
import Derived.WalkLawsBesides
import Derived.WalkSpells
namespace Go.Proofs.YtfblbholkhdldaaDoor
open Go.RowKit
attribute [local go_sem] strV
end Go.Proofs.YtfblbholkhdldaaDoor
