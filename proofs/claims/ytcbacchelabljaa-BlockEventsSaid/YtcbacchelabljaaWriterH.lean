/- A Writer of package wire: a hash. -/
import Derived.Test.YtcbacchelabljaaGD
import Derived.Test.YtcbacchelabljaaGC
import Derived.Laws.IdiomStrings
import Derived.Laws.Tables
import Derived.Laws.Rows
import Derived.Laws.Cells
import Derived.WalkKit
import Derived.ProofKit
import Derived.Handy
import Derived.Below
import Derived.BigQuiet
import Derived.Lib.Hide
import Derived.IntWalk
import Derived.Outline
import Derived.WalkLawsBesides
import Derived.WalkSpells
namespace Go.Proofs.Ytcbacchelabljaa
open Go.RowKit
attribute [local go_sem] strV
end Go.Proofs.Ytcbacchelabljaa
