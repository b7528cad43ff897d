/- The document's own reader: a hash at an error, or where too little is left. -/
import Derived.Test.YtfblbholkhdldaaDoorReaderS
import Derived.Test.YtfblbholkhdldaaDoorReaderE
import Derived.Laws.Tables
import Derived.Laws.Rows
import Derived.Laws.Cells
import Derived.WalkKit
import Derived.ProofKit
import Derived.Handy
import Derived.Below
import Derived.BigQuiet
import Derived.Lib.Hide
import Derived.IntWalk
import Derived.Outline
import Derived.WalkLawsBesides
import Derived.WalkSpells
namespace Go.Proofs.YtfblbholkhdldaaDoor
open Go.RowKit
attribute [local go_sem] strV
end Go.Proofs.YtfblbholkhdldaaDoor
