/- Packets: which may be, when they are over. -/
import Derived.Test.YtfikbaoiialfeaaDoorGD
import Derived.WalkKit
import Derived.ProofKit
import Derived.Handy
import Derived.Below
import Derived.BigQuiet
import Derived.Lib.Hide
import Derived.IntWalk
import Derived.Outline
import Derived.WalkLawsBesides
import Derived.WalkSpells
namespace Go.Proofs.YtfikbaoiialfeaaDoor
open Go.RowKit
attribute [local go_sem] strV
def mayK (sp : ByteArray) (sc : Int) (dp : ByteArray) (dc seq : Int) (dat : ByteArray) (th ta : Int) : Bool := mayE sp sc && mayE dp dc && decide (1 ≤ seq) && decide (seq ≤ 1099511627776) && decide (dat.size ≤ 200) && decide (0 ≤ th) && decide (th ≤ 1099511627776) && decide (0 ≤ ta) && decide (ta ≤ 1099511627776)

end Go.Proofs.YtfikbaoiialfeaaDoor
