/- Packets: when they are over, the law. -/
import Derived.Test.YtfikbaoiialfeaaDoorPacket
import Derived.BigQuiet
import Derived.WalkKit
import Derived.ProofKit
import Derived.Handy
import Derived.Below
import Derived.Lib.Hide
import Derived.IntWalk
import Derived.Outline
import Derived.WalkLawsBesides
import Derived.WalkSpells
namespace Go.Proofs.YtfikbaoiialfeaaDoor
open Go.RowKit
attribute [local go_sem] strV
def reachB (a n : Int) : Bool := decide (0 < a) && decide (a ≤ n)
def overB (th ta h t : Int) : Bool := reachB th h || reachB ta t
def lightK (sp dp dat : ByteArray) : Bool := decide (sp.size ≤ 60) && decide (dp.size ≤ 60) && decide (dat.size ≤ 600)
end Go.Proofs.YtfikbaoiialfeaaDoor
