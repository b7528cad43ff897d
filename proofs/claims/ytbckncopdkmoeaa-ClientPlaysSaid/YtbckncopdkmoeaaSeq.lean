/- slices.Sorted(slices.Values(l)): a new slice that holds l's numbers, sorted. -/
import Derived.Test.YtbckncopdkmoeaaGen
import Derived.Test.YtbckncopdkmoeaaShelf
import Derived.RangeFuncNested
import Derived.RangeFuncBound
import Derived.RangeFuncCalls
import Derived.RangeFuncLeaves
import Derived.RangeFuncBox
import Derived.Shelf.Abstract
import Derived.Shelf.RegionOpen
import Derived.WalkKit
import Derived.OwnWalkIn
import Derived.TacticsInMore
import Derived.LoopNIn
import Derived.LoopIn
import Derived.Maps.AppendAt
namespace Go.Proofs.Ytbckncopdkmoeaa
open Go.RowKit Go.Shelf
attribute [local go_sem] Oper.semAt_some
set_option linter.unusedVariables false
end Go.Proofs.Ytbckncopdkmoeaa
