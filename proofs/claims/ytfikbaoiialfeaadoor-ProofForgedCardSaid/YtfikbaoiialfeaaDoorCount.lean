/- A count that is read. -/
import Derived.Test.YtfikbaoiialfeaaDoorGU
import Derived.Test.YtfikbaoiialfeaaDoorCodec
namespace Go.Proofs.YtfikbaoiialfeaaDoor
open Go.RowKit
set_option linter.unusedVariables false
end Go.Proofs.YtfikbaoiialfeaaDoor
