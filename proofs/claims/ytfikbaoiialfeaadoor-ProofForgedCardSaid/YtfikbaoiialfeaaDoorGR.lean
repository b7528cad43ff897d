/- Records: their bytes, what is read of bytes. Records out of bytes. Records: whole, with more behind, cut off, with one of the first eight bytes another one. FrameTurned, walked. -/
import Derived.Test.YtfikbaoiialfeaaDoorGS
import Derived.Test.YtfikbaoiialfeaaDoorGG
import Derived.WalkKit
import Derived.ProofKit
import Derived.Handy
import Derived.Below
import Derived.Lib.Hide
import Derived.IntWalk
import Derived.Outline
import Derived.WalkLawsBesides
import Derived.WalkSpells
import Derived.Test.YtfikbaoiialfeaaDoorGA
import Derived.Lib.ConvBytes
namespace Go.Proofs.YtfikbaoiialfeaaDoor
open Go.RowKit
attribute [local go_sem] strV
set_option linter.unusedVariables false
def b4 (n : Nat) : List UInt8 := [u8 ((n : Int) / 16777216), u8 ((n : Int) / 65536), u8 ((n : Int) / 256), u8 (n : Int)]
end Go.Proofs.YtfikbaoiialfeaaDoor
namespace Go.Proofs.YtfikbaoiialfeaaDoor
open Go.RowKit
attribute [local go_sem] strV
set_option linter.unusedVariables false
end Go.Proofs.YtfikbaoiialfeaaDoor
namespace Go.Proofs.YtfikbaoiialfeaaDoor
open Go.RowKit
set_option linter.unusedVariables false
section
variable {b T : ByteArray} {X : List UInt8}
end
end Go.Proofs.YtfikbaoiialfeaaDoor
namespace Go.Proofs.YtfikbaoiialfeaaDoor
open Go.RowKit
attribute [local go_sem] strV
set_option linter.unusedVariables false
theorem bytes_below (V : World) (S : ByteArray) : Below V.heap.size V (Lib.bytesWorld V 5 S) :=
  ⟨rfl, rfl, rfl, by rw [Lib.bytesWorld_size]; omega, fun j hj => Lib.bytesWorld_at_old _ _ _ j hj⟩
end Go.Proofs.YtfikbaoiialfeaaDoor
