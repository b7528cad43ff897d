/- TreeGrows, walked; a list of hashes that comes in. -/
import Derived.Test.YtfikbaoiialfeaaDoorTop
import Derived.Test.YtfikbaoiialfeaaDoorTreeDeep
import Derived.Test.YtfikbaoiialfeaaDoorGJ
import Derived.WalkKit
import Derived.ProofKit
import Derived.Handy
import Derived.Below
import Derived.Lib.Hide
import Derived.IntWalk
import Derived.Outline
import Derived.WalkLawsBesides
import Derived.WalkSpells
namespace Go.Proofs.YtfikbaoiialfeaaDoor
open Go.RowKit
attribute [local go_sem] strV
set_option linter.unusedVariables false
section
open Go.ChangeShapes Go.WideShapes Go.Deep
variable {Hh : Type} {enc : TypeId × Value → Hh} {w : World} {base : Nat} {spare : Nat → Bool} {held : Bool}
theorem h32_open {r : List Value} (hl : r.length = Tryd.prog.cellsOf 25) (h : Reads enc Tryd.prog w base spare held 25 r) : ∃ q : H32, r = q.cells := by
  have hc : Tryd.prog.cellsOf 25 = 32 := by kernel_rfl
  obtain ⟨q, hq, hr⟩ := h.bytes Tryd.underlying25 Tryd.underlying5 (by kernel_rfl) (by rw [hl, hc])
  exact ⟨⟨q, hq⟩, hr⟩
end
end Go.Proofs.YtfikbaoiialfeaaDoor
