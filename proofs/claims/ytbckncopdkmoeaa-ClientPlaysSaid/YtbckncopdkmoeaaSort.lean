/- slices.Sorted at numbers. -/
import Derived.Test.YtbckncopdkmoeaaSeq
import Derived.Sort.OwnSortedInts
import Derived.LoopTactic
import Derived.WalkKit
import Derived.ProofKit
import Derived.Handy
import Derived.Below
import Derived.Lib.Hide
import Derived.IntWalk
import Derived.Outline
import Derived.WalkLawsBesides
import Derived.WalkSpells
namespace Go.Proofs.Ytbckncopdkmoeaa
open Go.RowKit Go.Sort Go.Shelf
attribute [local go_sem] strV
set_option linter.unusedVariables false
def sortZ (zs : List Int) : List Int := zs.mergeSort fun x y => decide (x ≤ y)
theorem sortZ_len (zs : List Int) : (sortZ zs).length = zs.length := List.length_mergeSort _
theorem sortZ_mem (zs : List Int) (x : Int) : x ∈ sortZ zs ↔ x ∈ zs := List.mem_mergeSort
theorem sortZ_up (zs : List Int) : List.Pairwise (fun x y => x ≤ y) (sortZ zs) := by
  have h := List.pairwise_mergeSort (le := fun x y : Int => decide (x ≤ y)) (fun a b c h1 h2 => by simp at h1 h2 ⊢; omega) (fun a b => by simp; omega) zs
  exact h.imp (fun h => by simpa using h)
end Go.Proofs.Ytbckncopdkmoeaa
