/- A Reader of package wire that bears no error: a hash where too little is left. -/
import Derived.Test.YtfblbholkhdldaaDoorReaderH
import Derived.Test.YtfblbholkhdldaaDoorReader3
import Derived.Laws.Tables
import Derived.Laws.Rows
import Derived.Laws.Cells
import Derived.WalkKit
import Derived.ProofKit
import Derived.Handy
import Derived.Below
import Derived.BigQuiet
import Derived.Lib.Hide
import Derived.IntWalk
import Derived.Outline
import Derived.WalkLawsBesides
import Derived.WalkSpells
namespace Go.Proofs.YtfblbholkhdldaaDoor
open Go.RowKit
attribute [local go_sem] strV
theorem row_set {W : World} {b o g : Nat} {v : Value} {X : Option Obj} (h : W.heap[g]? = X) (hne : b ≠ g) : (W.setCell ⟨b, o, none⟩ v).heap[g]? = X := by
  show (W.heap.modify b _)[g]? = X
  rw [Array.getElem?_modify, if_neg hne]; exact h
end Go.Proofs.YtfblbholkhdldaaDoor
