/- States of ends in bytes: Encode, in the program and in the document. -/
import Derived.Test.YtfblbholkhdldaaDoorEndsM
import Derived.Test.YtfblbholkhdldaaDoorRefPT
import Derived.Deep.Cut
import Derived.WalkKit
import Derived.ProofKit
import Derived.Handy
import Derived.Below
import Derived.BigQuiet
import Derived.Lib.Hide
import Derived.IntWalk
import Derived.Outline
import Derived.WalkLawsBesides
import Derived.WalkSpells
namespace Go.Proofs.YtfblbholkhdldaaDoor
open Go.RowKit
attribute [local go_sem] strV
theorem cells_of {w : World} {g : Nat} {c : Array Value} {e : TypeId} (h : w.heap[g]? = some (.cells c e (0, 0))) {K : Nat} {w' : World} (hb : Below K w w') (hg : g < K) : w'.heap[g]? = some (.cells c e (0, 0)) := by
  rw [hb.block g hg]; exact h
theorem putL_len' (v : Int) : (putL v).length ≤ 8 := by
  unfold putL
  split
  · exact grp_le _ _
  · simp
theorem ba_append' (l m : List UInt8) : (⟨l.toArray⟩ : ByteArray) ++ ⟨m.toArray⟩ = ⟨(l ++ m).toArray⟩ := by
  apply ByteArray.ext; simp
end Go.Proofs.YtfblbholkhdldaaDoor
