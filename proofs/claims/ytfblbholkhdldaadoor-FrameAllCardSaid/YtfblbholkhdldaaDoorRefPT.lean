/- ligref1.PutText: a text with its length before it. -/
import Derived.Test.YtfblbholkhdldaaDoorLebPut
import Derived.Test.YtfblbholkhdldaaDoorStr
import Derived.WalkKit
import Derived.ProofKit
import Derived.Handy
import Derived.Below
import Derived.BigQuiet
import Derived.Lib.Hide
import Derived.IntWalk
import Derived.Outline
import Derived.WalkLawsBesides
import Derived.WalkSpells
namespace Go.Proofs.YtfblbholkhdldaaDoor
open Go.RowKit
attribute [local go_sem] strV
theorem putL_len8 (v : Int) : (putL v).length ≤ 8 := by
  unfold putL
  split
  · exact grp_le _ _
  · simp
set_option maxRecDepth 100000 in
set_option maxHeartbeats 1600000 in
theorem refPutText_any (s : ByteArray) (w : World) (hs : s.size ≤ 1000000) :
    Calls Tryd.prog 92 #[.string s] w fun e w' => e = .returned (strV (putL (s.size : Int) ++ s.data.toList)) ∧ Below w.heap.size w w' := by
  have hv : strV (putL (s.size : Int) ++ s.data.toList) = .string (⟨(putL (s.size : Int)).toArray⟩ ++ s) := by
    unfold strV; congr 1
  have hcat : ¬ 9223372036854775807 < (putL (s.size : Int)).length + s.size := by have := putL_len8 (s.size : Int); omega
  rw [hv]
  go_enter Tryd.func92, Tryd.ntmps92
  go_wp2_with (go_at_call 93; refine (putNum_any _ _).mono ?_; rintro e w1 ⟨rfl, hb1⟩)
  go_ret
  exact ⟨rfl, hb1⟩
end Go.Proofs.YtfblbholkhdldaaDoor
