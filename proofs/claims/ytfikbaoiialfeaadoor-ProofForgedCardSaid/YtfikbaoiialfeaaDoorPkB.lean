/- Packets in bytes and out of bytes, and their commitments. -/
import Derived.Test.YtfikbaoiialfeaaDoorCodec
import Derived.Test.YtfikbaoiialfeaaDoorGV
import Derived.Test.YtfikbaoiialfeaaDoorGS
import Derived.Test.YtfikbaoiialfeaaDoorGG
import Derived.Test.YtfikbaoiialfeaaDoorLebEight2
import Derived.WalkKit
import Derived.ProofKit
import Derived.Handy
import Derived.Below
import Derived.Lib.Hide
import Derived.IntWalk
import Derived.Outline
import Derived.WalkLawsBesides
import Derived.WalkSpells
namespace Go.Proofs.YtfikbaoiialfeaaDoor
open Go.RowKit
attribute [local go_sem] strV
set_option linter.unusedVariables false
abbrev PkT := (ByteArray × Int) × (ByteArray × Int) × Int × ByteArray × Int × Int
def PkT.zero : PkT := ((⟨#[]⟩, 0), (⟨#[]⟩, 0), 0, ⟨#[]⟩, 0, 0)
def PkT.row (p : PkT) : Array Value := #[.string p.1.1, .int .i64 p.1.2, .string p.2.1.1, .int .i64 p.2.1.2, .int .i64 p.2.2.1, .string p.2.2.2.1, .int .i64 p.2.2.2.2.1, .int .i64 p.2.2.2.2.2]
theorem RowAt.lit3 {w : World} {cs : Array Value} {e : TypeId} {g : Nat} {vs : List Value} (hg : g = w.heap.size) (h : cs.toList = vs) : RowAt (w.alloc (.cells cs e)) (some ⟨g, 0, none⟩) vs := by
  subst hg h
  refine .inr ⟨_, _, rfl, by simp, fun j hj => ?_⟩
  rw [Nat.zero_add, World.cell?_alloc_at _ _ _ _ rfl]; simp
theorem eightL_le (v : Int) : (eightL v).length ≤ 8 := by
  unfold eightL
  split
  · rw [be_length]; omega
  · simp
end Go.Proofs.YtfikbaoiialfeaaDoor
