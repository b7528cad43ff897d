/- FrameTurned, walked. -/
import Derived.Test.YtfikbaoiialfeaaDoorFrM
import Derived.Lib.ConvBytes
import Derived.WalkKit
import Derived.ProofKit
import Derived.Handy
import Derived.Below
import Derived.Lib.Hide
import Derived.IntWalk
import Derived.Outline
import Derived.WalkLawsBesides
import Derived.WalkSpells
namespace Go.Proofs.YtfikbaoiialfeaaDoor
open Go.RowKit
attribute [local go_sem] strV
set_option linter.unusedVariables false
theorem put_empty : putB ⟨#[]⟩ = ⟨#[0, 0, 0, 0, 227, 176, 196, 66]⟩ := by decide +kernel
theorem conv_cells {w : World} {g c : Nat} {q : List UInt8} (hc : ∀ j, (hj : j < q.length) → w.cell? ⟨g, j, none⟩ = some (.int .u8 (q[j].toNat : Int))) :
    (convert 111 9 (.slice (some ⟨g, 0, none⟩) q.length c)).run Tryd.prog w = .ok (.string ⟨q.toArray⟩) w :=
  run_convert_bytes_back (P := Tryd.prog) w 111 9 5 ⟨g, 0, none⟩ c q Tryd.underlying111 Tryd.underlying5 Tryd.underlying9 (fun j hj => by
    have hadd : (⟨g, 0, none⟩ : Addr).add j = ⟨g, j, none⟩ := by unfold Addr.add; by_cases h : j = 0 <;> simp [h]
    rw [hadd, hc j hj])
theorem bytes_frozen (V : World) (S : ByteArray) {k : Nat} (hk : k < S.size) : (Lib.bytesWorld V 5 S).frozen? ⟨V.heap.size, k, none⟩ = false := by
  unfold World.frozen?
  rw [Lib.bytesWorld_at_new]
  have hl : S.size ≤ (Lib.bytesCells V 5 S).size := by unfold Lib.bytesCells; simp
  simp
  omega
theorem bytes_below (V : World) (S : ByteArray) : Below V.heap.size V (Lib.bytesWorld V 5 S) :=
  ⟨rfl, rfl, rfl, by rw [Lib.bytesWorld_size]; omega, fun j hj => Lib.bytesWorld_at_old _ _ _ j hj⟩
end Go.Proofs.YtfikbaoiialfeaaDoor
