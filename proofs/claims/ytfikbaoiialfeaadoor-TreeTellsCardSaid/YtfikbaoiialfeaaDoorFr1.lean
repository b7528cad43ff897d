/- Records: their bytes, what is read of bytes. -/
import Derived.Test.YtfikbaoiialfeaaDoorSha7
import Derived.Test.YtfikbaoiialfeaaDoorGG
import Derived.WalkKit
import Derived.ProofKit
import Derived.Handy
import Derived.Below
import Derived.Lib.Hide
import Derived.IntWalk
import Derived.Outline
import Derived.WalkLawsBesides
import Derived.WalkSpells
namespace Go.Proofs.YtfikbaoiialfeaaDoor
open Go.RowKit
attribute [local go_sem] strV
set_option linter.unusedVariables false
/-- The checksum of a body. -/
def chk (l : List UInt8) : List UInt8 := (shaF l).take 4
theorem chk_len (l : List UInt8) : (chk l).length = 4 := by unfold chk; rw [List.length_take, shaF_len]; rfl
def b4 (n : Nat) : List UInt8 := [u8 ((n : Int) / 16777216), u8 ((n : Int) / 65536), u8 ((n : Int) / 256), u8 (n : Int)]
/-- The record of a body. -/
def putB (b : ByteArray) : ByteArray := (⟨(b4 b.size).toArray⟩ ++ ⟨(chk b.data.toList).toArray⟩) ++ b
theorem conv_take {w : World} {g : Nat} {q : List UInt8} {t : TypeId} (hg : w.heap[g]? = some (.cells (hrow q) t (0, 0))) (hq : q.length = 32) :
    (convert 111 9 (.slice (some ⟨g, 0, none⟩) 4 32)).run Tryd.prog w = .ok (.string ⟨(q.take 4).toArray⟩) w := by
  have hl : (q.take 4).length = 4 := by rw [List.length_take, hq]; rfl
  have := run_convert_bytes_back (P := Tryd.prog) w 111 9 5 ⟨g, 0, none⟩ 32 (q.take 4) Tryd.underlying111 Tryd.underlying5 Tryd.underlying9 (fun j hj => by
    have hadd : (⟨g, 0, none⟩ : Addr).add j = ⟨g, j, none⟩ := by unfold Addr.add; by_cases h : j = 0 <;> simp [h]
    have hj4 : j < 4 := by rw [hl] at hj; exact hj
    rw [hadd, cell_heap hg, hrow_get (List.getElem?_eq_getElem (by omega))]
    simp)
  rwa [hl] at this
end Go.Proofs.YtfikbaoiialfeaaDoor
