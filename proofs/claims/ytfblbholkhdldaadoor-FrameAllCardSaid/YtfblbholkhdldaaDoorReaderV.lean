/- The document's own reader: a hash that is there. -/
import Derived.Test.YtfblbholkhdldaaDoorReaderT
import Derived.Test.YtfblbholkhdldaaDoorReaderU
import Derived.BigRegion
import Derived.RegionTactic
import Derived.Laws.Tables
import Derived.Laws.Rows
import Derived.Laws.Cells
import Derived.WalkKit
import Derived.ProofKit
import Derived.Handy
import Derived.Below
import Derived.BigQuiet
import Derived.Lib.Hide
import Derived.IntWalk
import Derived.Outline
import Derived.WalkLawsBesides
import Derived.WalkSpells
namespace Go.Proofs.YtfblbholkhdldaaDoor
open Go.RowKit
attribute [local go_sem] strV
/-- The row while it is filled: k bytes are there. -/
def prow (l : List UInt8) (k : Nat) : Array Value := (Lib.byteCells (l.take k) ++ List.replicate (32 - k) (Value.int .u8 0)).toArray
theorem prow_full {l : List UInt8} (h : l.length = 32) : prow l 32 = hrow l := by
  unfold prow hrow; rw [List.take_of_length_le (by omega)]; simp
theorem prow_size {l : List UInt8} (h : l.length = 32) {k : Nat} (hk : k ≤ 32) : (prow l k).size = 32 := by
  simp [prow, Lib.byteCells_length]; omega
theorem prow_at {l : List UInt8} (h : l.length = 32) {k : Nat} (hk : k < 32) : (prow l k)[k]? = some (.int .u8 0) := by
  have e : (Lib.byteCells (l.take k)).length = k := by rw [Lib.byteCells_length, List.length_take]; omega
  simp only [prow, List.getElem?_toArray]
  rw [List.getElem?_append_right (by omega), e, Nat.sub_self]
  obtain ⟨m, hm⟩ : ∃ m, 32 - k = m + 1 := ⟨31 - k, by omega⟩
  rw [hm]; rfl
theorem prow_step {l : List UInt8} (h : l.length = 32) {k : Nat} (hk : k < 32) {x : UInt8} (hx : l[k]? = some x) : (prow l k).setIfInBounds k (.int .u8 (x.toNat : Int)) = prow l (k + 1) := by
  have e : (Lib.byteCells (l.take k)).length = k := by rw [Lib.byteCells_length, List.length_take]; omega
  unfold prow
  obtain ⟨m, hm⟩ : ∃ m, 32 - k = m + 1 := ⟨31 - k, by omega⟩
  rw [hm, show 32 - (k + 1) = m by omega, List.take_add_one, hx]
  simp only [List.setIfInBounds_toArray, List.replicate_succ]
  congr 1
  rw [List.set_append_right _ _ (by omega), e, Nat.sub_self]
  simp [Lib.byteCells]
theorem row_put {W : World} {g k : Nat} {cur : Array Value} {t : TypeId} {v : Value} (h : W.heap[g]? = some (.cells cur t (0, 0))) : (W.setCell ⟨g, k, none⟩ v).heap[g]? = some (.cells (cur.setIfInBounds k v) t (0, 0)) := by
  rw [setCell_eq_setRow W g k cur t (0, 0) v h]; exact setRow_heap W g _ _ t _ h
end Go.Proofs.YtfblbholkhdldaaDoor
