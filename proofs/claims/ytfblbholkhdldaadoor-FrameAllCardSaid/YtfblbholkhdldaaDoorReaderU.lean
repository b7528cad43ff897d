/- A Reader of package wire reads a hash: copy of a text into a row. -/
import Derived.Test.YtfblbholkhdldaaDoorReaderS
import Derived.Lib.BufferWrite
import Derived.Laws.CopyOwn
import Derived.Deep.RegionLaw
import Derived.BigRegion
import Derived.RegionTactic
import Derived.Laws.Tables
import Derived.Laws.Rows
import Derived.Laws.Cells
import Derived.WalkKit
import Derived.ProofKit
import Derived.Handy
import Derived.Below
import Derived.BigQuiet
import Derived.Lib.Hide
import Derived.IntWalk
import Derived.Outline
import Derived.WalkLawsBesides
import Derived.WalkSpells
namespace Go.Proofs.YtfblbholkhdldaaDoor
open Go.RowKit
attribute [local go_sem] strV
theorem run_copy_row_text {P : Program} (w : World) (dT sT ty elem : TypeId) (g n c : Nat) (s : ByteArray) (cur : Array Value) (t : TypeId)
    (hu : P.underlying dT = some (.slice elem)) (hs : (P.info? elem).map (·.size) = some 1) (hg : w.heap[g]? = some (.cells cur t (0, 0))) (hn : cur.size = n) (hle : n ≤ s.size) :
    (Builtin.copy_ #[dT, sT] ty #[.slice (some ⟨g, 0, none⟩) n c, .string s]).run P w =
      .ok (goInt n) (w.setRow g (Lib.byteCells (s.data.toList.take n)).toArray) := by
  have hlen : (Lib.byteCells (s.data.toList.take n)).length = n := by rw [Lib.byteCells_length, List.length_take, ← Lib.size_eq]; omega
  have hst := run_storeCells_at P g 0 t (Lib.byteCells (s.data.toList.take n)) 0 cur w hg (by rw [hlen]; simp [hn]) (Lib.byteCells_one _)
  have hmin : Nat.min s.size n = n := Nat.min_eq_right hle
  have htk : List.take n (List.map (fun b : UInt8 => Value.int IntKind.u8 (b.toNat : Int)) s.data.toList) = Lib.byteCells (s.data.toList.take n) := by
    rw [← List.map_take]; rfl
  have hdr : cur.toList.drop n = [] := List.drop_eq_nil_of_le (by rw [Array.length_toList]; omega)
  rw [hlen] at hst
  simp only [Nat.add_zero, Nat.zero_add, List.take_zero, List.nil_append, hdr, List.append_nil] at hst
  cases hq : P.info? elem with
  | none => simp [hq] at hs
  | some i =>
    simp [Builtin.copy_, run_underlying hu, Builtin.lenOf, Builtin.firstCells, sizeOf, typeInfo, hq, hmin]
    rw [htk, hst]
    simp [Result.andThen]
theorem step_copy_text {P : Program} {ops : Array Oper} {o : Oper} {a : Act} {w : World} {K : Act → World → Prop} {Q : Exit → Act → World → Prop} {E : Prop}
    (hgd : o.guard = none) (d x : Operand) (dT sT : TypeId) (hop : o.op = Op.call { callee := Callee.builtin Builtin.copy, args := #[d, x], argTypes := #[dT, sT] })
    (elem : TypeId) (hu : P.underlying dT = some (.slice elem)) (hs : (P.info? elem).map (·.size) = some 1)
    (g n c : Nat) (hd : a.eval d = .slice (some ⟨g, 0, none⟩) n c) (s : ByteArray) (hx : a.eval x = .string s) (cur : Array Value) (t : TypeId)
    (hg : w.heap[g]? = some (.cells cur t (0, 0))) (hn : cur.size = n) (hle : n ≤ s.size) (B : Nat) (w0 : World) (hb : Below B w0 w) (hBg : B ≤ g)
    (h : ∀ w', Hid (w'.heap[g]? = some (.cells (Lib.byteCells (s.data.toList.take n)).toArray t (0, 0))) → Below B w0 w' → (∀ k, k ≠ g → w'.heap[k]? = w.heap[k]?) → K (a.put o.dst (goInt n)) w') :
    if Region.wanted o (yielded ops a.tmps) = true then Oper.wp P o a w K Q else E := by
  have hw : Region.wanted o (yielded ops a.tmps) = true := by simp [Region.wanted, hgd]
  rw [if_pos hw]
  have hrun := run_copy_row_text (P := P) w dT sT o.type elem g n c s cur t hu hs hg hn hle
  unfold Oper.wp
  simp [execOp, hop, resolve, invoke, builtin, hd, hx, hrun, Result.andThen]
  exact h _ (setRow_heap w g _ _ t _ hg) (below_setRow hb hBg _) (fun k hk => setRow_other w g k _ hk)
theorem wpList_storeRowTo {P : Program} {w : World} {ops : Array Oper} {rest : List Oper} {o : Oper} {a : Act} {Q : Exit → Act → World → Prop}
    (hg : o.guard = none) (p v : Operand) (t : TypeId) (hop : o.op = Op.store t p v) {g : Nat} {Y Z : Array Value} (hi : (P.info? t).map (·.size) = some Z.size)
    (hp : a.eval p = .pointer (some ⟨g, 0, none⟩)) (hv : a.eval v = .agg Z) (hz : w.heap[g]? = some (.cells Y t (0, 0))) (hY : Y.size = Z.size) (h1 : Z.all (·.oneCell') = true)
    (h : wpList P ops Q rest (a.put o.dst undef) (w.setRow g Z)) : wpList P ops Q (o :: rest) a w := by
  refine wpList_plain hg fun K hK' => ?_
  have hrun : (Instr.storeAt t (.pointer (some ⟨g, 0, none⟩)) (.agg Z)).run P w = .ok () (w.setRow g Z) := by
    simp only [Instr.storeAt, Instr.sureAddr, Sem.run_bind, Sem.run_pure, Result.andThen]
    rw [run_storeVar_row _ _ t t Y Z hz hi hY h1]
  unfold Oper.wp
  simp [execOp, hop, hp, hv, hrun, Result.andThen]
  exact hK' _ _ h
/-- The row of a hash's bytes. -/
def hrow (l : List UInt8) : Array Value := (Lib.byteCells l).toArray
/-- The bytes that a hash at place at_ holds. -/
def hashL (s : ByteArray) (at_ : Int) : List UInt8 := (s.data.toList.drop at_.toNat).take 32
theorem hashL_eq (s : ByteArray) (at_ : Int) : (s.extract at_.toNat s.size).data.toList.take 32 = hashL s at_ := by
  unfold hashL
  have e : (s.extract at_.toNat s.size).data.toList = s.data.toList.drop at_.toNat := by
    rw [show (s.extract at_.toNat s.size).data.toList = List.take (s.size - at_.toNat) (List.drop at_.toNat s.data.toList) by simp]
    exact List.take_of_length_le (by rw [List.length_drop, ← Lib.size_eq]; exact Nat.le_refl _)
  rw [e]
theorem hashL_len (s : ByteArray) (at_ : Int) (ha : 0 ≤ at_) (h : 32 ≤ (s.size : Int) - at_) : (hashL s at_).length = 32 := by
  unfold hashL
  rw [List.length_take, List.length_drop, ← Lib.size_eq]; omega
theorem hrow_size (l : List UInt8) : (hrow l).size = l.length := by simp [hrow, Lib.byteCells_length]
theorem hrow_one (l : List UInt8) : (hrow l).all (·.oneCell') = true := by
  rw [Array.all_eq_true_iff_forall_mem]; intro v hv; exact Lib.byteCells_one l v (by simpa [hrow] using hv)
end Go.Proofs.YtfblbholkhdldaaDoor
