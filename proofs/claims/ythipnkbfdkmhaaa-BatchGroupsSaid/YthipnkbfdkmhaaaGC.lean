/- A Reader of package wire that bears an error: a hash. A Reader of package wire that bears no error: a hash where too little is left. The document's own reader: a hash at an error, or where too little is left. A Reader of package wire reads a hash: copy of a text into a row. The document's own reader: a hash that is there. A Reader of package wire: texts, counts, and what they keep. A Reader of package wire: numbers and hashes, and what they keep. Both readers at whatever error they bear: one function for each question. -/
import Derived.Test.YthipnkbfdkmhaaaGB
import Derived.Laws.Tables
import Derived.Laws.Rows
import Derived.Laws.Cells
import Derived.WalkKit
import Derived.ProofKit
import Derived.Handy
import Derived.Below
import Derived.BigQuiet
import Derived.Lib.Hide
import Derived.IntWalk
import Derived.Outline
import Derived.WalkLawsBesides
import Derived.WalkSpells
import Derived.Lib.BufferWrite
import Derived.Laws.CopyOwn
import Derived.Deep.RegionLaw
import Derived.BigRegion
import Derived.RegionTactic
namespace Go.Proofs.Ythipnkbfdkmhaaa
open Go.RowKit
attribute [local go_sem] strV
theorem wpList_loadRow {P : Program} {w : World} {ops : Array Oper} {rest : List Oper} {o : Oper} {a : Act} {Q : Exit → Act → World → Prop}
    (hg : o.guard = none) (p : Operand) (t : TypeId) (hop : o.op = Op.load t p) {g : Nat} {Z : Array Value} {n : Nat} {e : TypeId} (hu : P.underlying t = some (.array n e)) (hi : (P.info? t).map (·.size) = some Z.size)
    (hp : a.eval p = .pointer (some ⟨g, 0, none⟩)) (hz : w.heap[g]? = some (.cells Z t (0, 0)))
    (h : wpList P ops Q rest (a.put o.dst (.agg Z)) w) : wpList P ops Q (o :: rest) a w := by
  refine wpList_plain hg fun K hK' => ?_
  have hrun : (Instr.loadAt t (.pointer (some ⟨g, 0, none⟩))).run P w = .ok (.agg Z) w := by
    simp only [Instr.loadAt, Instr.sureAddr, Sem.run_bind, Sem.run_pure, Result.andThen]
    exact run_loadVar_row _ _ t t Z (0, 0) _ hz hu rfl hi
  unfold Oper.wp
  simp [execOp, hop, hp, hrun, Result.andThen]
  exact hK' _ _ h
theorem wpList_storeRow {P : Program} {w : World} {ops : Array Oper} {rest : List Oper} {o : Oper} {a : Act} {Q : Exit → Act → World → Prop}
    (hg : o.guard = none) (p v : Operand) (t : TypeId) (hop : o.op = Op.store t p v) {g : Nat} {Z : Array Value} (hi : (P.info? t).map (·.size) = some Z.size)
    (hp : a.eval p = .pointer (some ⟨g, 0, none⟩)) (hv : a.eval v = .agg Z) (hz : w.heap[g]? = some (.cells Z t (0, 0))) (h1 : Z.all (·.oneCell') = true)
    (h : wpList P ops Q rest (a.put o.dst undef) w) : wpList P ops Q (o :: rest) a w := by
  refine wpList_plain hg fun K hK' => ?_
  have hrow : w.setRow g Z = w := by
    unfold World.setRow
    cases w with
    | mk heap tape drawn os output =>
      congr 1
      apply Array.ext_getElem?
      intro i
      rw [Array.getElem?_modify]
      split
      · rename_i e; subst e
        have h' : heap[g]? = some (.cells Z t (0, 0)) := hz
        rw [h']; rfl
      · rfl
  have hrun : (Instr.storeAt t (.pointer (some ⟨g, 0, none⟩)) (.agg Z)).run P w = .ok () w := by
    simp only [Instr.storeAt, Instr.sureAddr, Sem.run_bind, Sem.run_pure, Result.andThen]
    rw [run_storeVar_row _ _ t t Z Z hz hi rfl h1, hrow]
  unfold Oper.wp
  simp [execOp, hop, hp, hv, hrun, Result.andThen]
  exact hK' _ _ h
theorem load_row {P : Program} {W : World} {g : Nat} {t : TypeId} {Z : Array Value} (h : W.heap[g]? = some (.cells Z t (0, 0))) : (loadCellsFrom ⟨g, 0, none⟩ 0 Z.size #[]).run P W = .ok Z W := by
  have := run_loadCells_list (P := P) (w := W) ⟨g, 0, none⟩ Z.toList (fun j v hv => by
    have hadd : (⟨g, 0, none⟩ : Addr).add j = ⟨g, j, none⟩ := by unfold Addr.add; by_cases h : j = 0 <;> simp [h]
    rw [hadd, cell_heap h]; simpa using hv)
  simpa [loadCells] using this
set_option maxRecDepth 100000 in
set_option maxHeartbeats 1600000 in
theorem rhash_err (b : Nat) (w : World) (s : ByteArray) (at_ err : Int) (h : RAt b w s at_ err) (he : (err == 0) = false) :
    Calls Try.prog 101 #[.pointer (some ⟨b, 0, none⟩)] w fun e w' => e = .returned (.agg #[.int .u8 0, .int .u8 0, .int .u8 0, .int .u8 0, .int .u8 0, .int .u8 0, .int .u8 0, .int .u8 0, .int .u8 0, .int .u8 0, .int .u8 0, .int .u8 0, .int .u8 0, .int .u8 0, .int .u8 0, .int .u8 0, .int .u8 0, .int .u8 0, .int .u8 0, .int .u8 0, .int .u8 0, .int .u8 0, .int .u8 0, .int .u8 0, .int .u8 0, .int .u8 0, .int .u8 0, .int .u8 0, .int .u8 0, .int .u8 0, .int .u8 0, .int .u8 0]) ∧ Below w.heap.size w w' := by
  have c0 := h.c0; have c1 := h.c1; have c2 := h.c2
  have hlt := h.lt
  have g0 : ((w.alloc (.cells #[.int .u8 0, .int .u8 0, .int .u8 0, .int .u8 0, .int .u8 0, .int .u8 0, .int .u8 0, .int .u8 0, .int .u8 0, .int .u8 0, .int .u8 0, .int .u8 0, .int .u8 0, .int .u8 0, .int .u8 0, .int .u8 0, .int .u8 0, .int .u8 0, .int .u8 0, .int .u8 0, .int .u8 0, .int .u8 0, .int .u8 0, .int .u8 0, .int .u8 0, .int .u8 0, .int .u8 0, .int .u8 0, .int .u8 0, .int .u8 0, .int .u8 0, .int .u8 0] 23)).alloc (.cells #[.int .u8 0, .int .u8 0, .int .u8 0, .int .u8 0, .int .u8 0, .int .u8 0, .int .u8 0, .int .u8 0, .int .u8 0, .int .u8 0, .int .u8 0, .int .u8 0, .int .u8 0, .int .u8 0, .int .u8 0, .int .u8 0, .int .u8 0, .int .u8 0, .int .u8 0, .int .u8 0, .int .u8 0, .int .u8 0, .int .u8 0, .int .u8 0, .int .u8 0, .int .u8 0, .int .u8 0, .int .u8 0, .int .u8 0, .int .u8 0, .int .u8 0, .int .u8 0] 23)).heap[w.heap.size]? = some (.cells #[.int .u8 0, .int .u8 0, .int .u8 0, .int .u8 0, .int .u8 0, .int .u8 0, .int .u8 0, .int .u8 0, .int .u8 0, .int .u8 0, .int .u8 0, .int .u8 0, .int .u8 0, .int .u8 0, .int .u8 0, .int .u8 0, .int .u8 0, .int .u8 0, .int .u8 0, .int .u8 0, .int .u8 0, .int .u8 0, .int .u8 0, .int .u8 0, .int .u8 0, .int .u8 0, .int .u8 0, .int .u8 0, .int .u8 0, .int .u8 0, .int .u8 0, .int .u8 0] 23 (0, 0)) := by
    show ((w.heap.push _).push _)[w.heap.size]? = _
    rw [Array.getElem?_push_lt (by simp), ← Array.getElem?_eq_getElem (by simp), Array.getElem?_push_size]
  have g1 : ((w.alloc (.cells #[.int .u8 0, .int .u8 0, .int .u8 0, .int .u8 0, .int .u8 0, .int .u8 0, .int .u8 0, .int .u8 0, .int .u8 0, .int .u8 0, .int .u8 0, .int .u8 0, .int .u8 0, .int .u8 0, .int .u8 0, .int .u8 0, .int .u8 0, .int .u8 0, .int .u8 0, .int .u8 0, .int .u8 0, .int .u8 0, .int .u8 0, .int .u8 0, .int .u8 0, .int .u8 0, .int .u8 0, .int .u8 0, .int .u8 0, .int .u8 0, .int .u8 0, .int .u8 0] 23)).alloc (.cells #[.int .u8 0, .int .u8 0, .int .u8 0, .int .u8 0, .int .u8 0, .int .u8 0, .int .u8 0, .int .u8 0, .int .u8 0, .int .u8 0, .int .u8 0, .int .u8 0, .int .u8 0, .int .u8 0, .int .u8 0, .int .u8 0, .int .u8 0, .int .u8 0, .int .u8 0, .int .u8 0, .int .u8 0, .int .u8 0, .int .u8 0, .int .u8 0, .int .u8 0, .int .u8 0, .int .u8 0, .int .u8 0, .int .u8 0, .int .u8 0, .int .u8 0, .int .u8 0] 23)).heap[w.heap.size + 1]? = some (.cells #[.int .u8 0, .int .u8 0, .int .u8 0, .int .u8 0, .int .u8 0, .int .u8 0, .int .u8 0, .int .u8 0, .int .u8 0, .int .u8 0, .int .u8 0, .int .u8 0, .int .u8 0, .int .u8 0, .int .u8 0, .int .u8 0, .int .u8 0, .int .u8 0, .int .u8 0, .int .u8 0, .int .u8 0, .int .u8 0, .int .u8 0, .int .u8 0, .int .u8 0, .int .u8 0, .int .u8 0, .int .u8 0, .int .u8 0, .int .u8 0, .int .u8 0, .int .u8 0] 23 (0, 0)) := by
    show ((w.heap.push _).push _)[w.heap.size + 1]? = _
    rw [show w.heap.size + 1 = (w.heap.push (Obj.cells #[.int .u8 0, .int .u8 0, .int .u8 0, .int .u8 0, .int .u8 0, .int .u8 0, .int .u8 0, .int .u8 0, .int .u8 0, .int .u8 0, .int .u8 0, .int .u8 0, .int .u8 0, .int .u8 0, .int .u8 0, .int .u8 0, .int .u8 0, .int .u8 0, .int .u8 0, .int .u8 0, .int .u8 0, .int .u8 0, .int .u8 0, .int .u8 0, .int .u8 0, .int .u8 0, .int .u8 0, .int .u8 0, .int .u8 0, .int .u8 0, .int .u8 0, .int .u8 0] 23 (0, 0))).size by simp, Array.getElem?_push_size]
  have hall : (#[.int .u8 0, .int .u8 0, .int .u8 0, .int .u8 0, .int .u8 0, .int .u8 0, .int .u8 0, .int .u8 0, .int .u8 0, .int .u8 0, .int .u8 0, .int .u8 0, .int .u8 0, .int .u8 0, .int .u8 0, .int .u8 0, .int .u8 0, .int .u8 0, .int .u8 0, .int .u8 0, .int .u8 0, .int .u8 0, .int .u8 0, .int .u8 0, .int .u8 0, .int .u8 0, .int .u8 0, .int .u8 0, .int .u8 0, .int .u8 0, .int .u8 0, .int .u8 0] : Array Value).all (·.oneCell') = true := by kernel_rfl
  go_enter Try.func101, Try.ntmps101
  go_wp2_with (first | (refine wpList_loadRow rfl (.tmp 3) 23 rfl Try.underlying23 (by kernel_rfl) rfl g1 ?_) | (refine wpList_storeRow rfl (.tmp 2) (.tmp 9) 23 rfl (by kernel_rfl) rfl rfl g0 hall ?_))
  refine bodyPost_ret (v := .agg #[.int .u8 0, .int .u8 0, .int .u8 0, .int .u8 0, .int .u8 0, .int .u8 0, .int .u8 0, .int .u8 0, .int .u8 0, .int .u8 0, .int .u8 0, .int .u8 0, .int .u8 0, .int .u8 0, .int .u8 0, .int .u8 0, .int .u8 0, .int .u8 0, .int .u8 0, .int .u8 0, .int .u8 0, .int .u8 0, .int .u8 0, .int .u8 0, .int .u8 0, .int .u8 0, .int .u8 0, .int .u8 0, .int .u8 0, .int .u8 0, .int .u8 0, .int .u8 0]) ?_ rfl ?_
  · simp [results, Try.results101, Act.put, asAddr]
    exact run_loadVar_row _ _ 23 23 _ (0, 0) _ g0 Try.underlying23 rfl (by kernel_rfl)
  exact ⟨rfl, by repeat (first | assumption | exact Below.refl _ _ | refine bch ?_ (by assumption) | refine Below.alloc ?_ (by simp) _)⟩
end Go.Proofs.Ythipnkbfdkmhaaa
namespace Go.Proofs.Ythipnkbfdkmhaaa
open Go.RowKit
attribute [local go_sem] strV
theorem row_set {W : World} {b o g : Nat} {v : Value} {X : Option Obj} (h : W.heap[g]? = X) (hne : b ≠ g) : (W.setCell ⟨b, o, none⟩ v).heap[g]? = X := by
  show (W.heap.modify b _)[g]? = X
  rw [Array.getElem?_modify, if_neg hne]; exact h
set_option maxRecDepth 100000 in
set_option maxHeartbeats 1600000 in
theorem rhash_short (B b : Nat) (w : World) (s : ByteArray) (at_ : Int) (h : RAt b w s at_ 0) (hs : s.size ≤ 1000000000) (hB : B ≤ b) (ha : 0 ≤ at_) (ha2 : at_ ≤ s.size) (hq : (s.size : Int) - at_ < 32) :
    Calls Try.prog 101 #[.pointer (some ⟨b, 0, none⟩)] w fun e w' => e = .returned (.agg #[.int .u8 0, .int .u8 0, .int .u8 0, .int .u8 0, .int .u8 0, .int .u8 0, .int .u8 0, .int .u8 0, .int .u8 0, .int .u8 0, .int .u8 0, .int .u8 0, .int .u8 0, .int .u8 0, .int .u8 0, .int .u8 0, .int .u8 0, .int .u8 0, .int .u8 0, .int .u8 0, .int .u8 0, .int .u8 0, .int .u8 0, .int .u8 0, .int .u8 0, .int .u8 0, .int .u8 0, .int .u8 0, .int .u8 0, .int .u8 0, .int .u8 0, .int .u8 0]) ∧ RAt b w' s at_ 2 ∧ Below B w w' := by
  have c0 := h.c0; have c1 := h.c1; have c2 := h.c2
  have hlt := h.lt
  have _ := hs; have _ := ha
  have g0 : ((w.alloc (.cells #[.int .u8 0, .int .u8 0, .int .u8 0, .int .u8 0, .int .u8 0, .int .u8 0, .int .u8 0, .int .u8 0, .int .u8 0, .int .u8 0, .int .u8 0, .int .u8 0, .int .u8 0, .int .u8 0, .int .u8 0, .int .u8 0, .int .u8 0, .int .u8 0, .int .u8 0, .int .u8 0, .int .u8 0, .int .u8 0, .int .u8 0, .int .u8 0, .int .u8 0, .int .u8 0, .int .u8 0, .int .u8 0, .int .u8 0, .int .u8 0, .int .u8 0, .int .u8 0] 23)).alloc (.cells #[.int .u8 0, .int .u8 0, .int .u8 0, .int .u8 0, .int .u8 0, .int .u8 0, .int .u8 0, .int .u8 0, .int .u8 0, .int .u8 0, .int .u8 0, .int .u8 0, .int .u8 0, .int .u8 0, .int .u8 0, .int .u8 0, .int .u8 0, .int .u8 0, .int .u8 0, .int .u8 0, .int .u8 0, .int .u8 0, .int .u8 0, .int .u8 0, .int .u8 0, .int .u8 0, .int .u8 0, .int .u8 0, .int .u8 0, .int .u8 0, .int .u8 0, .int .u8 0] 23)).heap[w.heap.size]? = some (.cells #[.int .u8 0, .int .u8 0, .int .u8 0, .int .u8 0, .int .u8 0, .int .u8 0, .int .u8 0, .int .u8 0, .int .u8 0, .int .u8 0, .int .u8 0, .int .u8 0, .int .u8 0, .int .u8 0, .int .u8 0, .int .u8 0, .int .u8 0, .int .u8 0, .int .u8 0, .int .u8 0, .int .u8 0, .int .u8 0, .int .u8 0, .int .u8 0, .int .u8 0, .int .u8 0, .int .u8 0, .int .u8 0, .int .u8 0, .int .u8 0, .int .u8 0, .int .u8 0] 23 (0, 0)) := by
    show ((w.heap.push _).push _)[w.heap.size]? = _
    rw [Array.getElem?_push_lt (by simp), ← Array.getElem?_eq_getElem (by simp), Array.getElem?_push_size]
  have g1 : ((w.alloc (.cells #[.int .u8 0, .int .u8 0, .int .u8 0, .int .u8 0, .int .u8 0, .int .u8 0, .int .u8 0, .int .u8 0, .int .u8 0, .int .u8 0, .int .u8 0, .int .u8 0, .int .u8 0, .int .u8 0, .int .u8 0, .int .u8 0, .int .u8 0, .int .u8 0, .int .u8 0, .int .u8 0, .int .u8 0, .int .u8 0, .int .u8 0, .int .u8 0, .int .u8 0, .int .u8 0, .int .u8 0, .int .u8 0, .int .u8 0, .int .u8 0, .int .u8 0, .int .u8 0] 23)).alloc (.cells #[.int .u8 0, .int .u8 0, .int .u8 0, .int .u8 0, .int .u8 0, .int .u8 0, .int .u8 0, .int .u8 0, .int .u8 0, .int .u8 0, .int .u8 0, .int .u8 0, .int .u8 0, .int .u8 0, .int .u8 0, .int .u8 0, .int .u8 0, .int .u8 0, .int .u8 0, .int .u8 0, .int .u8 0, .int .u8 0, .int .u8 0, .int .u8 0, .int .u8 0, .int .u8 0, .int .u8 0, .int .u8 0, .int .u8 0, .int .u8 0, .int .u8 0, .int .u8 0] 23)).heap[w.heap.size + 1]? = some (.cells #[.int .u8 0, .int .u8 0, .int .u8 0, .int .u8 0, .int .u8 0, .int .u8 0, .int .u8 0, .int .u8 0, .int .u8 0, .int .u8 0, .int .u8 0, .int .u8 0, .int .u8 0, .int .u8 0, .int .u8 0, .int .u8 0, .int .u8 0, .int .u8 0, .int .u8 0, .int .u8 0, .int .u8 0, .int .u8 0, .int .u8 0, .int .u8 0, .int .u8 0, .int .u8 0, .int .u8 0, .int .u8 0, .int .u8 0, .int .u8 0, .int .u8 0, .int .u8 0] 23 (0, 0)) := by
    show ((w.heap.push _).push _)[w.heap.size + 1]? = _
    rw [show w.heap.size + 1 = (w.heap.push (Obj.cells #[.int .u8 0, .int .u8 0, .int .u8 0, .int .u8 0, .int .u8 0, .int .u8 0, .int .u8 0, .int .u8 0, .int .u8 0, .int .u8 0, .int .u8 0, .int .u8 0, .int .u8 0, .int .u8 0, .int .u8 0, .int .u8 0, .int .u8 0, .int .u8 0, .int .u8 0, .int .u8 0, .int .u8 0, .int .u8 0, .int .u8 0, .int .u8 0, .int .u8 0, .int .u8 0, .int .u8 0, .int .u8 0, .int .u8 0, .int .u8 0, .int .u8 0, .int .u8 0] 23 (0, 0))).size by simp, Array.getElem?_push_size]
  have hall : (#[.int .u8 0, .int .u8 0, .int .u8 0, .int .u8 0, .int .u8 0, .int .u8 0, .int .u8 0, .int .u8 0, .int .u8 0, .int .u8 0, .int .u8 0, .int .u8 0, .int .u8 0, .int .u8 0, .int .u8 0, .int .u8 0, .int .u8 0, .int .u8 0, .int .u8 0, .int .u8 0, .int .u8 0, .int .u8 0, .int .u8 0, .int .u8 0, .int .u8 0, .int .u8 0, .int .u8 0, .int .u8 0, .int .u8 0, .int .u8 0, .int .u8 0, .int .u8 0] : Array Value).all (·.oneCell') = true := by kernel_rfl
  have q1 : decide ((s.size : Int) - at_ < 32) = true := decide_eq_true hq
  have hb2 : Below w.heap.size w ((w.alloc (.cells #[.int .u8 0, .int .u8 0, .int .u8 0, .int .u8 0, .int .u8 0, .int .u8 0, .int .u8 0, .int .u8 0, .int .u8 0, .int .u8 0, .int .u8 0, .int .u8 0, .int .u8 0, .int .u8 0, .int .u8 0, .int .u8 0, .int .u8 0, .int .u8 0, .int .u8 0, .int .u8 0, .int .u8 0, .int .u8 0, .int .u8 0, .int .u8 0, .int .u8 0, .int .u8 0, .int .u8 0, .int .u8 0, .int .u8 0, .int .u8 0, .int .u8 0, .int .u8 0] 23)).alloc (.cells #[.int .u8 0, .int .u8 0, .int .u8 0, .int .u8 0, .int .u8 0, .int .u8 0, .int .u8 0, .int .u8 0, .int .u8 0, .int .u8 0, .int .u8 0, .int .u8 0, .int .u8 0, .int .u8 0, .int .u8 0, .int .u8 0, .int .u8 0, .int .u8 0, .int .u8 0, .int .u8 0, .int .u8 0, .int .u8 0, .int .u8 0, .int .u8 0, .int .u8 0, .int .u8 0, .int .u8 0, .int .u8 0, .int .u8 0, .int .u8 0, .int .u8 0, .int .u8 0] 23)) := Below.alloc (Below.alloc (Below.refl _ _) (by simp) _) (by simp) _
  go_enter Try.func101, Try.ntmps101
  go_wp2
  refine wp_nameR _ (fun W hW => ?_)
  have hR : RAt b W s at_ 0 := by rw [hW]; exact h.below hb2 hlt
  have hBW : Below w.heap.size w W := by rw [hW]; exact hb2
  have z0 : W.heap[w.heap.size]? = some (.cells #[.int .u8 0, .int .u8 0, .int .u8 0, .int .u8 0, .int .u8 0, .int .u8 0, .int .u8 0, .int .u8 0, .int .u8 0, .int .u8 0, .int .u8 0, .int .u8 0, .int .u8 0, .int .u8 0, .int .u8 0, .int .u8 0, .int .u8 0, .int .u8 0, .int .u8 0, .int .u8 0, .int .u8 0, .int .u8 0, .int .u8 0, .int .u8 0, .int .u8 0, .int .u8 0, .int .u8 0, .int .u8 0, .int .u8 0, .int .u8 0, .int .u8 0, .int .u8 0] 23 (0, 0)) := by rw [hW]; exact g0
  have z1 : W.heap[w.heap.size + 1]? = some (.cells #[.int .u8 0, .int .u8 0, .int .u8 0, .int .u8 0, .int .u8 0, .int .u8 0, .int .u8 0, .int .u8 0, .int .u8 0, .int .u8 0, .int .u8 0, .int .u8 0, .int .u8 0, .int .u8 0, .int .u8 0, .int .u8 0, .int .u8 0, .int .u8 0, .int .u8 0, .int .u8 0, .int .u8 0, .int .u8 0, .int .u8 0, .int .u8 0, .int .u8 0, .int .u8 0, .int .u8 0, .int .u8 0, .int .u8 0, .int .u8 0, .int .u8 0, .int .u8 0] 23 (0, 0)) := by rw [hW]; exact g1
  clear hW g0 g1 c0 c1 c2
  have c0 := hR.c0; have c1 := hR.c1; have c2 := hR.c2; have f2 := hR.fr 2
  go_quiet (fail)
  go_wp2_with (first | (refine wpList_loadRow rfl (.tmp 3) 23 rfl Try.underlying23 (by kernel_rfl) rfl (row_set z1 (by omega)) ?_) | (refine wpList_storeRow rfl (.tmp 2) (.tmp 24) 23 rfl (by kernel_rfl) rfl rfl (row_set z0 (by omega)) hall ?_))
  refine bodyPost_ret (v := .agg #[.int .u8 0, .int .u8 0, .int .u8 0, .int .u8 0, .int .u8 0, .int .u8 0, .int .u8 0, .int .u8 0, .int .u8 0, .int .u8 0, .int .u8 0, .int .u8 0, .int .u8 0, .int .u8 0, .int .u8 0, .int .u8 0, .int .u8 0, .int .u8 0, .int .u8 0, .int .u8 0, .int .u8 0, .int .u8 0, .int .u8 0, .int .u8 0, .int .u8 0, .int .u8 0, .int .u8 0, .int .u8 0, .int .u8 0, .int .u8 0, .int .u8 0, .int .u8 0]) ?_ rfl ?_
  · simp [results, Try.results101, Act.put, asAddr]
    exact run_loadVar_row _ _ 23 23 _ (0, 0) _ (row_set z0 (by omega)) Try.underlying23 rfl (by kernel_rfl)
  exact ⟨rfl, hR.at2 _, ((hBW.mono (by omega)).trans ((drewN_below _ _).mono (by have := hR.lt; omega))).setCell (p := ⟨b, 2, none⟩) hB _⟩
end Go.Proofs.Ythipnkbfdkmhaaa
namespace Go.Proofs.Ythipnkbfdkmhaaa
open Go.RowKit
attribute [local go_sem] strV
set_option maxRecDepth 100000 in
set_option maxHeartbeats 1600000 in
theorem qhash_err (B b : Nat) (w : World) (s : ByteArray) (at_ : Int) (hB : B ≤ b) (err : Int) (h : QAt b w s at_ err) (he : (err == 0) = false) :
    Calls Try.prog 66 #[.pointer (some ⟨b, 0, none⟩)] w fun e w' => e = .returned (.agg #[.int .u8 0, .int .u8 0, .int .u8 0, .int .u8 0, .int .u8 0, .int .u8 0, .int .u8 0, .int .u8 0, .int .u8 0, .int .u8 0, .int .u8 0, .int .u8 0, .int .u8 0, .int .u8 0, .int .u8 0, .int .u8 0, .int .u8 0, .int .u8 0, .int .u8 0, .int .u8 0, .int .u8 0, .int .u8 0, .int .u8 0, .int .u8 0, .int .u8 0, .int .u8 0, .int .u8 0, .int .u8 0, .int .u8 0, .int .u8 0, .int .u8 0, .int .u8 0]) ∧ QAt b w' s at_ err ∧ Below B w w' := by
  have c0 := h.c0; have c1 := h.c1; have c2 := h.c2
  have hlt := h.lt
  have g0 : ((w.alloc (.cells #[.int .u8 0, .int .u8 0, .int .u8 0, .int .u8 0, .int .u8 0, .int .u8 0, .int .u8 0, .int .u8 0, .int .u8 0, .int .u8 0, .int .u8 0, .int .u8 0, .int .u8 0, .int .u8 0, .int .u8 0, .int .u8 0, .int .u8 0, .int .u8 0, .int .u8 0, .int .u8 0, .int .u8 0, .int .u8 0, .int .u8 0, .int .u8 0, .int .u8 0, .int .u8 0, .int .u8 0, .int .u8 0, .int .u8 0, .int .u8 0, .int .u8 0, .int .u8 0] 23)).alloc (.cells #[.int .u8 0, .int .u8 0, .int .u8 0, .int .u8 0, .int .u8 0, .int .u8 0, .int .u8 0, .int .u8 0, .int .u8 0, .int .u8 0, .int .u8 0, .int .u8 0, .int .u8 0, .int .u8 0, .int .u8 0, .int .u8 0, .int .u8 0, .int .u8 0, .int .u8 0, .int .u8 0, .int .u8 0, .int .u8 0, .int .u8 0, .int .u8 0, .int .u8 0, .int .u8 0, .int .u8 0, .int .u8 0, .int .u8 0, .int .u8 0, .int .u8 0, .int .u8 0] 23)).heap[w.heap.size]? = some (.cells #[.int .u8 0, .int .u8 0, .int .u8 0, .int .u8 0, .int .u8 0, .int .u8 0, .int .u8 0, .int .u8 0, .int .u8 0, .int .u8 0, .int .u8 0, .int .u8 0, .int .u8 0, .int .u8 0, .int .u8 0, .int .u8 0, .int .u8 0, .int .u8 0, .int .u8 0, .int .u8 0, .int .u8 0, .int .u8 0, .int .u8 0, .int .u8 0, .int .u8 0, .int .u8 0, .int .u8 0, .int .u8 0, .int .u8 0, .int .u8 0, .int .u8 0, .int .u8 0] 23 (0, 0)) := by
    show ((w.heap.push _).push _)[w.heap.size]? = _
    rw [Array.getElem?_push_lt (by simp), ← Array.getElem?_eq_getElem (by simp), Array.getElem?_push_size]
  have g1 : ((w.alloc (.cells #[.int .u8 0, .int .u8 0, .int .u8 0, .int .u8 0, .int .u8 0, .int .u8 0, .int .u8 0, .int .u8 0, .int .u8 0, .int .u8 0, .int .u8 0, .int .u8 0, .int .u8 0, .int .u8 0, .int .u8 0, .int .u8 0, .int .u8 0, .int .u8 0, .int .u8 0, .int .u8 0, .int .u8 0, .int .u8 0, .int .u8 0, .int .u8 0, .int .u8 0, .int .u8 0, .int .u8 0, .int .u8 0, .int .u8 0, .int .u8 0, .int .u8 0, .int .u8 0] 23)).alloc (.cells #[.int .u8 0, .int .u8 0, .int .u8 0, .int .u8 0, .int .u8 0, .int .u8 0, .int .u8 0, .int .u8 0, .int .u8 0, .int .u8 0, .int .u8 0, .int .u8 0, .int .u8 0, .int .u8 0, .int .u8 0, .int .u8 0, .int .u8 0, .int .u8 0, .int .u8 0, .int .u8 0, .int .u8 0, .int .u8 0, .int .u8 0, .int .u8 0, .int .u8 0, .int .u8 0, .int .u8 0, .int .u8 0, .int .u8 0, .int .u8 0, .int .u8 0, .int .u8 0] 23)).heap[w.heap.size + 1]? = some (.cells #[.int .u8 0, .int .u8 0, .int .u8 0, .int .u8 0, .int .u8 0, .int .u8 0, .int .u8 0, .int .u8 0, .int .u8 0, .int .u8 0, .int .u8 0, .int .u8 0, .int .u8 0, .int .u8 0, .int .u8 0, .int .u8 0, .int .u8 0, .int .u8 0, .int .u8 0, .int .u8 0, .int .u8 0, .int .u8 0, .int .u8 0, .int .u8 0, .int .u8 0, .int .u8 0, .int .u8 0, .int .u8 0, .int .u8 0, .int .u8 0, .int .u8 0, .int .u8 0] 23 (0, 0)) := by
    show ((w.heap.push _).push _)[w.heap.size + 1]? = _
    rw [show w.heap.size + 1 = (w.heap.push (Obj.cells #[.int .u8 0, .int .u8 0, .int .u8 0, .int .u8 0, .int .u8 0, .int .u8 0, .int .u8 0, .int .u8 0, .int .u8 0, .int .u8 0, .int .u8 0, .int .u8 0, .int .u8 0, .int .u8 0, .int .u8 0, .int .u8 0, .int .u8 0, .int .u8 0, .int .u8 0, .int .u8 0, .int .u8 0, .int .u8 0, .int .u8 0, .int .u8 0, .int .u8 0, .int .u8 0, .int .u8 0, .int .u8 0, .int .u8 0, .int .u8 0, .int .u8 0, .int .u8 0] 23 (0, 0))).size by simp, Array.getElem?_push_size]
  have hall : (#[.int .u8 0, .int .u8 0, .int .u8 0, .int .u8 0, .int .u8 0, .int .u8 0, .int .u8 0, .int .u8 0, .int .u8 0, .int .u8 0, .int .u8 0, .int .u8 0, .int .u8 0, .int .u8 0, .int .u8 0, .int .u8 0, .int .u8 0, .int .u8 0, .int .u8 0, .int .u8 0, .int .u8 0, .int .u8 0, .int .u8 0, .int .u8 0, .int .u8 0, .int .u8 0, .int .u8 0, .int .u8 0, .int .u8 0, .int .u8 0, .int .u8 0, .int .u8 0] : Array Value).all (·.oneCell') = true := by kernel_rfl
  have hb2 : Below w.heap.size w ((w.alloc (.cells #[.int .u8 0, .int .u8 0, .int .u8 0, .int .u8 0, .int .u8 0, .int .u8 0, .int .u8 0, .int .u8 0, .int .u8 0, .int .u8 0, .int .u8 0, .int .u8 0, .int .u8 0, .int .u8 0, .int .u8 0, .int .u8 0, .int .u8 0, .int .u8 0, .int .u8 0, .int .u8 0, .int .u8 0, .int .u8 0, .int .u8 0, .int .u8 0, .int .u8 0, .int .u8 0, .int .u8 0, .int .u8 0, .int .u8 0, .int .u8 0, .int .u8 0, .int .u8 0] 23)).alloc (.cells #[.int .u8 0, .int .u8 0, .int .u8 0, .int .u8 0, .int .u8 0, .int .u8 0, .int .u8 0, .int .u8 0, .int .u8 0, .int .u8 0, .int .u8 0, .int .u8 0, .int .u8 0, .int .u8 0, .int .u8 0, .int .u8 0, .int .u8 0, .int .u8 0, .int .u8 0, .int .u8 0, .int .u8 0, .int .u8 0, .int .u8 0, .int .u8 0, .int .u8 0, .int .u8 0, .int .u8 0, .int .u8 0, .int .u8 0, .int .u8 0, .int .u8 0, .int .u8 0] 23)) := Below.alloc (Below.alloc (Below.refl _ _) (by simp) _) (by simp) _
  go_enter Try.func66, Try.ntmps66
  go_wp2
  refine wp_nameR _ (fun W hW => ?_)
  have hR : QAt b W s at_ err := by rw [hW]; exact h.below hb2 hlt
  have hBW : Below w.heap.size w W := by rw [hW]; exact hb2
  have z0 : W.heap[w.heap.size]? = some (.cells #[.int .u8 0, .int .u8 0, .int .u8 0, .int .u8 0, .int .u8 0, .int .u8 0, .int .u8 0, .int .u8 0, .int .u8 0, .int .u8 0, .int .u8 0, .int .u8 0, .int .u8 0, .int .u8 0, .int .u8 0, .int .u8 0, .int .u8 0, .int .u8 0, .int .u8 0, .int .u8 0, .int .u8 0, .int .u8 0, .int .u8 0, .int .u8 0, .int .u8 0, .int .u8 0, .int .u8 0, .int .u8 0, .int .u8 0, .int .u8 0, .int .u8 0, .int .u8 0] 23 (0, 0)) := by rw [hW]; exact g0
  have z1 : W.heap[w.heap.size + 1]? = some (.cells #[.int .u8 0, .int .u8 0, .int .u8 0, .int .u8 0, .int .u8 0, .int .u8 0, .int .u8 0, .int .u8 0, .int .u8 0, .int .u8 0, .int .u8 0, .int .u8 0, .int .u8 0, .int .u8 0, .int .u8 0, .int .u8 0, .int .u8 0, .int .u8 0, .int .u8 0, .int .u8 0, .int .u8 0, .int .u8 0, .int .u8 0, .int .u8 0, .int .u8 0, .int .u8 0, .int .u8 0, .int .u8 0, .int .u8 0, .int .u8 0, .int .u8 0, .int .u8 0] 23 (0, 0)) := by rw [hW]; exact g1
  clear hW g0 g1 c0 c1 c2
  have c0 := hR.c0; have c1 := hR.c1; have c2 := hR.c2; have f2 := hR.fr 2
  go_quiet (fail)
  go_wp2_with (first | (refine wpList_loadRow rfl (.tmp 3) 23 rfl Try.underlying23 (by kernel_rfl) rfl z1 ?_) | (refine wpList_storeRow rfl (.tmp 2) (.tmp 31) 23 rfl (by kernel_rfl) rfl rfl z0 hall ?_))
  refine bodyPost_ret (v := .agg #[.int .u8 0, .int .u8 0, .int .u8 0, .int .u8 0, .int .u8 0, .int .u8 0, .int .u8 0, .int .u8 0, .int .u8 0, .int .u8 0, .int .u8 0, .int .u8 0, .int .u8 0, .int .u8 0, .int .u8 0, .int .u8 0, .int .u8 0, .int .u8 0, .int .u8 0, .int .u8 0, .int .u8 0, .int .u8 0, .int .u8 0, .int .u8 0, .int .u8 0, .int .u8 0, .int .u8 0, .int .u8 0, .int .u8 0, .int .u8 0, .int .u8 0, .int .u8 0]) ?_ rfl ?_
  · simp [results, Try.results66, Act.put, asAddr]
    exact run_loadVar_row _ _ 23 23 _ (0, 0) _ z0 Try.underlying23 rfl (by kernel_rfl)
  exact ⟨rfl, hR, (hBW.mono (by omega)).trans ((drewN_below _ _).mono (by have := hR.lt; omega))⟩
set_option maxRecDepth 100000 in
set_option maxHeartbeats 1600000 in
theorem qhash_short (B b : Nat) (w : World) (s : ByteArray) (at_ : Int) (hB : B ≤ b) (h : QAt b w s at_ 0) (ha : 0 ≤ at_) (ha2 : at_ ≤ s.size) (hs : s.size ≤ 1000000000) (hq : (s.size : Int) - at_ < 32) :
    Calls Try.prog 66 #[.pointer (some ⟨b, 0, none⟩)] w fun e w' => e = .returned (.agg #[.int .u8 0, .int .u8 0, .int .u8 0, .int .u8 0, .int .u8 0, .int .u8 0, .int .u8 0, .int .u8 0, .int .u8 0, .int .u8 0, .int .u8 0, .int .u8 0, .int .u8 0, .int .u8 0, .int .u8 0, .int .u8 0, .int .u8 0, .int .u8 0, .int .u8 0, .int .u8 0, .int .u8 0, .int .u8 0, .int .u8 0, .int .u8 0, .int .u8 0, .int .u8 0, .int .u8 0, .int .u8 0, .int .u8 0, .int .u8 0, .int .u8 0, .int .u8 0]) ∧ QAt b w' s at_ 2 ∧ Below B w w' := by
  have c0 := h.c0; have c1 := h.c1; have c2 := h.c2
  have hlt := h.lt
  have _ := hs; have _ := ha
  have g0 : ((w.alloc (.cells #[.int .u8 0, .int .u8 0, .int .u8 0, .int .u8 0, .int .u8 0, .int .u8 0, .int .u8 0, .int .u8 0, .int .u8 0, .int .u8 0, .int .u8 0, .int .u8 0, .int .u8 0, .int .u8 0, .int .u8 0, .int .u8 0, .int .u8 0, .int .u8 0, .int .u8 0, .int .u8 0, .int .u8 0, .int .u8 0, .int .u8 0, .int .u8 0, .int .u8 0, .int .u8 0, .int .u8 0, .int .u8 0, .int .u8 0, .int .u8 0, .int .u8 0, .int .u8 0] 23)).alloc (.cells #[.int .u8 0, .int .u8 0, .int .u8 0, .int .u8 0, .int .u8 0, .int .u8 0, .int .u8 0, .int .u8 0, .int .u8 0, .int .u8 0, .int .u8 0, .int .u8 0, .int .u8 0, .int .u8 0, .int .u8 0, .int .u8 0, .int .u8 0, .int .u8 0, .int .u8 0, .int .u8 0, .int .u8 0, .int .u8 0, .int .u8 0, .int .u8 0, .int .u8 0, .int .u8 0, .int .u8 0, .int .u8 0, .int .u8 0, .int .u8 0, .int .u8 0, .int .u8 0] 23)).heap[w.heap.size]? = some (.cells #[.int .u8 0, .int .u8 0, .int .u8 0, .int .u8 0, .int .u8 0, .int .u8 0, .int .u8 0, .int .u8 0, .int .u8 0, .int .u8 0, .int .u8 0, .int .u8 0, .int .u8 0, .int .u8 0, .int .u8 0, .int .u8 0, .int .u8 0, .int .u8 0, .int .u8 0, .int .u8 0, .int .u8 0, .int .u8 0, .int .u8 0, .int .u8 0, .int .u8 0, .int .u8 0, .int .u8 0, .int .u8 0, .int .u8 0, .int .u8 0, .int .u8 0, .int .u8 0] 23 (0, 0)) := by
    show ((w.heap.push _).push _)[w.heap.size]? = _
    rw [Array.getElem?_push_lt (by simp), ← Array.getElem?_eq_getElem (by simp), Array.getElem?_push_size]
  have g1 : ((w.alloc (.cells #[.int .u8 0, .int .u8 0, .int .u8 0, .int .u8 0, .int .u8 0, .int .u8 0, .int .u8 0, .int .u8 0, .int .u8 0, .int .u8 0, .int .u8 0, .int .u8 0, .int .u8 0, .int .u8 0, .int .u8 0, .int .u8 0, .int .u8 0, .int .u8 0, .int .u8 0, .int .u8 0, .int .u8 0, .int .u8 0, .int .u8 0, .int .u8 0, .int .u8 0, .int .u8 0, .int .u8 0, .int .u8 0, .int .u8 0, .int .u8 0, .int .u8 0, .int .u8 0] 23)).alloc (.cells #[.int .u8 0, .int .u8 0, .int .u8 0, .int .u8 0, .int .u8 0, .int .u8 0, .int .u8 0, .int .u8 0, .int .u8 0, .int .u8 0, .int .u8 0, .int .u8 0, .int .u8 0, .int .u8 0, .int .u8 0, .int .u8 0, .int .u8 0, .int .u8 0, .int .u8 0, .int .u8 0, .int .u8 0, .int .u8 0, .int .u8 0, .int .u8 0, .int .u8 0, .int .u8 0, .int .u8 0, .int .u8 0, .int .u8 0, .int .u8 0, .int .u8 0, .int .u8 0] 23)).heap[w.heap.size + 1]? = some (.cells #[.int .u8 0, .int .u8 0, .int .u8 0, .int .u8 0, .int .u8 0, .int .u8 0, .int .u8 0, .int .u8 0, .int .u8 0, .int .u8 0, .int .u8 0, .int .u8 0, .int .u8 0, .int .u8 0, .int .u8 0, .int .u8 0, .int .u8 0, .int .u8 0, .int .u8 0, .int .u8 0, .int .u8 0, .int .u8 0, .int .u8 0, .int .u8 0, .int .u8 0, .int .u8 0, .int .u8 0, .int .u8 0, .int .u8 0, .int .u8 0, .int .u8 0, .int .u8 0] 23 (0, 0)) := by
    show ((w.heap.push _).push _)[w.heap.size + 1]? = _
    rw [show w.heap.size + 1 = (w.heap.push (Obj.cells #[.int .u8 0, .int .u8 0, .int .u8 0, .int .u8 0, .int .u8 0, .int .u8 0, .int .u8 0, .int .u8 0, .int .u8 0, .int .u8 0, .int .u8 0, .int .u8 0, .int .u8 0, .int .u8 0, .int .u8 0, .int .u8 0, .int .u8 0, .int .u8 0, .int .u8 0, .int .u8 0, .int .u8 0, .int .u8 0, .int .u8 0, .int .u8 0, .int .u8 0, .int .u8 0, .int .u8 0, .int .u8 0, .int .u8 0, .int .u8 0, .int .u8 0, .int .u8 0] 23 (0, 0))).size by simp, Array.getElem?_push_size]
  have hall : (#[.int .u8 0, .int .u8 0, .int .u8 0, .int .u8 0, .int .u8 0, .int .u8 0, .int .u8 0, .int .u8 0, .int .u8 0, .int .u8 0, .int .u8 0, .int .u8 0, .int .u8 0, .int .u8 0, .int .u8 0, .int .u8 0, .int .u8 0, .int .u8 0, .int .u8 0, .int .u8 0, .int .u8 0, .int .u8 0, .int .u8 0, .int .u8 0, .int .u8 0, .int .u8 0, .int .u8 0, .int .u8 0, .int .u8 0, .int .u8 0, .int .u8 0, .int .u8 0] : Array Value).all (·.oneCell') = true := by kernel_rfl
  have q1 : decide ((s.size : Int) - at_ < 32) = true := decide_eq_true hq
  have hb2 : Below w.heap.size w ((w.alloc (.cells #[.int .u8 0, .int .u8 0, .int .u8 0, .int .u8 0, .int .u8 0, .int .u8 0, .int .u8 0, .int .u8 0, .int .u8 0, .int .u8 0, .int .u8 0, .int .u8 0, .int .u8 0, .int .u8 0, .int .u8 0, .int .u8 0, .int .u8 0, .int .u8 0, .int .u8 0, .int .u8 0, .int .u8 0, .int .u8 0, .int .u8 0, .int .u8 0, .int .u8 0, .int .u8 0, .int .u8 0, .int .u8 0, .int .u8 0, .int .u8 0, .int .u8 0, .int .u8 0] 23)).alloc (.cells #[.int .u8 0, .int .u8 0, .int .u8 0, .int .u8 0, .int .u8 0, .int .u8 0, .int .u8 0, .int .u8 0, .int .u8 0, .int .u8 0, .int .u8 0, .int .u8 0, .int .u8 0, .int .u8 0, .int .u8 0, .int .u8 0, .int .u8 0, .int .u8 0, .int .u8 0, .int .u8 0, .int .u8 0, .int .u8 0, .int .u8 0, .int .u8 0, .int .u8 0, .int .u8 0, .int .u8 0, .int .u8 0, .int .u8 0, .int .u8 0, .int .u8 0, .int .u8 0] 23)) := Below.alloc (Below.alloc (Below.refl _ _) (by simp) _) (by simp) _
  go_enter Try.func66, Try.ntmps66
  go_wp2
  refine wp_nameR _ (fun W hW => ?_)
  have hR : QAt b W s at_ 0 := by rw [hW]; exact h.below hb2 hlt
  have hBW : Below w.heap.size w W := by rw [hW]; exact hb2
  have z0 : W.heap[w.heap.size]? = some (.cells #[.int .u8 0, .int .u8 0, .int .u8 0, .int .u8 0, .int .u8 0, .int .u8 0, .int .u8 0, .int .u8 0, .int .u8 0, .int .u8 0, .int .u8 0, .int .u8 0, .int .u8 0, .int .u8 0, .int .u8 0, .int .u8 0, .int .u8 0, .int .u8 0, .int .u8 0, .int .u8 0, .int .u8 0, .int .u8 0, .int .u8 0, .int .u8 0, .int .u8 0, .int .u8 0, .int .u8 0, .int .u8 0, .int .u8 0, .int .u8 0, .int .u8 0, .int .u8 0] 23 (0, 0)) := by rw [hW]; exact g0
  have z1 : W.heap[w.heap.size + 1]? = some (.cells #[.int .u8 0, .int .u8 0, .int .u8 0, .int .u8 0, .int .u8 0, .int .u8 0, .int .u8 0, .int .u8 0, .int .u8 0, .int .u8 0, .int .u8 0, .int .u8 0, .int .u8 0, .int .u8 0, .int .u8 0, .int .u8 0, .int .u8 0, .int .u8 0, .int .u8 0, .int .u8 0, .int .u8 0, .int .u8 0, .int .u8 0, .int .u8 0, .int .u8 0, .int .u8 0, .int .u8 0, .int .u8 0, .int .u8 0, .int .u8 0, .int .u8 0, .int .u8 0] 23 (0, 0)) := by rw [hW]; exact g1
  clear hW g0 g1 c0 c1 c2
  have c0 := hR.c0; have c1 := hR.c1; have c2 := hR.c2; have f2 := hR.fr 2
  go_quiet (fail)
  go_wp2_with (first | (refine wpList_loadRow rfl (.tmp 3) 23 rfl Try.underlying23 (by kernel_rfl) rfl (row_set z1 (by omega)) ?_) | (refine wpList_storeRow rfl (.tmp 2) (.tmp 31) 23 rfl (by kernel_rfl) rfl rfl (row_set z0 (by omega)) hall ?_))
  refine bodyPost_ret (v := .agg #[.int .u8 0, .int .u8 0, .int .u8 0, .int .u8 0, .int .u8 0, .int .u8 0, .int .u8 0, .int .u8 0, .int .u8 0, .int .u8 0, .int .u8 0, .int .u8 0, .int .u8 0, .int .u8 0, .int .u8 0, .int .u8 0, .int .u8 0, .int .u8 0, .int .u8 0, .int .u8 0, .int .u8 0, .int .u8 0, .int .u8 0, .int .u8 0, .int .u8 0, .int .u8 0, .int .u8 0, .int .u8 0, .int .u8 0, .int .u8 0, .int .u8 0, .int .u8 0]) ?_ rfl ?_
  · simp [results, Try.results66, Act.put, asAddr]
    exact run_loadVar_row _ _ 23 23 _ (0, 0) _ (row_set z0 (by omega)) Try.underlying23 rfl (by kernel_rfl)
  exact ⟨rfl, hR.at2 _, ((hBW.mono (by omega)).trans ((drewN_below _ _).mono (by have := hR.lt; omega))).setCell (p := ⟨b, 2, none⟩) hB _⟩
end Go.Proofs.Ythipnkbfdkmhaaa
namespace Go.Proofs.Ythipnkbfdkmhaaa
open Go.RowKit
attribute [local go_sem] strV
theorem run_copy_row_text {P : Program} (w : World) (dT sT ty elem : TypeId) (g n c : Nat) (s : ByteArray) (cur : Array Value) (t : TypeId)
    (hu : P.underlying dT = some (.slice elem)) (hs : (P.info? elem).map (·.size) = some 1) (hg : w.heap[g]? = some (.cells cur t (0, 0))) (hn : cur.size = n) (hle : n ≤ s.size) :
    (Builtin.copy_ #[dT, sT] ty #[.slice (some ⟨g, 0, none⟩) n c, .string s]).run P w =
      .ok (goInt n) (w.setRow g (Lib.byteCells (s.data.toList.take n)).toArray) := by
  have hlen : (Lib.byteCells (s.data.toList.take n)).length = n := by rw [Lib.byteCells_length, List.length_take, ← Lib.size_eq]; omega
  have hst := run_storeCells_at P g 0 t (Lib.byteCells (s.data.toList.take n)) 0 cur w hg (by rw [hlen]; simp [hn]) (Lib.byteCells_one _)
  have hmin : Nat.min s.size n = n := Nat.min_eq_right hle
  have htk : List.take n (List.map (fun b : UInt8 => Value.int IntKind.u8 (b.toNat : Int)) s.data.toList) = Lib.byteCells (s.data.toList.take n) := by
    rw [← List.map_take]; rfl
  have hdr : cur.toList.drop n = [] := List.drop_eq_nil_of_le (by rw [Array.length_toList]; omega)
  rw [hlen] at hst
  simp only [Nat.add_zero, Nat.zero_add, List.take_zero, List.nil_append, hdr, List.append_nil] at hst
  cases hq : P.info? elem with
  | none => simp [hq] at hs
  | some i =>
    simp [Builtin.copy_, run_underlying hu, Builtin.lenOf, Builtin.firstCells, sizeOf, typeInfo, hq, hmin]
    rw [htk, hst]
    simp [Result.andThen]
theorem step_copy_text {P : Program} {ops : Array Oper} {o : Oper} {a : Act} {w : World} {K : Act → World → Prop} {Q : Exit → Act → World → Prop} {E : Prop}
    (hgd : o.guard = none) (d x : Operand) (dT sT : TypeId) (hop : o.op = Op.call { callee := Callee.builtin Builtin.copy, args := #[d, x], argTypes := #[dT, sT] })
    (elem : TypeId) (hu : P.underlying dT = some (.slice elem)) (hs : (P.info? elem).map (·.size) = some 1)
    (g n c : Nat) (hd : a.eval d = .slice (some ⟨g, 0, none⟩) n c) (s : ByteArray) (hx : a.eval x = .string s) (cur : Array Value) (t : TypeId)
    (hg : w.heap[g]? = some (.cells cur t (0, 0))) (hn : cur.size = n) (hle : n ≤ s.size) (B : Nat) (w0 : World) (hb : Below B w0 w) (hBg : B ≤ g)
    (h : ∀ w', Hid (w'.heap[g]? = some (.cells (Lib.byteCells (s.data.toList.take n)).toArray t (0, 0))) → Below B w0 w' → (∀ k, k ≠ g → w'.heap[k]? = w.heap[k]?) → K (a.put o.dst (goInt n)) w') :
    if Region.wanted o (yielded ops a.tmps) = true then Oper.wp P o a w K Q else E := by
  have hw : Region.wanted o (yielded ops a.tmps) = true := by simp [Region.wanted, hgd]
  rw [if_pos hw]
  have hrun := run_copy_row_text (P := P) w dT sT o.type elem g n c s cur t hu hs hg hn hle
  unfold Oper.wp
  simp [execOp, hop, resolve, invoke, builtin, hd, hx, hrun, Result.andThen]
  exact h _ (setRow_heap w g _ _ t _ hg) (below_setRow hb hBg _) (fun k hk => setRow_other w g k _ hk)
theorem wpList_storeRowTo {P : Program} {w : World} {ops : Array Oper} {rest : List Oper} {o : Oper} {a : Act} {Q : Exit → Act → World → Prop}
    (hg : o.guard = none) (p v : Operand) (t : TypeId) (hop : o.op = Op.store t p v) {g : Nat} {Y Z : Array Value} (hi : (P.info? t).map (·.size) = some Z.size)
    (hp : a.eval p = .pointer (some ⟨g, 0, none⟩)) (hv : a.eval v = .agg Z) (hz : w.heap[g]? = some (.cells Y t (0, 0))) (hY : Y.size = Z.size) (h1 : Z.all (·.oneCell') = true)
    (h : wpList P ops Q rest (a.put o.dst undef) (w.setRow g Z)) : wpList P ops Q (o :: rest) a w := by
  refine wpList_plain hg fun K hK' => ?_
  have hrun : (Instr.storeAt t (.pointer (some ⟨g, 0, none⟩)) (.agg Z)).run P w = .ok () (w.setRow g Z) := by
    simp only [Instr.storeAt, Instr.sureAddr, Sem.run_bind, Sem.run_pure, Result.andThen]
    rw [run_storeVar_row _ _ t t Y Z hz hi hY h1]
  unfold Oper.wp
  simp [execOp, hop, hp, hv, hrun, Result.andThen]
  exact hK' _ _ h
/-- The row of a hash's bytes. -/
def hrow (l : List UInt8) : Array Value := (Lib.byteCells l).toArray
/-- The bytes that a hash at place at_ holds. -/
def hashL (s : ByteArray) (at_ : Int) : List UInt8 := (s.data.toList.drop at_.toNat).take 32
theorem hashL_eq (s : ByteArray) (at_ : Int) : (s.extract at_.toNat s.size).data.toList.take 32 = hashL s at_ := by
  unfold hashL
  have e : (s.extract at_.toNat s.size).data.toList = s.data.toList.drop at_.toNat := by
    rw [show (s.extract at_.toNat s.size).data.toList = List.take (s.size - at_.toNat) (List.drop at_.toNat s.data.toList) by simp]
    exact List.take_of_length_le (by rw [List.length_drop, ← Lib.size_eq]; exact Nat.le_refl _)
  rw [e]
theorem hashL_len (s : ByteArray) (at_ : Int) (ha : 0 ≤ at_) (h : 32 ≤ (s.size : Int) - at_) : (hashL s at_).length = 32 := by
  unfold hashL
  rw [List.length_take, List.length_drop, ← Lib.size_eq]; omega
theorem hrow_size (l : List UInt8) : (hrow l).size = l.length := by simp [hrow, Lib.byteCells_length]
theorem hrow_one (l : List UInt8) : (hrow l).all (·.oneCell') = true := by
  rw [Array.all_eq_true_iff_forall_mem]; intro v hv; exact Lib.byteCells_one l v (by simpa [hrow] using hv)
set_option maxRecDepth 100000 in
set_option maxHeartbeats 1600000 in
theorem rhash_ok (B b : Nat) (w : World) (s : ByteArray) (at_ : Int) (h : RAt b w s at_ 0) (hs : s.size ≤ 1000000000) (hB : B ≤ b) (ha : 0 ≤ at_) (ha2 : at_ ≤ s.size) (hq : ¬ (s.size : Int) - at_ < 32) :
    Calls Try.prog 101 #[.pointer (some ⟨b, 0, none⟩)] w fun e w' => e = .returned (.agg (hrow (hashL s at_))) ∧ RAt b w' s (at_ + 32) 0 ∧ Below B w w' := by
  have c0 := h.c0; have c1 := h.c1; have c2 := h.c2
  have hlt := h.lt
  have _ := hs; have _ := ha
  have g0 : ((w.alloc (.cells #[.int .u8 0, .int .u8 0, .int .u8 0, .int .u8 0, .int .u8 0, .int .u8 0, .int .u8 0, .int .u8 0, .int .u8 0, .int .u8 0, .int .u8 0, .int .u8 0, .int .u8 0, .int .u8 0, .int .u8 0, .int .u8 0, .int .u8 0, .int .u8 0, .int .u8 0, .int .u8 0, .int .u8 0, .int .u8 0, .int .u8 0, .int .u8 0, .int .u8 0, .int .u8 0, .int .u8 0, .int .u8 0, .int .u8 0, .int .u8 0, .int .u8 0, .int .u8 0] 23)).alloc (.cells #[.int .u8 0, .int .u8 0, .int .u8 0, .int .u8 0, .int .u8 0, .int .u8 0, .int .u8 0, .int .u8 0, .int .u8 0, .int .u8 0, .int .u8 0, .int .u8 0, .int .u8 0, .int .u8 0, .int .u8 0, .int .u8 0, .int .u8 0, .int .u8 0, .int .u8 0, .int .u8 0, .int .u8 0, .int .u8 0, .int .u8 0, .int .u8 0, .int .u8 0, .int .u8 0, .int .u8 0, .int .u8 0, .int .u8 0, .int .u8 0, .int .u8 0, .int .u8 0] 23)).heap[w.heap.size]? = some (.cells #[.int .u8 0, .int .u8 0, .int .u8 0, .int .u8 0, .int .u8 0, .int .u8 0, .int .u8 0, .int .u8 0, .int .u8 0, .int .u8 0, .int .u8 0, .int .u8 0, .int .u8 0, .int .u8 0, .int .u8 0, .int .u8 0, .int .u8 0, .int .u8 0, .int .u8 0, .int .u8 0, .int .u8 0, .int .u8 0, .int .u8 0, .int .u8 0, .int .u8 0, .int .u8 0, .int .u8 0, .int .u8 0, .int .u8 0, .int .u8 0, .int .u8 0, .int .u8 0] 23 (0, 0)) := by
    show ((w.heap.push _).push _)[w.heap.size]? = _
    rw [Array.getElem?_push_lt (by simp), ← Array.getElem?_eq_getElem (by simp), Array.getElem?_push_size]
  have g1 : ((w.alloc (.cells #[.int .u8 0, .int .u8 0, .int .u8 0, .int .u8 0, .int .u8 0, .int .u8 0, .int .u8 0, .int .u8 0, .int .u8 0, .int .u8 0, .int .u8 0, .int .u8 0, .int .u8 0, .int .u8 0, .int .u8 0, .int .u8 0, .int .u8 0, .int .u8 0, .int .u8 0, .int .u8 0, .int .u8 0, .int .u8 0, .int .u8 0, .int .u8 0, .int .u8 0, .int .u8 0, .int .u8 0, .int .u8 0, .int .u8 0, .int .u8 0, .int .u8 0, .int .u8 0] 23)).alloc (.cells #[.int .u8 0, .int .u8 0, .int .u8 0, .int .u8 0, .int .u8 0, .int .u8 0, .int .u8 0, .int .u8 0, .int .u8 0, .int .u8 0, .int .u8 0, .int .u8 0, .int .u8 0, .int .u8 0, .int .u8 0, .int .u8 0, .int .u8 0, .int .u8 0, .int .u8 0, .int .u8 0, .int .u8 0, .int .u8 0, .int .u8 0, .int .u8 0, .int .u8 0, .int .u8 0, .int .u8 0, .int .u8 0, .int .u8 0, .int .u8 0, .int .u8 0, .int .u8 0] 23)).heap[w.heap.size + 1]? = some (.cells #[.int .u8 0, .int .u8 0, .int .u8 0, .int .u8 0, .int .u8 0, .int .u8 0, .int .u8 0, .int .u8 0, .int .u8 0, .int .u8 0, .int .u8 0, .int .u8 0, .int .u8 0, .int .u8 0, .int .u8 0, .int .u8 0, .int .u8 0, .int .u8 0, .int .u8 0, .int .u8 0, .int .u8 0, .int .u8 0, .int .u8 0, .int .u8 0, .int .u8 0, .int .u8 0, .int .u8 0, .int .u8 0, .int .u8 0, .int .u8 0, .int .u8 0, .int .u8 0] 23 (0, 0)) := by
    show ((w.heap.push _).push _)[w.heap.size + 1]? = _
    rw [show w.heap.size + 1 = (w.heap.push (Obj.cells #[.int .u8 0, .int .u8 0, .int .u8 0, .int .u8 0, .int .u8 0, .int .u8 0, .int .u8 0, .int .u8 0, .int .u8 0, .int .u8 0, .int .u8 0, .int .u8 0, .int .u8 0, .int .u8 0, .int .u8 0, .int .u8 0, .int .u8 0, .int .u8 0, .int .u8 0, .int .u8 0, .int .u8 0, .int .u8 0, .int .u8 0, .int .u8 0, .int .u8 0, .int .u8 0, .int .u8 0, .int .u8 0, .int .u8 0, .int .u8 0, .int .u8 0, .int .u8 0] 23 (0, 0))).size by simp, Array.getElem?_push_size]
  have q1 : decide ((s.size : Int) - at_ < 32) = false := decide_eq_false hq
  have hb2 : Below w.heap.size w ((w.alloc (.cells #[.int .u8 0, .int .u8 0, .int .u8 0, .int .u8 0, .int .u8 0, .int .u8 0, .int .u8 0, .int .u8 0, .int .u8 0, .int .u8 0, .int .u8 0, .int .u8 0, .int .u8 0, .int .u8 0, .int .u8 0, .int .u8 0, .int .u8 0, .int .u8 0, .int .u8 0, .int .u8 0, .int .u8 0, .int .u8 0, .int .u8 0, .int .u8 0, .int .u8 0, .int .u8 0, .int .u8 0, .int .u8 0, .int .u8 0, .int .u8 0, .int .u8 0, .int .u8 0] 23)).alloc (.cells #[.int .u8 0, .int .u8 0, .int .u8 0, .int .u8 0, .int .u8 0, .int .u8 0, .int .u8 0, .int .u8 0, .int .u8 0, .int .u8 0, .int .u8 0, .int .u8 0, .int .u8 0, .int .u8 0, .int .u8 0, .int .u8 0, .int .u8 0, .int .u8 0, .int .u8 0, .int .u8 0, .int .u8 0, .int .u8 0, .int .u8 0, .int .u8 0, .int .u8 0, .int .u8 0, .int .u8 0, .int .u8 0, .int .u8 0, .int .u8 0, .int .u8 0, .int .u8 0] 23)) := Below.alloc (Below.alloc (Below.refl _ _) (by simp) _) (by simp) _
  go_enter Try.func101, Try.ntmps101
  go_wp2
  refine wp_nameR _ (fun W hW => ?_)
  have hR : RAt b W s at_ 0 := by rw [hW]; exact h.below hb2 hlt
  have hBW : Below w.heap.size w W := by rw [hW]; exact hb2
  have z0 : W.heap[w.heap.size]? = some (.cells #[.int .u8 0, .int .u8 0, .int .u8 0, .int .u8 0, .int .u8 0, .int .u8 0, .int .u8 0, .int .u8 0, .int .u8 0, .int .u8 0, .int .u8 0, .int .u8 0, .int .u8 0, .int .u8 0, .int .u8 0, .int .u8 0, .int .u8 0, .int .u8 0, .int .u8 0, .int .u8 0, .int .u8 0, .int .u8 0, .int .u8 0, .int .u8 0, .int .u8 0, .int .u8 0, .int .u8 0, .int .u8 0, .int .u8 0, .int .u8 0, .int .u8 0, .int .u8 0] 23 (0, 0)) := by rw [hW]; exact g0
  have z1 : W.heap[w.heap.size + 1]? = some (.cells #[.int .u8 0, .int .u8 0, .int .u8 0, .int .u8 0, .int .u8 0, .int .u8 0, .int .u8 0, .int .u8 0, .int .u8 0, .int .u8 0, .int .u8 0, .int .u8 0, .int .u8 0, .int .u8 0, .int .u8 0, .int .u8 0, .int .u8 0, .int .u8 0, .int .u8 0, .int .u8 0, .int .u8 0, .int .u8 0, .int .u8 0, .int .u8 0, .int .u8 0, .int .u8 0, .int .u8 0, .int .u8 0, .int .u8 0, .int .u8 0, .int .u8 0, .int .u8 0] 23 (0, 0)) := by rw [hW]; exact g1
  clear hW g0 g1 c0 c1 c2
  have c0 := hR.c0; have c1 := hR.c1; have c2 := hR.c2; have f1 := hR.fr 1
  go_quiet (fail)
  go_wp2
  refine wp_nameR _ (fun V hV => ?_)
  have hV0 : V.heap = W.heap := by rw [hV]; rfl
  have hRV : RAt b V s at_ 0 := by unfold RAt; rw [hV0]; exact hR
  have hBV : Below w.heap.size w V := by rw [hV]; exact hBW.trans ((drewN_below _ _).mono (by have := hBW.size; omega))
  rw [← hV0] at z0 z1
  clear hV c0 c1 c2 f1
  have c0 := hRV.c0; have c1 := hRV.c1; have c2 := hRV.c2; have f1 := hRV.fr 1
  have b1 : at_ ≤ (s.size : Int) := ha2
  have hsz : (hrow (hashL s at_)).size = 32 := by rw [hrow_size]; exact hashL_len s at_ ha (by omega)
  have hone := hrow_one (hashL s at_)
  have e1 : IntKind.i64.wrap (at_ + 32) = at_ + 32 := by exact IntWalk.i64_in _ (by omega)
  go_region_law (refine step_copy_text rfl (.tmp 29) (.tmp 38) 125 9 rfl 5 Try.underlying125 (by kernel_rfl) (w.heap.size + 1) 32 32 (by simp [Act.eval, Act.put]) (s.extract at_.toNat s.size) (by simp [Act.eval, Act.put]) #[.int .u8 0, .int .u8 0, .int .u8 0, .int .u8 0, .int .u8 0, .int .u8 0, .int .u8 0, .int .u8 0, .int .u8 0, .int .u8 0, .int .u8 0, .int .u8 0, .int .u8 0, .int .u8 0, .int .u8 0, .int .u8 0, .int .u8 0, .int .u8 0, .int .u8 0, .int .u8 0, .int .u8 0, .int .u8 0, .int .u8 0, .int .u8 0, .int .u8 0, .int .u8 0, .int .u8 0, .int .u8 0, .int .u8 0, .int .u8 0, .int .u8 0, .int .u8 0] 23 z1 rfl (by simp; omega) w.heap.size w (hBV.trans ((drewN_below _ 1).mono (by have := hBV.size; omega))) (by omega) ?_; intro w4 hg4 hb4 hk4; have hR4 : RAt b w4 s at_ 0 := (by unfold RAt; rw [hk4 b (by omega)]; exact hRV); have d1 := hR4.c1; have d2 := hR4.fr 1; have y0 : w4.heap[w.heap.size]? = some (.cells #[.int .u8 0, .int .u8 0, .int .u8 0, .int .u8 0, .int .u8 0, .int .u8 0, .int .u8 0, .int .u8 0, .int .u8 0, .int .u8 0, .int .u8 0, .int .u8 0, .int .u8 0, .int .u8 0, .int .u8 0, .int .u8 0, .int .u8 0, .int .u8 0, .int .u8 0, .int .u8 0, .int .u8 0, .int .u8 0, .int .u8 0, .int .u8 0, .int .u8 0, .int .u8 0, .int .u8 0, .int .u8 0, .int .u8 0, .int .u8 0, .int .u8 0, .int .u8 0] 23 (0, 0)) := (by rw [hk4 _ (by omega)]; exact z0); have hg5 : w4.heap[w.heap.size + 1]? = some (.cells (hrow (hashL s at_)) 23 (0, 0)) := (by rw [← hashL_eq]; exact hg4.out); clear hk4 hg4)
  all_goals (
    go_wp2_with (first | (refine wpList_loadRow rfl (.tmp 3) 23 rfl Try.underlying23 (by rw [hsz]; kernel_rfl) rfl (row_set hg5 (by omega)) ?_) | (refine wpList_storeRowTo rfl (.tmp 2) (.tmp 43) 23 rfl (by rw [hsz]; kernel_rfl) rfl rfl (row_set y0 (by omega)) (by rw [hsz]; rfl) hone ?_))
    refine bodyPost_ret (v := .agg (hrow (hashL s at_))) ?_ rfl ?_
    · simp [results, Try.results101, Act.put, asAddr]
      exact run_loadVar_row _ _ 23 23 _ (0, 0) _ (setRow_heap _ _ _ _ _ _ (row_set y0 (by omega))) Try.underlying23 rfl (by rw [hsz]; kernel_rfl)
    exact ⟨rfl, by unfold RAt; rw [setRow_other _ _ b _ (by omega)]; exact hR4.at1 _, below_setRow ((hb4.mono (by omega)).setCell (p := ⟨b, 1, none⟩) hB _) (by omega) _⟩)
end Go.Proofs.Ythipnkbfdkmhaaa
namespace Go.Proofs.Ythipnkbfdkmhaaa
open Go.RowKit
attribute [local go_sem] strV
/-- The row while it is filled: k bytes are there. -/
def prow (l : List UInt8) (k : Nat) : Array Value := (Lib.byteCells (l.take k) ++ List.replicate (32 - k) (Value.int .u8 0)).toArray
theorem prow_full {l : List UInt8} (h : l.length = 32) : prow l 32 = hrow l := by
  unfold prow hrow; rw [List.take_of_length_le (by omega)]; simp
theorem prow_size {l : List UInt8} (h : l.length = 32) {k : Nat} (hk : k ≤ 32) : (prow l k).size = 32 := by
  simp [prow, Lib.byteCells_length]; omega
theorem prow_at {l : List UInt8} (h : l.length = 32) {k : Nat} (hk : k < 32) : (prow l k)[k]? = some (.int .u8 0) := by
  have e : (Lib.byteCells (l.take k)).length = k := by rw [Lib.byteCells_length, List.length_take]; omega
  simp only [prow, List.getElem?_toArray]
  rw [List.getElem?_append_right (by omega), e, Nat.sub_self]
  obtain ⟨m, hm⟩ : ∃ m, 32 - k = m + 1 := ⟨31 - k, by omega⟩
  rw [hm]; rfl
theorem prow_step {l : List UInt8} (h : l.length = 32) {k : Nat} (hk : k < 32) {x : UInt8} (hx : l[k]? = some x) : (prow l k).setIfInBounds k (.int .u8 (x.toNat : Int)) = prow l (k + 1) := by
  have e : (Lib.byteCells (l.take k)).length = k := by rw [Lib.byteCells_length, List.length_take]; omega
  unfold prow
  obtain ⟨m, hm⟩ : ∃ m, 32 - k = m + 1 := ⟨31 - k, by omega⟩
  rw [hm, show 32 - (k + 1) = m by omega, List.take_add_one, hx]
  simp only [List.setIfInBounds_toArray, List.replicate_succ]
  congr 1
  rw [List.set_append_right _ _ (by omega), e, Nat.sub_self]
  simp [Lib.byteCells]
theorem row_put {W : World} {g k : Nat} {cur : Array Value} {t : TypeId} {v : Value} (h : W.heap[g]? = some (.cells cur t (0, 0))) : (W.setCell ⟨g, k, none⟩ v).heap[g]? = some (.cells (cur.setIfInBounds k v) t (0, 0)) := by
  rw [setCell_eq_setRow W g k cur t (0, 0) v h]; exact setRow_heap W g _ _ t _ h
set_option maxRecDepth 100000 in
set_option maxHeartbeats 1600000 in
theorem qhash_ok (B b : Nat) (w : World) (s : ByteArray) (i : Nat) (h : QAt b w s i 0) (hs : s.size ≤ 1000000000) (hB : B ≤ b) (hq : i + 32 ≤ s.size) :
    Calls Try.prog 66 #[.pointer (some ⟨b, 0, none⟩)] w fun e w' => e = .returned (.agg (hrow (hashL s i))) ∧ QAt b w' s ((i : Int) + 32) 0 ∧ Below B w w' := by
  have c0 := h.c0; have c1 := h.c1; have c2 := h.c2
  have hlt := h.lt
  have _ := hs
  have hL : (hashL s i).length = 32 := hashL_len s i (by omega) (by omega)
  have g0 : ((w.alloc (.cells #[.int .u8 0, .int .u8 0, .int .u8 0, .int .u8 0, .int .u8 0, .int .u8 0, .int .u8 0, .int .u8 0, .int .u8 0, .int .u8 0, .int .u8 0, .int .u8 0, .int .u8 0, .int .u8 0, .int .u8 0, .int .u8 0, .int .u8 0, .int .u8 0, .int .u8 0, .int .u8 0, .int .u8 0, .int .u8 0, .int .u8 0, .int .u8 0, .int .u8 0, .int .u8 0, .int .u8 0, .int .u8 0, .int .u8 0, .int .u8 0, .int .u8 0, .int .u8 0] 23)).alloc (.cells #[.int .u8 0, .int .u8 0, .int .u8 0, .int .u8 0, .int .u8 0, .int .u8 0, .int .u8 0, .int .u8 0, .int .u8 0, .int .u8 0, .int .u8 0, .int .u8 0, .int .u8 0, .int .u8 0, .int .u8 0, .int .u8 0, .int .u8 0, .int .u8 0, .int .u8 0, .int .u8 0, .int .u8 0, .int .u8 0, .int .u8 0, .int .u8 0, .int .u8 0, .int .u8 0, .int .u8 0, .int .u8 0, .int .u8 0, .int .u8 0, .int .u8 0, .int .u8 0] 23)).heap[w.heap.size]? = some (.cells #[.int .u8 0, .int .u8 0, .int .u8 0, .int .u8 0, .int .u8 0, .int .u8 0, .int .u8 0, .int .u8 0, .int .u8 0, .int .u8 0, .int .u8 0, .int .u8 0, .int .u8 0, .int .u8 0, .int .u8 0, .int .u8 0, .int .u8 0, .int .u8 0, .int .u8 0, .int .u8 0, .int .u8 0, .int .u8 0, .int .u8 0, .int .u8 0, .int .u8 0, .int .u8 0, .int .u8 0, .int .u8 0, .int .u8 0, .int .u8 0, .int .u8 0, .int .u8 0] 23 (0, 0)) := by
    show ((w.heap.push _).push _)[w.heap.size]? = _
    rw [Array.getElem?_push_lt (by simp), ← Array.getElem?_eq_getElem (by simp), Array.getElem?_push_size]
  have g1 : ((w.alloc (.cells #[.int .u8 0, .int .u8 0, .int .u8 0, .int .u8 0, .int .u8 0, .int .u8 0, .int .u8 0, .int .u8 0, .int .u8 0, .int .u8 0, .int .u8 0, .int .u8 0, .int .u8 0, .int .u8 0, .int .u8 0, .int .u8 0, .int .u8 0, .int .u8 0, .int .u8 0, .int .u8 0, .int .u8 0, .int .u8 0, .int .u8 0, .int .u8 0, .int .u8 0, .int .u8 0, .int .u8 0, .int .u8 0, .int .u8 0, .int .u8 0, .int .u8 0, .int .u8 0] 23)).alloc (.cells #[.int .u8 0, .int .u8 0, .int .u8 0, .int .u8 0, .int .u8 0, .int .u8 0, .int .u8 0, .int .u8 0, .int .u8 0, .int .u8 0, .int .u8 0, .int .u8 0, .int .u8 0, .int .u8 0, .int .u8 0, .int .u8 0, .int .u8 0, .int .u8 0, .int .u8 0, .int .u8 0, .int .u8 0, .int .u8 0, .int .u8 0, .int .u8 0, .int .u8 0, .int .u8 0, .int .u8 0, .int .u8 0, .int .u8 0, .int .u8 0, .int .u8 0, .int .u8 0] 23)).heap[w.heap.size + 1]? = some (.cells (prow (hashL s i) 0) 23 (0, 0)) := by
    show ((w.heap.push _).push _)[w.heap.size + 1]? = _
    rw [show w.heap.size + 1 = (w.heap.push (Obj.cells #[.int .u8 0, .int .u8 0, .int .u8 0, .int .u8 0, .int .u8 0, .int .u8 0, .int .u8 0, .int .u8 0, .int .u8 0, .int .u8 0, .int .u8 0, .int .u8 0, .int .u8 0, .int .u8 0, .int .u8 0, .int .u8 0, .int .u8 0, .int .u8 0, .int .u8 0, .int .u8 0, .int .u8 0, .int .u8 0, .int .u8 0, .int .u8 0, .int .u8 0, .int .u8 0, .int .u8 0, .int .u8 0, .int .u8 0, .int .u8 0, .int .u8 0, .int .u8 0] 23 (0, 0))).size by simp, Array.getElem?_push_size]
    rfl
  have q1 : decide ((s.size : Int) - (i : Int) < 32) = false := decide_eq_false (by omega)
  have hb2 : Below w.heap.size w ((w.alloc (.cells #[.int .u8 0, .int .u8 0, .int .u8 0, .int .u8 0, .int .u8 0, .int .u8 0, .int .u8 0, .int .u8 0, .int .u8 0, .int .u8 0, .int .u8 0, .int .u8 0, .int .u8 0, .int .u8 0, .int .u8 0, .int .u8 0, .int .u8 0, .int .u8 0, .int .u8 0, .int .u8 0, .int .u8 0, .int .u8 0, .int .u8 0, .int .u8 0, .int .u8 0, .int .u8 0, .int .u8 0, .int .u8 0, .int .u8 0, .int .u8 0, .int .u8 0, .int .u8 0] 23)).alloc (.cells #[.int .u8 0, .int .u8 0, .int .u8 0, .int .u8 0, .int .u8 0, .int .u8 0, .int .u8 0, .int .u8 0, .int .u8 0, .int .u8 0, .int .u8 0, .int .u8 0, .int .u8 0, .int .u8 0, .int .u8 0, .int .u8 0, .int .u8 0, .int .u8 0, .int .u8 0, .int .u8 0, .int .u8 0, .int .u8 0, .int .u8 0, .int .u8 0, .int .u8 0, .int .u8 0, .int .u8 0, .int .u8 0, .int .u8 0, .int .u8 0, .int .u8 0, .int .u8 0] 23)) := Below.alloc (Below.alloc (Below.refl _ _) (by simp) _) (by simp) _
  go_enter Try.func66, Try.ntmps66
  go_wp2
  refine wp_nameR _ (fun W hW => ?_)
  have hR : QAt b W s i 0 := by rw [hW]; exact h.below hb2 hlt
  have hBW : Below w.heap.size w W := by rw [hW]; exact hb2
  have z0 : W.heap[w.heap.size]? = some (.cells #[.int .u8 0, .int .u8 0, .int .u8 0, .int .u8 0, .int .u8 0, .int .u8 0, .int .u8 0, .int .u8 0, .int .u8 0, .int .u8 0, .int .u8 0, .int .u8 0, .int .u8 0, .int .u8 0, .int .u8 0, .int .u8 0, .int .u8 0, .int .u8 0, .int .u8 0, .int .u8 0, .int .u8 0, .int .u8 0, .int .u8 0, .int .u8 0, .int .u8 0, .int .u8 0, .int .u8 0, .int .u8 0, .int .u8 0, .int .u8 0, .int .u8 0, .int .u8 0] 23 (0, 0)) := by rw [hW]; exact g0
  have z1 : W.heap[w.heap.size + 1]? = some (.cells (prow (hashL s i) 0) 23 (0, 0)) := by rw [hW]; exact g1
  clear hW g0 g1 c0 c1 c2
  have c0 := hR.c0; have c1 := hR.c1; have c2 := hR.c2
  go_quiet (fail)
  go_wp2
  refine wp_nameR _ (fun V hV => ?_)
  have hV0 : V.heap = W.heap := by rw [hV]; rfl
  have hRV : QAt b V s i 0 := by unfold QAt; rw [hV0]; exact hR
  have hBV : Below w.heap.size w V := by rw [hV]; exact hBW.trans ((drewN_below _ _).mono (by have := hBW.size; omega))
  rw [← hV0] at z0 z1
  clear hV c0 c1 c2
  go_loopw [4] (fun v wr => ∃ k : Nat, k ≤ 32 ∧ Below w.heap.size w wr ∧ QAt b wr s i 0 ∧ wr.heap[w.heap.size]? = some (.cells #[.int .u8 0, .int .u8 0, .int .u8 0, .int .u8 0, .int .u8 0, .int .u8 0, .int .u8 0, .int .u8 0, .int .u8 0, .int .u8 0, .int .u8 0, .int .u8 0, .int .u8 0, .int .u8 0, .int .u8 0, .int .u8 0, .int .u8 0, .int .u8 0, .int .u8 0, .int .u8 0, .int .u8 0, .int .u8 0, .int .u8 0, .int .u8 0, .int .u8 0, .int .u8 0, .int .u8 0, .int .u8 0, .int .u8 0, .int .u8 0, .int .u8 0, .int .u8 0] 23 (0, 0)) ∧ wr.heap[w.heap.size + 1]? = some (.cells (prow (hashL s i) k) 23 (0, 0)) ∧ v = .int .i64 (k : Int)) (fun v _ => 32 - (intOf v).toNat)
  case atStart => exact ⟨0, by omega, hBV, hRV, z0, z1, rfl⟩
  case round =>
    clear z0 z1
    obtain ⟨k, hk, hbel, hRr, y0, y1, rfl⟩ := hrel
    have c0 := hRr.c0; have c1 := hRr.c1; have f1 := hRr.fr 1
    by_cases hlt2 : k < 32
    · have d1 : decide ((k : Int) < 32) = true := decide_eq_true (by omega)
      have ck : wr.cell? ⟨w.heap.size + 1, k, none⟩ = some (.int .u8 0) := by rw [cell_heap y1, prow_at hL hlt2]
      have fk : wr.frozen? ⟨w.heap.size + 1, k, none⟩ = false := frozen_heap y1 k
      obtain ⟨x, hx⟩ : ∃ x, s[i + k]'(by omega) = x := ⟨_, rfl⟩
      have hxL : (hashL s i)[k]? = some x := by
        unfold hashL
        rw [List.getElem?_take_of_lt hlt2, List.getElem?_drop]
        simp only [Int.toNat_natCast]
        rw [str_get (by omega), hx]
      have b1 : (i : Int) + (k : Int) < (s.size : Int) := by omega
      have b2 : (0 : Int) ≤ (i : Int) + (k : Int) := by omega
      have e1 : IntKind.i64.wrap ((i : Int) + (k : Int)) = (i : Int) + (k : Int) := IntWalk.i64_in _ (by omega)
      have e2 : ((i : Int) + (k : Int)).toNat = i + k := by omega
      go_wp2
      go_region
      all_goals go_wp2
      go_roundw
      case rel => exact ⟨k + 1, by omega, (hbel.setCell (p := ⟨w.heap.size + 1, k, none⟩) (by show _ ≤ w.heap.size + 1; omega) _).drew, (by unfold QAt; exact row_set (W := wr.drew) hRr (by omega)), row_set (W := wr.drew) y0 (by omega), (by rw [← prow_step hL hlt2 hxL]; exact row_put (W := wr.drew) y1), by go_num⟩
      case measure => (simp [intOf]) <;> omega
    · obtain rfl : k = 32 := by omega
      rw [prow_full hL] at y1
      have hsz : (hrow (hashL s i)).size = 32 := by rw [hrow_size]; exact hL
      have hone := hrow_one (hashL s i)
      go_wp2_with (first | (refine wpList_loadRow rfl (.tmp 3) 23 rfl Try.underlying23 (by rw [hsz]; kernel_rfl) rfl (row_set y1 (by omega)) ?_) | (refine wpList_storeRowTo rfl (.tmp 2) (.tmp 56) 23 rfl (by rw [hsz]; kernel_rfl) rfl rfl (row_set y0 (by omega)) (by rw [hsz]; rfl) hone ?_))
      refine bodyPost_ret (v := .agg (hrow (hashL s i))) ?_ rfl ?_
      · simp [results, Try.results66, Act.put, asAddr]
        exact run_loadVar_row _ _ 23 23 _ (0, 0) _ (setRow_heap _ _ _ _ _ _ (row_set y0 (by omega))) Try.underlying23 rfl (by rw [hsz]; kernel_rfl)
      exact ⟨rfl, by unfold QAt; rw [setRow_other _ _ b _ (by omega)]; exact hRr.at1 _, below_setRow ((hbel.mono (by omega)).setCell (p := ⟨b, 1, none⟩) hB _) (by omega) _⟩
end Go.Proofs.Ythipnkbfdkmhaaa
namespace Go.Proofs.Ythipnkbfdkmhaaa
open Go.RowKit
attribute [local go_sem] strV
/-- All is as it was but block b, and what has been made since. -/
structure Kept (b : Nat) (w w' : World) : Prop where
  os : w'.os = w.os
  tape : w'.tape = w.tape
  output : w'.output = w.output
  size : w.heap.size ≤ w'.heap.size
  block : ∀ k, k < w.heap.size → k ≠ b → w'.heap[k]? = w.heap[k]?
theorem Kept.of {b : Nat} {w w' : World} (h : Below w.heap.size w w') : Kept b w w' := ⟨h.os, h.tape, h.output, h.size, fun k hk _ => h.block k hk⟩
theorem Kept.trans {b : Nat} {w w1 w2 : World} (h : Kept b w w1) (g : Kept b w1 w2) : Kept b w w2 :=
  ⟨g.os.trans h.os, g.tape.trans h.tape, g.output.trans h.output, Nat.le_trans h.size g.size, fun k hk hne => (g.block k (Nat.lt_of_lt_of_le hk h.size) hne).trans (h.block k hk hne)⟩
theorem Kept.setCell {b : Nat} {w w1 : World} (h : Kept b w w1) (o : Nat) (v : Value) : Kept b w (w1.setCell ⟨b, o, none⟩ v) :=
  ⟨h.os, h.tape, h.output, by rw [World.size_setCell]; exact h.size, fun k hk hne => by
    show (w1.heap.modify b _)[k]? = _
    rw [Array.getElem?_modify, if_neg (fun e => hne e.symm)]; exact h.block k hk hne⟩
theorem Kept.below {b B : Nat} {w w' : World} (h : Kept b w w') (hB : B ≤ b) (hw : B ≤ w.heap.size) : Below B w w' :=
  ⟨h.os, h.tape, h.output, h.size, fun k hk => h.block k (by omega) (by omega)⟩
theorem QAt.kept {b c : Nat} {w w' : World} {s : ByteArray} {at_ err : Int} (h : QAt c w s at_ err) (hk : Kept b w w') (hne : c ≠ b) : QAt c w' s at_ err := by
  unfold QAt; rw [hk.block c h.lt hne]; exact h
theorem RAt.kept {b c : Nat} {w w' : World} {s : ByteArray} {at_ err : Int} (h : RAt c w s at_ err) (hk : Kept b w w') (hne : c ≠ b) : RAt c w' s at_ err := by
  unfold RAt; rw [hk.block c h.lt hne]; exact h
set_option maxRecDepth 100000 in
set_option maxHeartbeats 1600000 in
theorem rcount_kept (b : Nat) (w : World) (s : ByteArray) (at_ most : Int) (h : RAt b w s at_ 0) (hs : s.size ≤ 1000000000) :
    Calls Try.prog 122 #[.pointer (some ⟨b, 0, none⟩), .int .i64 most] w fun e w' => e = .returned (.int .i64 (countF s at_ most).1) ∧ RAt b w' s (countF s at_ most).2.1 (countF s at_ most).2.2 ∧ Kept b w w' := by
  have hsm : s.size ≤ maxLen := by unfold maxLen; omega
  obtain ⟨v, n, er, hx⟩ : ∃ v n er, nextS s.data.toList at_ = (v, n, er) := ⟨_, _, _, rfl⟩
  have hlt := h.lt
  have CN := number_ok b w s at_ v n er h hsm hx
  by_cases her : er = 0
  rotate_left
  · have e0 : (er == 0) = false := beq_eq_false_iff_ne.2 her
    have hF : countF s at_ most = (0, at_, er) := by unfold countF; rw [hx]; simp [her]
    rw [hF]
    rw [e0] at CN
    clear hF hx
    go_enter Try.func122, Try.ntmps122
    go_wp2_with (go_at_call 115; refine CN.mono ?_; rintro e w1 ⟨rfl, w0, hb0, hw1⟩)
    go_ret
    exact ⟨rfl, (h.below hb0 hlt).at2 _, (Kept.of hb0).setCell _ _⟩
  subst her
  rw [show ((0 : Int) == 0) = true from rfl] at CN
  obtain ⟨i, m, X, rfl, rfl, rfl, hm1, hle, _, hX, _⟩ := next_ok hx
  rw [str_len] at hle
  by_cases ho : most < (X : Int)
  · skip
    have d1 : decide (most < (X : Int)) = true := decide_eq_true ho
    have hF : countF s (i : Int) most = (0, (i : Int), 4) := by unfold countF; rw [hx]; simp [ho]
    rw [hF]
    clear hF hx
    go_enter Try.func122, Try.ntmps122
    go_wp2_with (go_at_call 115; refine CN.mono ?_; rintro e w1 ⟨rfl, w0, hb0, hw1⟩; have h1 : RAt b w1 s (i : Int) 0 := (by rw [hw1]; exact (h.below hb0 hlt).at2 _); have hbB : Kept b w w1 := (by rw [hw1]; exact (Kept.of hb0).setCell _ _); clear hw1; have c0 := h1.c0; have c1 := h1.c1; have c2 := h1.c2; have f1 := h1.fr 1; have f2 := h1.fr 2)
    go_ret
    exact ⟨rfl, h1.at2 _, hbB.setCell _ _⟩
  · skip
    have d1 : decide (most < (X : Int)) = false := decide_eq_false ho
    have hF : countF s (i : Int) most = ((X : Int), ((i + m : Nat) : Int), 0) := by unfold countF; rw [hx]; simp [ho]
    rw [hF]
    clear hF hx
    go_enter Try.func122, Try.ntmps122
    go_wp2_with (go_at_call 115; refine CN.mono ?_; rintro e w1 ⟨rfl, w0, hb0, hw1⟩; have h1 : RAt b w1 s (i : Int) 0 := (by rw [hw1]; exact (h.below hb0 hlt).at2 _); have hbB : Kept b w w1 := (by rw [hw1]; exact (Kept.of hb0).setCell _ _); clear hw1; have c0 := h1.c0; have c1 := h1.c1; have c2 := h1.c2; have f1 := h1.fr 1; have f2 := h1.fr 2)
    go_ret
    exact ⟨rfl, h1.at1 _, hbB.setCell _ _⟩
set_option maxRecDepth 100000 in
set_option maxHeartbeats 1600000 in
theorem rtext_kept (b : Nat) (w : World) (s : ByteArray) (at_ most : Int) (h : RAt b w s at_ 0) (hs : s.size ≤ 1000000000) :
    Calls Try.prog 103 #[.pointer (some ⟨b, 0, none⟩), .int .i64 most] w fun e w' => e = .returned (.string (textF s at_ most).1) ∧ RAt b w' s (textF s at_ most).2.1 (textF s at_ most).2.2 ∧ Kept b w w' := by
  have hsm : s.size ≤ maxLen := by unfold maxLen; omega
  obtain ⟨v, n, er, hx⟩ : ∃ v n er, nextS s.data.toList at_ = (v, n, er) := ⟨_, _, _, rfl⟩
  have hlt := h.lt
  have CN := number_ok b w s at_ v n er h hsm hx
  by_cases her : er = 0
  rotate_left
  · have e0 : (er == 0) = false := beq_eq_false_iff_ne.2 her
    have hF : textF s at_ most = (⟨#[]⟩, at_, er) := by unfold textF; rw [hx]; simp [her]
    rw [hF]
    rw [e0] at CN
    clear hF hx
    go_enter Try.func103, Try.ntmps103
    go_wp2_with (go_at_call 115; refine CN.mono ?_; rintro e w1 ⟨rfl, w0, hb0, hw1⟩)
    go_ret
    exact ⟨rfl, (h.below hb0 hlt).at2 _, (Kept.of hb0).setCell _ _⟩
  subst her
  rw [show ((0 : Int) == 0) = true from rfl] at CN
  obtain ⟨i, m, X, rfl, rfl, rfl, hm1, hle, _, hX, _⟩ := next_ok hx
  rw [str_len] at hle
  by_cases ho : most < (X : Int)
  · skip
    have d1 : decide (most < (X : Int)) = true := decide_eq_true ho
    have hF : textF s (i : Int) most = (⟨#[]⟩, (i : Int), 4) := by unfold textF; rw [hx]; simp [ho]
    rw [hF]
    clear hF hx
    go_enter Try.func103, Try.ntmps103
    go_wp2_with (go_at_call 115; refine CN.mono ?_; rintro e w1 ⟨rfl, w0, hb0, hw1⟩; have h1 : RAt b w1 s (i : Int) 0 := (by rw [hw1]; exact (h.below hb0 hlt).at2 _); have hbB : Kept b w w1 := (by rw [hw1]; exact (Kept.of hb0).setCell _ _); clear hw1; have c0 := h1.c0; have c1 := h1.c1; have c2 := h1.c2; have f1 := h1.fr 1; have f2 := h1.fr 2)
    go_ret
    exact ⟨rfl, h1.at2 _, hbB.setCell _ _⟩
  have d1 : decide (most < (X : Int)) = false := decide_eq_false ho
  by_cases hq : (s.size : Int) - ((i + m : Nat) : Int) < (X : Int)
  · skip
    have hF : textF s (i : Int) most = (⟨#[]⟩, (i : Int), 2) := by unfold textF; rw [hx]; rw [if_pos rfl, if_neg ho, if_pos hq]
    rw [hF]
    clear hF hx
    go_enter Try.func103, Try.ntmps103
    go_wp2_with (go_at_call 115; refine CN.mono ?_; rintro e w1 ⟨rfl, w0, hb0, hw1⟩; have h1 : RAt b w1 s (i : Int) 0 := (by rw [hw1]; exact (h.below hb0 hlt).at2 _); have hbB : Kept b w w1 := (by rw [hw1]; exact (Kept.of hb0).setCell _ _); clear hw1; have c0 := h1.c0; have c1 := h1.c1; have c2 := h1.c2; have f1 := h1.fr 1; have f2 := h1.fr 2)
    go_ret
    exact ⟨rfl, h1.at2 _, hbB.setCell _ _⟩
  · skip
    have hF : textF s (i : Int) most = (s.extract (i + m) (i + m + X), ((i + m : Nat) : Int) + (X : Int), 0) := by unfold textF; rw [hx]; rw [if_pos rfl, if_neg ho, if_neg hq]; simp only [Int.toNat_natCast]; rw [show (((i + m : Nat) : Int) + (X : Int)).toNat = i + m + X by omega]
    rw [hF]
    clear hF hx
    go_enter Try.func103, Try.ntmps103
    go_wp2_with (go_at_call 115; refine CN.mono ?_; rintro e w1 ⟨rfl, w0, hb0, hw1⟩; have h1 : RAt b w1 s (i : Int) 0 := (by rw [hw1]; exact (h.below hb0 hlt).at2 _); have hbB : Kept b w w1 := (by rw [hw1]; exact (Kept.of hb0).setCell _ _); clear hw1; have c0 := h1.c0; have c1 := h1.c1; have c2 := h1.c2; have f1 := h1.fr 1; have f2 := h1.fr 2)
    refine wp_nameR _ (fun W hW => ?_)
    have hR : RAt b W s (((i + m : Nat) : Int) + (X : Int)) 0 := by rw [hW]; exact h1.at1 _
    have hbW : Kept b w W := by rw [hW]; exact hbB.setCell _ _
    clear hW
    have d0 := hR.c0; have d1 := hR.c1
    have b1 : ((i : Int) + (m : Int)) + (X : Int) ≤ (s.size : Int) := by omega
    have b2 : (i : Int) + (m : Int) ≤ ((i : Int) + (m : Int)) + (X : Int) := by omega
    go_quiet (fail)
    go_wp2
    go_ret
    exact ⟨rfl, hR, hbW.trans (Kept.of (drewN_below _ _))⟩
end Go.Proofs.Ythipnkbfdkmhaaa
namespace Go.Proofs.Ythipnkbfdkmhaaa
open Go.RowKit
attribute [local go_sem] strV
theorem Kept.setRow {b g : Nat} {w w1 : World} (h : Kept b w w1) (hg : w.heap.size ≤ g) (cs : Array Value) : Kept b w (w1.setRow g cs) :=
  ⟨h.os, h.tape, h.output, by simpa [World.setRow] using h.size, fun k hk hne => (setRow_other w1 g k cs (by omega)).trans (h.block k hk hne)⟩
set_option maxRecDepth 100000 in
set_option maxHeartbeats 1600000 in
theorem rnum_kept (b : Nat) (w : World) (s : ByteArray) (at_ least most : Int) (h : RAt b w s at_ 0) (hs : s.size ≤ maxLen) :
    Calls Try.prog 78 #[.pointer (some ⟨b, 0, none⟩), .int .i64 least, .int .i64 most] w fun e w' => e = .returned (.int .i64 (numF s at_ least most).1) ∧ RAt b w' s (numF s at_ least most).2.1 (numF s at_ least most).2.2 ∧ Kept b w w' := by
  obtain ⟨v, n, er, hx⟩ : ∃ v n er, nextS s.data.toList at_ = (v, n, er) := ⟨_, _, _, rfl⟩
  have hlt := h.lt
  have fin : ∀ (R A E : Int), numF s at_ least most = (R, A, E) → (Calls Try.prog 78 #[.pointer (some ⟨b, 0, none⟩), .int .i64 least, .int .i64 most] w fun e w' => e = .returned (.int .i64 R) ∧ RAt b w' s A E ∧ Kept b w w') →
      Calls Try.prog 78 #[.pointer (some ⟨b, 0, none⟩), .int .i64 least, .int .i64 most] w fun e w' => e = .returned (.int .i64 (numF s at_ least most).1) ∧ RAt b w' s (numF s at_ least most).2.1 (numF s at_ least most).2.2 ∧ Kept b w w' := fun R A E hf hc => by rw [hf]; exact hc
  have CN := number_ok b w s at_ v n er h hs hx
  by_cases her : er = 0
  rotate_left
  · have e0 : (er == 0) = false := beq_eq_false_iff_ne.2 her
    refine fin _ _ _ (numF_err hx her) ?_
    rw [e0] at CN
    clear fin hx
    go_enter Try.func78, Try.ntmps78
    go_wp2_with (go_at_call 115; refine CN.mono ?_; rintro e w1 ⟨rfl, w0, hb0, hw1⟩)
    go_ret
    exact ⟨rfl, (h.below hb0 hlt).at2 _, (Kept.of hb0).setCell _ _⟩
  subst her
  rw [show ((0 : Int) == 0) = true from rfl] at CN
  by_cases ho : v < least ∨ most < v
  · refine fin _ _ _ (numF_out hx ho) ?_
    clear fin hx
    obtain ⟨c1, hc1⟩ : ∃ c, decide (v < least) = c := ⟨_, rfl⟩
    have hd2 : c1 = false → decide (most < v) = true := fun e => decide_eq_true (by
      rcases ho with h1 | h1
      · rw [decide_eq_true h1] at hc1; rw [← hc1] at e; cases e
      · exact h1)
    cases c1
    · have d2 := hd2 rfl
      clear hd2 ho
      go_enter Try.func78, Try.ntmps78
      go_wp2_with (go_at_call 115; refine CN.mono ?_; rintro e w1 ⟨rfl, w0, hb0, hw1⟩; have h1 : RAt b w1 s at_ 0 := (by rw [hw1]; exact (h.below hb0 hlt).at2 _); have c2 := h1.c2; have f2 := h1.fr 2; have hbB : Kept b w w1 := (by rw [hw1]; exact (Kept.of hb0).setCell _ _); clear hw1)
      go_ret
      exact ⟨rfl, h1.at2 _, hbB.setCell _ _⟩
    · clear hd2 ho
      go_enter Try.func78, Try.ntmps78
      go_wp2_with (go_at_call 115; refine CN.mono ?_; rintro e w1 ⟨rfl, w0, hb0, hw1⟩; have h1 : RAt b w1 s at_ 0 := (by rw [hw1]; exact (h.below hb0 hlt).at2 _); have c2 := h1.c2; have f2 := h1.fr 2; have hbB : Kept b w w1 := (by rw [hw1]; exact (Kept.of hb0).setCell _ _); clear hw1)
      go_ret
      exact ⟨rfl, h1.at2 _, hbB.setCell _ _⟩
  · refine fin _ _ _ (numF_in hx ho) ?_
    have d1 : decide (v < least) = false := decide_eq_false (by omega)
    have d2 : decide (most < v) = false := decide_eq_false (by omega)
    clear fin hx ho
    go_enter Try.func78, Try.ntmps78
    go_wp2_with (go_at_call 115; refine CN.mono ?_; rintro e w1 ⟨rfl, w0, hb0, hw1⟩; have h1 : RAt b w1 s at_ 0 := (by rw [hw1]; exact (h.below hb0 hlt).at2 _); have c1 := h1.c1; have f1 := h1.fr 1; have hbB : Kept b w w1 := (by rw [hw1]; exact (Kept.of hb0).setCell _ _); clear hw1)
    go_ret
    exact ⟨rfl, h1.at1 _, hbB.setCell _ _⟩
set_option maxRecDepth 100000 in
set_option maxHeartbeats 1600000 in
theorem rhash_short_kept (b : Nat) (w : World) (s : ByteArray) (at_ : Int) (h : RAt b w s at_ 0) (hs : s.size ≤ 1000000000) (ha : 0 ≤ at_) (ha2 : at_ ≤ s.size) (hq : (s.size : Int) - at_ < 32) :
    Calls Try.prog 101 #[.pointer (some ⟨b, 0, none⟩)] w fun e w' => e = .returned (.agg #[.int .u8 0, .int .u8 0, .int .u8 0, .int .u8 0, .int .u8 0, .int .u8 0, .int .u8 0, .int .u8 0, .int .u8 0, .int .u8 0, .int .u8 0, .int .u8 0, .int .u8 0, .int .u8 0, .int .u8 0, .int .u8 0, .int .u8 0, .int .u8 0, .int .u8 0, .int .u8 0, .int .u8 0, .int .u8 0, .int .u8 0, .int .u8 0, .int .u8 0, .int .u8 0, .int .u8 0, .int .u8 0, .int .u8 0, .int .u8 0, .int .u8 0, .int .u8 0]) ∧ RAt b w' s at_ 2 ∧ Kept b w w' := by
  have c0 := h.c0; have c1 := h.c1; have c2 := h.c2
  have hlt := h.lt
  have _ := hs; have _ := ha
  have g0 : ((w.alloc (.cells #[.int .u8 0, .int .u8 0, .int .u8 0, .int .u8 0, .int .u8 0, .int .u8 0, .int .u8 0, .int .u8 0, .int .u8 0, .int .u8 0, .int .u8 0, .int .u8 0, .int .u8 0, .int .u8 0, .int .u8 0, .int .u8 0, .int .u8 0, .int .u8 0, .int .u8 0, .int .u8 0, .int .u8 0, .int .u8 0, .int .u8 0, .int .u8 0, .int .u8 0, .int .u8 0, .int .u8 0, .int .u8 0, .int .u8 0, .int .u8 0, .int .u8 0, .int .u8 0] 23)).alloc (.cells #[.int .u8 0, .int .u8 0, .int .u8 0, .int .u8 0, .int .u8 0, .int .u8 0, .int .u8 0, .int .u8 0, .int .u8 0, .int .u8 0, .int .u8 0, .int .u8 0, .int .u8 0, .int .u8 0, .int .u8 0, .int .u8 0, .int .u8 0, .int .u8 0, .int .u8 0, .int .u8 0, .int .u8 0, .int .u8 0, .int .u8 0, .int .u8 0, .int .u8 0, .int .u8 0, .int .u8 0, .int .u8 0, .int .u8 0, .int .u8 0, .int .u8 0, .int .u8 0] 23)).heap[w.heap.size]? = some (.cells #[.int .u8 0, .int .u8 0, .int .u8 0, .int .u8 0, .int .u8 0, .int .u8 0, .int .u8 0, .int .u8 0, .int .u8 0, .int .u8 0, .int .u8 0, .int .u8 0, .int .u8 0, .int .u8 0, .int .u8 0, .int .u8 0, .int .u8 0, .int .u8 0, .int .u8 0, .int .u8 0, .int .u8 0, .int .u8 0, .int .u8 0, .int .u8 0, .int .u8 0, .int .u8 0, .int .u8 0, .int .u8 0, .int .u8 0, .int .u8 0, .int .u8 0, .int .u8 0] 23 (0, 0)) := by
    show ((w.heap.push _).push _)[w.heap.size]? = _
    rw [Array.getElem?_push_lt (by simp), ← Array.getElem?_eq_getElem (by simp), Array.getElem?_push_size]
  have g1 : ((w.alloc (.cells #[.int .u8 0, .int .u8 0, .int .u8 0, .int .u8 0, .int .u8 0, .int .u8 0, .int .u8 0, .int .u8 0, .int .u8 0, .int .u8 0, .int .u8 0, .int .u8 0, .int .u8 0, .int .u8 0, .int .u8 0, .int .u8 0, .int .u8 0, .int .u8 0, .int .u8 0, .int .u8 0, .int .u8 0, .int .u8 0, .int .u8 0, .int .u8 0, .int .u8 0, .int .u8 0, .int .u8 0, .int .u8 0, .int .u8 0, .int .u8 0, .int .u8 0, .int .u8 0] 23)).alloc (.cells #[.int .u8 0, .int .u8 0, .int .u8 0, .int .u8 0, .int .u8 0, .int .u8 0, .int .u8 0, .int .u8 0, .int .u8 0, .int .u8 0, .int .u8 0, .int .u8 0, .int .u8 0, .int .u8 0, .int .u8 0, .int .u8 0, .int .u8 0, .int .u8 0, .int .u8 0, .int .u8 0, .int .u8 0, .int .u8 0, .int .u8 0, .int .u8 0, .int .u8 0, .int .u8 0, .int .u8 0, .int .u8 0, .int .u8 0, .int .u8 0, .int .u8 0, .int .u8 0] 23)).heap[w.heap.size + 1]? = some (.cells #[.int .u8 0, .int .u8 0, .int .u8 0, .int .u8 0, .int .u8 0, .int .u8 0, .int .u8 0, .int .u8 0, .int .u8 0, .int .u8 0, .int .u8 0, .int .u8 0, .int .u8 0, .int .u8 0, .int .u8 0, .int .u8 0, .int .u8 0, .int .u8 0, .int .u8 0, .int .u8 0, .int .u8 0, .int .u8 0, .int .u8 0, .int .u8 0, .int .u8 0, .int .u8 0, .int .u8 0, .int .u8 0, .int .u8 0, .int .u8 0, .int .u8 0, .int .u8 0] 23 (0, 0)) := by
    show ((w.heap.push _).push _)[w.heap.size + 1]? = _
    rw [show w.heap.size + 1 = (w.heap.push (Obj.cells #[.int .u8 0, .int .u8 0, .int .u8 0, .int .u8 0, .int .u8 0, .int .u8 0, .int .u8 0, .int .u8 0, .int .u8 0, .int .u8 0, .int .u8 0, .int .u8 0, .int .u8 0, .int .u8 0, .int .u8 0, .int .u8 0, .int .u8 0, .int .u8 0, .int .u8 0, .int .u8 0, .int .u8 0, .int .u8 0, .int .u8 0, .int .u8 0, .int .u8 0, .int .u8 0, .int .u8 0, .int .u8 0, .int .u8 0, .int .u8 0, .int .u8 0, .int .u8 0] 23 (0, 0))).size by simp, Array.getElem?_push_size]
  have hall : (#[.int .u8 0, .int .u8 0, .int .u8 0, .int .u8 0, .int .u8 0, .int .u8 0, .int .u8 0, .int .u8 0, .int .u8 0, .int .u8 0, .int .u8 0, .int .u8 0, .int .u8 0, .int .u8 0, .int .u8 0, .int .u8 0, .int .u8 0, .int .u8 0, .int .u8 0, .int .u8 0, .int .u8 0, .int .u8 0, .int .u8 0, .int .u8 0, .int .u8 0, .int .u8 0, .int .u8 0, .int .u8 0, .int .u8 0, .int .u8 0, .int .u8 0, .int .u8 0] : Array Value).all (·.oneCell') = true := by kernel_rfl
  have q1 : decide ((s.size : Int) - at_ < 32) = true := decide_eq_true hq
  have hb2 : Below w.heap.size w ((w.alloc (.cells #[.int .u8 0, .int .u8 0, .int .u8 0, .int .u8 0, .int .u8 0, .int .u8 0, .int .u8 0, .int .u8 0, .int .u8 0, .int .u8 0, .int .u8 0, .int .u8 0, .int .u8 0, .int .u8 0, .int .u8 0, .int .u8 0, .int .u8 0, .int .u8 0, .int .u8 0, .int .u8 0, .int .u8 0, .int .u8 0, .int .u8 0, .int .u8 0, .int .u8 0, .int .u8 0, .int .u8 0, .int .u8 0, .int .u8 0, .int .u8 0, .int .u8 0, .int .u8 0] 23)).alloc (.cells #[.int .u8 0, .int .u8 0, .int .u8 0, .int .u8 0, .int .u8 0, .int .u8 0, .int .u8 0, .int .u8 0, .int .u8 0, .int .u8 0, .int .u8 0, .int .u8 0, .int .u8 0, .int .u8 0, .int .u8 0, .int .u8 0, .int .u8 0, .int .u8 0, .int .u8 0, .int .u8 0, .int .u8 0, .int .u8 0, .int .u8 0, .int .u8 0, .int .u8 0, .int .u8 0, .int .u8 0, .int .u8 0, .int .u8 0, .int .u8 0, .int .u8 0, .int .u8 0] 23)) := Below.alloc (Below.alloc (Below.refl _ _) (by simp) _) (by simp) _
  go_enter Try.func101, Try.ntmps101
  go_wp2
  refine wp_nameR _ (fun W hW => ?_)
  have hR : RAt b W s at_ 0 := by rw [hW]; exact h.below hb2 hlt
  have hBW : Below w.heap.size w W := by rw [hW]; exact hb2
  have z0 : W.heap[w.heap.size]? = some (.cells #[.int .u8 0, .int .u8 0, .int .u8 0, .int .u8 0, .int .u8 0, .int .u8 0, .int .u8 0, .int .u8 0, .int .u8 0, .int .u8 0, .int .u8 0, .int .u8 0, .int .u8 0, .int .u8 0, .int .u8 0, .int .u8 0, .int .u8 0, .int .u8 0, .int .u8 0, .int .u8 0, .int .u8 0, .int .u8 0, .int .u8 0, .int .u8 0, .int .u8 0, .int .u8 0, .int .u8 0, .int .u8 0, .int .u8 0, .int .u8 0, .int .u8 0, .int .u8 0] 23 (0, 0)) := by rw [hW]; exact g0
  have z1 : W.heap[w.heap.size + 1]? = some (.cells #[.int .u8 0, .int .u8 0, .int .u8 0, .int .u8 0, .int .u8 0, .int .u8 0, .int .u8 0, .int .u8 0, .int .u8 0, .int .u8 0, .int .u8 0, .int .u8 0, .int .u8 0, .int .u8 0, .int .u8 0, .int .u8 0, .int .u8 0, .int .u8 0, .int .u8 0, .int .u8 0, .int .u8 0, .int .u8 0, .int .u8 0, .int .u8 0, .int .u8 0, .int .u8 0, .int .u8 0, .int .u8 0, .int .u8 0, .int .u8 0, .int .u8 0, .int .u8 0] 23 (0, 0)) := by rw [hW]; exact g1
  clear hW g0 g1 c0 c1 c2
  have c0 := hR.c0; have c1 := hR.c1; have c2 := hR.c2; have f2 := hR.fr 2
  go_quiet (fail)
  go_wp2_with (first | (refine wpList_loadRow rfl (.tmp 3) 23 rfl Try.underlying23 (by kernel_rfl) rfl (row_set z1 (by omega)) ?_) | (refine wpList_storeRow rfl (.tmp 2) (.tmp 24) 23 rfl (by kernel_rfl) rfl rfl (row_set z0 (by omega)) hall ?_))
  refine bodyPost_ret (v := .agg #[.int .u8 0, .int .u8 0, .int .u8 0, .int .u8 0, .int .u8 0, .int .u8 0, .int .u8 0, .int .u8 0, .int .u8 0, .int .u8 0, .int .u8 0, .int .u8 0, .int .u8 0, .int .u8 0, .int .u8 0, .int .u8 0, .int .u8 0, .int .u8 0, .int .u8 0, .int .u8 0, .int .u8 0, .int .u8 0, .int .u8 0, .int .u8 0, .int .u8 0, .int .u8 0, .int .u8 0, .int .u8 0, .int .u8 0, .int .u8 0, .int .u8 0, .int .u8 0]) ?_ rfl ?_
  · simp [results, Try.results101, Act.put, asAddr]
    exact run_loadVar_row _ _ 23 23 _ (0, 0) _ (row_set z0 (by omega)) Try.underlying23 rfl (by kernel_rfl)
  exact ⟨rfl, hR.at2 _, ((Kept.of hBW).trans (Kept.of (drewN_below _ _))).setCell _ _⟩
set_option maxRecDepth 100000 in
set_option maxHeartbeats 1600000 in
theorem rhash_ok_kept (b : Nat) (w : World) (s : ByteArray) (at_ : Int) (h : RAt b w s at_ 0) (hs : s.size ≤ 1000000000) (ha : 0 ≤ at_) (ha2 : at_ ≤ s.size) (hq : ¬ (s.size : Int) - at_ < 32) :
    Calls Try.prog 101 #[.pointer (some ⟨b, 0, none⟩)] w fun e w' => e = .returned (.agg (hrow (hashL s at_))) ∧ RAt b w' s (at_ + 32) 0 ∧ Kept b w w' := by
  have c0 := h.c0; have c1 := h.c1; have c2 := h.c2
  have hlt := h.lt
  have _ := hs; have _ := ha
  have g0 : ((w.alloc (.cells #[.int .u8 0, .int .u8 0, .int .u8 0, .int .u8 0, .int .u8 0, .int .u8 0, .int .u8 0, .int .u8 0, .int .u8 0, .int .u8 0, .int .u8 0, .int .u8 0, .int .u8 0, .int .u8 0, .int .u8 0, .int .u8 0, .int .u8 0, .int .u8 0, .int .u8 0, .int .u8 0, .int .u8 0, .int .u8 0, .int .u8 0, .int .u8 0, .int .u8 0, .int .u8 0, .int .u8 0, .int .u8 0, .int .u8 0, .int .u8 0, .int .u8 0, .int .u8 0] 23)).alloc (.cells #[.int .u8 0, .int .u8 0, .int .u8 0, .int .u8 0, .int .u8 0, .int .u8 0, .int .u8 0, .int .u8 0, .int .u8 0, .int .u8 0, .int .u8 0, .int .u8 0, .int .u8 0, .int .u8 0, .int .u8 0, .int .u8 0, .int .u8 0, .int .u8 0, .int .u8 0, .int .u8 0, .int .u8 0, .int .u8 0, .int .u8 0, .int .u8 0, .int .u8 0, .int .u8 0, .int .u8 0, .int .u8 0, .int .u8 0, .int .u8 0, .int .u8 0, .int .u8 0] 23)).heap[w.heap.size]? = some (.cells #[.int .u8 0, .int .u8 0, .int .u8 0, .int .u8 0, .int .u8 0, .int .u8 0, .int .u8 0, .int .u8 0, .int .u8 0, .int .u8 0, .int .u8 0, .int .u8 0, .int .u8 0, .int .u8 0, .int .u8 0, .int .u8 0, .int .u8 0, .int .u8 0, .int .u8 0, .int .u8 0, .int .u8 0, .int .u8 0, .int .u8 0, .int .u8 0, .int .u8 0, .int .u8 0, .int .u8 0, .int .u8 0, .int .u8 0, .int .u8 0, .int .u8 0, .int .u8 0] 23 (0, 0)) := by
    show ((w.heap.push _).push _)[w.heap.size]? = _
    rw [Array.getElem?_push_lt (by simp), ← Array.getElem?_eq_getElem (by simp), Array.getElem?_push_size]
  have g1 : ((w.alloc (.cells #[.int .u8 0, .int .u8 0, .int .u8 0, .int .u8 0, .int .u8 0, .int .u8 0, .int .u8 0, .int .u8 0, .int .u8 0, .int .u8 0, .int .u8 0, .int .u8 0, .int .u8 0, .int .u8 0, .int .u8 0, .int .u8 0, .int .u8 0, .int .u8 0, .int .u8 0, .int .u8 0, .int .u8 0, .int .u8 0, .int .u8 0, .int .u8 0, .int .u8 0, .int .u8 0, .int .u8 0, .int .u8 0, .int .u8 0, .int .u8 0, .int .u8 0, .int .u8 0] 23)).alloc (.cells #[.int .u8 0, .int .u8 0, .int .u8 0, .int .u8 0, .int .u8 0, .int .u8 0, .int .u8 0, .int .u8 0, .int .u8 0, .int .u8 0, .int .u8 0, .int .u8 0, .int .u8 0, .int .u8 0, .int .u8 0, .int .u8 0, .int .u8 0, .int .u8 0, .int .u8 0, .int .u8 0, .int .u8 0, .int .u8 0, .int .u8 0, .int .u8 0, .int .u8 0, .int .u8 0, .int .u8 0, .int .u8 0, .int .u8 0, .int .u8 0, .int .u8 0, .int .u8 0] 23)).heap[w.heap.size + 1]? = some (.cells #[.int .u8 0, .int .u8 0, .int .u8 0, .int .u8 0, .int .u8 0, .int .u8 0, .int .u8 0, .int .u8 0, .int .u8 0, .int .u8 0, .int .u8 0, .int .u8 0, .int .u8 0, .int .u8 0, .int .u8 0, .int .u8 0, .int .u8 0, .int .u8 0, .int .u8 0, .int .u8 0, .int .u8 0, .int .u8 0, .int .u8 0, .int .u8 0, .int .u8 0, .int .u8 0, .int .u8 0, .int .u8 0, .int .u8 0, .int .u8 0, .int .u8 0, .int .u8 0] 23 (0, 0)) := by
    show ((w.heap.push _).push _)[w.heap.size + 1]? = _
    rw [show w.heap.size + 1 = (w.heap.push (Obj.cells #[.int .u8 0, .int .u8 0, .int .u8 0, .int .u8 0, .int .u8 0, .int .u8 0, .int .u8 0, .int .u8 0, .int .u8 0, .int .u8 0, .int .u8 0, .int .u8 0, .int .u8 0, .int .u8 0, .int .u8 0, .int .u8 0, .int .u8 0, .int .u8 0, .int .u8 0, .int .u8 0, .int .u8 0, .int .u8 0, .int .u8 0, .int .u8 0, .int .u8 0, .int .u8 0, .int .u8 0, .int .u8 0, .int .u8 0, .int .u8 0, .int .u8 0, .int .u8 0] 23 (0, 0))).size by simp, Array.getElem?_push_size]
  have q1 : decide ((s.size : Int) - at_ < 32) = false := decide_eq_false hq
  have hb2 : Below w.heap.size w ((w.alloc (.cells #[.int .u8 0, .int .u8 0, .int .u8 0, .int .u8 0, .int .u8 0, .int .u8 0, .int .u8 0, .int .u8 0, .int .u8 0, .int .u8 0, .int .u8 0, .int .u8 0, .int .u8 0, .int .u8 0, .int .u8 0, .int .u8 0, .int .u8 0, .int .u8 0, .int .u8 0, .int .u8 0, .int .u8 0, .int .u8 0, .int .u8 0, .int .u8 0, .int .u8 0, .int .u8 0, .int .u8 0, .int .u8 0, .int .u8 0, .int .u8 0, .int .u8 0, .int .u8 0] 23)).alloc (.cells #[.int .u8 0, .int .u8 0, .int .u8 0, .int .u8 0, .int .u8 0, .int .u8 0, .int .u8 0, .int .u8 0, .int .u8 0, .int .u8 0, .int .u8 0, .int .u8 0, .int .u8 0, .int .u8 0, .int .u8 0, .int .u8 0, .int .u8 0, .int .u8 0, .int .u8 0, .int .u8 0, .int .u8 0, .int .u8 0, .int .u8 0, .int .u8 0, .int .u8 0, .int .u8 0, .int .u8 0, .int .u8 0, .int .u8 0, .int .u8 0, .int .u8 0, .int .u8 0] 23)) := Below.alloc (Below.alloc (Below.refl _ _) (by simp) _) (by simp) _
  go_enter Try.func101, Try.ntmps101
  go_wp2
  refine wp_nameR _ (fun W hW => ?_)
  have hR : RAt b W s at_ 0 := by rw [hW]; exact h.below hb2 hlt
  have hBW : Below w.heap.size w W := by rw [hW]; exact hb2
  have z0 : W.heap[w.heap.size]? = some (.cells #[.int .u8 0, .int .u8 0, .int .u8 0, .int .u8 0, .int .u8 0, .int .u8 0, .int .u8 0, .int .u8 0, .int .u8 0, .int .u8 0, .int .u8 0, .int .u8 0, .int .u8 0, .int .u8 0, .int .u8 0, .int .u8 0, .int .u8 0, .int .u8 0, .int .u8 0, .int .u8 0, .int .u8 0, .int .u8 0, .int .u8 0, .int .u8 0, .int .u8 0, .int .u8 0, .int .u8 0, .int .u8 0, .int .u8 0, .int .u8 0, .int .u8 0, .int .u8 0] 23 (0, 0)) := by rw [hW]; exact g0
  have z1 : W.heap[w.heap.size + 1]? = some (.cells #[.int .u8 0, .int .u8 0, .int .u8 0, .int .u8 0, .int .u8 0, .int .u8 0, .int .u8 0, .int .u8 0, .int .u8 0, .int .u8 0, .int .u8 0, .int .u8 0, .int .u8 0, .int .u8 0, .int .u8 0, .int .u8 0, .int .u8 0, .int .u8 0, .int .u8 0, .int .u8 0, .int .u8 0, .int .u8 0, .int .u8 0, .int .u8 0, .int .u8 0, .int .u8 0, .int .u8 0, .int .u8 0, .int .u8 0, .int .u8 0, .int .u8 0, .int .u8 0] 23 (0, 0)) := by rw [hW]; exact g1
  clear hW g0 g1 c0 c1 c2
  have c0 := hR.c0; have c1 := hR.c1; have c2 := hR.c2; have f1 := hR.fr 1
  go_quiet (fail)
  go_wp2
  refine wp_nameR _ (fun V hV => ?_)
  have hV0 : V.heap = W.heap := by rw [hV]; rfl
  have hRV : RAt b V s at_ 0 := by unfold RAt; rw [hV0]; exact hR
  have hBV : Below w.heap.size w V := by rw [hV]; exact hBW.trans ((drewN_below _ _).mono (by have := hBW.size; omega))
  rw [← hV0] at z0 z1
  clear hV c0 c1 c2 f1
  have c0 := hRV.c0; have c1 := hRV.c1; have c2 := hRV.c2; have f1 := hRV.fr 1
  have b1 : at_ ≤ (s.size : Int) := ha2
  have hsz : (hrow (hashL s at_)).size = 32 := by rw [hrow_size]; exact hashL_len s at_ ha (by omega)
  have hone := hrow_one (hashL s at_)
  have e1 : IntKind.i64.wrap (at_ + 32) = at_ + 32 := by exact IntWalk.i64_in _ (by omega)
  go_region_law (refine step_copy_text rfl (.tmp 29) (.tmp 38) 125 9 rfl 5 Try.underlying125 (by kernel_rfl) (w.heap.size + 1) 32 32 (by simp [Act.eval, Act.put]) (s.extract at_.toNat s.size) (by simp [Act.eval, Act.put]) #[.int .u8 0, .int .u8 0, .int .u8 0, .int .u8 0, .int .u8 0, .int .u8 0, .int .u8 0, .int .u8 0, .int .u8 0, .int .u8 0, .int .u8 0, .int .u8 0, .int .u8 0, .int .u8 0, .int .u8 0, .int .u8 0, .int .u8 0, .int .u8 0, .int .u8 0, .int .u8 0, .int .u8 0, .int .u8 0, .int .u8 0, .int .u8 0, .int .u8 0, .int .u8 0, .int .u8 0, .int .u8 0, .int .u8 0, .int .u8 0, .int .u8 0, .int .u8 0] 23 z1 rfl (by simp; omega) w.heap.size w (hBV.trans ((drewN_below _ 1).mono (by have := hBV.size; omega))) (by omega) ?_; intro w4 hg4 hb4 hk4; have hR4 : RAt b w4 s at_ 0 := (by unfold RAt; rw [hk4 b (by omega)]; exact hRV); have d1 := hR4.c1; have d2 := hR4.fr 1; have y0 : w4.heap[w.heap.size]? = some (.cells #[.int .u8 0, .int .u8 0, .int .u8 0, .int .u8 0, .int .u8 0, .int .u8 0, .int .u8 0, .int .u8 0, .int .u8 0, .int .u8 0, .int .u8 0, .int .u8 0, .int .u8 0, .int .u8 0, .int .u8 0, .int .u8 0, .int .u8 0, .int .u8 0, .int .u8 0, .int .u8 0, .int .u8 0, .int .u8 0, .int .u8 0, .int .u8 0, .int .u8 0, .int .u8 0, .int .u8 0, .int .u8 0, .int .u8 0, .int .u8 0, .int .u8 0, .int .u8 0] 23 (0, 0)) := (by rw [hk4 _ (by omega)]; exact z0); have hg5 : w4.heap[w.heap.size + 1]? = some (.cells (hrow (hashL s at_)) 23 (0, 0)) := (by rw [← hashL_eq]; exact hg4.out); clear hk4 hg4)
  all_goals (
    go_wp2_with (first | (refine wpList_loadRow rfl (.tmp 3) 23 rfl Try.underlying23 (by rw [hsz]; kernel_rfl) rfl (row_set hg5 (by omega)) ?_) | (refine wpList_storeRowTo rfl (.tmp 2) (.tmp 43) 23 rfl (by rw [hsz]; kernel_rfl) rfl rfl (row_set y0 (by omega)) (by rw [hsz]; rfl) hone ?_))
    refine bodyPost_ret (v := .agg (hrow (hashL s at_))) ?_ rfl ?_
    · simp [results, Try.results101, Act.put, asAddr]
      exact run_loadVar_row _ _ 23 23 _ (0, 0) _ (setRow_heap _ _ _ _ _ _ (row_set y0 (by omega))) Try.underlying23 rfl (by rw [hsz]; kernel_rfl)
    exact ⟨rfl, by unfold RAt; rw [setRow_other _ _ b _ (by omega)]; exact hR4.at1 _, ((Kept.of hb4).setCell _ _).setRow (by omega) _⟩)
end Go.Proofs.Ythipnkbfdkmhaaa
namespace Go.Proofs.Ythipnkbfdkmhaaa
open Go.RowKit
attribute [local go_sem] strV
def zrow : Array Value := #[.int .u8 0, .int .u8 0, .int .u8 0, .int .u8 0, .int .u8 0, .int .u8 0, .int .u8 0, .int .u8 0, .int .u8 0, .int .u8 0, .int .u8 0, .int .u8 0, .int .u8 0, .int .u8 0, .int .u8 0, .int .u8 0, .int .u8 0, .int .u8 0, .int .u8 0, .int .u8 0, .int .u8 0, .int .u8 0, .int .u8 0, .int .u8 0, .int .u8 0, .int .u8 0, .int .u8 0, .int .u8 0, .int .u8 0, .int .u8 0, .int .u8 0, .int .u8 0]
def numG (s : ByteArray) (at_ err least most : Int) : Int × Int × Int := if err = 0 then numF s at_ least most else (0, at_, err)
def countG (s : ByteArray) (at_ err most : Int) : Int × Int × Int := if err = 0 then countF s at_ most else (0, at_, err)
def textG (s : ByteArray) (at_ err most : Int) : ByteArray × Int × Int := if err = 0 then textF s at_ most else (⟨#[]⟩, at_, err)
def hashG (s : ByteArray) (at_ err : Int) : Array Value × Int × Int := if err = 0 then (if (s.size : Int) - at_ < 32 then (zrow, at_, 2) else (hrow (hashL s at_), at_ + 32, 0)) else (zrow, at_, err)
/-- Where a reader stands is within its text. -/
theorem numF_in_text {s : ByteArray} {at_ least most : Int} (h0 : 0 ≤ at_) (h1 : at_ ≤ s.size) : 0 ≤ (numF s at_ least most).2.1 ∧ (numF s at_ least most).2.1 ≤ s.size := by
  obtain ⟨v, n, er, hx⟩ : ∃ v n er, nextS s.data.toList at_ = (v, n, er) := ⟨_, _, _, rfl⟩
  by_cases he : er = 0
  · subst he
    by_cases ho : v < least ∨ most < v
    · rw [numF_out hx ho]; exact ⟨h0, h1⟩
    · rw [numF_in hx ho]
      obtain ⟨i, m, X, rfl, rfl, rfl, hm1, hle, _⟩ := next_ok hx
      rw [str_len] at hle
      exact ⟨by simp; omega, by simp; omega⟩
  · rw [numF_err hx he]; exact ⟨h0, h1⟩
theorem countF_in_text {s : ByteArray} {at_ most : Int} (h0 : 0 ≤ at_) (h1 : at_ ≤ s.size) : 0 ≤ (countF s at_ most).2.1 ∧ (countF s at_ most).2.1 ≤ s.size := by
  obtain ⟨v, n, er, hx⟩ : ∃ v n er, nextS s.data.toList at_ = (v, n, er) := ⟨_, _, _, rfl⟩
  unfold countF; rw [hx]
  by_cases he : er = 0
  · subst he
    obtain ⟨i, m, X, rfl, rfl, rfl, hm1, hle, _⟩ := next_ok hx
    rw [str_len] at hle
    simp only [if_pos trivial]
    split
    · exact ⟨h0, h1⟩
    · exact ⟨by simp; omega, by simp; omega⟩
  · simp only [if_neg he]; exact ⟨h0, h1⟩
theorem textF_in_text {s : ByteArray} {at_ most : Int} (h0 : 0 ≤ at_) (h1 : at_ ≤ s.size) : 0 ≤ (textF s at_ most).2.1 ∧ (textF s at_ most).2.1 ≤ s.size := by
  obtain ⟨v, n, er, hx⟩ : ∃ v n er, nextS s.data.toList at_ = (v, n, er) := ⟨_, _, _, rfl⟩
  unfold textF; rw [hx]
  by_cases he : er = 0
  · subst he
    obtain ⟨i, m, X, rfl, rfl, rfl, hm1, hle, _⟩ := next_ok hx
    rw [str_len] at hle
    simp only [if_pos trivial]
    split
    · exact ⟨h0, h1⟩
    · split
      · exact ⟨h0, h1⟩
      · exact ⟨by simp; omega, by simp; omega⟩
  · simp only [if_neg he]; exact ⟨h0, h1⟩
theorem numG_in {s : ByteArray} {at_ err least most : Int} (h : 0 ≤ at_ ∧ at_ ≤ s.size) : 0 ≤ (numG s at_ err least most).2.1 ∧ (numG s at_ err least most).2.1 ≤ s.size := by
  unfold numG; split
  · exact numF_in_text h.1 h.2
  · exact h
theorem countG_in {s : ByteArray} {at_ err most : Int} (h : 0 ≤ at_ ∧ at_ ≤ s.size) : 0 ≤ (countG s at_ err most).2.1 ∧ (countG s at_ err most).2.1 ≤ s.size := by
  unfold countG; split
  · exact countF_in_text h.1 h.2
  · exact h
theorem textG_in {s : ByteArray} {at_ err most : Int} (h : 0 ≤ at_ ∧ at_ ≤ s.size) : 0 ≤ (textG s at_ err most).2.1 ∧ (textG s at_ err most).2.1 ≤ s.size := by
  unfold textG; split
  · exact textF_in_text h.1 h.2
  · exact h
theorem hashG_in {s : ByteArray} {at_ err : Int} (h : 0 ≤ at_ ∧ at_ ≤ s.size) : 0 ≤ (hashG s at_ err).2.1 ∧ (hashG s at_ err).2.1 ≤ s.size := by
  unfold hashG; split
  · split
    · exact h
    · exact ⟨by simp; omega, by simp; omega⟩
  · exact h
theorem hashG_size {s : ByteArray} {at_ err : Int} (h : 0 ≤ at_ ∧ at_ ≤ s.size) : (hashG s at_ err).1.size = 32 := by
  unfold hashG; split
  · split
    · rfl
    · exact (hrow_size _).trans (hashL_len s at_ h.1 (by omega))
  · rfl
set_option maxRecDepth 100000 in
set_option maxHeartbeats 1600000 in
theorem qnum_err (b : Nat) (w : World) (s : ByteArray) (at_ err : Int) (least most : Int) (h : QAt b w s at_ err) (he : (err == 0) = false) :
    Calls Try.prog 65 #[.pointer (some ⟨b, 0, none⟩), .int .i64 least, .int .i64 most] w fun e w' => e = .returned (.int .i64 0) ∧ Below w.heap.size w w' := by
  have c0 := h.c0; have c1 := h.c1; have c2 := h.c2
  go_enter Try.func65, Try.ntmps65
  go_wp2
  go_returns
  exact ⟨rfl, by first | exact Below.refl _ _ | exact drewN_below _ _⟩
set_option maxRecDepth 100000 in
set_option maxHeartbeats 1600000 in
theorem qtext_err (b : Nat) (w : World) (s : ByteArray) (at_ err : Int) (most : Int) (h : QAt b w s at_ err) (he : (err == 0) = false) :
    Calls Try.prog 68 #[.pointer (some ⟨b, 0, none⟩), .int .i64 most] w fun e w' => e = .returned (.string ⟨#[]⟩) ∧ Below w.heap.size w w' := by
  have c0 := h.c0; have c1 := h.c1; have c2 := h.c2
  go_enter Try.func68, Try.ntmps68
  go_wp2
  go_returns
  exact ⟨rfl, by first | exact Below.refl _ _ | exact drewN_below _ _⟩
theorem rnum_all (b : Nat) (w : World) (s : ByteArray) (at_ err : Int) (least most : Int) (h : RAt b w s at_ err) (hs : s.size ≤ 1000000000) :
    Calls Try.prog 78 #[.pointer (some ⟨b, 0, none⟩), .int .i64 least, .int .i64 most] w fun e w' => e = .returned (.int .i64 (numG s at_ err least most).1) ∧ RAt b w' s (numG s at_ err least most).2.1 (numG s at_ err least most).2.2 ∧ Kept b w w' := by
  unfold numG
  by_cases he : err = 0
  · subst he
    rw [if_pos rfl]
    exact rnum_kept b w s at_ least most h (by unfold maxLen; omega)
  · rw [if_neg he]
    refine (rnum_err b w s at_ err least most h (beq_eq_false_iff_ne.2 he)).mono ?_
    rintro e w' ⟨rfl, hb⟩
    exact ⟨rfl, h.below hb h.lt, Kept.of hb⟩
theorem qnum_all (b : Nat) (w : World) (s : ByteArray) (at_ err : Int) (least most : Int) (h : QAt b w s at_ err) (hs : s.size ≤ 1000000000) :
    Calls Try.prog 65 #[.pointer (some ⟨b, 0, none⟩), .int .i64 least, .int .i64 most] w fun e w' => e = .returned (.int .i64 (numG s at_ err least most).1) ∧ QAt b w' s (numG s at_ err least most).2.1 (numG s at_ err least most).2.2 ∧ Below b w w' := by
  unfold numG
  by_cases he : err = 0
  · subst he
    rw [if_pos rfl]
    exact qnum_any b b w s at_ least most h hs (Nat.le_refl _)
  · rw [if_neg he]
    refine (qnum_err b w s at_ err least most h (beq_eq_false_iff_ne.2 he)).mono ?_
    rintro e w' ⟨rfl, hb⟩
    exact ⟨rfl, h.below hb h.lt, hb.mono (Nat.le_of_lt h.lt)⟩
theorem rcount_all (b : Nat) (w : World) (s : ByteArray) (at_ err : Int) (most : Int) (h : RAt b w s at_ err) (hs : s.size ≤ 1000000000) :
    Calls Try.prog 122 #[.pointer (some ⟨b, 0, none⟩), .int .i64 most] w fun e w' => e = .returned (.int .i64 (countG s at_ err most).1) ∧ RAt b w' s (countG s at_ err most).2.1 (countG s at_ err most).2.2 ∧ Kept b w w' := by
  unfold countG
  by_cases he : err = 0
  · subst he
    rw [if_pos rfl]
    exact rcount_kept b w s at_ most h hs
  · rw [if_neg he]
    refine (rcount_err b w s at_ err most h (beq_eq_false_iff_ne.2 he)).mono ?_
    rintro e w' ⟨rfl, hb⟩
    exact ⟨rfl, h.below hb h.lt, Kept.of hb⟩
theorem rtext_all (b : Nat) (w : World) (s : ByteArray) (at_ err : Int) (most : Int) (h : RAt b w s at_ err) (hs : s.size ≤ 1000000000) :
    Calls Try.prog 103 #[.pointer (some ⟨b, 0, none⟩), .int .i64 most] w fun e w' => e = .returned (.string (textG s at_ err most).1) ∧ RAt b w' s (textG s at_ err most).2.1 (textG s at_ err most).2.2 ∧ Kept b w w' := by
  unfold textG
  by_cases he : err = 0
  · subst he
    rw [if_pos rfl]
    exact rtext_kept b w s at_ most h hs
  · rw [if_neg he]
    refine (rtext_err b w s at_ err most h (beq_eq_false_iff_ne.2 he)).mono ?_
    rintro e w' ⟨rfl, hb⟩
    exact ⟨rfl, h.below hb h.lt, Kept.of hb⟩
theorem qtext_all (b : Nat) (w : World) (s : ByteArray) (at_ err : Int) (most : Int) (h : QAt b w s at_ err) (hs : s.size ≤ 1000000000) :
    Calls Try.prog 68 #[.pointer (some ⟨b, 0, none⟩), .int .i64 most] w fun e w' => e = .returned (.string (textG s at_ err most).1) ∧ QAt b w' s (textG s at_ err most).2.1 (textG s at_ err most).2.2 ∧ Below b w w' := by
  unfold textG
  by_cases he : err = 0
  · subst he
    rw [if_pos rfl]
    exact qtext_any b b w s at_ most h hs (Nat.le_refl _)
  · rw [if_neg he]
    refine (qtext_err b w s at_ err most h (beq_eq_false_iff_ne.2 he)).mono ?_
    rintro e w' ⟨rfl, hb⟩
    exact ⟨rfl, h.below hb h.lt, hb.mono (Nat.le_of_lt h.lt)⟩
theorem rhash_all (b : Nat) (w : World) (s : ByteArray) (at_ err : Int) (h : RAt b w s at_ err) (hs : s.size ≤ 1000000000) (hp : 0 ≤ at_ ∧ at_ ≤ s.size) :
    Calls Try.prog 101 #[.pointer (some ⟨b, 0, none⟩)] w fun e w' => e = .returned (.agg (hashG s at_ err).1) ∧ RAt b w' s (hashG s at_ err).2.1 (hashG s at_ err).2.2 ∧ Kept b w w' := by
  unfold hashG
  by_cases he : err = 0
  · subst he
    rw [if_pos rfl]
    by_cases hq : (s.size : Int) - at_ < 32
    · rw [if_pos hq]
      exact rhash_short_kept b w s at_ h hs hp.1 hp.2 hq
    · rw [if_neg hq]
      exact rhash_ok_kept b w s at_ h hs hp.1 hp.2 hq
  · rw [if_neg he]
    refine (rhash_err b w s at_ err h (beq_eq_false_iff_ne.2 he)).mono ?_
    rintro e w' ⟨rfl, hb⟩
    exact ⟨rfl, h.below hb h.lt, Kept.of hb⟩
theorem qhash_all (b : Nat) (w : World) (s : ByteArray) (at_ err : Int) (h : QAt b w s at_ err) (hs : s.size ≤ 1000000000) (hp : 0 ≤ at_ ∧ at_ ≤ s.size) :
    Calls Try.prog 66 #[.pointer (some ⟨b, 0, none⟩)] w fun e w' => e = .returned (.agg (hashG s at_ err).1) ∧ QAt b w' s (hashG s at_ err).2.1 (hashG s at_ err).2.2 ∧ Below b w w' := by
  unfold hashG
  by_cases he : err = 0
  · subst he
    rw [if_pos rfl]
    by_cases hq : (s.size : Int) - at_ < 32
    · rw [if_pos hq]
      exact qhash_short b b w s at_ (Nat.le_refl _) h hp.1 hp.2 hs hq
    · rw [if_neg hq]
      obtain ⟨i, rfl⟩ : ∃ i : Nat, at_ = i := ⟨at_.toNat, by omega⟩
      exact qhash_ok b b w s i h hs (Nat.le_refl _) (by omega)
  · rw [if_neg he]
    exact qhash_err b b w s at_ (Nat.le_refl _) err h (beq_eq_false_iff_ne.2 he)
end Go.Proofs.Ythipnkbfdkmhaaa
