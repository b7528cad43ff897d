/- The keys of a life.Table. -/
import Derived.Test.YtbckncopdkmoeaaCnK
import Derived.DeepKeys4
import Derived.Maps.OwnSet
import Derived.Maps.OwnOps
import Derived.Maps.OwnRows
import Derived.WalkKit
import Derived.ProofKit
import Derived.Handy
import Derived.Below
import Derived.Lib.Hide
import Derived.IntWalk
import Derived.Outline
import Derived.WalkLawsBesides
import Derived.WalkSpells
namespace Go.Proofs.Ytbckncopdkmoeaa
open Go.RowKit
attribute [local go_sem] strV
set_option linter.unusedVariables false
theorem lk_keyed : Maps.Keyed Try.prog 62 := Maps.Keyed.of_law (deep_law_laid laidOutC (m := 3) (by omega) (of_decide_eq_true (by kernel_rfl)) (by kernel_rfl) (by kernel_rfl))
theorem en_keyed : Maps.Keyed Try.prog 60 := Maps.Keyed.of_law (deep_law_laid laidOutC (m := 3) (by omega) (of_decide_eq_true (by kernel_rfl)) (by kernel_rfl) (by kernel_rfl))
/-- An end, a key. -/
structure Lk where
  po : ByteArray
  ch : Int
  ou : Bool
  sq : Int
def Lk.L (k : Lk) : List Value := [.string k.po, .int .i64 k.ch, .bool k.ou, .int .i64 k.sq]
def Lk.row (k : Lk) : Array Value := #[.string k.po, .int .i64 k.ch, .bool k.ou, .int .i64 k.sq]
def Lk.wf (k : Lk) : Prop := (Lit.int .i64 k.ch).wf = true ∧ (Lit.int .i64 k.sq).wf = true ∧ k.po.size ≤ maxLen
theorem lits_strL (n : Nat) {b : ByteArray} (hb : b.size ≤ maxLen) : Try.prog.keyLits (n + 1) 9 [.string b] = some [.string b.data.toList] := by
  unfold Program.keyLits
  rw [show Try.prog.underlying 9 = some .string by kernel_rfl]
  simp [hb]
theorem lits_boolL (n : Nat) (b : Bool) : Try.prog.keyLits (n + 1) 4 [.bool b] = some [.bool b] := by
  unfold Program.keyLits
  rw [show Try.prog.underlying 4 = some .bool by kernel_rfl]
theorem lits_endL (n : Nat) {p : ByteArray} {c : Int} (hp : p.size ≤ maxLen) (hc : (Lit.int .i64 c).wf = true) : Try.prog.keyLits (n + 2) 60 [.string p, .int .i64 c] = some [.string p.data.toList, .int .i64 c] := by
  have c1 : Try.prog.cellsOf 60 = 2 := by kernel_rfl
  have c2 : Try.prog.cellsOf 9 = 1 := by kernel_rfl
  have c3 : Try.prog.cellsOf 3 = 1 := by kernel_rfl
  unfold Program.keyLits
  rw [Try.underlying60]
  simp [c1, c2, c3, lits_strL n hp, lits_intC n hc]
def Lk.lit (k : Lk) : Lit := .string (keyBytes [.string k.po.data.toList, .int .i64 k.ch, .bool k.ou, .int .i64 k.sq])
def Lk.elit (k : Lk) : Lit := .string (keyBytes [.string k.po.data.toList, .int .i64 k.ch])
def Lk.erow (k : Lk) : Array Value := #[.string k.po, .int .i64 k.ch]
set_option maxRecDepth 100000 in
theorem Lk.key {k : Lk} (hw : k.wf) : keyOf Try.prog 62 (.agg k.row) = some k.lit := by
  have hk : Try.prog.keyType 62 = true := by kernel_rfl
  have hf : (Value.agg k.row).formed Try.prog 62 = true := by
    unfold Value.formed
    rw [Try.underlying62]
    unfold Lk.row
    kernel_rfl
  unfold keyOf
  rw [Try.underlying62]
  simp only [hk, hf, Bool.and_self, if_true]
  have hsz : (Try.prog.types.size - 4 + 5 == Try.prog.types.size + 1) = true := by kernel_rfl
  obtain ⟨n, hn⟩ : ∃ n, Try.prog.types.size + 1 = n + 5 := ⟨Try.prog.types.size - 4, (beq_iff_eq.1 hsz).symm⟩
  rw [hn]
  have c1 : Try.prog.cellsOf 62 = 4 := by kernel_rfl
  have c2 : Try.prog.cellsOf 60 = 2 := by kernel_rfl
  have c3 : Try.prog.cellsOf 3 = 1 := by kernel_rfl
  have c4 : Try.prog.cellsOf 4 = 1 := by kernel_rfl
  have e1 : (Value.agg k.row).cells.toList = [.string k.po, .int .i64 k.ch, .bool k.ou, .int .i64 k.sq] := by
    unfold Lk.row; simp [Value.cells]
  have h1 : Try.prog.keyLits (n + 5) 62 (Value.agg k.row).cells.toList = some [.string k.po.data.toList, .int .i64 k.ch, .bool k.ou, .int .i64 k.sq] := by
    rw [e1]
    unfold Program.keyLits
    rw [Try.underlying62]
    simp [c1, c2, c3, c4, lits_endL (n + 2) hw.2.2 hw.1, lits_boolL (n + 3), lits_intC (n + 3) hw.2.1]
  rw [h1]; rfl
set_option maxRecDepth 100000 in
theorem Lk.ekey {k : Lk} (hw : k.wf) : keyOf Try.prog 60 (.agg k.erow) = some k.elit := by
  have hk : Try.prog.keyType 60 = true := by kernel_rfl
  have hf : (Value.agg k.erow).formed Try.prog 60 = true := by
    unfold Value.formed
    rw [Try.underlying60]
    unfold Lk.erow
    kernel_rfl
  unfold keyOf
  rw [Try.underlying60]
  simp only [hk, hf, Bool.and_self, if_true]
  have hsz : (Try.prog.types.size - 4 + 5 == Try.prog.types.size + 1) = true := by kernel_rfl
  obtain ⟨n, hn⟩ : ∃ n, Try.prog.types.size + 1 = n + 5 := ⟨Try.prog.types.size - 4, (beq_iff_eq.1 hsz).symm⟩
  rw [hn]
  have e1 : (Value.agg k.erow).cells.toList = [.string k.po, .int .i64 k.ch] := by
    unfold Lk.erow; simp [Value.cells]
  rw [e1, lits_endL (n + 3) hw.2.2 hw.1]; rfl
set_option maxRecDepth 100000 in
theorem Lk.lit_inj {x y : Lk} (hx : x.wf) (hy : y.wf) (h : x.lit = y.lit) : x = y := by
  have h1 := Lk.key hx
  rw [h] at h1
  have h2 := lk_keyed.inj h1 (Lk.key hy)
  unfold Lk.row at h2
  cases x; cases y
  simp at h2
  obtain ⟨rfl, rfl, rfl, rfl⟩ := h2
  rfl
theorem Lk.isKey {x : Lk} (h : x.wf) : WideAt.IsKeyLit x.lit := lk_keyed.key (Lk.key h)
theorem Lk.isEKey {x : Lk} (h : x.wf) : WideAt.IsKeyLit x.elit := en_keyed.key (Lk.ekey h)
end Go.Proofs.Ytbckncopdkmoeaa
