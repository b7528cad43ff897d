/- Headers as keys of a map. -/
import Derived.Test.YtbckncopdkmoeaaCn1
import Derived.DeepKeys4
import Derived.Maps.OwnSet
import Derived.Maps.OwnOps
import Derived.Maps.OwnRows
import Derived.WalkKit
import Derived.ProofKit
import Derived.Handy
import Derived.Below
import Derived.Lib.Hide
import Derived.IntWalk
import Derived.Outline
import Derived.WalkLawsBesides
import Derived.WalkSpells
namespace Go.Proofs.Ytbckncopdkmoeaa
open Go.RowKit
attribute [local go_sem] strV
set_option linter.unusedVariables false
theorem laidOutC : laidOutB Try.prog = true := by kernel_rfl
theorem hd_keyed : Maps.Keyed Try.prog 43 := Maps.Keyed.of_law (deep_law_laid laidOutC (m := 3) (by omega) (of_decide_eq_true (by kernel_rfl)) (by kernel_rfl) (by kernel_rfl))
theorem mapM_eq {α β : Type} (f : α → Option β) (g : α → β) : ∀ L : List α, (∀ x ∈ L, f x = some (g x)) → L.mapM f = some (L.map g) := by
  intro L
  induction L with
  | nil => intro _; rfl
  | cons x L ih =>
    intro h
    rw [List.mapM_cons, h x (List.mem_cons_self ..), ih (fun z hz => h z (List.mem_cons_of_mem _ hz))]
    rfl
def hashLits (q : H32) : List Lit := ((List.range 32).map fun i => [Lit.int .u8 ((q.1.getD i 0).toNat : Int)]).flatten
def Hd.lit (h : Hd) : Lit := .string (keyBytes ([.int .i64 h.ht, .int .i64 h.tm] ++ hashLits h.rt))
def Hd.wf (h : Hd) : Prop := (Lit.int .i64 h.ht).wf = true ∧ (Lit.int .i64 h.tm).wf = true
theorem lits_intC (n : Nat) {v : Int} (h : (Lit.int .i64 v).wf = true) : Try.prog.keyLits (n + 1) 3 [.int .i64 v] = some [.int .i64 v] := by
  unfold Program.keyLits
  rw [Try.underlying3]
  simp [h]
theorem lits_byte (n : Nat) (b : UInt8) : Try.prog.keyLits (n + 1) 5 [.int .u8 b.toNat] = some [.int .u8 b.toNat] := by
  unfold Program.keyLits
  rw [Try.underlying5]
  have h : (Lit.int .u8 b.toNat).wf = true := by
    have := b.toNat_lt
    unfold Lit.wf
    rw [Bool.and_eq_true, decide_eq_true_eq, decide_eq_true_eq]
    show (0 : Int) ≤ _ ∧ _ ≤ (255 : Int)
    omega
  simp [h]
theorem lits_hash (n : Nat) (q : H32) : Try.prog.keyLits (n + 2) 41 q.cells = some (hashLits q) := by
  have c1 : Try.prog.cellsOf 41 = 32 := by kernel_rfl
  have c2 : Try.prog.cellsOf 5 = 1 := by kernel_rfl
  unfold Program.keyLits
  rw [Try.underlying41]
  simp only [c1, c2, H32.cells_len, if_true]
  have hys := mapM_eq (fun i => Try.prog.keyLits (n + 1) 5 ((q.cells.drop (i * 1)).take 1)) (fun i => [Lit.int .u8 ((q.1.getD i 0).toNat : Int)]) (List.range 32) (fun i hi => by
    have hi := List.mem_range.1 hi
    have hl : i < q.1.length := by rw [q.2]; exact hi
    have e : (q.cells.drop (i * 1)).take 1 = [.int .u8 (q.1[i]).toNat] := by
      rw [Nat.mul_one]
      unfold H32.cells Lib.byteCells
      rw [← List.map_drop, ← List.map_take, List.drop_eq_getElem_cons hl]
      rfl
    rw [e, show q.1.getD i 0 = q.1[i] by rw [List.getD_eq_getElem?_getD, List.getElem?_eq_getElem hl]; rfl]
    exact lits_byte n _)
  rw [hys]
  rfl
set_option maxRecDepth 100000 in
theorem Hd.key {h : Hd} (hw : h.wf) : keyOf Try.prog 43 (.agg h.row) = some h.lit := by
  have hk : Try.prog.keyType 43 = true := by kernel_rfl
  have hf : (Value.agg h.row).formed Try.prog 43 = true := by
    unfold Value.formed
    rw [Try.underlying43]
    simp only [h.row_size]
    kernel_rfl
  unfold keyOf
  rw [Try.underlying43]
  simp only [hk, hf, Bool.and_self, if_true]
  have hsz : (Try.prog.types.size - 4 + 5 == Try.prog.types.size + 1) = true := by kernel_rfl
  obtain ⟨n, hn⟩ : ∃ n, Try.prog.types.size + 1 = n + 5 := ⟨Try.prog.types.size - 4, (beq_iff_eq.1 hsz).symm⟩
  rw [hn]
  have c1 : Try.prog.cellsOf 43 = 34 := by kernel_rfl
  have c2 : Try.prog.cellsOf 3 = 1 := by kernel_rfl
  have c3 : Try.prog.cellsOf 41 = 32 := by kernel_rfl
  have hls := lits_hash (n + 2) h.rt
  have e1 : (Value.agg h.row).cells.toList = .int .i64 h.ht :: .int .i64 h.tm :: h.rt.cells := by
    unfold Hd.row Hd.L hdL; simp [Value.cells]
  have h1 : Try.prog.keyLits (n + 5) 43 (Value.agg h.row).cells.toList = some ([.int .i64 h.ht, .int .i64 h.tm] ++ hashLits h.rt) := by
    rw [e1]
    unfold Program.keyLits
    rw [Try.underlying43]
    have e2 : (h.rt.cells).take 32 = h.rt.cells := List.take_of_length_le (by rw [H32.cells_len]; exact Nat.le_refl _)
    simp [c1, c2, c3, H32.cells_len, lits_intC (n + 3) hw.1, lits_intC (n + 3) hw.2, e2, hls]
  rw [h1]; rfl
set_option maxRecDepth 100000 in
theorem Hd.lit_inj {x y : Hd} (hx : x.wf) (hy : y.wf) (h : x.lit = y.lit) : x = y := by
  have h1 := Hd.key hx
  rw [h] at h1
  have := hd_keyed.inj h1 (Hd.key hy)
  exact Hd.row_inj (by injection this)
set_option maxRecDepth 100000 in
theorem Hd.isKey {x : Hd} (h : x.wf) : WideAt.IsKeyLit x.lit := hd_keyed.key (Hd.key h)
/-- A map whose keys are the headers l. -/
def SetHd (D : DataW Value) (l : List Hd) : Prop := ∀ x : Hd, x.wf → Maps.has D x.lit = decide (x ∈ l)
theorem SetHd.nil : SetHd (.map []) [] := fun x _ => rfl
set_option maxRecDepth 100000 in
theorem SetHd.put {D : DataW Value} {l : List Hd} (h : SetHd D l) (hT : Maps.IsMap D) {y : Hd} (hy : y.wf) (d : DataW Value) : SetHd (D.put y.lit d) (l ++ [y]) := by
  intro x hx
  by_cases hxy : x = y
  · subst hxy
    rw [Maps.has_put_same hT (Hd.isKey hx)]; simp
  · rw [Maps.has_put_other (fun e => hxy (Hd.lit_inj hx hy e)), h x hx]; simp [hxy]
end Go.Proofs.Ytbckncopdkmoeaa
