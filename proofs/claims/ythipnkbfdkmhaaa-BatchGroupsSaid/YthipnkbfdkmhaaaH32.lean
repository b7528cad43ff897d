/- Hashes as records of 32 cells, lists of them. -/
import Derived.Test.YthipnkbfdkmhaaaRows2
import Derived.Test.YthipnkbfdkmhaaaHashEq
import Derived.Deep.MidRow
import Derived.WalkKit
import Derived.ProofKit
import Derived.Handy
import Derived.Below
import Derived.Lib.Hide
import Derived.IntWalk
import Derived.Outline
import Derived.WalkLawsBesides
import Derived.WalkSpells
namespace Go.Proofs.Ythipnkbfdkmhaaa
open Go.RowKit
attribute [local go_sem] strV
set_option linter.unusedVariables false
/-- A hash: 32 bytes. -/
abbrev H32 := { q : List UInt8 // q.length = 32 }
def H32.cells (q : H32) : List Value := Lib.byteCells q.1
theorem H32.cells_len (q : H32) : q.cells.length = 32 := by unfold H32.cells; rw [Lib.byteCells_length]; exact q.2
theorem H32.row (q : H32) : q.cells.toArray = hrow q.1 := rfl
theorem take_flat {α : Type} (f : α → List Value) (c : Nat) (hf : ∀ x, (f x).length = c) : ∀ (l : List α) (k : Nat), (l.flatMap f).take (k * c) = (l.take k).flatMap f := by
  intro l
  induction l with
  | nil => intro k; simp
  | cons x l ih =>
    intro k
    cases k with
    | zero => simp
    | succ k =>
      rw [List.flatMap_cons, List.take_succ_cons, List.flatMap_cons, Nat.succ_mul, Nat.add_comm, ← hf x, List.take_length_add_append, hf x, ih k]
theorem drop_flat {α : Type} (f : α → List Value) (c : Nat) (hf : ∀ x, (f x).length = c) : ∀ (l : List α) (k : Nat), (l.flatMap f).drop (k * c) = (l.drop k).flatMap f := by
  intro l
  induction l with
  | nil => intro k; simp
  | cons x l ih =>
    intro k
    cases k with
    | zero => simp
    | succ k =>
      rw [List.flatMap_cons, List.drop_succ_cons, Nat.succ_mul, Nat.add_comm, ← hf x, List.drop_length_add_append, hf x, ih k]
theorem RowAt.drop {w : World} {b off : Nat} {vs : List Value} (h : RowAt w (some ⟨b, off, none⟩) vs) (k : Nat) : RowAt w (some ⟨b, off + k, none⟩) (vs.drop k) := by
  rcases h with h | ⟨b', off', ha, hlt, hc⟩
  · exact .inl (by rw [h, List.drop_nil])
  · simp only [Option.some.injEq, Addr.mk.injEq, and_true] at ha
    obtain ⟨rfl, rfl⟩ := ha
    refine .inr ⟨b, off + k, rfl, hlt, fun j hj => ?_⟩
    rw [List.length_drop] at hj
    rw [Nat.add_assoc, hc (k + j) (by omega), List.getElem?_drop]
theorem hs_take {w : World} {a : Option Addr} {l : List H32} (h : RowAt w a (l.flatMap H32.cells)) (k : Nat) : RowAt w a ((l.take k).flatMap H32.cells) := by
  have := h.take (k * 32)
  rwa [take_flat H32.cells 32 H32.cells_len] at this
theorem hs_drop {w : World} {b off : Nat} {l : List H32} (h : RowAt w (some ⟨b, off, none⟩) (l.flatMap H32.cells)) (k : Nat) : RowAt w (some ⟨b, off + k * 32, none⟩) ((l.drop k).flatMap H32.cells) := by
  have := h.drop (k * 32)
  rwa [drop_flat H32.cells 32 H32.cells_len] at this
/-- The cells of hash k. -/
theorem hs_at {w : World} {a : Option Addr} {l : List H32} (h : RowAt w a (l.flatMap H32.cells)) {k : Nat} (hk : k < l.length) :
    ∃ b off, a = some ⟨b, off, none⟩ ∧ b < w.heap.size ∧ w.rangeAt b (off + k * 32) l[k].cells := by
  obtain ⟨b, off, ha, hb, hc⟩ := h.elem H32.cells_len hk (by decide)
  refine ⟨b, off, ha, hb, fun j v hv => ?_⟩
  have hj : j < 32 := by have := (List.getElem?_eq_some_iff.1 hv).1; rwa [H32.cells_len] at this
  rw [Nat.add_assoc, hc j hj, hv]
theorem load_hash_mid {W : World} {b off : Nat} {q : H32} (hg : W.rangeAt b off q.cells) (hb : b < W.heap.size) (n : Beyond W) :
    (Instr.loadAt 23 (.pointer (some ⟨b, off, none⟩))).run Try.prog n.x = .ok (.agg (hrow q.1)) n.x := by
  have hg2 : n.x.rangeAt b off q.cells := fun j v hv => by rw [n.h.cell (p := ⟨b, off + j, none⟩) hb]; exact hg j v hv
  exact run_loadAt_mid (P := Try.prog) n.x b off 23 q.cells _ hg2 Try.underlying23 rfl (by rw [H32.cells_len]; kernel_rfl)
end Go.Proofs.Ythipnkbfdkmhaaa
