/- Events as rows: contracts. -/
import Derived.Test.YtbckncopdkmoeaaLfM
import Derived.Deep.MidRow
import Derived.Deep.Cut
import Derived.WalkKit
import Derived.ProofKit
import Derived.Handy
import Derived.Below
import Derived.Lib.Hide
import Derived.IntWalk
import Derived.Outline
import Derived.WalkLawsBesides
import Derived.WalkSpells
namespace Go.Proofs.Ytbckncopdkmoeaa
open Go.RowKit
attribute [local go_sem] strV
set_option linter.unusedVariables false
set_option linter.unusedSimpArgs false
/-- Sizes that the walk wants. -/
def SzE (e : Ev) : Prop := e.sp.size ≤ maxLen ∧ e.dp.size ≤ maxLen ∧ e.ep.size ≤ maxLen
theorem light_sz {es : List Ev} (h : lightL es = true) : ∀ e ∈ es, SzE e := fun e he => by
  unfold lightL at h
  rw [Bool.and_eq_true, List.all_eq_true] at h
  have h1 := h.2 e he
  unfold lightE lightP at h1
  simp only [Bool.and_eq_true, decide_eq_true_eq] at h1
  obtain ⟨⟨⟨⟨a1, a2⟩, a3⟩, a4⟩, a5⟩ := h1
  unfold SzE maxLen
  omega
theorem light_len {es : List Ev} (h : lightL es = true) : es.length ≤ 60 := by
  unfold lightL at h
  rw [Bool.and_eq_true, decide_eq_true_eq] at h
  exact h.1
theorem infoEvR (e : Ev) : (Try.prog.info? 76).map (·.size) = some e.cells.length := by
  rw [Ev.cells_len]; kernel_rfl
theorem wpList_loadEvR {ops : Array Oper} {rest : List Oper} {op : Oper} {a : Act} {w : World} {Q : Exit → Act → World → Prop} (x : Operand) (ho : op.op = .load 76 x)
    (b o : Nat) (hx : a.eval x = .pointer (some ⟨b, o, none⟩)) (e : Ev) (hc : w.rangeAt b o e.cells) (hw : Region.wanted op (yielded ops a.tmps) = true)
    (hK : wpList Try.prog ops Q rest (a.put op.dst (.agg e.row)) w) : wpList Try.prog ops Q (op :: rest) a w :=
  wpList_load_midH 76 x ho b o hx e.cells _ hc Try.underlying76 rfl (infoEvR e) hw hK
theorem exec_loadEvR {o : Oper} {a : Act} {w : World} (x : Operand) (ho : o.op = .load 76 x) (b off : Nat) (hx : a.eval x = .pointer (some ⟨b, off, none⟩)) (e : Ev) (hz : w.rangeAt b off e.cells) : (execOp a.eval o).run Try.prog w = .ok (.value (.agg e.row)) w := by
  have h1 := run_loadAt_mid (P := Try.prog) w b off 76 e.cells _ hz Try.underlying76 rfl (infoEvR e)
  simp [execOp, ho, hx, h1, Result.andThen, Ev.cells]
theorem ev_range {w : World} {a : Option Addr} {es : List Ev} (h : RowAt w a (es.flatMap Ev.cells)) {k : Nat} (hk : k < es.length) : ∃ b off, a = some ⟨b, off, none⟩ ∧ b < w.heap.size ∧ w.rangeAt b (off + k * 13) es[k].cells := by
  obtain ⟨b, off, ha, hb, hc⟩ := ev_at h hk
  refine ⟨b, off, ha, hb, fun j v hv => ?_⟩
  have hj : j < 13 := by have := (List.getElem?_eq_some_iff.1 hv).1; rwa [Ev.cells_len] at this
  rw [hc j hj]; exact hv
theorem ownR_any (e : Ev) (w : World) (hs : SzE e) :
    Calls Try.prog 41 #[.agg e.row] w fun x w' => x = .returned (.tuple #[.agg #[.string (ownP e), .int .i64 (ownC e)], .int .i64 (ownS e), .bool (ownB e)]) ∧ Below w.heap.size w w' := by
  cases e; exact refOwn_any _ _ _ _ _ _ _ _ _ _ _ _ _ w hs.1 hs.2.1 hs.2.2
theorem foldR_any (g b c n : Nat) (s : Tb) (e : Ev) (w : World) (hs : SzE e) (hT : TabAt w g b c n s.f s.cl) (hn : n < maxLen) :
    Calls Try.prog 32 #[.pointer (some ⟨g, 0, none⟩), .agg e.row] w fun x w' => x = .returned (.int .i64 (foldA s.f s.cl e)) ∧ TabAt w' g b c (n + 1) (stepT s e).f (stepT s e).cl ∧ ∃ j, (j = b ∨ j = c) ∧ w.grownBy w' (some j) := by
  cases e; exact lfFold_any g b c n s.f s.cl _ _ _ _ _ _ _ _ _ _ _ _ _ w hs.1 hs.2.1 hs.2.2 hT hn
/-- Two events are of one end. -/
def Clash (a b : Ev) : Prop := ownB a = true ∧ ownB b = true ∧ ownP a = ownP b ∧ ownC a = ownC b
end Go.Proofs.Ytbckncopdkmoeaa
