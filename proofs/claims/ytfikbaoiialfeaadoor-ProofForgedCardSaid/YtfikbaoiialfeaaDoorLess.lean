/- sha.Less and ligref1.Less: the bytewise order. -/
import Derived.Test.YtfikbaoiialfeaaDoorGS
import Derived.Lib.Bytealg
import Derived.WalkKit
import Derived.ProofKit
import Derived.Handy
import Derived.Below
import Derived.Lib.Hide
import Derived.IntWalk
import Derived.Outline
import Derived.WalkLawsBesides
import Derived.WalkSpells
namespace Go.Proofs.YtfikbaoiialfeaaDoor
open Go.RowKit
attribute [local go_sem] strV
set_option linter.unusedVariables false
theorem cmp_less : ∀ (l m : List UInt8), decide (Lib.compareBytes l m < 0) = Op.bytesLess l m
  | [], [] => rfl
  | [], _ :: _ => rfl
  | _ :: _, [] => rfl
  | a :: l, b :: m => by
    unfold Lib.compareBytes Op.bytesLess
    have ih := cmp_less l m
    by_cases h1 : a < b
    · simp [h1]
    · by_cases h2 : b < a
      · have hne : (a == b) = false := beq_eq_false_iff_ne.2 (fun e => by rw [e] at h2; exact UInt8.lt_irrefl _ h2)
        simp [h1, h2, hne]
      · have he : a = b := UInt8.le_antisymm (UInt8.not_lt.1 h2) (UInt8.not_lt.1 h1)
        subst he
        simp [h1, ih]
theorem less_irr : ∀ l : List UInt8, Op.bytesLess l l = false
  | [] => rfl
  | a :: l => by unfold Op.bytesLess; simp [less_irr l, UInt8.lt_irrefl]
theorem less_asym : ∀ (l m : List UInt8), Op.bytesLess l m = true → Op.bytesLess m l = false
  | [], [] => fun h => by cases h
  | [], _ :: _ => fun _ => rfl
  | _ :: _, [] => fun h => by cases h
  | a :: l, b :: m => fun h => by
    unfold Op.bytesLess at h ⊢
    simp only [Bool.or_eq_true, decide_eq_true_eq, Bool.and_eq_true, beq_iff_eq] at h
    rcases h with h | ⟨rfl, h⟩
    · have h1 : ¬ b < a := fun e => UInt8.lt_irrefl _ (UInt8.lt_trans h e)
      have h2 : (b == a) = false := beq_eq_false_iff_ne.2 (fun e => by rw [e] at h; exact UInt8.lt_irrefl _ h)
      simp [h1, h2]
    · simp [UInt8.lt_irrefl, less_asym l m h]
theorem less_tri : ∀ (l m : List UInt8), Op.bytesLess l m = false → Op.bytesLess m l = false → l = m
  | [], [] => fun _ _ => rfl
  | [], _ :: _ => fun h _ => by cases h
  | _ :: _, [] => fun _ h => by cases h
  | a :: l, b :: m => fun h k => by
    unfold Op.bytesLess at h k
    simp only [Bool.or_eq_false_iff, decide_eq_false_iff_not, Bool.and_eq_false_iff] at h k
    have he : a = b := UInt8.le_antisymm (UInt8.not_lt.1 k.1) (UInt8.not_lt.1 h.1)
    subst he
    have h2 : Op.bytesLess l m = false := by rcases h.2 with e | e; · simp at e
                                             · exact e
    have k2 : Op.bytesLess m l = false := by rcases k.2 with e | e; · simp at e
                                             · exact e
    rw [less_tri l m h2 k2]
theorem less_trans : ∀ (l m n : List UInt8), Op.bytesLess l m = true → Op.bytesLess m n = true → Op.bytesLess l n = true
  | [], [], _ => fun h _ => by cases h
  | _ :: _, [], _ => fun h _ => by cases h
  | _, _ :: _, [] => fun _ h => by cases h
  | [], _ :: _, _ :: _ => fun _ _ => rfl
  | a :: l, b :: m, c :: n => fun h k => by
    unfold Op.bytesLess at h k ⊢
    simp only [Bool.or_eq_true, decide_eq_true_eq, Bool.and_eq_true, beq_iff_eq] at h k ⊢
    rcases h with h | ⟨rfl, h⟩
    · rcases k with k | ⟨rfl, k⟩
      · exact .inl (UInt8.lt_trans h k)
      · exact .inl h
    · rcases k with k | ⟨rfl, k⟩
      · exact .inl k
      · exact .inr ⟨rfl, less_trans l m n h k⟩
theorem run_loadBytes {P : Program} {w : World} {g : Nat} {q : List UInt8} {t : TypeId} (hg : w.heap[g]? = some (.cells (hrow q) t (0, 0))) :
    ∀ (n o : Nat) (acc : ByteArray), o + n = q.length → (Extern.Bytes.loadBytes ⟨g, o, none⟩ n acc).run P w = .ok ⟨acc.data ++ (q.drop o).toArray⟩ w := by
  intro n
  induction n with
  | zero =>
    intro o acc h
    simp only [Extern.Bytes.loadBytes, Sem.run_pure]
    rw [List.drop_eq_nil_of_le (by omega)]
    simp
  | succ n ih =>
    intro o acc h
    have ho : o < q.length := by omega
    have hc : w.cell? ⟨g, o, none⟩ = some (.int .u8 (q[o].toNat : Int)) := by rw [cell_heap hg, hrow_get (List.getElem?_eq_getElem ho)]
    have hadd : (⟨g, o, none⟩ : Addr).add 1 = ⟨g, o + 1, none⟩ := by unfold Addr.add; simp
    have := ih (o + 1) (acc.push q[o]) (by omega)
    unfold Extern.Bytes.loadBytes
    simp only [Sem.run_bind]
    rw [run_load, hc]
    simp only [Result.andThen]
    rw [hadd, Int.toNat_natCast, show q[o].toNat.toUInt8 = q[o] by simp, this, List.drop_eq_getElem_cons ho]
    congr 1
    simp [ByteArray.push]
theorem run_compareRows {P : Program} {w : World} {g h : Nat} {q r : List UInt8} {t u : TypeId} (hg : w.heap[g]? = some (.cells (hrow q) t (0, 0))) (hh : w.heap[h]? = some (.cells (hrow r) u (0, 0))) (hq : q.length = 32) (hr : r.length = 32) :
    (Extern.BytealgCompare.compare #[.slice (some ⟨g, 0, none⟩) 32 32, .slice (some ⟨h, 0, none⟩) 32 32]).run P w = .ok (.int .i64 (Lib.compareBytes q r)) w := by
  have h1 := run_loadBytes (P := P) hg 32 0 .empty (by omega)
  have h2 := run_loadBytes (P := P) hh 32 0 .empty (by omega)
  change Sem.run P (do pure (goInt (Extern.BytealgCompare.cmp (← Extern.Bytes.bytesOf (.slice (some ⟨g, 0, none⟩) 32 32)) (← Extern.Bytes.bytesOf (.slice (some ⟨h, 0, none⟩) 32 32))))) w = _
  simp only [Extern.Bytes.bytesOf, Sem.run_bind, Sem.run_pure, h1, h2, Result.andThen]
  rw [Lib.cmp_eq]
  simp [goInt]
end Go.Proofs.YtfikbaoiialfeaaDoor
