/- Hexadecimal digits read: the math. Hexadecimal digits: one digit, read and written. Hexadecimal digits: a hash read. sha.Less and ligref1.Less: the bytewise order. Two hashes, each a row of 32 bytes: are they the same? A block of cells of the call's own: what each cell holds, by a function of its number. ligref1.Text: a hash as its 32 bytes. ShaLess, walked. -/
import Derived.Test.YtpledhipdiephaaDoorSt3
import Derived.Test.YtpledhipdiephaaDoorT3
import Derived.Test.YtpledhipdiephaaDoorT2
import Derived.BigQuiet
import Derived.WalkKit
import Derived.ProofKit
import Derived.Handy
import Derived.Below
import Derived.Lib.Hide
import Derived.IntWalk
import Derived.Outline
import Derived.WalkLawsBesides
import Derived.WalkSpells
import Derived.Lib.Bytealg
import Derived.Test.YtpledhipdiephaaDoorT1
import Derived.Laws.StructEq
import Derived.Test.YtpledhipdiephaaDoorKit
import Derived.OwnWalk
import Derived.Laws.IdiomStrings
import Derived.Deep.MidRow
namespace Go.Proofs.YtpledhipdiephaaDoor
open Go.RowKit
/-- The value of a hexadecimal digit, and whether it is one. -/
def digv (c : UInt8) : Nat := if 48 ≤ c.toNat ∧ c.toNat ≤ 57 then c.toNat - 48 else if 97 ≤ c.toNat ∧ c.toNat ≤ 102 then c.toNat - 87 else 0
/-- The byte of the pair i of digits. -/
def pairV (L : List UInt8) (i : Nat) : Nat := digv (L.getD (2 * i) 0) * 16 + digv (L.getD (2 * i + 1) 0)
def pairB (L : List UInt8) (i : Nat) : UInt8 := UInt8.ofNat (pairV L i)
def pairs (L : List UInt8) (k : Nat) : List UInt8 := (List.range k).map (pairB L)
end Go.Proofs.YtpledhipdiephaaDoor
namespace Go.Proofs.YtpledhipdiephaaDoor
open Go.RowKit
attribute [local go_sem] strV
set_option linter.unusedVariables false
end Go.Proofs.YtpledhipdiephaaDoor
namespace Go.Proofs.YtpledhipdiephaaDoor
open Go.RowKit
attribute [local go_sem] strV
set_option linter.unusedVariables false
def z32 : List UInt8 := List.replicate 32 0
end Go.Proofs.YtpledhipdiephaaDoor
namespace Go.Proofs.YtpledhipdiephaaDoor
open Go.RowKit
attribute [local go_sem] strV
set_option linter.unusedVariables false
end Go.Proofs.YtpledhipdiephaaDoor
namespace Go.Proofs.YtpledhipdiephaaDoor
open Go.RowKit
section
variable {P : Program} (w : World)
theorem hrow_at (l : List UInt8) (i : Nat) (h : i < l.length) : (hrow l)[i]? = some (.int .u8 (l.getD i 0).toNat) := by
  simp [hrow, Lib.byteCells, List.getElem?_eq_getElem h, List.getD]
end
end Go.Proofs.YtpledhipdiephaaDoor
namespace Go.Proofs.YtpledhipdiephaaDoor
open Go.RowKit

/-- Block g has n cells, cell k holds f k; none is frozen. -/
def VR (w : World) (g n : Nat) (f : Nat → Value) : Prop := ∃ cur e, w.heap[g]? = some (.cells cur e (0, 0)) ∧ cur.size = n ∧ ∀ k, k < n → cur[k]? = some (f k)
theorem VR.lt {w : World} {g n : Nat} {f : Nat → Value} (h : VR w g n f) : g < w.heap.size := by
  obtain ⟨cur, e, h1, _⟩ := h
  exact (Array.getElem?_eq_some_iff.1 h1).1
theorem VR.cell {w : World} {g n : Nat} {f : Nat → Value} (h : VR w g n f) {k : Nat} (hk : k < n) : w.cell? ⟨g, k, none⟩ = some (f k) := by
  obtain ⟨cur, e, h1, h2, h3⟩ := h
  unfold World.cell?; rw [h1]; exact h3 k hk
theorem VR.frozen {w : World} {g n : Nat} {f : Nat → Value} (h : VR w g n f) (k : Nat) : w.frozen? ⟨g, k, none⟩ = false := by
  obtain ⟨cur, e, h1, h2, h3⟩ := h
  unfold World.frozen?; rw [h1]; simp
theorem VR.congr {w : World} {g n : Nat} {f f' : Nat → Value} (h : VR w g n f) (e : ∀ k, k < n → f k = f' k) : VR w g n f' := by
  obtain ⟨cur, e', h1, h2, h3⟩ := h
  exact ⟨cur, e', h1, h2, fun k hk => by rw [h3 k hk, e k hk]⟩
theorem VR.set {w : World} {g n : Nat} {f : Nat → Value} (h : VR w g n f) {k : Nat} (v : Value) : VR (w.setCell ⟨g, k, none⟩ v) g n (fun j => if j = k then v else f j) := by
  obtain ⟨cur, e, h1, h2, h3⟩ := h
  refine ⟨cur.setIfInBounds k v, e, ?_, by simpa using h2, fun j hj => ?_⟩
  · simp [World.setCell, Array.getElem?_modify, h1]
  · rw [Array.getElem?_setIfInBounds]
    by_cases hjk : k = j
    · subst hjk; simp [h2, hj]
    · rw [if_neg hjk, h3 j hj]; show _ = some (if j = k then v else f j); rw [if_neg (fun e => hjk e.symm)]
theorem VR.other {w : World} {g n : Nat} {f : Nat → Value} (h : VR w g n f) {a : Addr} (ha : g ≠ a.block) (v : Value) : VR (w.setCell a v) g n f := by
  obtain ⟨cur, e, h1, h2⟩ := h
  exact ⟨cur, e, by rw [Below.heap_setCell _ _ _ _ ha]; exact h1, h2⟩
theorem VR.below {w w' : World} {B g n : Nat} {f : Nat → Value} (h : VR w g n f) (hb : Below B w w') (hg : g < B) : VR w' g n f := by
  obtain ⟨cur, e, h1, h2⟩ := h
  exact ⟨cur, e, by rw [hb.block g hg]; exact h1, h2⟩
theorem VR.drewN {w : World} {g n : Nat} {f : Nat → Value} (h : VR w g n f) (q : Nat) : VR (w.drewN q) g n f := h

theorem wpList_makeV {P : Program} (w : World) {ops : Array Oper} {rest : List Oper} {o : Oper} {a : Act} {Q : Exit → Act → World → Prop}
    (hg : o.guard = none) (l c : Operand) (t : TypeId) (hop : o.op = Op.makeSlice t l c)
    (e : TypeId) (z : Value) (by_ : Nat) (h1 : P.underlying t = some (.slice e)) (h2 : (P.info? e).map (fun i => (i.zero, i.size, i.bytes)) = some (some z, 1, by_)) (hz : z.cells = #[z])
    (L C : Int) (n : Nat) (hl : a.eval l = .int .i64 L) (hc : a.eval c = .int .i64 C) (hL : L = (n : Int)) (hC : C = (n : Int)) (b2 : by_ * n ≤ 281474976710656) (b3 : n ≤ maxLen)
    (hK : ∀ w' g, w.heap.size ≤ g → w'.heap.size = g + 1 → VR w' g n (fun _ => z) → Below w.heap.size w w' → wpList P ops Q rest (a.put o.dst (.slice (some ⟨g, 0, none⟩) n n)) w') :
    wpList P ops Q (o :: rest) a w := by
  obtain ⟨i, hi, hi2⟩ : ∃ i, P.info? e = some i ∧ (i.zero, i.size, i.bytes) = (some z, 1, by_) := by
    cases hh : P.info? e with
    | none => rw [hh] at h2; cases h2
    | some i => rw [hh] at h2; exact ⟨i, rfl, Option.some.inj h2⟩
  obtain ⟨e1, e2, e3⟩ : i.zero = some z ∧ i.size = 1 ∧ i.bytes = by_ := by injection hi2 with q1 q2; injection q2 with q2 q3; exact ⟨q1, q2, q3⟩
  refine wpList_plain hg fun K hK' => ?_
  subst hL
  subst hC
  have hrun := run_make (P := P) w t e i z h1 hi e1 .i64 .i64 (n : Int) (n : Int) (by omega) (by omega) (by rw [e3]; have hh := Int.ofNat_le.2 b2; rw [Int.natCast_mul] at hh; exact hh) (by unfold maxLen at b3; omega)
  unfold Oper.wp
  simp [execOp, hop, hl, hc, hrun, Result.andThen]
  refine hK' _ _ (hK _ w.heap.size (Nat.le_refl _) (by show (w.heap.push _).size = _; rw [Array.size_push]) ⟨madeCells z.cells n, e, ?_, size_madeCells _ _, ?_⟩ (Below.alloc (Below.refl _ _) (Nat.le_refl _) _))
  · show (w.heap.push _)[w.heap.size]? = _
    rw [Array.getElem?_push_size, e2, Nat.mul_one]
  · intro k hk
    rw [hz]
    simp [madeCells, hk, Nat.mod_one]
end Go.Proofs.YtpledhipdiephaaDoor
namespace Go.Proofs.YtpledhipdiephaaDoor
open Go.RowKit
attribute [local go_sem] strV
set_option maxRecDepth 100000 in
set_option maxHeartbeats 1600000 in
theorem refText_any (w : World) (q : List UInt8) (hq : q.length = 32) :
    Calls Tryd.prog 89 #[.agg (hrow q)] w fun e w' => e = .returned (.string ⟨q.toArray⟩) ∧ Below w.heap.size w w' := by
  have HQ := Lib.hid hq
  have hg0 : (w.alloc (.cells (hrow q) 35)).heap[w.heap.size]? = some (.cells (hrow q) 35 (0, 0)) := by
    show (w.heap.push _)[w.heap.size]? = _
    simp
  go_enter Tryd.func89, Tryd.ntmps89
  go_wp2_with (at_make; refine wpList_makeV _ rfl _ _ 159 rfl 5 (.int .u8 0) 1 Tryd.underlying159 (by kernel_rfl) rfl _ _ 32 rfl rfl (by omega) (by omega) (by omega) (by unfold maxLen; omega) ?_)
  intro w1 g hg hgs hv hb1
  have hz : w1.heap[w.heap.size]? = some (.cells (hrow q) 35 (0, 0)) := by rw [hb1.block _ (by simp)]; exact hg0
  have hbel : Below w.heap.size w w1 := (Below.alloc (Below.refl _ _) (Nat.le_refl _) _).trans (hb1.mono (by simp))
  have hg1 : w.heap.size + 1 ≤ g := by simpa using hg
  clear hg hgs hb1 hg0
  go_wp2
  go_loopw [4] (fun v W => ∃ k : Nat, k ≤ 32 ∧ Below w.heap.size w W ∧ W.heap[w.heap.size]? = some (.cells (hrow q) 35 (0, 0)) ∧ VR W g 32 (fun j => if j < k then .int .u8 ((q.getD j 0).toNat : Nat) else .int .u8 0) ∧ v = .int .i64 (k : Int)) (fun v _ => 32 - (intOf v).toNat)
  case atStart => exact ⟨0, by omega, hbel, hz, hv.congr (fun j hj => by simp), rfl⟩
  case round =>
    clear hbel hz hv
    obtain ⟨k, hk, hbel, hz, hv, rfl⟩ := hrel
    by_cases hlt : k < 32
    · have d1 : decide ((k : Int) < 32) = true := decide_eq_true (by omega)
      have ck : wr.cell? ⟨w.heap.size, k, none⟩ = some (.int .u8 ((q.getD k 0).toNat : Nat)) := by rw [cell_heap hz, hrow_at q k (by rw [HQ.out]; exact hlt)]
      have ek := hv.cell hlt
      have fk := hv.frozen k
      go_wp2
      go_roundw
      case rel =>
        refine ⟨k + 1, by omega, hbel.setCell (p := ⟨g, k, none⟩) (by show _ ≤ g; omega) _, row_set hz (by omega), (hv.set (k := k) _).congr (fun j hj => ?_), by go_num⟩
        by_cases hjk : j = k
        · subst hjk; simp [List.getD, List.getElem?_eq_getElem (show j < q.length by rw [HQ.out]; exact hj)]
        · rw [if_neg hjk]
          by_cases hj2 : j < k
          · rw [if_pos hj2, if_pos (by omega)]
          · rw [if_neg hj2, if_neg (by omega)]
      case measure => (simp [intOf]) <;> omega
    · obtain rfl : k = 32 := by omega
      have hcv : (convert 159 9 (.slice (some ⟨g, 0, none⟩) 32 32)).run Tryd.prog wr = .ok (.string ⟨q.toArray⟩) wr := by
        have := run_convert_bytes_back (P := Tryd.prog) wr 159 9 5 ⟨g, 0, none⟩ 32 q Tryd.underlying159 Tryd.underlying5 Tryd.underlying9 (fun j hj => by
          have hadd : (⟨g, 0, none⟩ : Addr).add j = ⟨g, j, none⟩ := by unfold Addr.add; by_cases h : j = 0 <;> simp [h]
          have hj' : j < 32 := by rw [← HQ.out]; exact hj
          rw [hadd, hv.cell hj', if_pos hj']
          simp [List.getD, List.getElem?_eq_getElem hj])
        rwa [HQ.out] at this
      go_wp2
      go_ret
      exact ⟨rfl, hbel⟩
end Go.Proofs.YtpledhipdiephaaDoor
namespace Go.Proofs.YtpledhipdiephaaDoor
open Go.RowKit
attribute [local go_sem] strV
set_option linter.unusedVariables false
end Go.Proofs.YtpledhipdiephaaDoor
