/- sha: a hash as a text, in digits. -/
import Derived.Test.YtfikbaoiialfeaaDoorSha6
import Derived.WalkKit
import Derived.ProofKit
import Derived.Handy
import Derived.Below
import Derived.Lib.Hide
import Derived.IntWalk
import Derived.Outline
import Derived.WalkLawsBesides
import Derived.WalkSpells
namespace Go.Proofs.YtfikbaoiialfeaaDoor
open Go.RowKit
attribute [local go_sem] strV
set_option linter.unusedVariables false
def hexd (n : Nat) : UInt8 := UInt8.ofNat (if n < 10 then 48 + n else 87 + n)
def hexL (l : List UInt8) : List UInt8 := l.flatMap fun x => [hexd (x.toNat / 16), hexd (x.toNat % 16)]
theorem dgs_at : ∀ n, n < 16 → (⟨#[48, 49, 50, 51, 52, 53, 54, 55, 56, 57, 97, 98, 99, 100, 101, 102]⟩ : ByteArray)[n]? = some (hexd n) := by decide +kernel
theorem hexL_len (l : List UInt8) : (hexL l).length = 2 * l.length := by
  unfold hexL
  induction l with
  | nil => rfl
  | cons x l ih => rw [List.flatMap_cons, List.length_append, ih]; simp; omega
theorem hexL_at (l : List UInt8) {k : Nat} {x : UInt8} (h : l[k]? = some x) : (hexL l)[2 * k]? = some (hexd (x.toNat / 16)) ∧ (hexL l)[2 * k + 1]? = some (hexd (x.toNat % 16)) := by
  unfold hexL
  induction l generalizing k with
  | nil => simp at h
  | cons y l ih =>
    rw [List.flatMap_cons]
    cases k with
    | zero => simp at h; subst h; exact ⟨rfl, rfl⟩
    | succ k =>
      have := ih (k := k) (by simpa using h)
      rw [show 2 * (k + 1) = 2 * k + 1 + 1 by omega]
      exact this
/-- A row of N bytes while it is filled. -/
def prN (N : Nat) (l : List UInt8) (k : Nat) : Array Value := (Lib.byteCells (l.take k) ++ List.replicate (N - k) (Value.int .u8 0)).toArray
theorem prN_full {N : Nat} {l : List UInt8} (h : l.length = N) : prN N l N = hrow l := by
  unfold prN hrow; rw [List.take_of_length_le (by omega)]; simp
theorem prN_far {N : Nat} {l : List UInt8} (h : l.length = N) {k j : Nat} (hk : k ≤ j) (hj : j < N) : (prN N l k)[j]? = some (.int .u8 0) := by
  have e : (Lib.byteCells (l.take k)).length = k := by rw [Lib.byteCells_length, List.length_take]; omega
  simp only [prN, List.getElem?_toArray]
  rw [List.getElem?_append_right (by omega), e, List.getElem?_replicate, if_pos (by omega)]
theorem prN_step {N : Nat} {l : List UInt8} (h : l.length = N) {k : Nat} (hk : k < N) {x : UInt8} (hx : l[k]? = some x) : (prN N l k).setIfInBounds k (.int .u8 (x.toNat : Int)) = prN N l (k + 1) := by
  have e : (Lib.byteCells (l.take k)).length = k := by rw [Lib.byteCells_length, List.length_take]; omega
  unfold prN
  obtain ⟨m, hm⟩ : ∃ m, N - k = m + 1 := ⟨N - 1 - k, by omega⟩
  rw [hm, show N - (k + 1) = m by omega, List.take_add_one, hx]
  simp only [List.setIfInBounds_toArray, List.replicate_succ]
  congr 1
  rw [List.set_append_right _ _ (by omega), e, Nat.sub_self]
  simp [Lib.byteCells]
theorem run_index_str {P : Program} (w : World) (t : TypeId) (s : ByteArray) (k : IntKind) (i : Int) (c : UInt8) (hu : P.underlying t = some .string) (hi : 0 ≤ i) (hc : s[i.toNat]? = some c) :
    (Instr.index t (.string s) (.int k i)).run P w = .ok (.int .u8 (c.toNat : Int)) w := by
  simp [Instr.index, asIntOf, run_underlying hu, Result.andThen, hi, hc]
theorem wpList_index_str {P : Program} {w : World} {ops : Array Oper} {rest : List Oper} {o : Oper} {a : Act} {Q : Exit → Act → World → Prop}
    (hgd : o.guard = none) (x ix : Operand) (t : TypeId) (hop : o.op = Op.index t x ix) (hu : P.underlying t = some .string)
    (s : ByteArray) (hx : a.eval x = .string s) (k : IntKind) (i : Int) (hix : a.eval ix = .int k i) (hi : 0 ≤ i) (c : UInt8) (hc : s[i.toNat]? = some c)
    (h : wpList P ops Q rest (a.put o.dst (.int .u8 (c.toNat : Int))) w) : wpList P ops Q (o :: rest) a w := by
  refine wpList_plain hgd fun K hK' => ?_
  have hrun := run_index_str (P := P) w t s k i c hu hi hc
  unfold Oper.wp
  simp [execOp, hop, hx, hix, hrun, Result.andThen]
  exact hK' _ _ h
theorem hrow_get {q : List UInt8} {k : Nat} {x : UInt8} (h : q[k]? = some x) : (hrow q)[k]? = some (.int .u8 (x.toNat : Int)) := by
  simp [hrow, Lib.byteCells, h]
theorem conv_row {w : World} {g N : Nat} {q : List UInt8} {t : TypeId} (hg : w.heap[g]? = some (.cells (hrow q) t (0, 0))) (hq : q.length = N) :
    (convert 111 9 (.slice (some ⟨g, 0, none⟩) N N)).run Tryd.prog w = .ok (.string ⟨q.toArray⟩) w := by
  have := run_convert_bytes_back (P := Tryd.prog) w 111 9 5 ⟨g, 0, none⟩ N q Tryd.underlying111 Tryd.underlying5 Tryd.underlying9 (fun j hj => by
    have hadd : (⟨g, 0, none⟩ : Addr).add j = ⟨g, j, none⟩ := by unfold Addr.add; by_cases h : j = 0 <;> simp [h]
    rw [hadd, cell_heap hg, hrow_get (List.getElem?_eq_getElem hj)])
  rwa [hq] at this
set_option maxRecDepth 100000 in
set_option maxHeartbeats 6400000 in
theorem shaText_any (q : List UInt8) (w : World) (hq : q.length = 32) :
    Calls Tryd.prog 68 #[.agg (hrow q)] w fun e w' => e = .returned (.string ⟨q.toArray⟩) ∧ Below w.heap.size w w' := by
  have hg0 : (w.alloc (.cells (hrow q) 25)).heap[w.heap.size]? = some (.cells (hrow q) 25 (0, 0)) := heap_push _ _ _
  have hcv := conv_row hg0 hq
  go_enter Tryd.func68, Tryd.ntmps68
  go_wp2
  go_ret
  exact ⟨rfl, Below.alloc (Below.refl _ _) (Nat.le_refl _) _⟩
theorem sha_abc : shaF [97, 98, 99] = [0xba, 0x78, 0x16, 0xbf, 0x8f, 0x01, 0xcf, 0xea, 0x41, 0x41, 0x40, 0xde, 0x5d, 0xae, 0x22, 0x23, 0xb0, 0x03, 0x61, 0xa3, 0x96, 0x17, 0x7a, 0x9c, 0xb4, 0x10, 0xff, 0x61, 0xf2, 0x00, 0x15, 0xad] := by decide +kernel
theorem flat_abc : flat [⟨#[97]⟩, ⟨#[98, 99]⟩] = [97, 98, 99] := rfl
theorem hex_abc : hexL [0xba, 0x78, 0x16, 0xbf, 0x8f, 0x01, 0xcf, 0xea, 0x41, 0x41, 0x40, 0xde, 0x5d, 0xae, 0x22, 0x23, 0xb0, 0x03, 0x61, 0xa3, 0x96, 0x17, 0x7a, 0x9c, 0xb4, 0x10, 0xff, 0x61, 0xf2, 0x00, 0x15, 0xad] = [98, 97, 55, 56, 49, 54, 98, 102, 56, 102, 48, 49, 99, 102, 101, 97, 52, 49, 52, 49, 52, 48, 100, 101, 53, 100, 97, 101, 50, 50, 50, 51, 98, 48, 48, 51, 54, 49, 97, 51, 57, 54, 49, 55, 55, 97, 57, 99, 98, 52, 49, 48, 102, 102, 54, 49, 102, 50, 48, 48, 49, 53, 97, 100] := by decide +kernel
theorem row_strs {w : World} {c : Nat} {ss : List ByteArray} {t : TypeId} (h : w.heap[c]? = some (.cells (ss.map Value.string).toArray t (0, 0))) : RowAt w (some ⟨c, 0, none⟩) (ss.flatMap sval) := by
  refine .inr ⟨c, 0, rfl, (Array.getElem?_eq_some_iff.1 h).1, fun j hj => ?_⟩
  rw [Nat.zero_add, cell_heap h]
  have e : ∀ l : List ByteArray, l.flatMap sval = l.map Value.string := fun l => by
    induction l with
    | nil => rfl
    | cons x l ih => rw [List.flatMap_cons, List.map_cons, ih]; rfl
  rw [e]
  simp
end Go.Proofs.YtfikbaoiialfeaaDoor
