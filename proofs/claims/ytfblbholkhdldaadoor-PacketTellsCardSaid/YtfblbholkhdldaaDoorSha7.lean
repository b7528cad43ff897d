/- sha: a hash as a text, in digits. -/
import Derived.Test.YtfblbholkhdldaaDoorSha6
import Derived.WalkKit
import Derived.ProofKit
import Derived.Handy
import Derived.Below
import Derived.Lib.Hide
import Derived.IntWalk
import Derived.Outline
import Derived.WalkLawsBesides
import Derived.WalkSpells
namespace Go.Proofs.YtfblbholkhdldaaDoor
open Go.RowKit
attribute [local go_sem] strV
set_option linter.unusedVariables false
def hexd (n : Nat) : UInt8 := UInt8.ofNat (if n < 10 then 48 + n else 87 + n)
def hexL (l : List UInt8) : List UInt8 := l.flatMap fun x => [hexd (x.toNat / 16), hexd (x.toNat % 16)]
theorem dgs_at : ∀ n, n < 16 → (⟨#[48, 49, 50, 51, 52, 53, 54, 55, 56, 57, 97, 98, 99, 100, 101, 102]⟩ : ByteArray)[n]? = some (hexd n) := by decide +kernel
theorem hexL_len (l : List UInt8) : (hexL l).length = 2 * l.length := by
  unfold hexL
  induction l with
  | nil => rfl
  | cons x l ih => rw [List.flatMap_cons, List.length_append, ih]; simp; omega
theorem hexL_at (l : List UInt8) {k : Nat} {x : UInt8} (h : l[k]? = some x) : (hexL l)[2 * k]? = some (hexd (x.toNat / 16)) ∧ (hexL l)[2 * k + 1]? = some (hexd (x.toNat % 16)) := by
  unfold hexL
  induction l generalizing k with
  | nil => simp at h
  | cons y l ih =>
    rw [List.flatMap_cons]
    cases k with
    | zero => simp at h; subst h; exact ⟨rfl, rfl⟩
    | succ k =>
      have := ih (k := k) (by simpa using h)
      rw [show 2 * (k + 1) = 2 * k + 1 + 1 by omega]
      exact this
/-- A row of N bytes while it is filled. -/
def prN (N : Nat) (l : List UInt8) (k : Nat) : Array Value := (Lib.byteCells (l.take k) ++ List.replicate (N - k) (Value.int .u8 0)).toArray
theorem prN_full {N : Nat} {l : List UInt8} (h : l.length = N) : prN N l N = hrow l := by
  unfold prN hrow; rw [List.take_of_length_le (by omega)]; simp
theorem prN_far {N : Nat} {l : List UInt8} (h : l.length = N) {k j : Nat} (hk : k ≤ j) (hj : j < N) : (prN N l k)[j]? = some (.int .u8 0) := by
  have e : (Lib.byteCells (l.take k)).length = k := by rw [Lib.byteCells_length, List.length_take]; omega
  simp only [prN, List.getElem?_toArray]
  rw [List.getElem?_append_right (by omega), e, List.getElem?_replicate, if_pos (by omega)]
theorem prN_step {N : Nat} {l : List UInt8} (h : l.length = N) {k : Nat} (hk : k < N) {x : UInt8} (hx : l[k]? = some x) : (prN N l k).setIfInBounds k (.int .u8 (x.toNat : Int)) = prN N l (k + 1) := by
  have e : (Lib.byteCells (l.take k)).length = k := by rw [Lib.byteCells_length, List.length_take]; omega
  unfold prN
  obtain ⟨m, hm⟩ : ∃ m, N - k = m + 1 := ⟨N - 1 - k, by omega⟩
  rw [hm, show N - (k + 1) = m by omega, List.take_add_one, hx]
  simp only [List.setIfInBounds_toArray, List.replicate_succ]
  congr 1
  rw [List.set_append_right _ _ (by omega), e, Nat.sub_self]
  simp [Lib.byteCells]
theorem run_index_str {P : Program} (w : World) (t : TypeId) (s : ByteArray) (k : IntKind) (i : Int) (c : UInt8) (hu : P.underlying t = some .string) (hi : 0 ≤ i) (hc : s[i.toNat]? = some c) :
    (Instr.index t (.string s) (.int k i)).run P w = .ok (.int .u8 (c.toNat : Int)) w := by
  simp [Instr.index, asIntOf, run_underlying hu, Result.andThen, hi, hc]
theorem wpList_index_str {P : Program} {w : World} {ops : Array Oper} {rest : List Oper} {o : Oper} {a : Act} {Q : Exit → Act → World → Prop}
    (hgd : o.guard = none) (x ix : Operand) (t : TypeId) (hop : o.op = Op.index t x ix) (hu : P.underlying t = some .string)
    (s : ByteArray) (hx : a.eval x = .string s) (k : IntKind) (i : Int) (hix : a.eval ix = .int k i) (hi : 0 ≤ i) (c : UInt8) (hc : s[i.toNat]? = some c)
    (h : wpList P ops Q rest (a.put o.dst (.int .u8 (c.toNat : Int))) w) : wpList P ops Q (o :: rest) a w := by
  refine wpList_plain hgd fun K hK' => ?_
  have hrun := run_index_str (P := P) w t s k i c hu hi hc
  unfold Oper.wp
  simp [execOp, hop, hx, hix, hrun, Result.andThen]
  exact hK' _ _ h
theorem hrow_get {q : List UInt8} {k : Nat} {x : UInt8} (h : q[k]? = some x) : (hrow q)[k]? = some (.int .u8 (x.toNat : Int)) := by
  simp [hrow, Lib.byteCells, h]
theorem conv_row {w : World} {g N : Nat} {q : List UInt8} {t : TypeId} (hg : w.heap[g]? = some (.cells (hrow q) t (0, 0))) (hq : q.length = N) :
    (convert 72 9 (.slice (some ⟨g, 0, none⟩) N N)).run Tryd.prog w = .ok (.string ⟨q.toArray⟩) w := by
  have := run_convert_bytes_back (P := Tryd.prog) w 72 9 5 ⟨g, 0, none⟩ N q Tryd.underlying72 Tryd.underlying5 Tryd.underlying9 (fun j hj => by
    have hadd : (⟨g, 0, none⟩ : Addr).add j = ⟨g, j, none⟩ := by unfold Addr.add; by_cases h : j = 0 <;> simp [h]
    rw [hadd, cell_heap hg, hrow_get (List.getElem?_eq_getElem hj)])
  rwa [hq] at this
set_option maxRecDepth 100000 in
set_option maxHeartbeats 6400000 in
theorem shaText_any (q : List UInt8) (w : World) (hq : q.length = 32) :
    Calls Tryd.prog 20 #[.agg (hrow q)] w fun e w' => e = .returned (.string ⟨q.toArray⟩) ∧ Below w.heap.size w w' := by
  have hg0 : (w.alloc (.cells (hrow q) 26)).heap[w.heap.size]? = some (.cells (hrow q) 26 (0, 0)) := heap_push _ _ _
  have hcv := conv_row hg0 hq
  go_enter Tryd.func20, Tryd.ntmps20
  go_wp2
  go_ret
  exact ⟨rfl, Below.alloc (Below.refl _ _) (Nat.le_refl _) _⟩
set_option maxRecDepth 100000 in
set_option maxHeartbeats 6400000 in
theorem hex_any (q : List UInt8) (w : World) (hq : q.length = 32) :
    Calls Tryd.prog 22 #[.agg (hrow q)] w fun e w' => e = .returned (.string ⟨(hexL q).toArray⟩) ∧ Below w.heap.size w w' := by
  have HQ := Lib.hid hq
  have hO : (hexL q).length = 64 := by rw [hexL_len, hq]
  have g0 : ((w.alloc (.cells (hrow q) 26)).alloc (.cells #[Value.int .u8 0, Value.int .u8 0, Value.int .u8 0, Value.int .u8 0, Value.int .u8 0, Value.int .u8 0, Value.int .u8 0, Value.int .u8 0, Value.int .u8 0, Value.int .u8 0, Value.int .u8 0, Value.int .u8 0, Value.int .u8 0, Value.int .u8 0, Value.int .u8 0, Value.int .u8 0, Value.int .u8 0, Value.int .u8 0, Value.int .u8 0, Value.int .u8 0, Value.int .u8 0, Value.int .u8 0, Value.int .u8 0, Value.int .u8 0, Value.int .u8 0, Value.int .u8 0, Value.int .u8 0, Value.int .u8 0, Value.int .u8 0, Value.int .u8 0, Value.int .u8 0, Value.int .u8 0, Value.int .u8 0, Value.int .u8 0, Value.int .u8 0, Value.int .u8 0, Value.int .u8 0, Value.int .u8 0, Value.int .u8 0, Value.int .u8 0, Value.int .u8 0, Value.int .u8 0, Value.int .u8 0, Value.int .u8 0, Value.int .u8 0, Value.int .u8 0, Value.int .u8 0, Value.int .u8 0, Value.int .u8 0, Value.int .u8 0, Value.int .u8 0, Value.int .u8 0, Value.int .u8 0, Value.int .u8 0, Value.int .u8 0, Value.int .u8 0, Value.int .u8 0, Value.int .u8 0, Value.int .u8 0, Value.int .u8 0, Value.int .u8 0, Value.int .u8 0, Value.int .u8 0, Value.int .u8 0] 77)).heap[w.heap.size]? = some (.cells (hrow q) 26 (0, 0)) := by
    show ((w.heap.push _).push _)[w.heap.size]? = _
    rw [Array.getElem?_push_lt (by simp), ← Array.getElem?_eq_getElem (by simp), Array.getElem?_push_size]
  have g1 : ((w.alloc (.cells (hrow q) 26)).alloc (.cells #[Value.int .u8 0, Value.int .u8 0, Value.int .u8 0, Value.int .u8 0, Value.int .u8 0, Value.int .u8 0, Value.int .u8 0, Value.int .u8 0, Value.int .u8 0, Value.int .u8 0, Value.int .u8 0, Value.int .u8 0, Value.int .u8 0, Value.int .u8 0, Value.int .u8 0, Value.int .u8 0, Value.int .u8 0, Value.int .u8 0, Value.int .u8 0, Value.int .u8 0, Value.int .u8 0, Value.int .u8 0, Value.int .u8 0, Value.int .u8 0, Value.int .u8 0, Value.int .u8 0, Value.int .u8 0, Value.int .u8 0, Value.int .u8 0, Value.int .u8 0, Value.int .u8 0, Value.int .u8 0, Value.int .u8 0, Value.int .u8 0, Value.int .u8 0, Value.int .u8 0, Value.int .u8 0, Value.int .u8 0, Value.int .u8 0, Value.int .u8 0, Value.int .u8 0, Value.int .u8 0, Value.int .u8 0, Value.int .u8 0, Value.int .u8 0, Value.int .u8 0, Value.int .u8 0, Value.int .u8 0, Value.int .u8 0, Value.int .u8 0, Value.int .u8 0, Value.int .u8 0, Value.int .u8 0, Value.int .u8 0, Value.int .u8 0, Value.int .u8 0, Value.int .u8 0, Value.int .u8 0, Value.int .u8 0, Value.int .u8 0, Value.int .u8 0, Value.int .u8 0, Value.int .u8 0, Value.int .u8 0] 77)).heap[w.heap.size + 1]? = some (.cells (prN 64 (hexL q) 0) 77 (0, 0)) := by
    show ((w.heap.push _).push _)[w.heap.size + 1]? = _
    rw [show w.heap.size + 1 = (w.heap.push (Obj.cells (hrow q) 26 (0, 0))).size by simp, Array.getElem?_push_size]
    rfl
  have hbA : Below w.heap.size w ((w.alloc (.cells (hrow q) 26)).alloc (.cells #[Value.int .u8 0, Value.int .u8 0, Value.int .u8 0, Value.int .u8 0, Value.int .u8 0, Value.int .u8 0, Value.int .u8 0, Value.int .u8 0, Value.int .u8 0, Value.int .u8 0, Value.int .u8 0, Value.int .u8 0, Value.int .u8 0, Value.int .u8 0, Value.int .u8 0, Value.int .u8 0, Value.int .u8 0, Value.int .u8 0, Value.int .u8 0, Value.int .u8 0, Value.int .u8 0, Value.int .u8 0, Value.int .u8 0, Value.int .u8 0, Value.int .u8 0, Value.int .u8 0, Value.int .u8 0, Value.int .u8 0, Value.int .u8 0, Value.int .u8 0, Value.int .u8 0, Value.int .u8 0, Value.int .u8 0, Value.int .u8 0, Value.int .u8 0, Value.int .u8 0, Value.int .u8 0, Value.int .u8 0, Value.int .u8 0, Value.int .u8 0, Value.int .u8 0, Value.int .u8 0, Value.int .u8 0, Value.int .u8 0, Value.int .u8 0, Value.int .u8 0, Value.int .u8 0, Value.int .u8 0, Value.int .u8 0, Value.int .u8 0, Value.int .u8 0, Value.int .u8 0, Value.int .u8 0, Value.int .u8 0, Value.int .u8 0, Value.int .u8 0, Value.int .u8 0, Value.int .u8 0, Value.int .u8 0, Value.int .u8 0, Value.int .u8 0, Value.int .u8 0, Value.int .u8 0, Value.int .u8 0] 77)) := Below.alloc (Below.alloc (Below.refl _ _) (Nat.le_refl _) _) (by simp) _
  have hsz : (hrow q).size = 32 := by rw [hrow_size]; exact hq
  go_enter Tryd.func22, Tryd.ntmps22
  go_upto_region 2 with fail
  refine wp_nameE _ (fun W hX => ?_)
  have y0 : W.heap[w.heap.size]? = some (.cells (hrow q) 26 (0, 0)) := by rw [hX]; exact g0
  have y1 : W.heap[w.heap.size + 1]? = some (.cells (prN 64 (hexL q) (2 * 0)) 77 (0, 0)) := by rw [hX]; exact g1
  have hbel : Below w.heap.size w W := by rw [hX]; exact hbA
  clear hX g0 g1 hbA
  go_upto_region 3 with (refine wpList_loadRow rfl (.tmp 1) 26 rfl Tryd.underlying26 (by rw [hsz]; kernel_rfl) rfl y0 ?_)
  go_loopw [7] (fun v wr => ∃ k : Nat, k ≤ 32 ∧ Below w.heap.size w wr ∧ wr.heap[w.heap.size + 1]? = some (.cells (prN 64 (hexL q) (2 * k)) 77 (0, 0)) ∧ v = .int .i64 k) (fun v _ => 32 - (intOf v).toNat)
  case atStart => exact ⟨0, by omega, hbel, y1, rfl⟩
  case round =>
    clear y0 y1 hbel
    obtain ⟨k, hk, hbel, y1, rfl⟩ := hrel
    by_cases hlt : k < 32
    · have d1 : decide ((k : Int) < 32) = true := decide_eq_true (by omega)
      obtain ⟨x, hx⟩ : ∃ x, q[k]? = some x := ⟨_, List.getElem?_eq_getElem (by have := HQ.out; omega)⟩
      obtain ⟨hh1, hh2⟩ := hexL_at q hx
      have hrx := hrow_get hx
      have hx256 := x.toNat_lt
      obtain ⟨xn, hxn⟩ : ∃ n, x.toNat = n := ⟨_, rfl⟩
      rw [hxn] at hh1 hh2 hrx hx256
      have e1 : IntKind.i64.wrap (2 * (k : Int)) = 2 * (k : Int) := IntWalk.i64_in _ (by omega)
      have e2 : IntKind.i64.wrap (2 * (k : Int) + 1) = 2 * (k : Int) + 1 := IntWalk.i64_in _ (by omega)
      have t1 : (2 * (k : Int)).toNat = 2 * k := by omega
      have t2 : (2 * (k : Int) + 1).toNat = 2 * k + 1 := by omega
      have n1 : (0 : Int) ≤ 2 * (k : Int) := by omega
      have n2 : (0 : Int) ≤ 2 * (k : Int) + 1 := by omega
      have n3 : 2 * (k : Int) < 64 := by omega
      have n4 : 2 * (k : Int) + 1 < 64 := by omega
      have ha : bits .and .u8 (xn : Int) 15 = ((xn % 16 : Nat) : Int) := by
        have := u8_and_nat xn 15 (by omega) (by omega)
        rw [nat_mask4] at this
        exact this
      have c1 : wr.cell? ⟨w.heap.size + 1, 2 * k, none⟩ = some (.int .u8 0) := by rw [cell_heap y1]; exact prN_far hO (by omega) (by omega)
      have c2 : wr.cell? ⟨w.heap.size + 1, 2 * k + 1, none⟩ = some (.int .u8 0) := by rw [cell_heap y1]; exact prN_far hO (by omega) (by omega)
      have f1 : wr.frozen? ⟨w.heap.size + 1, 2 * k, none⟩ = false := frozen_heap y1 _
      have f2 : wr.frozen? ⟨w.heap.size + 1, 2 * k + 1, none⟩ = false := frozen_heap y1 _
      go_upto_region 4 with fail
      go_upto_region 5 with (refine wpList_index_arr rfl (.tmp 6) (.tmp 7) 26 5 32 .u8 rfl Tryd.underlying26 Tryd.underlying5 (by kernel_rfl) _ (by rfl) .i64 k (by rfl) hlt _ hrx ?_)
      go_upto_region 6 with (refine wpList_index_str rfl _ (.tmp 14) 9 rfl Tryd.underlying9 ⟨#[48, 49, 50, 51, 52, 53, 54, 55, 56, 57, 97, 98, 99, 100, 101, 102]⟩ (by rfl) .u8 ((xn : Int) / 16) (by rfl) (by omega) (hexd (xn / 16)) (by rw [show ((xn : Int) / 16).toNat = xn / 16 by omega]; exact dgs_at _ (by omega)) ?_)
      go_upto_region 7 with (refine wpList_index_str rfl _ (.tmp 21) 9 rfl Tryd.underlying9 ⟨#[48, 49, 50, 51, 52, 53, 54, 55, 56, 57, 97, 98, 99, 100, 101, 102]⟩ (by rfl) .u8 ((xn % 16 : Nat) : Int) (by rfl) (by omega) (hexd (xn % 16)) (by rw [Int.toNat_natCast]; exact dgs_at _ (by omega)) ?_)
      go_wp2
      go_roundw
      case rel =>
        have p1 := row_put5 (k := 2 * k) (v := .int .u8 ((hexd (xn / 16)).toNat : Int)) y1
        rw [prN_step hO (by omega) hh1] at p1
        have p2 := row_put5 (k := 2 * k + 1) (v := .int .u8 ((hexd (xn % 16)).toNat : Int)) p1
        rw [prN_step hO (by omega) hh2] at p2
        exact ⟨k + 1, by omega, (hbel.setCell (p := ⟨w.heap.size + 1, 2 * k, none⟩) (by show _ ≤ w.heap.size + 1; omega) _).setCell (p := ⟨w.heap.size + 1, 2 * k + 1, none⟩) (by show _ ≤ w.heap.size + 1; omega) _, p2, by go_num⟩
      case measure => (simp [intOf]) <;> omega
    · obtain rfl : k = 32 := by omega
      have y1 : wr.heap[w.heap.size + 1]? = some (.cells (hrow (hexL q)) 77 (0, 0)) := by rw [← prN_full hO]; exact y1
      have hcv := conv_row y1 hO
      go_wp2
      go_ret
      exact ⟨rfl, hbel⟩
theorem sha_abc : shaF [97, 98, 99] = [0xba, 0x78, 0x16, 0xbf, 0x8f, 0x01, 0xcf, 0xea, 0x41, 0x41, 0x40, 0xde, 0x5d, 0xae, 0x22, 0x23, 0xb0, 0x03, 0x61, 0xa3, 0x96, 0x17, 0x7a, 0x9c, 0xb4, 0x10, 0xff, 0x61, 0xf2, 0x00, 0x15, 0xad] := by decide +kernel
theorem flat_abc : flat [⟨#[97]⟩, ⟨#[98, 99]⟩] = [97, 98, 99] := rfl
theorem hex_abc : hexL [0xba, 0x78, 0x16, 0xbf, 0x8f, 0x01, 0xcf, 0xea, 0x41, 0x41, 0x40, 0xde, 0x5d, 0xae, 0x22, 0x23, 0xb0, 0x03, 0x61, 0xa3, 0x96, 0x17, 0x7a, 0x9c, 0xb4, 0x10, 0xff, 0x61, 0xf2, 0x00, 0x15, 0xad] = [98, 97, 55, 56, 49, 54, 98, 102, 56, 102, 48, 49, 99, 102, 101, 97, 52, 49, 52, 49, 52, 48, 100, 101, 53, 100, 97, 101, 50, 50, 50, 51, 98, 48, 48, 51, 54, 49, 97, 51, 57, 54, 49, 55, 55, 97, 57, 99, 98, 52, 49, 48, 102, 102, 54, 49, 102, 50, 48, 48, 49, 53, 97, 100] := by decide +kernel
theorem row_strs {w : World} {c : Nat} {ss : List ByteArray} {t : TypeId} (h : w.heap[c]? = some (.cells (ss.map Value.string).toArray t (0, 0))) : RowAt w (some ⟨c, 0, none⟩) (ss.flatMap sval) := by
  refine .inr ⟨c, 0, rfl, (Array.getElem?_eq_some_iff.1 h).1, fun j hj => ?_⟩
  rw [Nat.zero_add, cell_heap h]
  have e : ∀ l : List ByteArray, l.flatMap sval = l.map Value.string := fun l => by
    induction l with
    | nil => rfl
    | cons x l ih => rw [List.flatMap_cons, List.map_cons, ih]; rfl
  rw [e]
  simp
set_option maxRecDepth 100000 in
set_option maxHeartbeats 6400000 in
theorem first2_any (w : World) (hW : SW w) :
    Calls Tryd.prog 15 #[] w fun e w' => e = .returned (.bool true) ∧ Below w.heap.size w w' := by
  have hg0 := heap_push w #[.string ⟨#[97]⟩, .string ⟨#[98, 99]⟩] 9
  have hbA : Below w.heap.size w (w.alloc (.cells #[.string ⟨#[97]⟩, .string ⟨#[98, 99]⟩] 9)) := Below.alloc (Below.refl _ _) (Nat.le_refl _) _
  have CS := sum_any (some ⟨w.heap.size, 0, none⟩) 2 2 [⟨#[97]⟩, ⟨#[98, 99]⟩] _ (row_strs hg0) rfl (hW.below hbA) (by decide) (by unfold maxLen; omega)
  rw [flat_abc, sha_abc] at CS
  have CH := fun W => hex_any [0xba, 0x78, 0x16, 0xbf, 0x8f, 0x01, 0xcf, 0xea, 0x41, 0x41, 0x40, 0xde, 0x5d, 0xae, 0x22, 0x23, 0xb0, 0x03, 0x61, 0xa3, 0x96, 0x17, 0x7a, 0x9c, 0xb4, 0x10, 0xff, 0x61, 0xf2, 0x00, 0x15, 0xad] W rfl
  rw [hex_abc] at CH
  go_enter Tryd.func15, Tryd.ntmps15
  go_wp2_with (first | (go_at_call 17; refine CS.mono ?_; rintro e w1 ⟨rfl, hb1⟩) | (go_at_call 22; refine (CH _).mono ?_; rintro e w2 ⟨rfl, hb2⟩))
  go_ret
  exact ⟨rfl, (hbA.trans (hb1.mono hbA.size)).trans (hb2.mono (hbA.trans (hb1.mono hbA.size)).size)⟩
end Go.Proofs.YtfblbholkhdldaaDoor
