/- A Writer of package wire: its builder, walked where it lies. Bit operations of Go's int on numbers from 0 on, as operations of natural numbers. Numbers in groups of seven bits and in eight bytes: the plain functions on lists of bytes, and what is true of them. Nothing of a program is imported. leb.encodable, leb.Size, leb.Put and ligref1.PutNum: what they return. A Writer of package wire: numbers, texts, what was written. leb.Next and ligref1.NextNum: both return what 'nextS' says. A Reader of package wire. Reading back what was written in groups of seven bits, and what a reading that succeeds tells. Plain lists, no program. A Reader of package wire: a number, a hash; what the examples fix. A Reader of package wire: texts, counts, its end. ligref1.NextNum returns what 'nextS' says. The document's own reader: numbers, counts. Readers: where they end; the document's own reader: texts. A Reader of package wire that bears an error: a hash. A Reader of package wire that bears no error: a hash where too little is left. The document's own reader: a hash at an error, or where too little is left. A Reader of package wire reads a hash: copy of a text into a row. The document's own reader: a hash that is there. A Reader of package wire: texts, counts, and what they keep. A Reader of package wire: numbers and hashes, and what they keep. Both readers at whatever error they bear: one function for each question. Names and ends: which may be, walked in the program and in the document's own answer. States of ends: what they are in bytes, and what bytes read as. A Writer of package wire that bears an error, or comes to bear one. A Writer of package wire: what was written, asked for as often as one likes, and with nothing written. States of ends: which may be, in the program and in the document. ligref1.PutText: a text with its length before it. States of ends in bytes: Encode, in the program and in the document. States of ends out of bytes: Decode. Halves, and how deep a leaf lies. Readers and what they read, put together: what was written is read, what is read was written so, cut short it is none. Packets out of bytes: an end. Packets out of bytes. A Writer of package wire: a hash. A Writer of package wire: what each call keeps: every block but its own and rows of bytes. Packets: which may be, when they are over. Packets in bytes: Write. Packets: when they are over, the law. -/
import Derived.Test.YtpledhipdiephaaDoorSt3
import Derived.Test.YtpledhipdiephaaDoorKit
import Derived.Test.YtpledhipdiephaaDoorStr
import Derived.Test.YtpledhipdiephaaDoorRows
import Derived.Lib.Builder
import Derived.Lib.AppendStr
import Derived.Lib.UnsafeStr
import Derived.Laws.Externs
import Derived.Lib.Walk
import Derived.BigRegion
import Derived.RegionTactic
import Derived.WalkKit
import Derived.ProofKit
import Derived.Handy
import Derived.Below
import Derived.BigQuiet
import Derived.Lib.Hide
import Derived.IntWalk
import Derived.Outline
import Derived.WalkLawsBesides
import Derived.WalkSpells
import Derived.Laws.BitsAllLaws
import Derived.Laws.Tables
import Derived.Laws.Rows
import Derived.Laws.Cells
import Derived.Lib.BufferWrite
import Derived.Laws.CopyOwn
import Derived.Deep.RegionLaw
import Derived.Deep.Cut
import Derived.Deep.MidRow
import Derived.Test.YtpledhipdiephaaDoorRows2
import Derived.LoopTactic
import Derived.BigFrame
import Derived.Test.YtpledhipdiephaaDoorShelf
import Derived.Lib.BitFns
import Derived.Laws.IdiomStrings
namespace Go.Proofs.YtpledhipdiephaaDoor
open Go.RowKit
attribute [local go_sem] strV
theorem frozen_heap {w : World} {b : Nat} {c : Array Value} {e : TypeId} (h : w.heap[b]? = some (.cells c e (0, 0))) (k : Nat) : w.frozen? ⟨b, k, none⟩ = false := by
  unfold World.frozen?; rw [h]; simp
end Go.Proofs.YtpledhipdiephaaDoor
namespace Go.Proofs.YtpledhipdiephaaDoor
open Go.RowKit

end Go.Proofs.YtpledhipdiephaaDoor
namespace Go.Proofs.YtpledhipdiephaaDoor
open Go.RowKit

def encB (v : Int) : Bool := decide (0 ≤ v ∧ v ≤ 72057594037927935)

/-- One reading: f rounds are left, k are done, u is the sum so far, i is the place. -/
def nx (l : List UInt8) : Nat → Nat → Nat → Nat → Int × Int × Int
  | 0, _, _, _ => (0, 0, 4)
  | f + 1, k, u, i =>
    match l[i]? with
    | none => (0, 0, 2)
    | some b =>
      if 128 ≤ b.toNat then nx l f (k + 1) (u + b.toNat % 128 * 128 ^ k) (i + 1)
      else if b.toNat = 0 ∧ 0 < k then (0, 0, 3)
      else (((u + b.toNat % 128 * 128 ^ k : Nat) : Int), ((i + 1 : Nat) : Int), 0)

/-! ### How many groups, and which -/
end Go.Proofs.YtpledhipdiephaaDoor
namespace Go.Proofs.YtpledhipdiephaaDoor
open Go.RowKit

theorem encodable_any (v : Int) (w : World) :
    Calls Tryd.prog 105 #[.int .i64 v] w fun e w' => e = .returned (.bool (encB v)) ∧ w = w' := by
  by_cases h0 : 0 ≤ v
  · by_cases h1 : v ≤ 72057594037927935
    · have hb : encB v = true := by simp [encB]; omega
      go_enter Tryd.func105, Tryd.ntmps105
      go_wp2
      go_ret
      first | exact ⟨rfl, rfl⟩ | exact ⟨by rw [hb]; rfl, rfl⟩
    · have hb : encB v = false := by simp [encB]; omega
      go_enter Tryd.func105, Tryd.ntmps105
      go_wp2
      go_ret
      first | exact ⟨rfl, rfl⟩ | exact ⟨by rw [hb]; rfl, rfl⟩
  · have hb : encB v = false := by simp [encB]; omega
    go_enter Tryd.func105, Tryd.ntmps105
    go_wp2
    go_ret
    first | exact ⟨rfl, rfl⟩ | exact ⟨by rw [hb]; rfl, rfl⟩

theorem encB_nat {v : Int} (h : encB v = true) : ∃ x : Nat, v = x ∧ x ≤ 72057594037927935 := by
  simp [encB] at h
  exact ⟨v.toNat, by omega, by omega⟩

end Go.Proofs.YtpledhipdiephaaDoor
namespace Go.Proofs.YtpledhipdiephaaDoor
open Go.RowKit
attribute [local go_sem] strV
end Go.Proofs.YtpledhipdiephaaDoor
namespace Go.Proofs.YtpledhipdiephaaDoor
open Go.RowKit

end Go.Proofs.YtpledhipdiephaaDoor
namespace Go.Proofs.YtpledhipdiephaaDoor
open Go.RowKit
attribute [local go_sem] strV
end Go.Proofs.YtpledhipdiephaaDoor
namespace Go.Proofs.YtpledhipdiephaaDoor

end Go.Proofs.YtpledhipdiephaaDoor
namespace Go.Proofs.YtpledhipdiephaaDoor
open Go.RowKit
attribute [local go_sem] strV
end Go.Proofs.YtpledhipdiephaaDoor
namespace Go.Proofs.YtpledhipdiephaaDoor
open Go.RowKit
attribute [local go_sem] strV
end Go.Proofs.YtpledhipdiephaaDoor
namespace Go.Proofs.YtpledhipdiephaaDoor
open Go.RowKit

end Go.Proofs.YtpledhipdiephaaDoor
namespace Go.Proofs.YtpledhipdiephaaDoor
open Go.RowKit
attribute [local go_sem] strV
end Go.Proofs.YtpledhipdiephaaDoor
namespace Go.Proofs.YtpledhipdiephaaDoor
open Go.RowKit
attribute [local go_sem] strV
end Go.Proofs.YtpledhipdiephaaDoor
namespace Go.Proofs.YtpledhipdiephaaDoor
open Go.RowKit
attribute [local go_sem] strV
theorem wpList_loadRow {P : Program} {w : World} {ops : Array Oper} {rest : List Oper} {o : Oper} {a : Act} {Q : Exit → Act → World → Prop}
    (hg : o.guard = none) (p : Operand) (t : TypeId) (hop : o.op = Op.load t p) {g : Nat} {Z : Array Value} {n : Nat} {e : TypeId} (hu : P.underlying t = some (.array n e)) (hi : (P.info? t).map (·.size) = some Z.size)
    (hp : a.eval p = .pointer (some ⟨g, 0, none⟩)) (hz : w.heap[g]? = some (.cells Z t (0, 0)))
    (h : wpList P ops Q rest (a.put o.dst (.agg Z)) w) : wpList P ops Q (o :: rest) a w := by
  refine wpList_plain hg fun K hK' => ?_
  have hrun : (Instr.loadAt t (.pointer (some ⟨g, 0, none⟩))).run P w = .ok (.agg Z) w := by
    simp only [Instr.loadAt, Instr.sureAddr, Sem.run_bind, Sem.run_pure, Result.andThen]
    exact run_loadVar_row _ _ t t Z (0, 0) _ hz hu rfl hi
  unfold Oper.wp
  simp [execOp, hop, hp, hrun, Result.andThen]
  exact hK' _ _ h
end Go.Proofs.YtpledhipdiephaaDoor
namespace Go.Proofs.YtpledhipdiephaaDoor
open Go.RowKit
attribute [local go_sem] strV
theorem row_set {W : World} {b o g : Nat} {v : Value} {X : Option Obj} (h : W.heap[g]? = X) (hne : b ≠ g) : (W.setCell ⟨b, o, none⟩ v).heap[g]? = X := by
  show (W.heap.modify b _)[g]? = X
  rw [Array.getElem?_modify, if_neg hne]; exact h
end Go.Proofs.YtpledhipdiephaaDoor
namespace Go.Proofs.YtpledhipdiephaaDoor
open Go.RowKit
attribute [local go_sem] strV
end Go.Proofs.YtpledhipdiephaaDoor
namespace Go.Proofs.YtpledhipdiephaaDoor
open Go.RowKit
attribute [local go_sem] strV
/-- The row of a hash's bytes. -/
def hrow (l : List UInt8) : Array Value := (Lib.byteCells l).toArray
theorem hrow_size (l : List UInt8) : (hrow l).size = l.length := by simp [hrow, Lib.byteCells_length]
theorem hrow_one (l : List UInt8) : (hrow l).all (·.oneCell') = true := by
  rw [Array.all_eq_true_iff_forall_mem]; intro v hv; exact Lib.byteCells_one l v (by simpa [hrow] using hv)
end Go.Proofs.YtpledhipdiephaaDoor
namespace Go.Proofs.YtpledhipdiephaaDoor
open Go.RowKit
attribute [local go_sem] strV
/-- The row while it is filled: k bytes are there. -/
def prow (l : List UInt8) (k : Nat) : Array Value := (Lib.byteCells (l.take k) ++ List.replicate (32 - k) (Value.int .u8 0)).toArray
theorem prow_full {l : List UInt8} (h : l.length = 32) : prow l 32 = hrow l := by
  unfold prow hrow; rw [List.take_of_length_le (by omega)]; simp
theorem prow_step {l : List UInt8} (h : l.length = 32) {k : Nat} (hk : k < 32) {x : UInt8} (hx : l[k]? = some x) : (prow l k).setIfInBounds k (.int .u8 (x.toNat : Int)) = prow l (k + 1) := by
  have e : (Lib.byteCells (l.take k)).length = k := by rw [Lib.byteCells_length, List.length_take]; omega
  unfold prow
  obtain ⟨m, hm⟩ : ∃ m, 32 - k = m + 1 := ⟨31 - k, by omega⟩
  rw [hm, show 32 - (k + 1) = m by omega, List.take_add_one, hx]
  simp only [List.setIfInBounds_toArray, List.replicate_succ]
  congr 1
  rw [List.set_append_right _ _ (by omega), e, Nat.sub_self]
  simp [Lib.byteCells]
end Go.Proofs.YtpledhipdiephaaDoor
namespace Go.Proofs.YtpledhipdiephaaDoor
open Go.RowKit
attribute [local go_sem] strV
/-- All is as it was but block b, and what has been made since. -/
structure Kept (b : Nat) (w w' : World) : Prop where
  os : w'.os = w.os
  tape : w'.tape = w.tape
  output : w'.output = w.output
  size : w.heap.size ≤ w'.heap.size
  block : ∀ k, k < w.heap.size → k ≠ b → w'.heap[k]? = w.heap[k]?
theorem Kept.of {b : Nat} {w w' : World} (h : Below w.heap.size w w') : Kept b w w' := ⟨h.os, h.tape, h.output, h.size, fun k hk _ => h.block k hk⟩
theorem Kept.trans {b : Nat} {w w1 w2 : World} (h : Kept b w w1) (g : Kept b w1 w2) : Kept b w w2 :=
  ⟨g.os.trans h.os, g.tape.trans h.tape, g.output.trans h.output, Nat.le_trans h.size g.size, fun k hk hne => (g.block k (Nat.lt_of_lt_of_le hk h.size) hne).trans (h.block k hk hne)⟩
theorem Kept.setCell {b : Nat} {w w1 : World} (h : Kept b w w1) (o : Nat) (v : Value) : Kept b w (w1.setCell ⟨b, o, none⟩ v) :=
  ⟨h.os, h.tape, h.output, by rw [World.size_setCell]; exact h.size, fun k hk hne => by
    show (w1.heap.modify b _)[k]? = _
    rw [Array.getElem?_modify, if_neg (fun e => hne e.symm)]; exact h.block k hk hne⟩
theorem Kept.below {b B : Nat} {w w' : World} (h : Kept b w w') (hB : B ≤ b) (hw : B ≤ w.heap.size) : Below B w w' :=
  ⟨h.os, h.tape, h.output, h.size, fun k hk => h.block k (by omega) (by omega)⟩
end Go.Proofs.YtpledhipdiephaaDoor
namespace Go.Proofs.YtpledhipdiephaaDoor
open Go.RowKit
attribute [local go_sem] strV
theorem Kept.setRow {b g : Nat} {w w1 : World} (h : Kept b w w1) (hg : w.heap.size ≤ g) (cs : Array Value) : Kept b w (w1.setRow g cs) :=
  ⟨h.os, h.tape, h.output, by simpa [World.setRow] using h.size, fun k hk hne => (setRow_other w1 g k cs (by omega)).trans (h.block k hk hne)⟩
end Go.Proofs.YtpledhipdiephaaDoor
namespace Go.Proofs.YtpledhipdiephaaDoor
open Go.RowKit
attribute [local go_sem] strV
end Go.Proofs.YtpledhipdiephaaDoor
namespace Go.Proofs.YtpledhipdiephaaDoor
open Go.RowKit
attribute [local go_sem] strV

end Go.Proofs.YtpledhipdiephaaDoor
namespace Go.Proofs.YtpledhipdiephaaDoor
open Go.RowKit
/-- The values of a state: port, channel, ordered, closed, stop. -/
structure St where
  p : ByteArray
  c : Int
  o : Bool
  cl : Bool
  st : Int
def St.zero : St := ⟨⟨#[]⟩, 0, false, false, 0⟩
def St.val (s : St) : Value := .agg #[.string s.p, .int .i64 s.c, .bool s.o, .bool s.cl, .int .i64 s.st]
structure Five where
  n1 : Int
  n2 : Int
  t : ByteArray
  c : Int
  st : Int
  e : Int
def Five.state (f : Five) : St := ⟨f.t, f.c, f.n2 == 1, f.n1 == 1, f.st⟩
end Go.Proofs.YtpledhipdiephaaDoor
namespace Go.Proofs.YtpledhipdiephaaDoor
open Go.RowKit
attribute [local go_sem] strV
end Go.Proofs.YtpledhipdiephaaDoor
namespace Go.Proofs.YtpledhipdiephaaDoor
open Go.RowKit
attribute [local go_sem] strV
end Go.Proofs.YtpledhipdiephaaDoor
namespace Go.Proofs.YtpledhipdiephaaDoor
open Go.RowKit
attribute [local go_sem] strV
end Go.Proofs.YtpledhipdiephaaDoor
namespace Go.Proofs.YtpledhipdiephaaDoor
open Go.RowKit
attribute [local go_sem] strV
end Go.Proofs.YtpledhipdiephaaDoor
namespace Go.Proofs.YtpledhipdiephaaDoor
open Go.RowKit
attribute [local go_sem] strV
end Go.Proofs.YtpledhipdiephaaDoor
namespace Go.Proofs.YtpledhipdiephaaDoor
open Go.RowKit
attribute [local go_sem] strV
theorem row_put5 {w : World} {g k : Nat} {cur : Array Value} {t : TypeId} {v : Value} (h : w.heap[g]? = some (.cells cur t (0, 0))) : (w.setCell ⟨g, k, none⟩ v).heap[g]? = some (.cells (cur.setIfInBounds k v) t (0, 0)) := by
  show (w.heap.modify g _)[g]? = _
  rw [Array.getElem?_modify, if_pos rfl, h]; rfl
end Go.Proofs.YtpledhipdiephaaDoor
namespace Go.Proofs.YtpledhipdiephaaDoor
open Go.RowKit
set_option linter.unusedVariables false
/-- The greatest power of two below n (of n from 2 on). -/
def halfN (n : Nat) : Nat := 2 ^ Nat.log2 (n - 1)
theorem halfN_lt {n : Nat} (h : 2 ≤ n) : halfN n < n := by
  have := Nat.log2_self_le (n := n - 1) (by omega)
  unfold halfN; omega
theorem halfN_pos (n : Nat) : 0 < halfN n := Nat.two_pow_pos _
theorem halfN_le {n : Nat} (h : 2 ≤ n) : n ≤ 2 * halfN n := by
  have := Nat.lt_log2_self (n := n - 1)
  rw [Nat.pow_succ] at this
  unfold halfN; omega
/-- How far below the top leaf i of n leaves lies. -/
def deepN (n i : Nat) : Nat :=
  if h : 2 ≤ n then 1 + (if i < halfN n then deepN (halfN n) i else deepN (n - halfN n) (i - halfN n)) else 0
termination_by n
decreasing_by
  · exact halfN_lt h
  · have := halfN_pos n; omega
theorem deepN_small {n : Nat} (h : n < 2) (i : Nat) : deepN n i = 0 := by rw [deepN, dif_neg (by omega)]
theorem deepN_left {n i : Nat} (h : 2 ≤ n) (hi : i < halfN n) : deepN n i = 1 + deepN (halfN n) i := by
  conv => lhs; rw [deepN]
  rw [dif_pos h, if_pos hi]
theorem deepN_right {n i : Nat} (h : 2 ≤ n) (hi : ¬ i < halfN n) : deepN n i = 1 + deepN (n - halfN n) (i - halfN n) := by
  conv => lhs; rw [deepN]
  rw [dif_pos h, if_neg hi]
theorem deepN_le : ∀ (n c i : Nat), n ≤ 2 ^ c → deepN n i ≤ c := by
  intro n
  induction n using Nat.strongRecOn with
  | _ n ih =>
    intro c i hn
    by_cases h2 : 2 ≤ n
    · obtain ⟨c, rfl⟩ : ∃ d, c = d + 1 := ⟨c - 1, by rcases c with _ | c <;> simp at hn ⊢; omega⟩
      have h1 := halfN_lt h2
      have hh : halfN n ≤ 2 ^ c := by
        unfold halfN
        refine Nat.pow_le_pow_right (by decide) ?_
        have : Nat.log2 (n - 1) < c + 1 := (Nat.log2_lt (by omega)).2 (by omega)
        omega
      have hl := halfN_le h2
      have hp := halfN_pos n
      by_cases hi : i < halfN n
      · rw [deepN_left h2 hi]
        have := ih _ h1 c i hh
        omega
      · rw [deepN_right h2 hi]
        have := ih (n - halfN n) (by omega) c (i - halfN n) (by omega)
        omega
    · rw [deepN_small (by omega)]; omega
theorem deepN_30 {n i : Nat} (h : n ≤ 1073741824) : deepN n i ≤ 30 := deepN_le _ _ _ h
theorem bitLen_log : ∀ (x : Nat), x ≠ 0 → x < 2 ^ 64 → Lib.bitLen x = Nat.log2 x + 1 := by
  intro x
  induction x using Nat.strongRecOn with
  | _ x ih =>
    intro h0 h1
    rw [Lib.bitLen_half x h0 h1]
    by_cases h2 : 2 ≤ x
    · rw [ih (x / 2) (by omega) (by omega) (by omega)]
      rw [Nat.log2_def x, if_pos h2]; omega
    · obtain rfl : x = 1 := by omega
      rfl
set_option maxRecDepth 100000 in
set_option maxHeartbeats 3200000 in
theorem half_any (n : Nat) (w : World) (h2 : 2 ≤ n) (h3 : n ≤ 1073741824) :
    Calls Tryd.prog 97 #[.int .i64 n] w fun e w' => e = .returned (.int .i64 (halfN n : Nat)) ∧ Below w.heap.size w w' := by
  have CB := fun W : World => Tryd.bits_Len ((n : Int) - 1) W (by omega) (by omega)
  have hb : Lib.bitLen (((n : Int) - 1).toNat) = Nat.log2 (n - 1) + 1 := by
    rw [show ((n : Int) - 1).toNat = n - 1 by omega]
    exact bitLen_log _ (by omega) (by omega)
  rw [hb] at CB
  have hk : Nat.log2 (n - 1) < 31 := (Nat.log2_lt (by omega)).2 (by omega)
  have hH : halfN n = 2 ^ Nat.log2 (n - 1) := rfl
  obtain ⟨k, hkk⟩ : ∃ k, Nat.log2 (n - 1) = k := ⟨_, rfl⟩
  rw [hkk] at CB hk hH
  rw [hH]
  have HP : 2 ^ k ≤ 2 ^ 30 := Nat.pow_le_pow_right (by decide) (by omega)
  have e1 : IntKind.i64.wrap ((n : Int) - 1) = (n : Int) - 1 := IntWalk.i64_in _ (by omega)
  have e3 : IntKind.u64.wrap ((n : Int) - 1) = (n : Int) - 1 := IntWalk.u64_in _ (by omega)
  have e4 : IntKind.i64.wrap (((k + 1 : Nat) : Int) - 1) = (k : Int) := by rw [show ((k + 1 : Nat) : Int) - 1 = (k : Int) by omega]; exact IntWalk.i64_in _ (by omega)
  have e5 : wrap64 ((2 : Int) ^ k) = ((2 ^ k : Nat) : Int) := by
    rw [show ((2 : Int) ^ k) = ((2 ^ k : Nat) : Int) by simp]
    unfold wrap64
    omega
  clear hb hkk hH
  go_enter Tryd.func97, Tryd.ntmps97
  go_wp2_with (first | (go_at_call 110; refine (CB _).mono ?_; rintro e w1 ⟨rfl, rfl⟩))
  go_ret
  refine ⟨?_, Below.refl _ _⟩
  first | rfl | (rw [e5]; rfl) | (simp only [e5]; rfl)
def halfI (n : Int) : Int := if n < 2 ∨ 1073741824 < n then 0 else (halfN n.toNat : Nat)
end Go.Proofs.YtpledhipdiephaaDoor
namespace Go.Proofs.YtpledhipdiephaaDoor
open Go.RowKit
set_option linter.unusedVariables false
/-- A reading P of values whose bytes are enc; ok: the values that it reads. -/
structure Codec {α : Type} (P : ByteArray → Int → Int → α × Int × Int) (enc : α → List UInt8) (ok : α → Prop) : Prop where
  good : ∀ {s : ByteArray} {A B : List UInt8} {x : α}, ok x → s.data.toList = A ++ enc x ++ B → P s A.length 0 = (x, ((A.length + (enc x).length : Nat) : Int), 0)
  cut : ∀ {s : ByteArray} {A : List UInt8} {x : α} {k : Nat}, ok x → s.data.toList = A ++ (enc x).take k → k < (enc x).length → (P s A.length 0).2.2 = 2
  stay : ∀ {s : ByteArray} {a e : Int}, e ≠ 0 → (P s a e).2.2 = e
  back : ∀ {s : ByteArray} {i : Nat} {a' : Int} {x : α}, i ≤ s.size → P s i 0 = (x, a', 0) → ok x ∧ ∃ m : Nat, a' = ((i + m : Nat) : Int) ∧ i + m ≤ s.size ∧ enc x = (s.data.toList.drop i).take m
theorem Codec.map {α β : Type} {P : ByteArray → Int → Int → α × Int × Int} {enc : α → List UInt8} {ok : α → Prop} (h : Codec P enc ok) (f : α → β) (g : β → α) (hgf : ∀ x, ok x → g (f x) = x) :
    Codec (fun s a e => (f (P s a e).1, (P s a e).2.1, (P s a e).2.2)) (fun b => enc (g b)) (fun b => ok (g b) ∧ f (g b) = b) := by
  refine ⟨fun {s A B x} hx hs => ?_, fun {s A x k} hx hs hk => ?_, fun {s a e} he => ?_, fun {s i a' x} hi' hh => ?_⟩
  · simp only [h.good hx.1 hs, hx.2]
  · exact h.cut hx.1 hs hk
  · exact h.stay he
  · obtain ⟨⟨x1, a1, e1⟩, hx⟩ : ∃ t, P s i 0 = t := ⟨_, rfl⟩
    simp only [hx, Prod.mk.injEq] at hh
    obtain ⟨rfl, rfl, rfl⟩ := hh
    obtain ⟨o, m, r1, r2, r3⟩ := h.back hi' hx
    exact ⟨⟨by rw [hgf _ o]; exact o, by rw [hgf _ o]⟩, m, r1, r2, by rw [hgf _ o]; exact r3⟩
section
variable {α : Type} {P : ByteArray → Int → Int → α × Int × Int} {enc : α → List UInt8} {ok : α → Prop} {may : α → Bool} {z : α} {v : ByteArray} {x : α}
end
end Go.Proofs.YtpledhipdiephaaDoor
namespace Go.Proofs.YtpledhipdiephaaDoor
open Go.RowKit
attribute [local go_sem] strV
set_option linter.unusedVariables false
end Go.Proofs.YtpledhipdiephaaDoor
namespace Go.Proofs.YtpledhipdiephaaDoor
open Go.RowKit
attribute [local go_sem] strV
set_option linter.unusedVariables false
theorem row_oth' (w : World) (g k j : Nat) (v : Value) (hne : j ≠ g) : (w.setCell ⟨g, k, none⟩ v).heap[j]? = w.heap[j]? := by
  show (w.heap.modify g _)[j]? = _
  rw [Array.getElem?_modify, if_neg (Ne.symm hne)]
end Go.Proofs.YtpledhipdiephaaDoor
namespace Go.Proofs.YtpledhipdiephaaDoor
open Go.RowKit
attribute [local go_sem] strV
end Go.Proofs.YtpledhipdiephaaDoor
namespace Go.Proofs.YtpledhipdiephaaDoor
open Go.RowKit
attribute [local go_sem] strV
structure KW (b : Nat) (w w' : World) : Prop where
  size : w.heap.size ≤ w'.heap.size
  keep : ∀ k, k < w.heap.size → k ≠ b → (∀ cur fz, w.heap[k]? ≠ some (.cells cur 5 fz)) → w'.heap[k]? = w.heap[k]?
theorem KW.trans {b : Nat} {w w1 w2 : World} (h : KW b w w1) (g : KW b w1 w2) : KW b w w2 :=
  ⟨Nat.le_trans h.size g.size, fun k hk hne hty => (g.keep k (Nat.lt_of_lt_of_le hk h.size) hne (by rw [h.keep k hk hne hty]; exact hty)).trans (h.keep k hk hne hty)⟩
theorem KW.of {b : Nat} {w w' : World} (h : Below w.heap.size w w') : KW b w w' := ⟨h.size, fun k hk _ _ => h.block k hk⟩
theorem KW.setCell {b : Nat} {w w1 : World} (h : KW b w w1) (o : Nat) (v : Value) : KW b w (w1.setCell ⟨b, o, none⟩ v) :=
  ⟨by rw [World.size_setCell]; exact h.size, fun k hk hne hty => by
    show (w1.heap.modify b _)[k]? = _
    rw [Array.getElem?_modify, if_neg (fun e => hne e.symm)]; exact h.keep k hk hne hty⟩
end Go.Proofs.YtpledhipdiephaaDoor
namespace Go.Proofs.YtpledhipdiephaaDoor
open Go.RowKit
attribute [local go_sem] strV
end Go.Proofs.YtpledhipdiephaaDoor
namespace Go.Proofs.YtpledhipdiephaaDoor
open Go.RowKit
attribute [local go_sem] strV
set_option linter.unusedVariables false
end Go.Proofs.YtpledhipdiephaaDoor
namespace Go.Proofs.YtpledhipdiephaaDoor
open Go.RowKit
attribute [local go_sem] strV
end Go.Proofs.YtpledhipdiephaaDoor
