/- sha: words of 32 bits, turned. A region that draws its order, whose calls yield one value in every world of a class, and whose last operations (a store) stand in one order: one walk, then those. sha: the words of the 64 rounds out of a block. sha: the 64 rounds over a block. sha: a digest takes a text. sha: a digest ends. sha: Sum. sha: a hash as a text, in digits. -/
import Derived.Test.YtfikbaoiialfeaaDoorRows
import Derived.Test.YtfikbaoiialfeaaDoorGA
import Derived.BigQuiet
import Derived.Deep.Cut
import Derived.WalkKit
import Derived.ProofKit
import Derived.Handy
import Derived.Below
import Derived.Lib.Hide
import Derived.IntWalk
import Derived.Outline
import Derived.WalkLawsBesides
import Derived.WalkSpells
import Derived.Deep.Quiet
import Derived.StillTail
import Derived.Test.YtfikbaoiialfeaaDoorGD
import Derived.BigRegion
import Derived.RegionTactic
import Derived.Laws.Tables
import Derived.Laws.Rows
import Derived.Laws.Cells
import Derived.Deep.MidRow
import Derived.Lib.LaidTab
import Derived.Laws.CopyRow
import Derived.Test.YtfikbaoiialfeaaDoorGC
import Derived.Test.YtfikbaoiialfeaaDoorRows2
namespace Go.Proofs.YtfikbaoiialfeaaDoor
open Go.RowKit
attribute [local go_sem] strV
def rr (x : Int) (n : Nat) : Int := bits .or .u32 (x / 2 ^ n) (x * 2 ^ (32 - n) % 4294967296)
def RN (n : Int) : Prop := n = 2 ∨ n = 6 ∨ n = 7 ∨ n = 11 ∨ n = 13 ∨ n = 17 ∨ n = 18 ∨ n = 19 ∨ n = 22 ∨ n = 25
theorem bits_or_comm (k : IntKind) (a b : Int) : bits .or k a b = bits .or k b a := by
  show k.wrap ((BitVec.ofInt k.bits a ||| BitVec.ofInt k.bits b).toNat : Int) = k.wrap ((BitVec.ofInt k.bits b ||| BitVec.ofInt k.bits a).toNat : Int)
  rw [BitVec.or_comm]
set_option maxRecDepth 100000 in
set_option maxHeartbeats 1600000 in
theorem turn_any (x : Int) (n : Int) (w : World) (hn : RN n) :
    Calls Tryd.prog 116 #[.int .u32 x, .int .i64 n] w fun e w' => e = .returned (.int .u32 (rr x n.toNat)) ∧ Below w.heap.size w w' := by
  rcases hn with rfl | rfl | rfl | rfl | rfl | rfl | rfl | rfl | rfl | rfl
  all_goals
    go_enter Tryd.func116, Tryd.ntmps116
    go_upto_region 1 with fail
    go_quiet (fail)
    go_wp2
    go_ret
    exact ⟨rfl, drewN_below _ _⟩
theorem m2 : bits .and .u64 (IntKind.u64.wrap (-2)) 31 = 30 := by decide +kernel
theorem m6 : bits .and .u64 (IntKind.u64.wrap (-6)) 31 = 26 := by decide +kernel
theorem m7 : bits .and .u64 (IntKind.u64.wrap (-7)) 31 = 25 := by decide +kernel
theorem m11 : bits .and .u64 (IntKind.u64.wrap (-11)) 31 = 21 := by decide +kernel
theorem m13 : bits .and .u64 (IntKind.u64.wrap (-13)) 31 = 19 := by decide +kernel
theorem m17 : bits .and .u64 (IntKind.u64.wrap (-17)) 31 = 15 := by decide +kernel
theorem m18 : bits .and .u64 (IntKind.u64.wrap (-18)) 31 = 14 := by decide +kernel
theorem m19 : bits .and .u64 (IntKind.u64.wrap (-19)) 31 = 13 := by decide +kernel
theorem m22 : bits .and .u64 (IntKind.u64.wrap (-22)) 31 = 10 := by decide +kernel
theorem m25 : bits .and .u64 (IntKind.u64.wrap (-25)) 31 = 7 := by decide +kernel
set_option maxRecDepth 100000 in
set_option maxHeartbeats 1600000 in
theorem rot_any (x : Int) (n : Int) (w : World) (hn : RN n) :
    Calls Tryd.prog 127 #[.int .u32 x, .int .i64 (-n)] w fun e w' => e = .returned (.int .u32 (rr x n.toNat)) ∧ Below w.heap.size w w' := by
  rcases hn with rfl | rfl | rfl | rfl | rfl | rfl | rfl | rfl | rfl | rfl
  · have f := m2
    go_enter Tryd.func127, Tryd.ntmps127
    go_wp2
    go_ret
    exact ⟨by rw [bits_or_comm]; rfl, Below.refl _ _⟩
  · have f := m6
    go_enter Tryd.func127, Tryd.ntmps127
    go_wp2
    go_ret
    exact ⟨by rw [bits_or_comm]; rfl, Below.refl _ _⟩
  · have f := m7
    go_enter Tryd.func127, Tryd.ntmps127
    go_wp2
    go_ret
    exact ⟨by rw [bits_or_comm]; rfl, Below.refl _ _⟩
  · have f := m11
    go_enter Tryd.func127, Tryd.ntmps127
    go_wp2
    go_ret
    exact ⟨by rw [bits_or_comm]; rfl, Below.refl _ _⟩
  · have f := m13
    go_enter Tryd.func127, Tryd.ntmps127
    go_wp2
    go_ret
    exact ⟨by rw [bits_or_comm]; rfl, Below.refl _ _⟩
  · have f := m17
    go_enter Tryd.func127, Tryd.ntmps127
    go_wp2
    go_ret
    exact ⟨by rw [bits_or_comm]; rfl, Below.refl _ _⟩
  · have f := m18
    go_enter Tryd.func127, Tryd.ntmps127
    go_wp2
    go_ret
    exact ⟨by rw [bits_or_comm]; rfl, Below.refl _ _⟩
  · have f := m19
    go_enter Tryd.func127, Tryd.ntmps127
    go_wp2
    go_ret
    exact ⟨by rw [bits_or_comm]; rfl, Below.refl _ _⟩
  · have f := m22
    go_enter Tryd.func127, Tryd.ntmps127
    go_wp2
    go_ret
    exact ⟨by rw [bits_or_comm]; rfl, Below.refl _ _⟩
  · have f := m25
    go_enter Tryd.func127, Tryd.ntmps127
    go_wp2
    go_ret
    exact ⟨by rw [bits_or_comm]; rfl, Below.refl _ _⟩
set_option maxRecDepth 100000 in
set_option maxHeartbeats 1600000 in
theorem right_any (x : Int) (n : Int) (w : World) (hn : RN n) :
    Calls Tryd.prog 124 #[.int .u32 x, .int .i64 n] w fun e w' => e = .returned (.int .u32 (rr x n.toNat)) ∧ Below w.heap.size w w' := by
  have CR := fun W => rot_any x n W hn
  rcases hn with rfl | rfl | rfl | rfl | rfl | rfl | rfl | rfl | rfl | rfl
  all_goals
    go_enter Tryd.func124, Tryd.ntmps124
    go_wp2_with (go_at_call 127; refine (CR _).mono ?_; rintro e w1 ⟨rfl, hb1⟩)
    go_ret
    exact ⟨rfl, hb1⟩
end Go.Proofs.YtfikbaoiialfeaaDoor
namespace Go.Proofs.YtfikbaoiialfeaaDoor
open Go.RowKit
section
variable {P : Program} {ops : Array Oper} {md : Region.Mode} {C : World → Prop}
/-- What must come before operation n comes in whatever order; then L. -/
def qHead (P : Program) (md : Region.Mode) (ops : Array Oper) (C : World → Prop) (n : Nat) (L : Array Bool → Act → Prop) : Nat → Array Bool → Act → Prop
  | 0, listed, a => L listed a
  | f + 1, listed, a => Region.ready md ops listed ≠ [] ∧ ∀ i ∈ Region.ready md ops listed, i < n ∧ qOp P ops C i (qHead P md ops C n L f (listed.setIfInBounds i true)) a
theorem wpAny_of_qHead {n g : Nat} {L : Array Bool → Act → Prop} {Q' : Exit → Act → World → Prop} (hL : ∀ listed a w, C w → L listed a → wpAny P md ops Q' g listed a w) :
    ∀ (f : Nat) (listed : Array Bool) (a : Act) (w : World), C w → qHead P md ops C n L f listed a → wpAny P md ops Q' (f + g) listed a w := by
  intro f
  induction f with
  | zero => intro listed a w hC h; rw [Nat.zero_add]; exact hL _ _ _ hC h
  | succ f ih =>
    intro listed a w hC h
    rw [show f + 1 + g = (f + g) + 1 by omega]
    exact ⟨fun h0 => absurd h0 h.1, fun i hi => wpOp_of_qOp hC (fun a' w' hC' h' => ih _ a' w' hC' h') (h.2 i hi).2⟩
theorem qHead_first {n i : Nat} {oi : Oper} {v : Value} {L : Array Bool → Act → Prop} (hi : ops[i]? = some oi) (hsel : ∀ (j : Nat) (o : Oper) cs b, ops[j]? = some o → o.op ≠ .select cs b)
    (hs : Region.sinkB md ops n = true) (hc : Region.chainB md ops n = true) (hn : n < ops.size) (hin : i < n)
    (hdone : ∀ listed a, L listed a → ∀ j ∈ Region.ready md ops listed, n ≤ j) :
    ∀ (f : Nat) (listed : Array Bool) (a : Act), HeadInv md ops n listed →
      (∀ j oj, ops[j]? = some oj → j ≠ i → listed.getD j true = false → (∀ e ∈ oj.after, Region.binds md e = true → e.on ≠ i) → oi.apart ops oj = true) →
      i ∈ Region.ready md ops listed → YieldsIn P ops C oi v a →
      qHead P md ops C n L f (listed.setIfInBounds i true) (a.put oi.dst v) → qHead P md ops C n L (f + 1) listed a := by
  intro f
  induction f with
  | zero =>
    intro listed a inv _ hr hy H
    refine ⟨fun h => (by rw [h] at hr; cases hr), fun j hj => ?_⟩
    have hjn : j < n := by
      rcases Nat.lt_or_ge j n with h | h
      · exact h
      · exact absurd hj (tail_waits hs hc hn inv _ i rfl hin (mem_ready.1 hr).1 j h)
    by_cases hji : j = i
    · subst hji; exact ⟨hjn, hy.qOp hi H⟩
    · have := hdone _ _ H j (ready_mono hj hji)
      omega
  | succ f ih =>
    intro listed a inv hfree hr hy H
    have hun := (mem_ready.1 hr).1
    refine ⟨fun h => (by rw [h] at hr; cases hr), fun j hj => ?_⟩
    have hjn : j < n := by
      rcases Nat.lt_or_ge j n with h | h
      · exact h
      · exact absurd hj (tail_waits hs hc hn inv _ i rfl hin hun j h)
    refine ⟨hjn, ?_⟩
    by_cases hji : j = i
    · subst hji; exact hy.qOp hi H
    · obtain ⟨hjun, oj, hoj, hall⟩ := mem_ready.1 hj
      have hnot : ∀ e ∈ oj.after, Region.binds md e = true → e.on ≠ i := fun e he hb heq => by
        have h1 := hall e he hb
        rw [heq, getD_both hun] at h1
        cases h1
      have h2 := qOp_put hoj (hfree j oj hoj hji hjun hnot) (fun cs b => hsel i oi cs b hi) (fun cs b => hsel j oj cs b hoj) hy (H.2 j (ready_mono hj hji)).2
      refine qOp_mono (fun a' h3 => ih (listed.setIfInBounds j true) a' (inv.set hj hjn) (fun k ok hk hki hunk hno => hfree k ok hk hki ?_ hno) (ready_mono hr (Ne.symm hji)) h3.1 ?_) h2
      · by_cases hjk : j = k
        · subst hjk; exact hjun
        · rw [getD_set_ne true hjk] at hunk; exact hunk
      · rw [Array.setIfInBounds_comm _ _ hji]
        exact h3.2
theorem qHead_lex {n g : Nat} {Lq : Act → Prop} (hsel : Region.noSelect ops = true) (hs : Region.sinkB md ops n = true) (hc : Region.chainB md ops n = true) (hn : n < ops.size) :
    ∀ (l : List Oper) (k : Nat) (listed : Array Bool) (a : Act), (∀ j, j < l.length → l[j]? = ops[k + j]?) → k + l.length = n → HeadInv md ops n listed →
    Region.lexHead md ops g l.length k listed = true → wpQuiet P ops C Lq l a →
    qHead P md ops C n (fun listed' a' => Region.seqB md ops g n listed' = true ∧ Lq a') l.length listed a := by
  intro l
  induction l with
  | nil =>
    intro k listed a _ hk _ hB h
    obtain rfl : k = n := by simpa using hk
    exact ⟨by simpa [Region.lexHead] using hB, h⟩
  | cons o l ih =>
    intro k listed a hl hk inv hB h
    have h0 : ops[k]? = some o := by simpa using (hl 0 (by simp)).symm
    simp only [List.length_cons, Region.lexHead, Bool.and_eq_true] at hB
    obtain ⟨⟨hr, hf⟩, hB'⟩ := hB
    have hkn : k < n := by simp only [List.length_cons] at hk; omega
    have hr' : k ∈ Region.ready md ops listed := by simpa using hr
    have hst : qOp P ops C k (wpQuiet P ops C Lq l) a := by unfold qOp; simp only [h0]; exact h
    obtain ⟨v, hy, hK⟩ := yieldsIn_of_qOp h0 hst
    exact qHead_first h0 (Region.noSelect_spec hsel) hs hc hn hkn (fun listed' a' hL => seqB_ready hL.1) l.length listed a inv (Region.free_spec h0 hf) hr' hy
      (ih (k + 1) _ _ (fun j hj => by have := hl (j + 1) (by simp; omega); simpa [Nat.add_assoc, Nat.add_comm 1 j] using this) (by simp only [List.length_cons] at hk; omega) (inv.set hr' hkn) hB' hK)
theorem wp_region_qtail {id : Nat} {Q : Exit → Act → World → Prop} {a : Act} {w : World} {l : List Oper} (n : Nat) (hm : P.follows .mixedOrders = true) (hB : Region.lexTailB .any l.toArray n = true) (hC : C { w with drawn := w.drawn + 1 })
    (h : wpQuiet P l.toArray C (fun a' => ∀ w', C w' → wpList P l.toArray Q (l.drop n) a' w') (l.take n) a) : (Code.region id l.toArray true).wp P Q a w := by
  simp only [Region.lexTailB, Bool.and_eq_true, decide_eq_true_eq] at hB
  obtain ⟨⟨⟨⟨hsel, hn⟩, hs⟩, hc⟩, hlex⟩ := hB
  have hn' : n < l.length := by simpa using hn
  have htl : (l.take n).length = n := by simp; omega
  have hdl : (l.drop n).length = l.toArray.size - n := by simp
  have inv0 : HeadInv .any l.toArray n (Array.replicate l.toArray.size false) :=
    ⟨by simp, fun j oj _ hl => (by rw [getD_replicate_false] at hl; cases hl), fun t _ ht => getD_in (by simpa using ht) (getD_replicate_false _ _)⟩
  have H := qHead_lex (md := .any) (g := l.toArray.size - n) hsel hs hc hn (l.take n) 0 _ a (fun j hj => by
    have hj' : j < n := by rw [htl] at hj; exact hj
    simp [hj']) (by simpa using htl) inv0 (by rw [htl]; exact hlex) h
  refine wp_region_any hm ?_
  have := wpAny_of_qHead (Q' := Q) (g := l.toArray.size - n) (fun listed a' w' hC' hL => by
    have := wpAny_of_seq (md := .any) (Q' := Q) (l.drop n) n listed a' w' (fun j => by simp [List.getElem?_drop]) (by rw [hdl]; exact hL.1) (hL.2 w' hC')
    rwa [hdl] at this) _ _ _ _ hC H
  rw [htl, show n + (l.toArray.size - n) = l.toArray.size by omega] at this
  exact this
end
/-- The same at the class of the worlds beyond W. -/
theorem wp_region_below_tail {P : Program} {id : Nat} {Q : Exit → Act → World → Prop} {a : Act} {w : World} {l : List Oper} (n : Nat) (hm : P.follows .mixedOrders = true) (hB : Region.lexTailB .any l.toArray n = true)
    (h : wpQuiet P l.toArray (fun w' => ∃ n : Beyond w, w' = n.x) (fun a' => ∀ w', (∃ n : Beyond w, w' = n.x) → wpList P l.toArray Q (l.drop n) a' w') (l.take n) a) : (Code.region id l.toArray true).wp P Q a w :=
  wp_region_qtail (C := fun w' => ∃ n : Beyond w, w' = n.x) n hm hB ⟨⟨_, (Below.refl w.heap.size w).drew⟩, rfl⟩ h
end Go.Proofs.YtfikbaoiialfeaaDoor
namespace Go.Proofs.YtfikbaoiialfeaaDoor
open Go.RowKit
attribute [local go_sem] strV
set_option linter.unusedVariables false
def wrow (l : List Int) : Array Value := (l.map (Value.int .u32)).toArray
theorem wrow_size (l : List Int) : (wrow l).size = l.length := by simp [wrow]
theorem wrow_at {l : List Int} {k : Nat} {x : Int} (h : l[k]? = some x) : (wrow l)[k]? = some (.int .u32 x) := by simp [wrow, h]
theorem wrow_set (l : List Int) (k : Nat) (x : Int) : (wrow l).setIfInBounds k (.int .u32 x) = wrow (l.set k x) := by
  simp [wrow, List.map_set]
theorem wrow_one (l : List Int) : (wrow l).all (·.oneCell') = true := by
  rw [Array.all_eq_true_iff_forall_mem]; intro v hv; simp [wrow] at hv; obtain ⟨x, _, rfl⟩ := hv; rfl
theorem get_some {l : List Int} {k : Nat} (h : k < l.length) : l[k]? = some (l.getD k 0) := by
  rw [List.getD_eq_getElem?_getD, List.getElem?_eq_getElem h]; rfl
/-- A digest's cells: the sum, the buffer, its bytes in use, the bytes so far. -/
def drow (S : List Int) (B : List UInt8) (u z : Int) : Array Value := (S.map (Value.int .u32) ++ (Lib.byteCells B ++ [Value.int .i64 u, Value.int .i64 z])).toArray
theorem byteCells_at {l : List UInt8} {k : Nat} (h : k < l.length) : (Lib.byteCells l)[k]? = some (.int .u8 ((l.getD k 0).toNat : Int)) := by
  simp [Lib.byteCells, List.getD_eq_getElem?_getD, h]
theorem drow_sum {S : List Int} {B : List UInt8} {u z : Int} {k : Nat} (h : k < S.length) : (drow S B u z)[k]? = some (.int .u32 (S.getD k 0)) := by
  unfold drow
  rw [List.getElem?_toArray, List.getElem?_append_left (by simpa using h), List.getElem?_map, get_some h]; rfl
theorem drow_buf {S : List Int} {B : List UInt8} {u z : Int} {k : Nat} (hS : S.length = 8) (h : k < B.length) : (drow S B u z)[8 + k]? = some (.int .u8 ((B.getD k 0).toNat : Int)) := by
  unfold drow
  rw [List.getElem?_toArray, List.getElem?_append_right (by simp; omega)]
  simp only [List.length_map, hS]
  rw [show 8 + k - 8 = k by omega, List.getElem?_append_left (by rw [Lib.byteCells_length]; exact h), byteCells_at h]
def byt (bs : List UInt8) (i : Nat) : Int := ((bs.getD i 0).toNat : Int)
def word (bs : List UInt8) (k : Nat) : Int := bits .or .u32 (bits .or .u32 (bits .or .u32 (byt bs (4 * k) % 4294967296 * 16777216 % 4294967296) (byt bs (4 * k + 1) % 4294967296 * 65536 % 4294967296)) (byt bs (4 * k + 2) % 4294967296 * 256 % 4294967296)) (byt bs (4 * k + 3) % 4294967296)
def nw (L : List Int) (k : Nat) : Int := (L.getD (k - 16) 0 + bits .xor .u32 (bits .xor .u32 (rr (L.getD (k - 15) 0) 7) (rr (L.getD (k - 15) 0) 18)) (L.getD (k - 15) 0 / 8) + L.getD (k - 7) 0 + bits .xor .u32 (bits .xor .u32 (rr (L.getD (k - 2) 0) 17) (rr (L.getD (k - 2) 0) 19)) (L.getD (k - 2) 0 / 1024)) % 4294967296
/-- The words while they are reckoned: k are there. -/
def sch (bs : List UInt8) : Nat → List Int
  | 0 => List.replicate 64 0
  | k + 1 => (sch bs k).set k (if k < 16 then word bs k else nw (sch bs k) k)
theorem sch_len (bs : List UInt8) (k : Nat) : (sch bs k).length = 64 := by
  induction k with
  | zero => simp [sch]
  | succ k ih => simp [sch, ih]
def sched (bs : List UInt8) : List Int := sch bs 64
set_option maxRecDepth 100000 in
set_option maxHeartbeats 3200000 in
theorem schedule_any (b : Nat) (w : World) (S : List Int) (B : List UInt8) (u z : Int) (hd : w.heap[b]? = some (.cells (drow S B u z) 128 (0, 0))) (hS : S.length = 8) (hB : B.length = 64) :
    Calls Tryd.prog 123 #[.pointer (some ⟨b, 0, none⟩)] w fun e w' => e = .returned (.agg (wrow (sched B))) ∧ Below w.heap.size w w' := by
  have hlt : b < w.heap.size := (Array.getElem?_eq_some_iff.1 hd).1
  have g0 : ((w.alloc (.cells #[Value.int .u32 0, Value.int .u32 0, Value.int .u32 0, Value.int .u32 0, Value.int .u32 0, Value.int .u32 0, Value.int .u32 0, Value.int .u32 0, Value.int .u32 0, Value.int .u32 0, Value.int .u32 0, Value.int .u32 0, Value.int .u32 0, Value.int .u32 0, Value.int .u32 0, Value.int .u32 0, Value.int .u32 0, Value.int .u32 0, Value.int .u32 0, Value.int .u32 0, Value.int .u32 0, Value.int .u32 0, Value.int .u32 0, Value.int .u32 0, Value.int .u32 0, Value.int .u32 0, Value.int .u32 0, Value.int .u32 0, Value.int .u32 0, Value.int .u32 0, Value.int .u32 0, Value.int .u32 0, Value.int .u32 0, Value.int .u32 0, Value.int .u32 0, Value.int .u32 0, Value.int .u32 0, Value.int .u32 0, Value.int .u32 0, Value.int .u32 0, Value.int .u32 0, Value.int .u32 0, Value.int .u32 0, Value.int .u32 0, Value.int .u32 0, Value.int .u32 0, Value.int .u32 0, Value.int .u32 0, Value.int .u32 0, Value.int .u32 0, Value.int .u32 0, Value.int .u32 0, Value.int .u32 0, Value.int .u32 0, Value.int .u32 0, Value.int .u32 0, Value.int .u32 0, Value.int .u32 0, Value.int .u32 0, Value.int .u32 0, Value.int .u32 0, Value.int .u32 0, Value.int .u32 0, Value.int .u32 0] 132)).alloc (.cells #[Value.int .u32 0, Value.int .u32 0, Value.int .u32 0, Value.int .u32 0, Value.int .u32 0, Value.int .u32 0, Value.int .u32 0, Value.int .u32 0, Value.int .u32 0, Value.int .u32 0, Value.int .u32 0, Value.int .u32 0, Value.int .u32 0, Value.int .u32 0, Value.int .u32 0, Value.int .u32 0, Value.int .u32 0, Value.int .u32 0, Value.int .u32 0, Value.int .u32 0, Value.int .u32 0, Value.int .u32 0, Value.int .u32 0, Value.int .u32 0, Value.int .u32 0, Value.int .u32 0, Value.int .u32 0, Value.int .u32 0, Value.int .u32 0, Value.int .u32 0, Value.int .u32 0, Value.int .u32 0, Value.int .u32 0, Value.int .u32 0, Value.int .u32 0, Value.int .u32 0, Value.int .u32 0, Value.int .u32 0, Value.int .u32 0, Value.int .u32 0, Value.int .u32 0, Value.int .u32 0, Value.int .u32 0, Value.int .u32 0, Value.int .u32 0, Value.int .u32 0, Value.int .u32 0, Value.int .u32 0, Value.int .u32 0, Value.int .u32 0, Value.int .u32 0, Value.int .u32 0, Value.int .u32 0, Value.int .u32 0, Value.int .u32 0, Value.int .u32 0, Value.int .u32 0, Value.int .u32 0, Value.int .u32 0, Value.int .u32 0, Value.int .u32 0, Value.int .u32 0, Value.int .u32 0, Value.int .u32 0] 132)).heap[w.heap.size]? = some (.cells (wrow (List.replicate 64 0)) 132 (0, 0)) := by
    show ((w.heap.push _).push _)[w.heap.size]? = _
    rw [Array.getElem?_push_lt (by simp), ← Array.getElem?_eq_getElem (by simp), Array.getElem?_push_size]
    rfl
  have g1 : ((w.alloc (.cells #[Value.int .u32 0, Value.int .u32 0, Value.int .u32 0, Value.int .u32 0, Value.int .u32 0, Value.int .u32 0, Value.int .u32 0, Value.int .u32 0, Value.int .u32 0, Value.int .u32 0, Value.int .u32 0, Value.int .u32 0, Value.int .u32 0, Value.int .u32 0, Value.int .u32 0, Value.int .u32 0, Value.int .u32 0, Value.int .u32 0, Value.int .u32 0, Value.int .u32 0, Value.int .u32 0, Value.int .u32 0, Value.int .u32 0, Value.int .u32 0, Value.int .u32 0, Value.int .u32 0, Value.int .u32 0, Value.int .u32 0, Value.int .u32 0, Value.int .u32 0, Value.int .u32 0, Value.int .u32 0, Value.int .u32 0, Value.int .u32 0, Value.int .u32 0, Value.int .u32 0, Value.int .u32 0, Value.int .u32 0, Value.int .u32 0, Value.int .u32 0, Value.int .u32 0, Value.int .u32 0, Value.int .u32 0, Value.int .u32 0, Value.int .u32 0, Value.int .u32 0, Value.int .u32 0, Value.int .u32 0, Value.int .u32 0, Value.int .u32 0, Value.int .u32 0, Value.int .u32 0, Value.int .u32 0, Value.int .u32 0, Value.int .u32 0, Value.int .u32 0, Value.int .u32 0, Value.int .u32 0, Value.int .u32 0, Value.int .u32 0, Value.int .u32 0, Value.int .u32 0, Value.int .u32 0, Value.int .u32 0] 132)).alloc (.cells #[Value.int .u32 0, Value.int .u32 0, Value.int .u32 0, Value.int .u32 0, Value.int .u32 0, Value.int .u32 0, Value.int .u32 0, Value.int .u32 0, Value.int .u32 0, Value.int .u32 0, Value.int .u32 0, Value.int .u32 0, Value.int .u32 0, Value.int .u32 0, Value.int .u32 0, Value.int .u32 0, Value.int .u32 0, Value.int .u32 0, Value.int .u32 0, Value.int .u32 0, Value.int .u32 0, Value.int .u32 0, Value.int .u32 0, Value.int .u32 0, Value.int .u32 0, Value.int .u32 0, Value.int .u32 0, Value.int .u32 0, Value.int .u32 0, Value.int .u32 0, Value.int .u32 0, Value.int .u32 0, Value.int .u32 0, Value.int .u32 0, Value.int .u32 0, Value.int .u32 0, Value.int .u32 0, Value.int .u32 0, Value.int .u32 0, Value.int .u32 0, Value.int .u32 0, Value.int .u32 0, Value.int .u32 0, Value.int .u32 0, Value.int .u32 0, Value.int .u32 0, Value.int .u32 0, Value.int .u32 0, Value.int .u32 0, Value.int .u32 0, Value.int .u32 0, Value.int .u32 0, Value.int .u32 0, Value.int .u32 0, Value.int .u32 0, Value.int .u32 0, Value.int .u32 0, Value.int .u32 0, Value.int .u32 0, Value.int .u32 0, Value.int .u32 0, Value.int .u32 0, Value.int .u32 0, Value.int .u32 0] 132)).heap[w.heap.size + 1]? = some (.cells (wrow (sch B 0)) 132 (0, 0)) := by
    show ((w.heap.push _).push _)[w.heap.size + 1]? = _
    rw [show w.heap.size + 1 = (w.heap.push (Obj.cells #[Value.int .u32 0, Value.int .u32 0, Value.int .u32 0, Value.int .u32 0, Value.int .u32 0, Value.int .u32 0, Value.int .u32 0, Value.int .u32 0, Value.int .u32 0, Value.int .u32 0, Value.int .u32 0, Value.int .u32 0, Value.int .u32 0, Value.int .u32 0, Value.int .u32 0, Value.int .u32 0, Value.int .u32 0, Value.int .u32 0, Value.int .u32 0, Value.int .u32 0, Value.int .u32 0, Value.int .u32 0, Value.int .u32 0, Value.int .u32 0, Value.int .u32 0, Value.int .u32 0, Value.int .u32 0, Value.int .u32 0, Value.int .u32 0, Value.int .u32 0, Value.int .u32 0, Value.int .u32 0, Value.int .u32 0, Value.int .u32 0, Value.int .u32 0, Value.int .u32 0, Value.int .u32 0, Value.int .u32 0, Value.int .u32 0, Value.int .u32 0, Value.int .u32 0, Value.int .u32 0, Value.int .u32 0, Value.int .u32 0, Value.int .u32 0, Value.int .u32 0, Value.int .u32 0, Value.int .u32 0, Value.int .u32 0, Value.int .u32 0, Value.int .u32 0, Value.int .u32 0, Value.int .u32 0, Value.int .u32 0, Value.int .u32 0, Value.int .u32 0, Value.int .u32 0, Value.int .u32 0, Value.int .u32 0, Value.int .u32 0, Value.int .u32 0, Value.int .u32 0, Value.int .u32 0, Value.int .u32 0] 132 (0, 0))).size by simp, Array.getElem?_push_size]
    rfl
  have hbA : Below w.heap.size w ((w.alloc (.cells #[Value.int .u32 0, Value.int .u32 0, Value.int .u32 0, Value.int .u32 0, Value.int .u32 0, Value.int .u32 0, Value.int .u32 0, Value.int .u32 0, Value.int .u32 0, Value.int .u32 0, Value.int .u32 0, Value.int .u32 0, Value.int .u32 0, Value.int .u32 0, Value.int .u32 0, Value.int .u32 0, Value.int .u32 0, Value.int .u32 0, Value.int .u32 0, Value.int .u32 0, Value.int .u32 0, Value.int .u32 0, Value.int .u32 0, Value.int .u32 0, Value.int .u32 0, Value.int .u32 0, Value.int .u32 0, Value.int .u32 0, Value.int .u32 0, Value.int .u32 0, Value.int .u32 0, Value.int .u32 0, Value.int .u32 0, Value.int .u32 0, Value.int .u32 0, Value.int .u32 0, Value.int .u32 0, Value.int .u32 0, Value.int .u32 0, Value.int .u32 0, Value.int .u32 0, Value.int .u32 0, Value.int .u32 0, Value.int .u32 0, Value.int .u32 0, Value.int .u32 0, Value.int .u32 0, Value.int .u32 0, Value.int .u32 0, Value.int .u32 0, Value.int .u32 0, Value.int .u32 0, Value.int .u32 0, Value.int .u32 0, Value.int .u32 0, Value.int .u32 0, Value.int .u32 0, Value.int .u32 0, Value.int .u32 0, Value.int .u32 0, Value.int .u32 0, Value.int .u32 0, Value.int .u32 0, Value.int .u32 0] 132)).alloc (.cells #[Value.int .u32 0, Value.int .u32 0, Value.int .u32 0, Value.int .u32 0, Value.int .u32 0, Value.int .u32 0, Value.int .u32 0, Value.int .u32 0, Value.int .u32 0, Value.int .u32 0, Value.int .u32 0, Value.int .u32 0, Value.int .u32 0, Value.int .u32 0, Value.int .u32 0, Value.int .u32 0, Value.int .u32 0, Value.int .u32 0, Value.int .u32 0, Value.int .u32 0, Value.int .u32 0, Value.int .u32 0, Value.int .u32 0, Value.int .u32 0, Value.int .u32 0, Value.int .u32 0, Value.int .u32 0, Value.int .u32 0, Value.int .u32 0, Value.int .u32 0, Value.int .u32 0, Value.int .u32 0, Value.int .u32 0, Value.int .u32 0, Value.int .u32 0, Value.int .u32 0, Value.int .u32 0, Value.int .u32 0, Value.int .u32 0, Value.int .u32 0, Value.int .u32 0, Value.int .u32 0, Value.int .u32 0, Value.int .u32 0, Value.int .u32 0, Value.int .u32 0, Value.int .u32 0, Value.int .u32 0, Value.int .u32 0, Value.int .u32 0, Value.int .u32 0, Value.int .u32 0, Value.int .u32 0, Value.int .u32 0, Value.int .u32 0, Value.int .u32 0, Value.int .u32 0, Value.int .u32 0, Value.int .u32 0, Value.int .u32 0, Value.int .u32 0, Value.int .u32 0, Value.int .u32 0, Value.int .u32 0] 132)) := Below.alloc (Below.alloc (Below.refl _ _) (Nat.le_refl _) _) (by simp) _
  go_enter Tryd.func123, Tryd.ntmps123
  go_upto_region 2 with fail
  refine wp_nameE _ (fun W hW => ?_)
  have z0 : W.heap[w.heap.size]? = some (.cells (wrow (List.replicate 64 0)) 132 (0, 0)) := by rw [hW]; exact g0
  have z1 : W.heap[w.heap.size + 1]? = some (.cells (wrow (sch B 0)) 132 (0, 0)) := by rw [hW]; exact g1
  have hbel : Below w.heap.size w W := by rw [hW]; exact hbA
  have hd := cells_of hd hbel hlt
  clear hW g0 g1 hbA
  go_wp2
  go_loopw [9] (fun v wr => ∃ k : Nat, k ≤ 16 ∧ Below w.heap.size w wr ∧ wr.heap[b]? = some (.cells (drow S B u z) 128 (0, 0)) ∧ wr.heap[w.heap.size]? = some (.cells (wrow (List.replicate 64 0)) 132 (0, 0)) ∧ wr.heap[w.heap.size + 1]? = some (.cells (wrow (sch B k)) 132 (0, 0)) ∧ v = .int .i64 k) (fun v _ => 16 - (intOf v).toNat)
  case atStart => exact ⟨0, by omega, hbel, hd, z0, z1, rfl⟩
  case round =>
    clear z0 z1 hd hbel
    obtain ⟨k, hk, hbel, hd, y0, y1, rfl⟩ := hrel
    by_cases hlt2 : k < 16
    · have d1 : decide ((k : Int) < 16) = true := decide_eq_true (by omega)
      have e4 : IntKind.i64.wrap (4 * (k : Int)) = 4 * (k : Int) := IntWalk.i64_in _ (by omega)
      have e5 : IntKind.i64.wrap (4 * (k : Int) + 4) = 4 * (k : Int) + 4 := IntWalk.i64_in _ (by omega)
      have e6 : (4 * (k : Int)).toNat = 4 * k := by omega
      have e7 : (4 * (k : Int) + 4).toNat = 4 * k + 4 := by omega
      have e8 : ((k : Nat) : Int).toNat = k := by omega
      have n1 : (0 : Int) ≤ 4 * (k : Int) := by omega
      have n2 : 4 * (k : Int) ≤ 4 * (k : Int) + 4 := by omega
      have n3 : 4 * (k : Int) + 4 ≤ 64 := by omega
      have c0 : wr.cell? ⟨b, 8 + 4 * k, none⟩ = some (.int .u8 (byt B (4 * k))) := by rw [cell_heap hd, drow_buf hS (by omega)]; rfl
      have c1 : wr.cell? ⟨b, 8 + 4 * k + 1, none⟩ = some (.int .u8 (byt B (4 * k + 1))) := by rw [cell_heap hd, Nat.add_assoc 8, drow_buf hS (by omega)]; rfl
      have c2 : wr.cell? ⟨b, 8 + 4 * k + 2, none⟩ = some (.int .u8 (byt B (4 * k + 2))) := by rw [cell_heap hd, Nat.add_assoc 8, drow_buf hS (by omega)]; rfl
      have c3 : wr.cell? ⟨b, 8 + 4 * k + 3, none⟩ = some (.int .u8 (byt B (4 * k + 3))) := by rw [cell_heap hd, Nat.add_assoc 8, drow_buf hS (by omega)]; rfl
      have ck : wr.cell? ⟨w.heap.size + 1, k, none⟩ = some (.int .u32 ((sch B k).getD k 0)) := by rw [cell_heap y1, wrow_at (get_some (by rw [sch_len]; omega))]
      have fk : wr.frozen? ⟨w.heap.size + 1, k, none⟩ = false := frozen_heap y1 k
      go_upto_region 6 with fail
      go_region
      all_goals go_wp2
      go_roundw
      case rel => exact ⟨k + 1, by omega, (hbel.setCell (p := ⟨w.heap.size + 1, k, none⟩) (by show _ ≤ w.heap.size + 1; omega) _).drew, row_set (W := wr.drew) hd (by omega), row_set (W := wr.drew) y0 (by omega), (by rw [sch, if_pos hlt2, ← wrow_set]; exact row_put5 (w := wr.drew) y1), by go_num⟩
      case measure => (simp [intOf]) <;> omega
    · obtain rfl : k = 16 := by omega
      have d1 : decide (((16 : Nat) : Int) < 16) = false := rfl
      have hb1 : b < w.heap.size := hlt
      go_upto_region 9 with fail
      clear d1
      go_loopw [6] (fun v wr => ∃ k : Nat, 16 ≤ k ∧ k ≤ 64 ∧ Below w.heap.size w wr ∧ wr.heap[w.heap.size]? = some (.cells (wrow (List.replicate 64 0)) 132 (0, 0)) ∧ wr.heap[w.heap.size + 1]? = some (.cells (wrow (sch B k)) 132 (0, 0)) ∧ v = .int .i64 k) (fun v _ => 64 - (intOf v).toNat)
      case atStart => exact ⟨16, by omega, by omega, hbel, y0, y1, rfl⟩
      case round =>
        clear y0 y1 hd hbel
        obtain ⟨k, hk0, hk, hbel, y0, y1, rfl⟩ := hrel
        by_cases hlt2 : k < 64
        · have d1 : decide ((k : Int) < 64) = true := decide_eq_true (by omega)
          have e1 : IntKind.i64.wrap ((k : Int) - 15) = (k : Int) - 15 := IntWalk.i64_in _ (by omega)
          have e2 : IntKind.i64.wrap ((k : Int) - 2) = (k : Int) - 2 := IntWalk.i64_in _ (by omega)
          have e3 : IntKind.i64.wrap ((k : Int) - 16) = (k : Int) - 16 := IntWalk.i64_in _ (by omega)
          have e4 : IntKind.i64.wrap ((k : Int) - 7) = (k : Int) - 7 := IntWalk.i64_in _ (by omega)
          have t1 : ((k : Int) - 15).toNat = k - 15 := by omega
          have t2 : ((k : Int) - 2).toNat = k - 2 := by omega
          have t3 : ((k : Int) - 16).toNat = k - 16 := by omega
          have t4 : ((k : Int) - 7).toNat = k - 7 := by omega
          have t5 : ((k : Nat) : Int).toNat = k := by omega
          have p1 : (0 : Int) ≤ (k : Int) - 15 := by omega
          have p2 : (0 : Int) ≤ (k : Int) - 2 := by omega
          have p3 : (0 : Int) ≤ (k : Int) - 16 := by omega
          have p4 : (0 : Int) ≤ (k : Int) - 7 := by omega
          have r1 : (k : Int) - 15 < 64 := by omega
          have r2 : (k : Int) - 2 < 64 := by omega
          have r3 : (k : Int) - 16 < 64 := by omega
          have r4 : (k : Int) - 7 < 64 := by omega
          have r5 : (k : Int) < 64 := by omega
          have hLn : (sch B k).length = 64 := sch_len _ _
          obtain ⟨x15, hx15⟩ : ∃ x, (sch B k).getD (k - 15) 0 = x := ⟨_, rfl⟩
          obtain ⟨x2, hx2⟩ : ∃ x, (sch B k).getD (k - 2) 0 = x := ⟨_, rfl⟩
          obtain ⟨x16, hx16⟩ : ∃ x, (sch B k).getD (k - 16) 0 = x := ⟨_, rfl⟩
          obtain ⟨x7, hx7⟩ : ∃ x, (sch B k).getD (k - 7) 0 = x := ⟨_, rfl⟩
          have R7 := fun W => right_any x15 7 W (by simp [RN])
          have R18 := fun W => right_any x15 18 W (by simp [RN])
          have R17 := fun W => right_any x2 17 W (by simp [RN])
          have R19 := fun W => right_any x2 19 W (by simp [RN])
          have c1 : wr.cell? ⟨w.heap.size + 1, k - 15, none⟩ = some (.int .u32 x15) := by rw [cell_heap y1, wrow_at (get_some (by omega)), hx15]
          have c2 : wr.cell? ⟨w.heap.size + 1, k - 2, none⟩ = some (.int .u32 x2) := by rw [cell_heap y1, wrow_at (get_some (by omega)), hx2]
          go_upto_region 12 with (go_quiet (fail))
          refine wp_nameE _ (fun W3 hW => ?_)
          have z0 : W3.heap[w.heap.size]? = some (.cells (wrow (List.replicate 64 0)) 132 (0, 0)) := by rw [hW]; exact y0
          have z1 : W3.heap[w.heap.size + 1]? = some (.cells (wrow (sch B k)) 132 (0, 0)) := by rw [hW]; exact y1
          have hb3 : Below w.heap.size w W3 := by rw [hW]; exact hbel.trans ((drewN_below _ _).mono hbel.size)
          clear hW c1 c2 y0 y1 hbel
          have hgl : w.heap.size + 1 < W3.heap.size := (Array.getElem?_eq_some_iff.1 z1).1
          have c3 : W3.cell? ⟨w.heap.size + 1, k - 16, none⟩ = some (.int .u32 x16) := by rw [cell_heap z1, wrow_at (get_some (by omega)), hx16]
          have c4 : W3.cell? ⟨w.heap.size + 1, k - 7, none⟩ = some (.int .u32 x7) := by rw [cell_heap z1, wrow_at (get_some (by omega)), hx7]
          obtain ⟨hcb, hfb⟩ := beyond_cells (W := W3)
          refine wp_region_below_tail 29 (by kernel_rfl) (by kernel_rfl) ?_
          simp only [List.take_succ_cons, List.take_zero, List.drop_succ_cons, List.drop_zero]
          repeat (go_big_quiet_step ((go_at_call 124; first | (with_reducible exact quiet_below (R7 _)) | (with_reducible exact quiet_below (R18 _)) | (with_reducible exact quiet_below (R17 _)) | (with_reducible exact quiet_below (R19 _)))))
          intro w9 hw9
          have hb9 := beyond_below hw9
          have z0 := cells_of z0 hb9 (by omega)
          have z1 := cells_of z1 hb9 hgl
          have hb3 := hb3.trans (hb9.mono hb3.size)
          clear hcb hfb hw9 hgl c3 c4 hb9
          have ck : w9.cell? ⟨w.heap.size + 1, k, none⟩ = some (.int .u32 ((sch B k).getD k 0)) := by rw [cell_heap z1, wrow_at (get_some (by omega))]
          have fk : w9.frozen? ⟨w.heap.size + 1, k, none⟩ = false := frozen_heap z1 k
          go_wp2
          go_roundw
          case rel =>
            have hst : sch B (k + 1) = (sch B k).set k ((x16 + bits BinOp.xor IntKind.u32 (bits BinOp.xor IntKind.u32 (rr x15 7) (rr x15 18)) (x15 / 8) + x7 + bits BinOp.xor IntKind.u32 (bits BinOp.xor IntKind.u32 (rr x2 17) (rr x2 19)) (x2 / 1024)) % 4294967296) := by
              rw [sch, if_neg (by omega), nw, hx16, hx15, hx7, hx2]
            exact ⟨k + 1, by omega, by omega, hb3.setCell (p := ⟨w.heap.size + 1, k, none⟩) (by show _ ≤ w.heap.size + 1; omega) _, row_set z0 (by omega), by rw [hst, ← wrow_set]; exact row_put5 z1, by go_num⟩
          case measure => (simp [intOf]) <;> omega
        · obtain rfl : k = 64 := by omega
          have d1 : decide (((64 : Nat) : Int) < 64) = false := rfl
          have hsz : (wrow (sch B 64)).size = 64 := by rw [wrow_size, sch_len]
          have hone := wrow_one (sch B 64)
          go_wp2_with (first | (refine wpList_loadRow rfl (.tmp 3) 132 rfl Tryd.underlying132 (by rw [hsz]; kernel_rfl) rfl y1 ?_) | (refine wpList_storeRowTo rfl (.tmp 2) (.tmp 87) 132 rfl (by rw [hsz]; kernel_rfl) rfl rfl y0 (by rw [hsz]; rfl) hone ?_))
          refine bodyPost_ret (v := .agg (wrow (sch B 64))) ?_ rfl ?_
          · simp [results, Tryd.results123, Act.put, asAddr]
            exact run_loadVar_row _ _ 132 132 _ (0, 0) _ (setRow_heap _ _ _ _ _ _ y0) Tryd.underlying132 rfl (by rw [hsz]; kernel_rfl)
          exact ⟨rfl, below_setRow hbel (by omega) _⟩
end Go.Proofs.YtfikbaoiialfeaaDoor
namespace Go.Proofs.YtfikbaoiialfeaaDoor
open Go.RowKit
attribute [local go_sem] strV
set_option linter.unusedVariables false
def ktab : List Int := [1116352408, 1899447441, 3049323471, 3921009573, 961987163, 1508970993, 2453635748, 2870763221, 3624381080, 310598401, 607225278, 1426881987, 1925078388, 2162078206, 2614888103, 3248222580, 3835390401, 4022224774, 264347078, 604807628, 770255983, 1249150122, 1555081692, 1996064986, 2554220882, 2821834349, 2952996808, 3210313671, 3336571891, 3584528711, 113926993, 338241895, 666307205, 773529912, 1294757372, 1396182291, 1695183700, 1986661051, 2177026350, 2456956037, 2730485921, 2820302411, 3259730800, 3345764771, 3516065817, 3600352804, 4094571909, 275423344, 430227734, 506948616, 659060556, 883997877, 958139571, 1322822218, 1537002063, 1747873779, 1955562222, 2024104815, 2227730452, 2361852424, 2428436474, 2756734187, 3204031479, 3329325298]
def stab : List Int := [1779033703, 3144134277, 1013904242, 2773480762, 1359893119, 2600822924, 528734635, 1541459225]
structure V8 where
  a : Int
  b : Int
  c : Int
  k : Int
  e : Int
  f : Int
  g : Int
  h : Int
def V8.list (v : V8) : List Int := [v.a, v.b, v.c, v.k, v.e, v.f, v.g, v.h]
def xX (K W : Int) (v : V8) : Int := (v.h + bits .xor .u32 (bits .xor .u32 (rr v.e 6) (rr v.e 11)) (rr v.e 25) + bits .xor .u32 (bits .and .u32 v.e v.f) (bits .and .u32 (bits .xor .u32 (if IntKind.u32.signed = true then -1 else IntKind.u32.max) v.e) v.g) + K + W) % 4294967296
def yY (v : V8) : Int := (bits .xor .u32 (bits .xor .u32 (rr v.a 2) (rr v.a 13)) (rr v.a 22) + bits .xor .u32 (bits .xor .u32 (bits .and .u32 v.a v.b) (bits .and .u32 v.a v.c)) (bits .and .u32 v.b v.c)) % 4294967296
def stp (K W : Int) (v : V8) : V8 := ⟨(xX K W v + yY v) % 4294967296, v.a, v.b, v.c, (v.k + xX K W v) % 4294967296, v.e, v.f, v.g⟩
def rnds (L : List Int) (v : V8) : Nat → V8
  | 0 => v
  | i + 1 => stp (ktab.getD i 0) (L.getD i 0) (rnds L v i)
def v8 (S : List Int) : V8 := ⟨S.getD 0 0, S.getD 1 0, S.getD 2 0, S.getD 3 0, S.getD 4 0, S.getD 5 0, S.getD 6 0, S.getD 7 0⟩
def addv (v w : V8) : List Int := [(v.a + w.a) % 4294967296, (v.b + w.b) % 4294967296, (v.c + w.c) % 4294967296, (v.k + w.k) % 4294967296, (v.e + w.e) % 4294967296, (v.f + w.f) % 4294967296, (v.g + w.g) % 4294967296, (v.h + w.h) % 4294967296]
theorem drow_set (S : List Int) (B : List UInt8) (u z x : Int) (k : Nat) (h : k < S.length) : (drow S B u z).setIfInBounds k (.int .u32 x) = drow (S.set k x) B u z := by
  unfold drow
  rw [List.setIfInBounds_toArray, List.set_append_left _ _ (by simpa using h), List.map_set]
theorem list8 {S : List Int} (h : S.length = 8) : ∃ a b c d e f g i, S = [a, b, c, d, e, f, g, i] := by
  match S, h with
  | [a, b, c, d, e, f, g, i], _ => exact ⟨_, _, _, _, _, _, _, _, rfl⟩
theorem Kept.drew {b : Nat} {w w1 : World} (h : Kept b w w1) : Kept b w w1.drew := ⟨h.os, h.tape, h.output, h.size, h.block⟩
/-- What a block turns a sum into. -/
def comp (S : List Int) (B : List UInt8) : List Int := addv (v8 S) (rnds (sched B) (v8 S) 64)
theorem heap_push (w : World) (c : Array Value) (t : TypeId) : (w.alloc (.cells c t)).heap[w.heap.size]? = some (.cells c t (0, 0)) := by
  show (w.heap.push _)[w.heap.size]? = _
  rw [Array.getElem?_push_size]
/-- What the program's tables hold. -/
def SW (w : World) : Prop := Lib.TabIs Tryd.prog w "lighterman/sha.start" .u32 stab ∧ Lib.TabIs Tryd.prog w "lighterman/sha.rounds" .u32 ktab
theorem sw_g0 : Tryd.prog.globalNamed "lighterman/sha.start" = some 0 := by kernel_rfl
theorem sw_g1 : Tryd.prog.globalNamed "lighterman/sha.rounds" = some 1 := by kernel_rfl
theorem SW.size {w : World} (h : SW w) : 1 < w.heap.size := by
  obtain ⟨_, h⟩ := h
  unfold Lib.TabIs World.var? at h
  rw [sw_g1] at h
  simp only [Option.bind_some] at h
  rcases Nat.lt_or_ge 1 w.heap.size with h' | h'
  · exact h'
  · rw [Array.getElem?_eq_none h'] at h; cases h
theorem SW.of_blocks {w w' : World} (h : SW w) (h0 : w'.heap[0]? = w.heap[0]?) (h1 : w'.heap[1]? = w.heap[1]?) : SW w' := by
  obtain ⟨hs, ht⟩ := h
  unfold SW Lib.TabIs World.var? at *
  rw [sw_g0] at *
  rw [sw_g1] at *
  simp only [Option.bind_some] at *
  rw [h0, h1]
  exact ⟨hs, ht⟩
theorem SW.below {w w' : World} (h : SW w) (hb : Below w.heap.size w w') : SW w' := by
  have hs := h.size
  exact h.of_blocks (hb.block 0 (by omega)) (hb.block 1 hs)
theorem SW.round {w : World} (h : SW w) {i : Nat} (hi : i < 64) : w.cell? ⟨1, i, none⟩ = some (.int .u32 (ktab.getD i 0)) := by
  have := h.2.cell sw_g1 i (by rw [show ktab.length = 64 from rfl]; exact hi)
  exact this
set_option maxRecDepth 100000 in
set_option maxHeartbeats 6400000 in
theorem compress_any (b : Nat) (w : World) (S : List Int) (B : List UInt8) (u z : Int) (hd : w.heap[b]? = some (.cells (drow S B u z) 128 (0, 0))) (hS : S.length = 8) (hB : B.length = 64) (hW : SW w) (hb2 : 2 ≤ b) :
    Calls Tryd.prog 115 #[.pointer (some ⟨b, 0, none⟩)] w fun e w' => e = .returned (.tuple #[]) ∧ w'.heap[b]? = some (.cells (drow (comp S B) B u z) 128 (0, 0)) ∧ Kept b w w' := by
  have CS := fun W h => schedule_any b W S B u z h hS hB
  have hlt : b < w.heap.size := (Array.getElem?_eq_some_iff.1 hd).1
  have hsz : (wrow (sched B)).size = 64 := by rw [wrow_size]; exact sch_len _ _
  have hone := wrow_one (sched B)
  go_enter Tryd.func115, Tryd.ntmps115
  go_upto_region 1 with (first | (go_at_call 123; refine (CS _ hd).mono ?_; rintro e w1 ⟨rfl, hb1⟩) | (refine wpList_storeRowTo rfl (.tmp 2) (.tmp 15) 132 rfl (by rw [hsz]; kernel_rfl) rfl rfl (heap_push _ _ _) (by rw [hsz]; rfl) hone ?_))
  obtain ⟨s0, s1, s2, s3, s4, s5, s6, s7, rfl⟩ := list8 hS
  refine wp_nameE _ (fun W hX => ?_)
  have hr1 : W.heap[w1.heap.size]? = some (.cells (wrow (sched B)) 132 (0, 0)) := by rw [hX]; exact setRow_heap _ _ _ _ _ _ (heap_push _ _ _)
  have hbW : Below w.heap.size w W := by rw [hX]; exact below_setRow (Below.alloc hb1 hb1.size _) hb1.size _
  have hl1 : w.heap.size ≤ w1.heap.size := hb1.size
  have hd := cells_of hd hbW hlt
  have hW := hW.below hbW
  have hLn : (sched B).length = 64 := sch_len _ _
  obtain ⟨L, hL⟩ : ∃ L, sched B = L := ⟨_, rfl⟩
  have HC : Hid (comp [s0, s1, s2, s3, s4, s5, s6, s7] B = addv ⟨s0, s1, s2, s3, s4, s5, s6, s7⟩ (rnds L ⟨s0, s1, s2, s3, s4, s5, s6, s7⟩ 64)) := Lib.hid (by unfold comp; rw [hL]; rfl)
  rw [hL] at hr1 hLn
  clear hX hb1 CS hsz hone hL hS
  have c0 : W.cell? ⟨b, 0, none⟩ = some (.int .u32 s0) := by rw [cell_heap hd, drow_sum (show (0 : Nat) < 8 by decide)]; rfl
  have c1 : W.cell? ⟨b, 1, none⟩ = some (.int .u32 s1) := by rw [cell_heap hd, drow_sum (show (1 : Nat) < 8 by decide)]; rfl
  have c2 : W.cell? ⟨b, 2, none⟩ = some (.int .u32 s2) := by rw [cell_heap hd, drow_sum (show (2 : Nat) < 8 by decide)]; rfl
  have c3 : W.cell? ⟨b, 3, none⟩ = some (.int .u32 s3) := by rw [cell_heap hd, drow_sum (show (3 : Nat) < 8 by decide)]; rfl
  have c4 : W.cell? ⟨b, 4, none⟩ = some (.int .u32 s4) := by rw [cell_heap hd, drow_sum (show (4 : Nat) < 8 by decide)]; rfl
  have c5 : W.cell? ⟨b, 5, none⟩ = some (.int .u32 s5) := by rw [cell_heap hd, drow_sum (show (5 : Nat) < 8 by decide)]; rfl
  have c6 : W.cell? ⟨b, 6, none⟩ = some (.int .u32 s6) := by rw [cell_heap hd, drow_sum (show (6 : Nat) < 8 by decide)]; rfl
  have c7 : W.cell? ⟨b, 7, none⟩ = some (.int .u32 s7) := by rw [cell_heap hd, drow_sum (show (7 : Nat) < 8 by decide)]; rfl
  go_quiet (fail)
  go_wp2
  go_quiet (fail)
  go_wp2
  refine wp_nameE _ (fun W2 hX => ?_)
  have hr1 : W2.heap[w1.heap.size]? = some (.cells (wrow L) 132 (0, 0)) := by rw [hX]; exact hr1
  have hd : W2.heap[b]? = some (.cells (drow [s0, s1, s2, s3, s4, s5, s6, s7] B u z) 128 (0, 0)) := by rw [hX]; exact hd
  have hbW : Below w.heap.size w W2 := by rw [hX]; exact hbW.trans (((drewN_below W _).trans ((drewN_below (W.drewN _) _).mono (Nat.le_refl _))).mono hbW.size)
  have hW : SW W2 := by rw [hX]; exact (hW.below (drewN_below _ _)).below (drewN_below _ _)
  clear hX c0 c1 c2 c3 c4 c5 c6 c7
  go_loopw [3, 4, 5, 6, 7, 8, 9, 10, 56] (fun xa xb xc xk xe xf xg xh v wr => ∃ i : Nat, i ≤ 64 ∧ Below w.heap.size w wr ∧ wr.heap[b]? = some (.cells (drow [s0, s1, s2, s3, s4, s5, s6, s7] B u z) 128 (0, 0)) ∧ wr.heap[w1.heap.size]? = some (.cells (wrow L) 132 (0, 0)) ∧ SW wr ∧ xa = .int .u32 (rnds L ⟨s0, s1, s2, s3, s4, s5, s6, s7⟩ i).a ∧ xb = .int .u32 (rnds L ⟨s0, s1, s2, s3, s4, s5, s6, s7⟩ i).b ∧ xc = .int .u32 (rnds L ⟨s0, s1, s2, s3, s4, s5, s6, s7⟩ i).c ∧ xk = .int .u32 (rnds L ⟨s0, s1, s2, s3, s4, s5, s6, s7⟩ i).k ∧ xe = .int .u32 (rnds L ⟨s0, s1, s2, s3, s4, s5, s6, s7⟩ i).e ∧ xf = .int .u32 (rnds L ⟨s0, s1, s2, s3, s4, s5, s6, s7⟩ i).f ∧ xg = .int .u32 (rnds L ⟨s0, s1, s2, s3, s4, s5, s6, s7⟩ i).g ∧ xh = .int .u32 (rnds L ⟨s0, s1, s2, s3, s4, s5, s6, s7⟩ i).h ∧ v = .int .i64 i) (fun _ _ _ _ _ _ _ _ v _ => 64 - (intOf v).toNat)
  case atStart => exact ⟨0, by omega, hbW, hd, hr1, hW, rfl, rfl, rfl, rfl, rfl, rfl, rfl, rfl, rfl⟩
  case round =>
    clear hr1 hd hbW hW
    obtain ⟨i, hi, hbel, hd, y1, hW, rfl, rfl, rfl, rfl, rfl, rfl, rfl, rfl, rfl⟩ := hrel
    by_cases hlt2 : i < 64
    · have d1 : decide ((i : Int) < 64) = true := decide_eq_true (by omega)
      have r1 : (i : Int) < 64 := by omega
      have t1 : ((i : Nat) : Int).toNat = i := by omega
      obtain ⟨⟨pa, pb, pc, pk, pe, pf, pg, ph⟩, hv⟩ : ∃ v, rnds L ⟨s0, s1, s2, s3, s4, s5, s6, s7⟩ i = v := ⟨_, rfl⟩
      simp only [hv]
      obtain ⟨kt, hkt⟩ : ∃ x, ktab.getD i 0 = x := ⟨_, rfl⟩
      obtain ⟨wt, hwt⟩ : ∃ x, L.getD i 0 = x := ⟨_, rfl⟩
      have c1 : wr.cell? ⟨1, i, none⟩ = some (.int .u32 kt) := by rw [hW.round hlt2, hkt]
      have c2 : wr.cell? ⟨w1.heap.size, i, none⟩ = some (.int .u32 wt) := by rw [cell_heap y1, wrow_at (get_some (by omega)), hwt]
      have g1 : 1 < wr.heap.size := hW.size
      have g2 : w1.heap.size < wr.heap.size := (Array.getElem?_eq_some_iff.1 y1).1
      have R6 := fun W => right_any pe 6 W (by simp [RN])
      have R11 := fun W => right_any pe 11 W (by simp [RN])
      have R25 := fun W => right_any pe 25 W (by simp [RN])
      have R2 := fun W => right_any pa 2 W (by simp [RN])
      have R13 := fun W => right_any pa 13 W (by simp [RN])
      have R22 := fun W => right_any pa 22 W (by simp [RN])
      go_upto_region 6 with fail
      obtain ⟨hcb, hfb⟩ := beyond_cells (W := wr)
      refine wp_region_below (by kernel_rfl) (by kernel_rfl) ?_
      repeat (go_big_quiet_step ((go_at_call 124; first | (with_reducible exact quiet_below (R6 _)) | (with_reducible exact quiet_below (R11 _)) | (with_reducible exact quiet_below (R25 _)))))
      intro w9 hw9
      have hb9 := beyond_below hw9
      have hd := cells_of hd hb9 (Array.getElem?_eq_some_iff.1 hd).1
      have y1 := cells_of y1 hb9 g2
      have hW := hW.below hb9
      have hbel := hbel.trans (hb9.mono hbel.size)
      clear hcb hfb hw9 hb9 c1 c2 g1 g2
      go_upto_region 8 with (go_at_call 124; first | (with_reducible refine (R2 _).mono ?_; rintro e w2 ⟨rfl, hbx⟩; have hd := cells_of hd hbx (Array.getElem?_eq_some_iff.1 hd).1; have y1 := cells_of y1 hbx (Array.getElem?_eq_some_iff.1 y1).1; have hW := hW.below hbx; have hbel := hbel.trans (hbx.mono hbel.size)) | (with_reducible refine (R13 _).mono ?_; rintro e w2 ⟨rfl, hbx⟩; have hd := cells_of hd hbx (Array.getElem?_eq_some_iff.1 hd).1; have y1 := cells_of y1 hbx (Array.getElem?_eq_some_iff.1 y1).1; have hW := hW.below hbx; have hbel := hbel.trans (hbx.mono hbel.size)) | (with_reducible refine (R22 _).mono ?_; rintro e w2 ⟨rfl, hbx⟩; have hd := cells_of hd hbx (Array.getElem?_eq_some_iff.1 hd).1; have y1 := cells_of y1 hbx (Array.getElem?_eq_some_iff.1 y1).1; have hW := hW.below hbx; have hbel := hbel.trans (hbx.mono hbel.size)))
      generalize hX : ((ph + bits .xor .u32 (bits .xor .u32 (rr pe 6) (rr pe 11)) (rr pe 25) + bits .xor .u32 (bits .and .u32 pe pf) (bits .and .u32 (bits .xor .u32 (if IntKind.u32.signed = true then -1 else IntKind.u32.max) pe) pg) + kt + wt) % 4294967296 : Int) = X
      generalize hY : ((bits .xor .u32 (bits .xor .u32 (rr pa 2) (rr pa 13)) (rr pa 22) + bits .xor .u32 (bits .xor .u32 (bits .and .u32 pa pb) (bits .and .u32 pa pc)) (bits .and .u32 pb pc)) % 4294967296 : Int) = Y
      have hs1 : rnds L ⟨s0, s1, s2, s3, s4, s5, s6, s7⟩ (i + 1) = ⟨(X + Y) % 4294967296, pa, pb, pc, (pk + X) % 4294967296, pe, pf, pg⟩ := by
        rw [rnds, hv, hkt, hwt, ← hX, ← hY]; rfl
      clear hX hY
      go_wp2
      go_roundw
      case rel => exact ⟨i + 1, by omega, hbel, hd, y1, hW, by rw [hs1], by rw [hs1], by rw [hs1], by rw [hs1], by rw [hs1], by rw [hs1], by rw [hs1], by rw [hs1], by go_num⟩
      case measure => (simp [intOf]) <;> omega
    · obtain rfl : i = 64 := by omega
      have d1 : decide (((64 : Nat) : Int) < 64) = false := rfl
      obtain ⟨⟨fa, fb, fc, fk, fe, ff, fg, fh⟩, hv⟩ : ∃ v, rnds L ⟨s0, s1, s2, s3, s4, s5, s6, s7⟩ 64 = v := ⟨_, rfl⟩
      simp only [hv]
      have hK : Kept b w wr := Kept.of hbel
      have HC2 : Hid (comp [s0, s1, s2, s3, s4, s5, s6, s7] B = addv ⟨s0, s1, s2, s3, s4, s5, s6, s7⟩ ⟨fa, fb, fc, fk, fe, ff, fg, fh⟩) := Lib.hid (by rw [HC.out, hv])
      clear HC hv y1 hW hbel
      go_upto_region 11 with fail
      have c0 : wr.cell? ⟨b, 0, none⟩ = some (.int .u32 s0) := by rw [cell_heap hd, drow_sum (show (0 : Nat) < 8 by decide)]; rfl
      have q0 : wr.frozen? ⟨b, 0, none⟩ = false := frozen_heap hd 0
      go_region
      all_goals try go_upto_region 12 with fail
      refine wp_nameE _ (fun V1 hX => ?_)
      have hK : Kept b w V1 := by rw [hX]; exact (hK.setCell _ _).drew
      have hd : V1.heap[b]? = some (.cells (drow [(s0 + fa) % 4294967296, s1, s2, s3, s4, s5, s6, s7] B u z) 128 (0, 0)) := by rw [hX]; have := row_put5 (w := wr.drew) (k := 0) (v := .int .u32 ((s0 + fa) % 4294967296)) hd; rw [drow_set _ _ _ _ _ _ (show (0 : Nat) < 8 by decide)] at this; exact this
      clear hX c0 q0
      have c0 : V1.cell? ⟨b, 1, none⟩ = some (.int .u32 s1) := by rw [cell_heap hd, drow_sum (show (1 : Nat) < 8 by decide)]; rfl
      have q0 : V1.frozen? ⟨b, 1, none⟩ = false := frozen_heap hd 1
      go_region
      all_goals try go_upto_region 13 with fail
      refine wp_nameE _ (fun V2 hX => ?_)
      have hK : Kept b w V2 := by rw [hX]; exact (hK.setCell _ _).drew
      have hd : V2.heap[b]? = some (.cells (drow [(s0 + fa) % 4294967296, (s1 + fb) % 4294967296, s2, s3, s4, s5, s6, s7] B u z) 128 (0, 0)) := by rw [hX]; have := row_put5 (w := V1.drew) (k := 1) (v := .int .u32 ((s1 + fb) % 4294967296)) hd; rw [drow_set _ _ _ _ _ _ (show (1 : Nat) < 8 by decide)] at this; exact this
      clear hX c0 q0
      have c0 : V2.cell? ⟨b, 2, none⟩ = some (.int .u32 s2) := by rw [cell_heap hd, drow_sum (show (2 : Nat) < 8 by decide)]; rfl
      have q0 : V2.frozen? ⟨b, 2, none⟩ = false := frozen_heap hd 2
      go_region
      all_goals try go_upto_region 14 with fail
      refine wp_nameE _ (fun V3 hX => ?_)
      have hK : Kept b w V3 := by rw [hX]; exact (hK.setCell _ _).drew
      have hd : V3.heap[b]? = some (.cells (drow [(s0 + fa) % 4294967296, (s1 + fb) % 4294967296, (s2 + fc) % 4294967296, s3, s4, s5, s6, s7] B u z) 128 (0, 0)) := by rw [hX]; have := row_put5 (w := V2.drew) (k := 2) (v := .int .u32 ((s2 + fc) % 4294967296)) hd; rw [drow_set _ _ _ _ _ _ (show (2 : Nat) < 8 by decide)] at this; exact this
      clear hX c0 q0
      have c0 : V3.cell? ⟨b, 3, none⟩ = some (.int .u32 s3) := by rw [cell_heap hd, drow_sum (show (3 : Nat) < 8 by decide)]; rfl
      have q0 : V3.frozen? ⟨b, 3, none⟩ = false := frozen_heap hd 3
      go_region
      all_goals try go_upto_region 15 with fail
      refine wp_nameE _ (fun V4 hX => ?_)
      have hK : Kept b w V4 := by rw [hX]; exact (hK.setCell _ _).drew
      have hd : V4.heap[b]? = some (.cells (drow [(s0 + fa) % 4294967296, (s1 + fb) % 4294967296, (s2 + fc) % 4294967296, (s3 + fk) % 4294967296, s4, s5, s6, s7] B u z) 128 (0, 0)) := by rw [hX]; have := row_put5 (w := V3.drew) (k := 3) (v := .int .u32 ((s3 + fk) % 4294967296)) hd; rw [drow_set _ _ _ _ _ _ (show (3 : Nat) < 8 by decide)] at this; exact this
      clear hX c0 q0
      have c0 : V4.cell? ⟨b, 4, none⟩ = some (.int .u32 s4) := by rw [cell_heap hd, drow_sum (show (4 : Nat) < 8 by decide)]; rfl
      have q0 : V4.frozen? ⟨b, 4, none⟩ = false := frozen_heap hd 4
      go_region
      all_goals try go_upto_region 16 with fail
      refine wp_nameE _ (fun V5 hX => ?_)
      have hK : Kept b w V5 := by rw [hX]; exact (hK.setCell _ _).drew
      have hd : V5.heap[b]? = some (.cells (drow [(s0 + fa) % 4294967296, (s1 + fb) % 4294967296, (s2 + fc) % 4294967296, (s3 + fk) % 4294967296, (s4 + fe) % 4294967296, s5, s6, s7] B u z) 128 (0, 0)) := by rw [hX]; have := row_put5 (w := V4.drew) (k := 4) (v := .int .u32 ((s4 + fe) % 4294967296)) hd; rw [drow_set _ _ _ _ _ _ (show (4 : Nat) < 8 by decide)] at this; exact this
      clear hX c0 q0
      have c0 : V5.cell? ⟨b, 5, none⟩ = some (.int .u32 s5) := by rw [cell_heap hd, drow_sum (show (5 : Nat) < 8 by decide)]; rfl
      have q0 : V5.frozen? ⟨b, 5, none⟩ = false := frozen_heap hd 5
      go_region
      all_goals try go_upto_region 17 with fail
      refine wp_nameE _ (fun V6 hX => ?_)
      have hK : Kept b w V6 := by rw [hX]; exact (hK.setCell _ _).drew
      have hd : V6.heap[b]? = some (.cells (drow [(s0 + fa) % 4294967296, (s1 + fb) % 4294967296, (s2 + fc) % 4294967296, (s3 + fk) % 4294967296, (s4 + fe) % 4294967296, (s5 + ff) % 4294967296, s6, s7] B u z) 128 (0, 0)) := by rw [hX]; have := row_put5 (w := V5.drew) (k := 5) (v := .int .u32 ((s5 + ff) % 4294967296)) hd; rw [drow_set _ _ _ _ _ _ (show (5 : Nat) < 8 by decide)] at this; exact this
      clear hX c0 q0
      have c0 : V6.cell? ⟨b, 6, none⟩ = some (.int .u32 s6) := by rw [cell_heap hd, drow_sum (show (6 : Nat) < 8 by decide)]; rfl
      have q0 : V6.frozen? ⟨b, 6, none⟩ = false := frozen_heap hd 6
      go_region
      all_goals try go_upto_region 18 with fail
      refine wp_nameE _ (fun V7 hX => ?_)
      have hK : Kept b w V7 := by rw [hX]; exact (hK.setCell _ _).drew
      have hd : V7.heap[b]? = some (.cells (drow [(s0 + fa) % 4294967296, (s1 + fb) % 4294967296, (s2 + fc) % 4294967296, (s3 + fk) % 4294967296, (s4 + fe) % 4294967296, (s5 + ff) % 4294967296, (s6 + fg) % 4294967296, s7] B u z) 128 (0, 0)) := by rw [hX]; have := row_put5 (w := V6.drew) (k := 6) (v := .int .u32 ((s6 + fg) % 4294967296)) hd; rw [drow_set _ _ _ _ _ _ (show (6 : Nat) < 8 by decide)] at this; exact this
      clear hX c0 q0
      have c0 : V7.cell? ⟨b, 7, none⟩ = some (.int .u32 s7) := by rw [cell_heap hd, drow_sum (show (7 : Nat) < 8 by decide)]; rfl
      have q0 : V7.frozen? ⟨b, 7, none⟩ = false := frozen_heap hd 7
      go_region
      go_wp2
      go_end0
      exact ⟨rfl, by rw [HC2.out]; have := row_put5 (w := V7.drew) (k := 7) (v := .int .u32 ((s7 + fh) % 4294967296)) hd; rw [drow_set _ _ _ _ _ _ (show (7 : Nat) < 8 by decide)] at this; exact this, (hK.setCell _ _).drew⟩
end Go.Proofs.YtfikbaoiialfeaaDoor
namespace Go.Proofs.YtfikbaoiialfeaaDoor
open Go.RowKit
attribute [local go_sem] strV
set_option linter.unusedVariables false
theorem run_copy_mid {P : Program} (w : World) (dT sT ty elem : TypeId) (g o n c m : Nat) (s : ByteArray) (cur : Array Value) (t : TypeId)
    (hu : P.underlying dT = some (.slice elem)) (hs : (P.info? elem).map (·.size) = some 1) (hg : w.heap[g]? = some (.cells cur t (0, 0))) (hm : Nat.min s.size n = m) (hle : o + m ≤ cur.size) :
    (Builtin.copy_ #[dT, sT] ty #[.slice (some ⟨g, o, none⟩) n c, .string s]).run P w =
      .ok (goInt m) (w.setRow g (cur.toList.take o ++ Lib.byteCells (s.data.toList.take m) ++ cur.toList.drop (o + m)).toArray) := by
  have hms : m ≤ s.size := by rw [← hm]; exact Nat.min_le_left _ _
  have hlen : (Lib.byteCells (s.data.toList.take m)).length = m := by rw [Lib.byteCells_length, List.length_take, ← Lib.size_eq]; omega
  have hst := run_storeCells_at P g o t (Lib.byteCells (s.data.toList.take m)) 0 cur w hg (by rw [hlen]; simpa using hle) (Lib.byteCells_one _)
  have htk : List.take m (List.map (fun b : UInt8 => Value.int IntKind.u8 (b.toNat : Int)) s.data.toList) = Lib.byteCells (s.data.toList.take m) := by
    rw [← List.map_take]; rfl
  rw [hlen] at hst
  simp only [Nat.add_zero] at hst
  cases hq : P.info? elem with
  | none => simp [hq] at hs
  | some i =>
    simp [Builtin.copy_, run_underlying hu, Builtin.lenOf, Builtin.firstCells, sizeOf, typeInfo, hq, hm]
    rw [htk, hst]
    simp [Result.andThen]
theorem wpList_copy_mid {P : Program} {w : World} {ops : Array Oper} {rest : List Oper} {o : Oper} {a : Act} {Q : Exit → Act → World → Prop}
    (hgd : o.guard = none) (d x : Operand) (dT sT : TypeId) (hop : o.op = Op.call { callee := Callee.builtin Builtin.copy, args := #[d, x], argTypes := #[dT, sT] })
    (elem : TypeId) (hu : P.underlying dT = some (.slice elem)) (hs : (P.info? elem).map (·.size) = some 1)
    (g off n c m : Nat) (hd : a.eval d = .slice (some ⟨g, off, none⟩) n c) (s : ByteArray) (hx : a.eval x = .string s) (cur : Array Value) (t : TypeId)
    (hg : w.heap[g]? = some (.cells cur t (0, 0))) (hm : Nat.min s.size n = m) (hle : off + m ≤ cur.size)
    (h : wpList P ops Q rest (a.put o.dst (goInt m)) (w.setRow g (cur.toList.take off ++ Lib.byteCells (s.data.toList.take m) ++ cur.toList.drop (off + m)).toArray)) : wpList P ops Q (o :: rest) a w := by
  refine wpList_plain hgd fun K hK' => ?_
  have hrun := run_copy_mid (P := P) w dT sT o.type elem g off n c m s cur t hu hs hg hm hle
  unfold Oper.wp
  simp [execOp, hop, resolve, invoke, builtin, hd, hx, hrun, Result.andThen]
  exact hK' _ _ (by rw [List.append_assoc] at h; exact h)
theorem drow_copy {S : List Int} {B X : List UInt8} {u : Nat} {uz z : Int} (hS : S.length = 8) (hB : B.length = 64) (hX : u + X.length ≤ 64) :
    ((drow S B uz z).toList.take (8 + u) ++ Lib.byteCells X ++ (drow S B uz z).toList.drop (8 + u + X.length)).toArray = drow S (B.take u ++ X ++ B.drop (u + X.length)) uz z := by
  have hSl : (S.map (Value.int .u32)).length = 8 := by simpa using hS
  have hBl : (Lib.byteCells B).length = 64 := by rw [Lib.byteCells_length]; exact hB
  unfold drow
  dsimp only
  rw [← hSl, List.take_length_add_append, Nat.add_assoc, List.drop_length_add_append, List.take_append_of_le_length (by omega), List.drop_append_of_le_length (by omega)]
  congr 1
  simp [Lib.byteCells, List.map_append, List.map_take, List.map_drop]
theorem drow_len {S : List Int} {B : List UInt8} {u z : Int} (hS : S.length = 8) (hB : B.length = 64) : (drow S B u z).size = 74 := by
  unfold drow; simp [Lib.byteCells_length, hS, hB]
theorem drow_used {S : List Int} {B : List UInt8} {u z x : Int} (hS : S.length = 8) (hB : B.length = 64) : (drow S B u z).setIfInBounds 72 (.int .i64 x) = drow S B x z := by
  have hBl : (Lib.byteCells B).length = 64 := by rw [Lib.byteCells_length]; exact hB
  unfold drow
  rw [List.setIfInBounds_toArray, List.set_append_right _ _ (by simp; omega), List.set_append_right _ _ (by simp; omega)]
  simp [hS, hBl]
theorem drow_size {S : List Int} {B : List UInt8} {u z x : Int} (hS : S.length = 8) (hB : B.length = 64) : (drow S B u z).setIfInBounds 73 (.int .i64 x) = drow S B u x := by
  have hBl : (Lib.byteCells B).length = 64 := by rw [Lib.byteCells_length]; exact hB
  unfold drow
  rw [List.setIfInBounds_toArray, List.set_append_right _ _ (by simp; omega), List.set_append_right _ _ (by simp; omega)]
  simp [hS, hBl]
theorem drow_at72 {S : List Int} {B : List UInt8} {u z : Int} (hS : S.length = 8) (hB : B.length = 64) : (drow S B u z)[72]? = some (.int .i64 u) := by
  have hBl : (Lib.byteCells B).length = 64 := by rw [Lib.byteCells_length]; exact hB
  unfold drow
  rw [List.getElem?_toArray, List.getElem?_append_right (by simp; omega), List.getElem?_append_right (by simp; omega)]
  simp [hS, hBl]
theorem drow_at73 {S : List Int} {B : List UInt8} {u z : Int} (hS : S.length = 8) (hB : B.length = 64) : (drow S B u z)[73]? = some (.int .i64 z) := by
  have hBl : (Lib.byteCells B).length = 64 := by rw [Lib.byteCells_length]; exact hB
  unfold drow
  rw [List.getElem?_toArray, List.getElem?_append_right (by simp; omega), List.getElem?_append_right (by simp; omega)]
  simp [hS, hBl]
/-- The sum behind k blocks of a text. -/
def hs (T : List UInt8) : Nat → List Int
  | 0 => stab
  | k + 1 => comp (hs T k) ((T.drop (64 * k)).take 64)
theorem hs_len (T : List UInt8) (k : Nat) : (hs T k).length = 8 := by cases k <;> rfl
theorem hs_append {T X : List UInt8} : ∀ k, 64 * k ≤ T.length → hs (T ++ X) k = hs T k := by
  intro k
  induction k with
  | zero => intro _; rfl
  | succ k ih =>
    intro h
    rw [hs, hs, ih (by omega), List.drop_append_of_le_length (by omega), List.take_append_of_le_length (by rw [List.length_drop]; omega)]
/-- A digest that has taken the text T: its cells; z: the bytes that it has counted. -/
structure DG (b : Nat) (w : World) (T : List UInt8) (z : Int) (B : List UInt8) (q u : Nat) : Prop where
  len : T.length = 64 * q + u
  lt : u < 64
  buf : B.length = 64
  pre : B.take u = T.drop (64 * q)
  row : w.heap[b]? = some (.cells (drow (hs T q) B u z) 128 (0, 0))
theorem SW.kept {b : Nat} {w w' : World} (h : SW w) (hb : 2 ≤ b) (hk : Kept b w w') : SW w' := by
  have hs := h.size
  exact h.of_blocks (hk.block 0 (by omega) (by omega)) (hk.block 1 hs (by omega))
theorem Kept.setRowB {b : Nat} {w w1 : World} (h : Kept b w w1) (cs : Array Value) : Kept b w (w1.setRow b cs) :=
  ⟨h.os, h.tape, h.output, by simpa [World.setRow] using h.size, fun k hk hne => (setRow_other w1 b k cs hne).trans (h.block k hk hne)⟩
def lenV : Value → Nat
  | .string s => s.size
  | _ => 0
theorem dg_less {b : Nat} {w w' : World} {T X : List UInt8} {z z' : Int} {B : List UInt8} {q u : Nat} (h : DG b w T z B q u) (hX : u + X.length < 64)
    (hr : w'.heap[b]? = some (.cells (drow (hs T q) (B.take u ++ X ++ B.drop (u + X.length)) ((u + X.length : Nat) : Int) z') 128 (0, 0))) : DG b w' (T ++ X) z' (B.take u ++ X ++ B.drop (u + X.length)) q (u + X.length) := by
  have h1 := h.len; have h2 := h.buf; have h3 := h.lt
  have hl : (B.take u ++ X).length = u + X.length := by rw [List.length_append, List.length_take]; omega
  refine ⟨by rw [List.length_append]; omega, hX, ?_, ?_, by rw [hs_append q (by omega)]; exact hr⟩
  · rw [List.length_append, hl, List.length_drop]; omega
  · rw [← hl, List.take_left, List.drop_append_of_le_length (by omega), h.pre]
theorem dg_full {b : Nat} {w w' : World} {T X : List UInt8} {z z' : Int} {B : List UInt8} {q u : Nat} (h : DG b w T z B q u) (hX : u + X.length = 64)
    (hr : w'.heap[b]? = some (.cells (drow (comp (hs T q) (B.take u ++ X)) (B.take u ++ X) 0 z') 128 (0, 0))) : DG b w' (T ++ X) z' (B.take u ++ X) (q + 1) 0 := by
  have h1 := h.len; have h2 := h.buf; have h3 := h.lt
  have hl : (B.take u ++ X).length = 64 := by rw [List.length_append, List.length_take]; omega
  have hT : (T ++ X).length = 64 * (q + 1) := by rw [List.length_append]; omega
  have hd : (T ++ X).drop (64 * q) = B.take u ++ X := by rw [List.drop_append_of_le_length (by omega), h.pre]
  refine ⟨by omega, by omega, hl, ?_, ?_⟩
  · rw [List.take_zero, List.drop_eq_nil_of_le (by omega)]
  · rw [hs, hs_append q (by omega), hd, List.take_of_length_le (by omega)]
    exact hr
set_option maxRecDepth 100000 in
set_option maxHeartbeats 6400000 in
theorem add_any (b : Nat) (w : World) (T : List UInt8) (z : Int) (B0 : List UInt8) (q0 u0 : Nat) (s : ByteArray) (h : DG b w T z B0 q0 u0) (hW : SW w) (hb2 : 2 ≤ b) (hz0 : 0 ≤ z) (hz : z + s.size ≤ 4000000000000) :
    Calls Tryd.prog 98 #[.pointer (some ⟨b, 0, none⟩), .string s] w fun e w' => e = .returned (.tuple #[]) ∧ (∃ B q u, DG b w' (T ++ s.data.toList) (z + s.size) B q u) ∧ Kept b w w' := by
  have hlt : b < w.heap.size := (Array.getElem?_eq_some_iff.1 h.row).1
  have c0 : w.cell? ⟨b, 73, none⟩ = some (.int .i64 z) := by rw [cell_heap h.row, drow_at73 (hs_len _ _) h.buf]
  have f0 : w.frozen? ⟨b, 73, none⟩ = false := frozen_heap h.row 73
  have e0 : IntKind.i64.wrap (z + (s.size : Int)) = z + (s.size : Int) := IntWalk.i64_in _ (by omega)
  go_enter Tryd.func98, Tryd.ntmps98
  go_upto_region 1 with fail
  refine wp_nameE _ (fun W hX => ?_)
  have hK : Kept b w W := by rw [hX]; exact (Kept.of (Below.refl _ _)).setCell _ _
  have hd : W.heap[b]? = some (.cells (drow (hs T q0) B0 u0 (z + s.size)) 128 (0, 0)) := by
    rw [hX]; have := row_put5 (w := w) (k := 73) (v := .int .i64 (z + s.size)) h.row; rw [drow_size (hs_len _ _) h.buf] at this; exact this
  have hG : DG b W T (z + s.size) B0 q0 u0 := ⟨h.len, h.lt, h.buf, h.pre, hd⟩
  clear hX hd c0 f0 h
  go_loopw [1] (fun v wr => ∃ (s2 : ByteArray) (T1 B : List UInt8) (q u : Nat), Hid (T1 ++ s2.data.toList = T ++ s.data.toList) ∧ s2.size ≤ s.size ∧ DG b wr T1 (z + s.size) B q u ∧ Kept b w wr ∧ v = .string s2) (fun v _ => lenV v)
  case atStart => exact ⟨s, T, B0, q0, u0, Lib.hid rfl, Nat.le_refl _, hG, hK, rfl⟩
  case round =>
    clear hG hK
    obtain ⟨s2, T1, B, q, u, HT, hs2, hG, hK, rfl⟩ := hrel
    by_cases h0 : s2.size = 0
    · have d0 : decide (0 < (s2.size : Int)) = false := decide_eq_false (by omega)
      go_wp2
      go_end0
      have hnil : s2.data.toList = [] := List.eq_nil_of_length_eq_zero (by rw [str_len]; exact h0)
      have hT := HT.out
      rw [hnil, List.append_nil] at hT
      rw [hT] at hG
      exact ⟨rfl, ⟨B, q, u, hG⟩, hK⟩
    · have d0 : decide (0 < (s2.size : Int)) = true := decide_eq_true (by omega)
      have hul := hG.lt
      have hrow := hG.row
      have hBl := hG.buf
      have hHl := hs_len T1 q
      have c1 : wr.cell? ⟨b, 72, none⟩ = some (.int .i64 u) := by rw [cell_heap hrow, drow_at72 hHl hBl]
      have n1 : (0 : Int) ≤ (u : Int) := by omega
      have n2 : (u : Int) ≤ 64 := by omega
      have n3 : ((u : Nat) : Int).toNat = u := by omega
      obtain ⟨m, hm⟩ : ∃ m, Nat.min s2.size (64 - u) = m := ⟨_, rfl⟩
      have hm1 : m ≤ s2.size := by rw [← hm]; exact Nat.min_le_left _ _
      have hm2 : m ≤ 64 - u := by rw [← hm]; exact Nat.min_le_right _ _
      have hm0 : 0 < m := by rw [← hm]; exact Nat.lt_min.2 ⟨by omega, by omega⟩
      have hXl : (s2.data.toList.take m).length = m := by rw [List.length_take, str_len]; omega
      go_upto_region 2 with fail
      obtain ⟨hcb, hfb⟩ := beyond_cells (W := wr)
      have hbs : b < wr.heap.size := (Array.getElem?_eq_some_iff.1 hrow).1
      refine wp_region_below_tail 9 (by kernel_rfl) (by kernel_rfl) ?_
      simp only [List.take_succ_cons, List.take_zero, List.drop_succ_cons, List.drop_zero]
      repeat (go_big_quiet_step (fail))
      intro w9 hw9
      have hb9 := beyond_below hw9
      have hrow := cells_of hrow hb9 hbs
      have hK := hK.trans (Kept.of hb9)
      clear hcb hfb hw9 hb9 c1 hbs
      go_upto_region 3 with (refine wpList_copy_mid rfl (.tmp 24) (.tmp 25) 111 9 rfl 5 Tryd.underlying111 (by kernel_rfl) b (8 + u) (64 - u) (64 - u) m (by rfl) s2 (by rfl) _ _ hrow hm (by rw [drow_len hHl hBl]; omega) ?_)
      refine wp_nameE _ (fun V1 hX => ?_)
      obtain ⟨X, hXd⟩ : ∃ X, s2.data.toList.take m = X := ⟨_, rfl⟩
      rw [hXd] at hX hXl
      have hr1 : V1.heap[b]? = some (.cells (drow (hs T1 q) (B.take u ++ X ++ B.drop (u + m)) u (z + s.size)) 128 (0, 0)) := by
        rw [hX, setRow_heap _ _ _ _ _ _ hrow, ← List.append_assoc]
        have := drow_copy (S := hs T1 q) (B := B) (X := X) (u := u) (uz := u) (z := z + s.size) hHl hBl (by omega)
        rw [hXl] at this
        rw [this]
      have hK : Kept b w V1 := by rw [hX]; exact hK.setRowB _
      clear hX hrow
      have hB1 : (B.take u ++ X ++ B.drop (u + m)).length = 64 := by rw [List.length_append, List.length_append, List.length_take, List.length_drop, hXl]; omega
      have c1 : V1.cell? ⟨b, 72, none⟩ = some (.int .i64 u) := by rw [cell_heap hr1, drow_at72 hHl hB1]
      have f1 : V1.frozen? ⟨b, 72, none⟩ = false := frozen_heap hr1 72
      have m1 : (0 : Int) ≤ (m : Int) := by omega
      have m2 : (m : Int) ≤ (s2.size : Int) := by omega
      have m3 : ((m : Nat) : Int).toNat = m := by omega
      have e1 : IntKind.i64.wrap ((u : Int) + (m : Int)) = (u : Int) + (m : Int) := IntWalk.i64_in _ (by omega)
      have hrest : X ++ (s2.extract m s2.size).data.toList = s2.data.toList := by
        rw [← hXd]; simp [ByteArray.data_extract]
        rw [List.take_of_length_le (l := List.drop m s2.data.toList) (by rw [List.length_drop, str_len]; exact Nat.le_refl _), List.take_append_drop]
      have hrl : (s2.extract m s2.size).size = s2.size - m := by simp
      have HT2 : Hid ((T1 ++ X) ++ (s2.extract m s2.size).data.toList = T ++ s.data.toList) := Lib.hid (by rw [List.append_assoc, hrest]; exact HT.out)
      clear HT
      by_cases hful : u + m = 64
      · have d1 : ((u : Int) + (m : Int) == 64) = true := by rw [beq_iff_eq]; omega
        go_upto_region 5 with fail
        refine wp_nameE _ (fun V2 hX => ?_)
        have hB2 : B.take u ++ X ++ B.drop (u + m) = B.take u ++ X := by rw [List.drop_eq_nil_of_le (by omega), List.append_nil]
        rw [hB2] at hr1 hB1
        have hr2 : V2.heap[b]? = some (.cells (drow (hs T1 q) (B.take u ++ X) ((u : Int) + (m : Int)) (z + s.size)) 128 (0, 0)) := by
          rw [hX]; have := row_put5 (w := V1) (k := 72) (v := .int .i64 ((u : Int) + (m : Int))) hr1; rw [drow_used hHl hB1] at this; exact this
        have hK : Kept b w V2 := by rw [hX]; exact hK.setCell _ _
        clear hX hr1 c1 f1
        have c2 : V2.cell? ⟨b, 72, none⟩ = some (.int .i64 ((u : Int) + (m : Int))) := by rw [cell_heap hr2, drow_at72 hHl hB1]
        have CC := compress_any b V2 _ _ _ _ hr2 hHl hB1 (hW.kept hb2 hK) hb2
        go_upto_region 7 with (go_at_call 115; refine CC.mono ?_; rintro e w3 ⟨rfl, hr3, hK3⟩)
        have hK := hK.trans hK3
        have c3 : w3.cell? ⟨b, 72, none⟩ = some (.int .i64 ((u : Int) + (m : Int))) := by rw [cell_heap hr3, drow_at72 rfl hB1]
        have f3 : w3.frozen? ⟨b, 72, none⟩ = false := frozen_heap hr3 72
        go_wp2
        go_roundw
        case rel =>
          have hr4 := row_put5 (w := w3) (k := 72) (v := .int .i64 0) hr3
          rw [drow_used rfl hB1] at hr4
          exact ⟨s2.extract m s2.size, T1 ++ X, B.take u ++ X, q + 1, 0, HT2, by omega, dg_full hG (by omega) hr4, hK.setCell _ _, rfl⟩
        case measure => show (s2.extract m s2.size).size < s2.size; omega
      · have d1 : ((u : Int) + (m : Int) == 64) = false := beq_eq_false_iff_ne.2 (by omega)
        go_upto_region 5 with fail
        refine wp_nameE _ (fun V2 hX => ?_)
        have hr2 : V2.heap[b]? = some (.cells (drow (hs T1 q) (B.take u ++ X ++ B.drop (u + m)) ((u : Int) + (m : Int)) (z + s.size)) 128 (0, 0)) := by
          rw [hX]; have := row_put5 (w := V1) (k := 72) (v := .int .i64 ((u : Int) + (m : Int))) hr1; rw [drow_used hHl hB1] at this; exact this
        have hK : Kept b w V2 := by rw [hX]; exact hK.setCell _ _
        clear hX hr1 c1 f1
        have c2 : V2.cell? ⟨b, 72, none⟩ = some (.int .i64 ((u : Int) + (m : Int))) := by rw [cell_heap hr2, drow_at72 hHl hB1]
        go_wp2
        go_roundw
        case rel =>
          have hg := dg_less (X := X) (w' := V2) (z' := z + s.size) hG (by omega) (by rw [hXl]; exact hr2)
          exact ⟨s2.extract m s2.size, T1 ++ X, _, q, _, HT2, by omega, hg, hK, rfl⟩
        case measure => show (s2.extract m s2.size).size < s2.size; omega
end Go.Proofs.YtfikbaoiialfeaaDoor
namespace Go.Proofs.YtfikbaoiialfeaaDoor
open Go.RowKit
attribute [local go_sem] strV
set_option linter.unusedVariables false
def u8 (x : Int) : UInt8 := UInt8.ofNat (x % 256).toNat
theorem u8_val (x : Int) : ((u8 x).toNat : Int) = x % 256 := by
  unfold u8
  rw [UInt8.toNat_ofNat']
  omega
theorem u8_mod (x : Int) : u8 (x % 256) = u8 x := by unfold u8; rw [Int.emod_emod_of_dvd _ (Int.dvd_refl _)]
def remV : Option Value → Nat
  | some (.int _ u) => (120 - u.toNat) % 64
  | _ => 0
theorem run_index_arr {P : Program} (w : World) (t e : TypeId) (n : Nat) (kk : IntKind) (cs : Array Value) (k : IntKind) (i : Nat) (v : Value) (hu : P.underlying t = some (.array n e)) (he : P.underlying e = some (.int kk))
    (hs : (P.info? e).map (·.size) = some 1) (hi : i < n) (hv : cs[i]? = some v) : (Instr.index t (.agg cs) (.int k (i : Int))).run P w = .ok v w := by
  cases hq : P.info? e with
  | none => simp [hq] at hs
  | some inf =>
    have h1 : inf.size = 1 := by simpa [hq] using hs
    have hi' : (0 : Int) ≤ (i : Int) ∧ (i : Int) < (n : Int) := by omega
    simp [Instr.index, asIntOf, run_underlying hu, Result.andThen, sizeOf, typeInfo, hq, h1, hi, part, isAgg, run_underlying he, hv]
theorem wpList_index_arr {P : Program} {w : World} {ops : Array Oper} {rest : List Oper} {o : Oper} {a : Act} {Q : Exit → Act → World → Prop}
    (hgd : o.guard = none) (x ix : Operand) (t e : TypeId) (n : Nat) (kk : IntKind) (hop : o.op = Op.index t x ix) (hu : P.underlying t = some (.array n e)) (he : P.underlying e = some (.int kk))
    (hs : (P.info? e).map (·.size) = some 1) (cs : Array Value) (hx : a.eval x = .agg cs) (k : IntKind) (i : Nat) (hix : a.eval ix = .int k (i : Int)) (hi : i < n) (v : Value) (hv : cs[i]? = some v)
    (h : wpList P ops Q rest (a.put o.dst v) w) : wpList P ops Q (o :: rest) a w := by
  refine wpList_plain hgd fun K hK' => ?_
  have hrun := run_index_arr (P := P) w t e n kk cs k i v hu he hs hi hv
  unfold Oper.wp
  simp [execOp, hop, hx, hix, hrun, Result.andThen]
  exact hK' _ _ h
/-- The bytes of a sum. -/
def out32 (S : List Int) : List UInt8 := S.flatMap fun x => [u8 (x / 16777216), u8 (x / 65536), u8 (x / 256), u8 x]
theorem out32_len {S : List Int} (h : S.length = 8) : (out32 S).length = 32 := by
  obtain ⟨a, b, c, d, e, f, g, i, rfl⟩ := list8 h; rfl
/-- How many zeros are laid behind a text of n bytes. -/
def padN (n : Nat) : Nat := (119 - n % 64) % 64
/-- The eight bytes of a length. -/
def lenB (n : Nat) : List UInt8 := [u8 ((n : Int) * 8 / 72057594037927936), u8 ((n : Int) * 8 / 281474976710656), u8 ((n : Int) * 8 / 1099511627776), u8 ((n : Int) * 8 / 4294967296), u8 ((n : Int) * 8 / 16777216), u8 ((n : Int) * 8 / 65536), u8 ((n : Int) * 8 / 256), u8 ((n : Int) * 8)]
def padT (T : List UInt8) (k : Nat) : List UInt8 := T ++ [128] ++ List.replicate k 0
def shaFull (T : List UInt8) : List UInt8 := padT T (padN T.length) ++ lenB T.length
/-- The digest of a text. -/
def shaF (T : List UInt8) : List UInt8 := out32 (hs (shaFull T) ((shaFull T).length / 64))
theorem shaF_len (T : List UInt8) : (shaF T).length = 32 := out32_len (hs_len _ _)
theorem padT_len (T : List UInt8) (k : Nat) : (padT T k).length = T.length + 1 + k := by simp [padT]; omega
theorem pad_mod (T : List UInt8) {k : Nat} (hk : k ≤ padN T.length) : (T.length + 1 + k) % 64 = 56 ↔ k = padN T.length := by
  unfold padN at *; omega
theorem padT_succ (T : List UInt8) (k : Nat) : padT T k ++ [0] = padT T (k + 1) := by
  unfold padT; rw [List.append_assoc, ← List.replicate_succ']
theorem drow_bset {S : List Int} {B : List UInt8} {u z : Int} {k : Nat} {x : Int} (hS : S.length = 8) (hk : k < B.length) (hx : 0 ≤ x) (hx2 : x < 256) : (drow S B u z).setIfInBounds (8 + k) (.int .u8 x) = drow S (B.set k (u8 x)) u z := by
  unfold drow
  have hB : (Lib.byteCells B).length = B.length := Lib.byteCells_length _
  rw [List.setIfInBounds_toArray, List.set_append_right _ _ (by simp; omega), List.set_append_left _ _ (by simp; omega)]
  have e : (Value.int .u8 x) = (Value.int .u8 ((u8 x).toNat : Int)) := by rw [u8_val]; congr 1; omega
  have e2 : 8 + k - (S.map (Value.int .u32)).length = k := by simp; omega
  rw [e2, e]
  simp [Lib.byteCells, List.map_set]
theorem bset_step {B L : List UInt8} {i : Nat} {x : UInt8} (hB : B.length = 64) (hL : L.length = 8) (hi : i < 8) (hx : L[i]? = some x) :
    (B.take 56 ++ L.take i ++ B.drop (56 + i)).set (56 + i) x = B.take 56 ++ L.take (i + 1) ++ B.drop (56 + (i + 1)) := by
  have h1 : (B.take 56 ++ L.take i).length = 56 + i := by rw [List.length_append, List.length_take, List.length_take]; omega
  rw [List.set_append_right _ _ (by omega), h1, Nat.sub_self, List.take_add_one (l := L), hx, List.drop_eq_getElem_cons (i := 56 + i) (by omega)]
  simp [Nat.add_assoc]
theorem dg_comp {b : Nat} {w : World} {T X : List UInt8} {z : Int} {B : List UInt8} {q u : Nat} (h : DG b w T z B q u) (hX : u + X.length = 64) :
    comp (hs T q) (B.take u ++ X) = hs (T ++ X) (q + 1) ∧ (T ++ X).length / 64 = q + 1 := by
  have h1 := h.len; have h2 := h.buf; have h3 := h.lt
  have hl : (B.take u ++ X).length = 64 := by rw [List.length_append, List.length_take]; omega
  have hd : (T ++ X).drop (64 * q) = B.take u ++ X := by rw [List.drop_append_of_le_length (by omega), h.pre]
  refine ⟨by rw [hs, hs_append q (by omega), hd, List.take_of_length_le (l := B.take u ++ X) (by omega)], ?_⟩
  rw [List.length_append]; omega
theorem Kept.setOut {b g k : Nat} {w w1 : World} (h : Kept b w w1) (hg : w.heap.size ≤ g) (v : Value) : Kept b w (w1.setCell ⟨g, k, none⟩ v) :=
  ⟨h.os, h.tape, h.output, by rw [World.size_setCell]; exact h.size, fun j hj hne => by
    show (w1.heap.modify g _)[j]? = _
    rw [Array.getElem?_modify, if_neg (by omega)]; exact h.block j hj hne⟩
theorem prow_far {l : List UInt8} (h : l.length = 32) {k j : Nat} (hk : k ≤ j) (hj : j < 32) : (prow l k)[j]? = some (.int .u8 0) := by
  have e : (Lib.byteCells (l.take k)).length = k := by rw [Lib.byteCells_length, List.length_take]; omega
  simp only [prow, List.getElem?_toArray]
  rw [List.getElem?_append_right (by omega), e, List.getElem?_replicate, if_pos (by omega)]
theorem prow_u8 {l : List UInt8} {k : Nat} {x : Int} (h : l.length = 32) (hk : k < 32) (hx : l[k]? = some (u8 x)) : (prow l k).setIfInBounds k (.int .u8 (x % 256)) = prow l (k + 1) := by
  rw [← u8_val]; exact prow_step h hk hx
set_option maxRecDepth 100000 in
set_option maxHeartbeats 6400000 in
theorem end_any (b : Nat) (w : World) (T : List UInt8) (B0 : List UInt8) (q0 u0 : Nat) (h : DG b w T (T.length : Int) B0 q0 u0) (hW : SW w) (hb2 : 2 ≤ b) (hz : T.length ≤ 2000000000000) :
    Calls Tryd.prog 99 #[.pointer (some ⟨b, 0, none⟩)] w fun e w' => e = .returned (.agg (hrow (shaF T))) ∧ Kept b w w' := by
  have hlt : b < w.heap.size := (Array.getElem?_eq_some_iff.1 h.row).1
  obtain ⟨n, hn⟩ : ∃ n, T.length = n := ⟨_, rfl⟩
  rw [hn] at h hz
  have g0 : (w.alloc (.cells #[Value.int .u8 0, Value.int .u8 0, Value.int .u8 0, Value.int .u8 0, Value.int .u8 0, Value.int .u8 0, Value.int .u8 0, Value.int .u8 0, Value.int .u8 0, Value.int .u8 0, Value.int .u8 0, Value.int .u8 0, Value.int .u8 0, Value.int .u8 0, Value.int .u8 0, Value.int .u8 0, Value.int .u8 0, Value.int .u8 0, Value.int .u8 0, Value.int .u8 0, Value.int .u8 0, Value.int .u8 0, Value.int .u8 0, Value.int .u8 0, Value.int .u8 0, Value.int .u8 0, Value.int .u8 0, Value.int .u8 0, Value.int .u8 0, Value.int .u8 0, Value.int .u8 0, Value.int .u8 0] 25)).heap[w.heap.size]? = some (.cells #[Value.int .u8 0, Value.int .u8 0, Value.int .u8 0, Value.int .u8 0, Value.int .u8 0, Value.int .u8 0, Value.int .u8 0, Value.int .u8 0, Value.int .u8 0, Value.int .u8 0, Value.int .u8 0, Value.int .u8 0, Value.int .u8 0, Value.int .u8 0, Value.int .u8 0, Value.int .u8 0, Value.int .u8 0, Value.int .u8 0, Value.int .u8 0, Value.int .u8 0, Value.int .u8 0, Value.int .u8 0, Value.int .u8 0, Value.int .u8 0, Value.int .u8 0, Value.int .u8 0, Value.int .u8 0, Value.int .u8 0, Value.int .u8 0, Value.int .u8 0, Value.int .u8 0, Value.int .u8 0] 25 (0, 0)) := heap_push _ _ _
  have hbA : Below w.heap.size w (w.alloc (.cells #[Value.int .u8 0, Value.int .u8 0, Value.int .u8 0, Value.int .u8 0, Value.int .u8 0, Value.int .u8 0, Value.int .u8 0, Value.int .u8 0, Value.int .u8 0, Value.int .u8 0, Value.int .u8 0, Value.int .u8 0, Value.int .u8 0, Value.int .u8 0, Value.int .u8 0, Value.int .u8 0, Value.int .u8 0, Value.int .u8 0, Value.int .u8 0, Value.int .u8 0, Value.int .u8 0, Value.int .u8 0, Value.int .u8 0, Value.int .u8 0, Value.int .u8 0, Value.int .u8 0, Value.int .u8 0, Value.int .u8 0, Value.int .u8 0, Value.int .u8 0, Value.int .u8 0, Value.int .u8 0] 25)) := Below.alloc (Below.refl _ _) (Nat.le_refl _) _
  go_enter Tryd.func99, Tryd.ntmps99
  go_upto_region 1 with fail
  refine wp_nameE _ (fun W hX => ?_)
  have y0 : W.heap[w.heap.size]? = some (.cells #[Value.int .u8 0, Value.int .u8 0, Value.int .u8 0, Value.int .u8 0, Value.int .u8 0, Value.int .u8 0, Value.int .u8 0, Value.int .u8 0, Value.int .u8 0, Value.int .u8 0, Value.int .u8 0, Value.int .u8 0, Value.int .u8 0, Value.int .u8 0, Value.int .u8 0, Value.int .u8 0, Value.int .u8 0, Value.int .u8 0, Value.int .u8 0, Value.int .u8 0, Value.int .u8 0, Value.int .u8 0, Value.int .u8 0, Value.int .u8 0, Value.int .u8 0, Value.int .u8 0, Value.int .u8 0, Value.int .u8 0, Value.int .u8 0, Value.int .u8 0, Value.int .u8 0, Value.int .u8 0] 25 (0, 0)) := by rw [hX]; exact g0
  have hbel : Below w.heap.size w W := by rw [hX]; exact hbA
  have hG : DG b W T n B0 q0 u0 := ⟨h.len, h.lt, h.buf, h.pre, cells_of h.row hbel hlt⟩
  have hK : Kept b w W := Kept.of hbel
  have hW := hW.below hbel
  clear hX g0 hbA h hbel
  have c0 : W.cell? ⟨b, 73, none⟩ = some (.int .i64 n) := by rw [cell_heap hG.row, drow_at73 (hs_len _ _) hG.buf]
  have e1 : IntKind.u64.wrap (n : Int) = n := by rw [IntKind.wrap_u64]; omega
  have e2 : IntKind.u64.wrap ((n : Int) * 8) = (n : Int) * 8 := by rw [IntKind.wrap_u64]; omega
  have e3 : (n : Int) % 18446744073709551616 = n := by omega
  have e4 : (n : Int) * 8 % 18446744073709551616 = (n : Int) * 8 := by omega
  have s128 : (⟨#[128]⟩ : ByteArray).size = 1 := rfl
  have CA := add_any b W T n B0 q0 u0 ⟨#[128]⟩ hG hW hb2 (by omega) (by rw [s128]; omega)
  go_upto_region 3 with (go_at_call 98; refine CA.mono ?_; rintro e w1 ⟨rfl, hG1, hK1⟩)
  obtain ⟨B1, q1, u1, hG1⟩ := hG1
  have hpk : padT T 0 = T ++ [128] := by simp [padT]
  rw [← hpk] at hG1
  have hK0 : Kept b W w1 := hK1
  clear hK1 CA c0 hG hpk
  go_loopw [] (fun wr => ∃ (k : Nat) (B : List UInt8) (q u : Nat), k ≤ padN n ∧ DG b wr (padT T k) ((n : Int) + ((1 : Nat) : Int) + (k : Int)) B q u ∧ Kept b W wr) (fun W => remV (W.cell? ⟨b, 72, none⟩))
  case atStart => exact ⟨0, B1, q1, u1, Nat.zero_le _, by have e : (((⟨#[128]⟩ : ByteArray).size : Nat) : Int) = 1 := rfl; (try rw [e] at hG1); simpa using hG1, hK0⟩
  case round =>
    clear hG1 hK0
    obtain ⟨k, B, q, u, hk, hG, hKW⟩ := hrel
    have hml := hG.len
    rw [padT_len, hn] at hml
    have hul := hG.lt
    have hpm := pad_mod T (k := k) (by rw [hn]; exact hk)
    rw [hn] at hpm
    have c1 : wr.cell? ⟨b, 72, none⟩ = some (.int .i64 u) := by rw [cell_heap hG.row, drow_at72 (hs_len _ _) hG.buf]
    by_cases hu : u = 56
    · have hkp : k = padN n := hpm.1 (by omega)
      subst hu
      have d1 : (((56 : Nat) : Int) == 56) = true := rfl
      go_upto_region 5 with fail
      go_wp2
      obtain ⟨LB, hLB⟩ : ∃ l, lenB n = l := ⟨_, rfl⟩
      have hLl : LB.length = 8 := by rw [← hLB]; rfl
      have hBl := hG.buf
      have hHl := hs_len (padT T k) q
      go_loopw [23] (fun v wr => ∃ i : Nat, i ≤ 8 ∧ wr.heap[b]? = some (.cells (drow (hs (padT T k) q) (B.take 56 ++ LB.take i ++ B.drop (56 + i)) ((56 : Nat) : Int) ((n : Int) + ((1 : Nat) : Int) + (k : Int))) 128 (0, 0)) ∧ Kept b W wr ∧ v = .int .i64 i) (fun v _ => 8 - (intOf v).toNat)
      case atStart => exact ⟨0, by omega, by rw [List.take_zero, List.append_nil, List.take_append_drop]; exact hG.row, hKW, rfl⟩
      case round =>
        clear c1 hKW
        obtain ⟨i, hi, hr, hKW, rfl⟩ := hrel
        have hBi : (B.take 56 ++ LB.take i ++ B.drop (56 + i)).length = 64 := by simp only [List.length_append, List.length_take, List.length_drop]; omega
        by_cases hi8 : i < 8
        · rcases (show i = 0 ∨ i = 1 ∨ i = 2 ∨ i = 3 ∨ i = 4 ∨ i = 5 ∨ i = 6 ∨ i = 7 by omega) with rfl | rfl | rfl | rfl | rfl | rfl | rfl | rfl
          · have cc : wr.cell? ⟨b, 64, none⟩ = some (.int .u8 (((B.take 56 ++ LB.take 0 ++ B.drop (56 + 0)).getD 56 0).toNat : Int)) := by rw [cell_heap hr]; exact drow_buf (k := 56) hHl (by omega)
            have fc : wr.frozen? ⟨b, 64, none⟩ = false := frozen_heap hr 64
            go_wp2
            go_region
            all_goals go_wp2
            go_roundw
            case rel =>
              have h3 := row_put5 (w := wr.drew) (k := 8 + 56) (v := .int .u8 ((n : Int) * 8 / 72057594037927936)) hr
              rw [drow_bset hHl (by omega) (by omega) (by omega), bset_step hBl hLl (by omega) (x := u8 ((n : Int) * 8 / 72057594037927936)) (by rw [← hLB]; rfl)] at h3
              exact ⟨1, by omega, h3, (hKW.setCell _ _).drew, by go_num⟩
            case measure => (simp [intOf])
          · have cc : wr.cell? ⟨b, 65, none⟩ = some (.int .u8 (((B.take 56 ++ LB.take 1 ++ B.drop (56 + 1)).getD 57 0).toNat : Int)) := by rw [cell_heap hr]; exact drow_buf (k := 57) hHl (by omega)
            have fc : wr.frozen? ⟨b, 65, none⟩ = false := frozen_heap hr 65
            go_wp2
            go_region
            all_goals go_wp2
            go_roundw
            case rel =>
              have h3 := row_put5 (w := wr.drew) (k := 8 + 57) (v := .int .u8 ((n : Int) * 8 / 281474976710656)) hr
              rw [drow_bset hHl (by omega) (by omega) (by omega), bset_step hBl hLl (by omega) (x := u8 ((n : Int) * 8 / 281474976710656)) (by rw [← hLB]; rfl)] at h3
              exact ⟨2, by omega, h3, (hKW.setCell _ _).drew, by go_num⟩
            case measure => (simp [intOf])
          · have cc : wr.cell? ⟨b, 66, none⟩ = some (.int .u8 (((B.take 56 ++ LB.take 2 ++ B.drop (56 + 2)).getD 58 0).toNat : Int)) := by rw [cell_heap hr]; exact drow_buf (k := 58) hHl (by omega)
            have fc : wr.frozen? ⟨b, 66, none⟩ = false := frozen_heap hr 66
            go_wp2
            go_region
            all_goals go_wp2
            go_roundw
            case rel =>
              have h3 := row_put5 (w := wr.drew) (k := 8 + 58) (v := .int .u8 ((n : Int) * 8 / 1099511627776)) hr
              rw [drow_bset hHl (by omega) (by omega) (by omega), bset_step hBl hLl (by omega) (x := u8 ((n : Int) * 8 / 1099511627776)) (by rw [← hLB]; rfl)] at h3
              exact ⟨3, by omega, h3, (hKW.setCell _ _).drew, by go_num⟩
            case measure => (simp [intOf])
          · have cc : wr.cell? ⟨b, 67, none⟩ = some (.int .u8 (((B.take 56 ++ LB.take 3 ++ B.drop (56 + 3)).getD 59 0).toNat : Int)) := by rw [cell_heap hr]; exact drow_buf (k := 59) hHl (by omega)
            have fc : wr.frozen? ⟨b, 67, none⟩ = false := frozen_heap hr 67
            go_wp2
            go_region
            all_goals go_wp2
            go_roundw
            case rel =>
              have h3 := row_put5 (w := wr.drew) (k := 8 + 59) (v := .int .u8 (((n : Int) * 8 / 4294967296) % 256)) hr
              rw [drow_bset hHl (by omega) (Int.emod_nonneg _ (by decide)) (Int.emod_lt_of_pos _ (by decide)), bset_step hBl hLl (by omega) (x := u8 ((n : Int) * 8 / 4294967296 % 256)) (by rw [← hLB]; show some (u8 ((n : Int) * 8 / 4294967296)) = _; rw [u8_mod])] at h3
              exact ⟨4, by omega, h3, (hKW.setCell _ _).drew, by go_num⟩
            case measure => (simp [intOf])
          · have cc : wr.cell? ⟨b, 68, none⟩ = some (.int .u8 (((B.take 56 ++ LB.take 4 ++ B.drop (56 + 4)).getD 60 0).toNat : Int)) := by rw [cell_heap hr]; exact drow_buf (k := 60) hHl (by omega)
            have fc : wr.frozen? ⟨b, 68, none⟩ = false := frozen_heap hr 68
            go_wp2
            go_region
            all_goals go_wp2
            go_roundw
            case rel =>
              have h3 := row_put5 (w := wr.drew) (k := 8 + 60) (v := .int .u8 (((n : Int) * 8 / 16777216) % 256)) hr
              rw [drow_bset hHl (by omega) (Int.emod_nonneg _ (by decide)) (Int.emod_lt_of_pos _ (by decide)), bset_step hBl hLl (by omega) (x := u8 ((n : Int) * 8 / 16777216 % 256)) (by rw [← hLB]; show some (u8 ((n : Int) * 8 / 16777216)) = _; rw [u8_mod])] at h3
              exact ⟨5, by omega, h3, (hKW.setCell _ _).drew, by go_num⟩
            case measure => (simp [intOf])
          · have cc : wr.cell? ⟨b, 69, none⟩ = some (.int .u8 (((B.take 56 ++ LB.take 5 ++ B.drop (56 + 5)).getD 61 0).toNat : Int)) := by rw [cell_heap hr]; exact drow_buf (k := 61) hHl (by omega)
            have fc : wr.frozen? ⟨b, 69, none⟩ = false := frozen_heap hr 69
            go_wp2
            go_region
            all_goals go_wp2
            go_roundw
            case rel =>
              have h3 := row_put5 (w := wr.drew) (k := 8 + 61) (v := .int .u8 (((n : Int) * 8 / 65536) % 256)) hr
              rw [drow_bset hHl (by omega) (Int.emod_nonneg _ (by decide)) (Int.emod_lt_of_pos _ (by decide)), bset_step hBl hLl (by omega) (x := u8 ((n : Int) * 8 / 65536 % 256)) (by rw [← hLB]; show some (u8 ((n : Int) * 8 / 65536)) = _; rw [u8_mod])] at h3
              exact ⟨6, by omega, h3, (hKW.setCell _ _).drew, by go_num⟩
            case measure => (simp [intOf])
          · have cc : wr.cell? ⟨b, 70, none⟩ = some (.int .u8 (((B.take 56 ++ LB.take 6 ++ B.drop (56 + 6)).getD 62 0).toNat : Int)) := by rw [cell_heap hr]; exact drow_buf (k := 62) hHl (by omega)
            have fc : wr.frozen? ⟨b, 70, none⟩ = false := frozen_heap hr 70
            go_wp2
            go_region
            all_goals go_wp2
            go_roundw
            case rel =>
              have h3 := row_put5 (w := wr.drew) (k := 8 + 62) (v := .int .u8 (((n : Int) * 8 / 256) % 256)) hr
              rw [drow_bset hHl (by omega) (Int.emod_nonneg _ (by decide)) (Int.emod_lt_of_pos _ (by decide)), bset_step hBl hLl (by omega) (x := u8 ((n : Int) * 8 / 256 % 256)) (by rw [← hLB]; show some (u8 ((n : Int) * 8 / 256)) = _; rw [u8_mod])] at h3
              exact ⟨7, by omega, h3, (hKW.setCell _ _).drew, by go_num⟩
            case measure => (simp [intOf])
          · have cc : wr.cell? ⟨b, 71, none⟩ = some (.int .u8 (((B.take 56 ++ LB.take 7 ++ B.drop (56 + 7)).getD 63 0).toNat : Int)) := by rw [cell_heap hr]; exact drow_buf (k := 63) hHl (by omega)
            have fc : wr.frozen? ⟨b, 71, none⟩ = false := frozen_heap hr 71
            go_wp2
            go_region
            all_goals go_wp2
            go_roundw
            case rel =>
              have h3 := row_put5 (w := wr.drew) (k := 8 + 63) (v := .int .u8 (((n : Int) * 8) % 256)) hr
              rw [drow_bset hHl (by omega) (Int.emod_nonneg _ (by decide)) (Int.emod_lt_of_pos _ (by decide)), bset_step hBl hLl (by omega) (x := u8 ((n : Int) * 8 % 256)) (by rw [← hLB]; show some (u8 ((n : Int) * 8)) = _; rw [u8_mod])] at h3
              exact ⟨8, by omega, h3, (hKW.setCell _ _).drew, by go_num⟩
            case measure => (simp [intOf])
        · obtain rfl : i = 8 := by omega
          rw [List.take_of_length_le (l := LB) (by omega), show B.drop (56 + 8) = [] from List.drop_eq_nil_of_le (by omega), List.append_nil] at hr hBi
          have CC := compress_any b wr _ _ _ _ hr hHl hBi (hW.kept hb2 hKW) hb2
          have d2 : decide (((8 : Nat) : Int) < 8) = false := rfl
          go_upto_region 11 with (go_at_call 115; refine CC.mono ?_; rintro e w3 ⟨rfl, hr3, hK3⟩)
          have hfin : comp (hs (padT T k) q) (B.take 56 ++ LB) = hs (shaFull T) ((shaFull T).length / 64) := by
            have hq := dg_comp (X := LB) hG (by omega)
            have hF : shaFull T = padT T k ++ LB := by unfold shaFull; rw [hn, hLB, ← hkp]
            rw [hF, hq.1, hq.2]
          obtain ⟨s0, s1, s2, s3, s4, s5, s6, s7, hS8⟩ := list8 (hs_len (shaFull T) ((shaFull T).length / 64))
          have HO : Hid (shaF T = out32 [s0, s1, s2, s3, s4, s5, s6, s7]) := Lib.hid (by unfold shaF; rw [hS8])
          rw [hfin, hS8] at hr3
          have hKW := hKW.trans hK3
          clear hr CC hK3 hfin hS8 hG hLB hml hpm
          have hOl : (out32 [s0, s1, s2, s3, s4, s5, s6, s7]).length = 32 := rfl
          have g1 : (w3.alloc (.cells #[Value.int .u8 0, Value.int .u8 0, Value.int .u8 0, Value.int .u8 0, Value.int .u8 0, Value.int .u8 0, Value.int .u8 0, Value.int .u8 0, Value.int .u8 0, Value.int .u8 0, Value.int .u8 0, Value.int .u8 0, Value.int .u8 0, Value.int .u8 0, Value.int .u8 0, Value.int .u8 0, Value.int .u8 0, Value.int .u8 0, Value.int .u8 0, Value.int .u8 0, Value.int .u8 0, Value.int .u8 0, Value.int .u8 0, Value.int .u8 0, Value.int .u8 0, Value.int .u8 0, Value.int .u8 0, Value.int .u8 0, Value.int .u8 0, Value.int .u8 0, Value.int .u8 0, Value.int .u8 0] 25)).heap[w3.heap.size]? = some (.cells (prow (out32 [s0, s1, s2, s3, s4, s5, s6, s7]) 0) 25 (0, 0)) := heap_push _ _ _
          have hbA : Below w3.heap.size w3 (w3.alloc (.cells #[Value.int .u8 0, Value.int .u8 0, Value.int .u8 0, Value.int .u8 0, Value.int .u8 0, Value.int .u8 0, Value.int .u8 0, Value.int .u8 0, Value.int .u8 0, Value.int .u8 0, Value.int .u8 0, Value.int .u8 0, Value.int .u8 0, Value.int .u8 0, Value.int .u8 0, Value.int .u8 0, Value.int .u8 0, Value.int .u8 0, Value.int .u8 0, Value.int .u8 0, Value.int .u8 0, Value.int .u8 0, Value.int .u8 0, Value.int .u8 0, Value.int .u8 0, Value.int .u8 0, Value.int .u8 0, Value.int .u8 0, Value.int .u8 0, Value.int .u8 0, Value.int .u8 0, Value.int .u8 0] 25)) := Below.alloc (Below.refl _ _) (Nat.le_refl _) _
          go_upto_region 12 with fail
          refine wp_nameE _ (fun W4 hX => ?_)
          have hb4 : Below w3.heap.size w3 W4 := by rw [hX]; exact hbA
          have y1 : W4.heap[w3.heap.size]? = some (.cells (prow (out32 [s0, s1, s2, s3, s4, s5, s6, s7]) 0) 25 (0, 0)) := by rw [hX]; exact g1
          have hr4 := cells_of hr3 hb4 (Array.getElem?_eq_some_iff.1 hr3).1
          have hl3 : W.heap.size ≤ w3.heap.size := hKW.size
          have hlW : w.heap.size < W.heap.size := (Array.getElem?_eq_some_iff.1 y0).1
          have hne : w.heap.size ≠ b := by omega
          have hKW := hKW.trans (Kept.of hb4)
          clear hX g1 hbA hr3 hb4
          have hrg : W4.rangeAt b 0 [.int .u32 s0, .int .u32 s1, .int .u32 s2, .int .u32 s3, .int .u32 s4, .int .u32 s5, .int .u32 s6, .int .u32 s7] := fun j v hv => by
            have hj : j < 8 := (List.getElem?_eq_some_iff.1 hv).1
            have := rangeAt_row5 hr4 j v (by unfold drow; dsimp only; rw [List.getElem?_append_left (by simpa using hj)]; exact hv)
            exact this
          go_upto_region 13 with (refine wpList_load_mid rfl 125 (.tmp 43) rfl b 0 rfl _ _ hrg Tryd.underlying125 rfl (by kernel_rfl) ?_)
          go_loopw [45] (fun v wr => ∃ i : Nat, i ≤ 8 ∧ wr.heap[w3.heap.size]? = some (.cells (prow (out32 [s0, s1, s2, s3, s4, s5, s6, s7]) (4 * i)) 25 (0, 0)) ∧ Kept b W wr ∧ v = .int .i64 i) (fun v _ => 8 - (intOf v).toNat)
          case atStart => exact ⟨0, by omega, y1, hKW, rfl⟩
          case round =>
            clear y1 hKW hrg hr4
            obtain ⟨i, hi, y1, hKW, rfl⟩ := hrel
            by_cases hi8 : i < 8
            · rcases (show i = 0 ∨ i = 1 ∨ i = 2 ∨ i = 3 ∨ i = 4 ∨ i = 5 ∨ i = 6 ∨ i = 7 by omega) with rfl | rfl | rfl | rfl | rfl | rfl | rfl | rfl
              · have c0 : wr.cell? ⟨w3.heap.size, 0, none⟩ = some (.int .u8 0) := by rw [cell_heap y1]; exact prow_far hOl (by omega) (by omega)
                have c1 : wr.cell? ⟨w3.heap.size, 1, none⟩ = some (.int .u8 0) := by rw [cell_heap y1]; exact prow_far hOl (by omega) (by omega)
                have c2 : wr.cell? ⟨w3.heap.size, 2, none⟩ = some (.int .u8 0) := by rw [cell_heap y1]; exact prow_far hOl (by omega) (by omega)
                have c3 : wr.cell? ⟨w3.heap.size, 3, none⟩ = some (.int .u8 0) := by rw [cell_heap y1]; exact prow_far hOl (by omega) (by omega)
                have f0 : wr.frozen? ⟨w3.heap.size, 0, none⟩ = false := frozen_heap y1 0
                have f1 : wr.frozen? ⟨w3.heap.size, 1, none⟩ = false := frozen_heap y1 1
                have f2 : wr.frozen? ⟨w3.heap.size, 2, none⟩ = false := frozen_heap y1 2
                have f3 : wr.frozen? ⟨w3.heap.size, 3, none⟩ = false := frozen_heap y1 3
                go_upto_region 14 with fail
                go_wp2_with (refine wpList_index_arr rfl (.tmp 44) (.tmp 45) 125 124 8 .u32 rfl Tryd.underlying125 Tryd.underlying124 (by kernel_rfl) _ (by rfl) .i64 0 (by rfl) (by decide) (.int .u32 s0) (by rfl) ?_)
                go_roundw
                case rel =>
                  have p0 := row_put5 (k := 0) (v := .int .u8 ((s0 / 16777216) % 256)) y1
                  rw [show 4 * 0 = 0 from rfl, prow_u8 hOl (show (0 : Nat) < 32 by decide) (x := (s0 / 16777216)) (by rfl)] at p0
                  have p1 := row_put5 (k := 1) (v := .int .u8 ((s0 / 65536) % 256)) p0
                  rw [prow_u8 hOl (show (1 : Nat) < 32 by decide) (x := (s0 / 65536)) (by rfl)] at p1
                  have p2 := row_put5 (k := 2) (v := .int .u8 ((s0 / 256) % 256)) p1
                  rw [prow_u8 hOl (show (2 : Nat) < 32 by decide) (x := (s0 / 256)) (by rfl)] at p2
                  have p3 := row_put5 (k := 3) (v := .int .u8 (s0 % 256)) p2
                  rw [prow_u8 hOl (show (3 : Nat) < 32 by decide) (x := s0) (by rfl)] at p3
                  exact ⟨1, by omega, p3, (((hKW.setOut hl3 _).setOut hl3 _).setOut hl3 _).setOut hl3 _, by go_num⟩
                case measure => (simp [intOf])
              · have c0 : wr.cell? ⟨w3.heap.size, 4, none⟩ = some (.int .u8 0) := by rw [cell_heap y1]; exact prow_far hOl (by omega) (by omega)
                have c1 : wr.cell? ⟨w3.heap.size, 5, none⟩ = some (.int .u8 0) := by rw [cell_heap y1]; exact prow_far hOl (by omega) (by omega)
                have c2 : wr.cell? ⟨w3.heap.size, 6, none⟩ = some (.int .u8 0) := by rw [cell_heap y1]; exact prow_far hOl (by omega) (by omega)
                have c3 : wr.cell? ⟨w3.heap.size, 7, none⟩ = some (.int .u8 0) := by rw [cell_heap y1]; exact prow_far hOl (by omega) (by omega)
                have f0 : wr.frozen? ⟨w3.heap.size, 4, none⟩ = false := frozen_heap y1 4
                have f1 : wr.frozen? ⟨w3.heap.size, 5, none⟩ = false := frozen_heap y1 5
                have f2 : wr.frozen? ⟨w3.heap.size, 6, none⟩ = false := frozen_heap y1 6
                have f3 : wr.frozen? ⟨w3.heap.size, 7, none⟩ = false := frozen_heap y1 7
                go_upto_region 14 with fail
                go_wp2_with (refine wpList_index_arr rfl (.tmp 44) (.tmp 45) 125 124 8 .u32 rfl Tryd.underlying125 Tryd.underlying124 (by kernel_rfl) _ (by rfl) .i64 1 (by rfl) (by decide) (.int .u32 s1) (by rfl) ?_)
                go_roundw
                case rel =>
                  have p0 := row_put5 (k := 4) (v := .int .u8 ((s1 / 16777216) % 256)) y1
                  rw [show 4 * 1 = 4 from rfl, prow_u8 hOl (show (4 : Nat) < 32 by decide) (x := (s1 / 16777216)) (by rfl)] at p0
                  have p1 := row_put5 (k := 5) (v := .int .u8 ((s1 / 65536) % 256)) p0
                  rw [prow_u8 hOl (show (5 : Nat) < 32 by decide) (x := (s1 / 65536)) (by rfl)] at p1
                  have p2 := row_put5 (k := 6) (v := .int .u8 ((s1 / 256) % 256)) p1
                  rw [prow_u8 hOl (show (6 : Nat) < 32 by decide) (x := (s1 / 256)) (by rfl)] at p2
                  have p3 := row_put5 (k := 7) (v := .int .u8 (s1 % 256)) p2
                  rw [prow_u8 hOl (show (7 : Nat) < 32 by decide) (x := s1) (by rfl)] at p3
                  exact ⟨2, by omega, p3, (((hKW.setOut hl3 _).setOut hl3 _).setOut hl3 _).setOut hl3 _, by go_num⟩
                case measure => (simp [intOf])
              · have c0 : wr.cell? ⟨w3.heap.size, 8, none⟩ = some (.int .u8 0) := by rw [cell_heap y1]; exact prow_far hOl (by omega) (by omega)
                have c1 : wr.cell? ⟨w3.heap.size, 9, none⟩ = some (.int .u8 0) := by rw [cell_heap y1]; exact prow_far hOl (by omega) (by omega)
                have c2 : wr.cell? ⟨w3.heap.size, 10, none⟩ = some (.int .u8 0) := by rw [cell_heap y1]; exact prow_far hOl (by omega) (by omega)
                have c3 : wr.cell? ⟨w3.heap.size, 11, none⟩ = some (.int .u8 0) := by rw [cell_heap y1]; exact prow_far hOl (by omega) (by omega)
                have f0 : wr.frozen? ⟨w3.heap.size, 8, none⟩ = false := frozen_heap y1 8
                have f1 : wr.frozen? ⟨w3.heap.size, 9, none⟩ = false := frozen_heap y1 9
                have f2 : wr.frozen? ⟨w3.heap.size, 10, none⟩ = false := frozen_heap y1 10
                have f3 : wr.frozen? ⟨w3.heap.size, 11, none⟩ = false := frozen_heap y1 11
                go_upto_region 14 with fail
                go_wp2_with (refine wpList_index_arr rfl (.tmp 44) (.tmp 45) 125 124 8 .u32 rfl Tryd.underlying125 Tryd.underlying124 (by kernel_rfl) _ (by rfl) .i64 2 (by rfl) (by decide) (.int .u32 s2) (by rfl) ?_)
                go_roundw
                case rel =>
                  have p0 := row_put5 (k := 8) (v := .int .u8 ((s2 / 16777216) % 256)) y1
                  rw [show 4 * 2 = 8 from rfl, prow_u8 hOl (show (8 : Nat) < 32 by decide) (x := (s2 / 16777216)) (by rfl)] at p0
                  have p1 := row_put5 (k := 9) (v := .int .u8 ((s2 / 65536) % 256)) p0
                  rw [prow_u8 hOl (show (9 : Nat) < 32 by decide) (x := (s2 / 65536)) (by rfl)] at p1
                  have p2 := row_put5 (k := 10) (v := .int .u8 ((s2 / 256) % 256)) p1
                  rw [prow_u8 hOl (show (10 : Nat) < 32 by decide) (x := (s2 / 256)) (by rfl)] at p2
                  have p3 := row_put5 (k := 11) (v := .int .u8 (s2 % 256)) p2
                  rw [prow_u8 hOl (show (11 : Nat) < 32 by decide) (x := s2) (by rfl)] at p3
                  exact ⟨3, by omega, p3, (((hKW.setOut hl3 _).setOut hl3 _).setOut hl3 _).setOut hl3 _, by go_num⟩
                case measure => (simp [intOf])
              · have c0 : wr.cell? ⟨w3.heap.size, 12, none⟩ = some (.int .u8 0) := by rw [cell_heap y1]; exact prow_far hOl (by omega) (by omega)
                have c1 : wr.cell? ⟨w3.heap.size, 13, none⟩ = some (.int .u8 0) := by rw [cell_heap y1]; exact prow_far hOl (by omega) (by omega)
                have c2 : wr.cell? ⟨w3.heap.size, 14, none⟩ = some (.int .u8 0) := by rw [cell_heap y1]; exact prow_far hOl (by omega) (by omega)
                have c3 : wr.cell? ⟨w3.heap.size, 15, none⟩ = some (.int .u8 0) := by rw [cell_heap y1]; exact prow_far hOl (by omega) (by omega)
                have f0 : wr.frozen? ⟨w3.heap.size, 12, none⟩ = false := frozen_heap y1 12
                have f1 : wr.frozen? ⟨w3.heap.size, 13, none⟩ = false := frozen_heap y1 13
                have f2 : wr.frozen? ⟨w3.heap.size, 14, none⟩ = false := frozen_heap y1 14
                have f3 : wr.frozen? ⟨w3.heap.size, 15, none⟩ = false := frozen_heap y1 15
                go_upto_region 14 with fail
                go_wp2_with (refine wpList_index_arr rfl (.tmp 44) (.tmp 45) 125 124 8 .u32 rfl Tryd.underlying125 Tryd.underlying124 (by kernel_rfl) _ (by rfl) .i64 3 (by rfl) (by decide) (.int .u32 s3) (by rfl) ?_)
                go_roundw
                case rel =>
                  have p0 := row_put5 (k := 12) (v := .int .u8 ((s3 / 16777216) % 256)) y1
                  rw [show 4 * 3 = 12 from rfl, prow_u8 hOl (show (12 : Nat) < 32 by decide) (x := (s3 / 16777216)) (by rfl)] at p0
                  have p1 := row_put5 (k := 13) (v := .int .u8 ((s3 / 65536) % 256)) p0
                  rw [prow_u8 hOl (show (13 : Nat) < 32 by decide) (x := (s3 / 65536)) (by rfl)] at p1
                  have p2 := row_put5 (k := 14) (v := .int .u8 ((s3 / 256) % 256)) p1
                  rw [prow_u8 hOl (show (14 : Nat) < 32 by decide) (x := (s3 / 256)) (by rfl)] at p2
                  have p3 := row_put5 (k := 15) (v := .int .u8 (s3 % 256)) p2
                  rw [prow_u8 hOl (show (15 : Nat) < 32 by decide) (x := s3) (by rfl)] at p3
                  exact ⟨4, by omega, p3, (((hKW.setOut hl3 _).setOut hl3 _).setOut hl3 _).setOut hl3 _, by go_num⟩
                case measure => (simp [intOf])
              · have c0 : wr.cell? ⟨w3.heap.size, 16, none⟩ = some (.int .u8 0) := by rw [cell_heap y1]; exact prow_far hOl (by omega) (by omega)
                have c1 : wr.cell? ⟨w3.heap.size, 17, none⟩ = some (.int .u8 0) := by rw [cell_heap y1]; exact prow_far hOl (by omega) (by omega)
                have c2 : wr.cell? ⟨w3.heap.size, 18, none⟩ = some (.int .u8 0) := by rw [cell_heap y1]; exact prow_far hOl (by omega) (by omega)
                have c3 : wr.cell? ⟨w3.heap.size, 19, none⟩ = some (.int .u8 0) := by rw [cell_heap y1]; exact prow_far hOl (by omega) (by omega)
                have f0 : wr.frozen? ⟨w3.heap.size, 16, none⟩ = false := frozen_heap y1 16
                have f1 : wr.frozen? ⟨w3.heap.size, 17, none⟩ = false := frozen_heap y1 17
                have f2 : wr.frozen? ⟨w3.heap.size, 18, none⟩ = false := frozen_heap y1 18
                have f3 : wr.frozen? ⟨w3.heap.size, 19, none⟩ = false := frozen_heap y1 19
                go_upto_region 14 with fail
                go_wp2_with (refine wpList_index_arr rfl (.tmp 44) (.tmp 45) 125 124 8 .u32 rfl Tryd.underlying125 Tryd.underlying124 (by kernel_rfl) _ (by rfl) .i64 4 (by rfl) (by decide) (.int .u32 s4) (by rfl) ?_)
                go_roundw
                case rel =>
                  have p0 := row_put5 (k := 16) (v := .int .u8 ((s4 / 16777216) % 256)) y1
                  rw [show 4 * 4 = 16 from rfl, prow_u8 hOl (show (16 : Nat) < 32 by decide) (x := (s4 / 16777216)) (by rfl)] at p0
                  have p1 := row_put5 (k := 17) (v := .int .u8 ((s4 / 65536) % 256)) p0
                  rw [prow_u8 hOl (show (17 : Nat) < 32 by decide) (x := (s4 / 65536)) (by rfl)] at p1
                  have p2 := row_put5 (k := 18) (v := .int .u8 ((s4 / 256) % 256)) p1
                  rw [prow_u8 hOl (show (18 : Nat) < 32 by decide) (x := (s4 / 256)) (by rfl)] at p2
                  have p3 := row_put5 (k := 19) (v := .int .u8 (s4 % 256)) p2
                  rw [prow_u8 hOl (show (19 : Nat) < 32 by decide) (x := s4) (by rfl)] at p3
                  exact ⟨5, by omega, p3, (((hKW.setOut hl3 _).setOut hl3 _).setOut hl3 _).setOut hl3 _, by go_num⟩
                case measure => (simp [intOf])
              · have c0 : wr.cell? ⟨w3.heap.size, 20, none⟩ = some (.int .u8 0) := by rw [cell_heap y1]; exact prow_far hOl (by omega) (by omega)
                have c1 : wr.cell? ⟨w3.heap.size, 21, none⟩ = some (.int .u8 0) := by rw [cell_heap y1]; exact prow_far hOl (by omega) (by omega)
                have c2 : wr.cell? ⟨w3.heap.size, 22, none⟩ = some (.int .u8 0) := by rw [cell_heap y1]; exact prow_far hOl (by omega) (by omega)
                have c3 : wr.cell? ⟨w3.heap.size, 23, none⟩ = some (.int .u8 0) := by rw [cell_heap y1]; exact prow_far hOl (by omega) (by omega)
                have f0 : wr.frozen? ⟨w3.heap.size, 20, none⟩ = false := frozen_heap y1 20
                have f1 : wr.frozen? ⟨w3.heap.size, 21, none⟩ = false := frozen_heap y1 21
                have f2 : wr.frozen? ⟨w3.heap.size, 22, none⟩ = false := frozen_heap y1 22
                have f3 : wr.frozen? ⟨w3.heap.size, 23, none⟩ = false := frozen_heap y1 23
                go_upto_region 14 with fail
                go_wp2_with (refine wpList_index_arr rfl (.tmp 44) (.tmp 45) 125 124 8 .u32 rfl Tryd.underlying125 Tryd.underlying124 (by kernel_rfl) _ (by rfl) .i64 5 (by rfl) (by decide) (.int .u32 s5) (by rfl) ?_)
                go_roundw
                case rel =>
                  have p0 := row_put5 (k := 20) (v := .int .u8 ((s5 / 16777216) % 256)) y1
                  rw [show 4 * 5 = 20 from rfl, prow_u8 hOl (show (20 : Nat) < 32 by decide) (x := (s5 / 16777216)) (by rfl)] at p0
                  have p1 := row_put5 (k := 21) (v := .int .u8 ((s5 / 65536) % 256)) p0
                  rw [prow_u8 hOl (show (21 : Nat) < 32 by decide) (x := (s5 / 65536)) (by rfl)] at p1
                  have p2 := row_put5 (k := 22) (v := .int .u8 ((s5 / 256) % 256)) p1
                  rw [prow_u8 hOl (show (22 : Nat) < 32 by decide) (x := (s5 / 256)) (by rfl)] at p2
                  have p3 := row_put5 (k := 23) (v := .int .u8 (s5 % 256)) p2
                  rw [prow_u8 hOl (show (23 : Nat) < 32 by decide) (x := s5) (by rfl)] at p3
                  exact ⟨6, by omega, p3, (((hKW.setOut hl3 _).setOut hl3 _).setOut hl3 _).setOut hl3 _, by go_num⟩
                case measure => (simp [intOf])
              · have c0 : wr.cell? ⟨w3.heap.size, 24, none⟩ = some (.int .u8 0) := by rw [cell_heap y1]; exact prow_far hOl (by omega) (by omega)
                have c1 : wr.cell? ⟨w3.heap.size, 25, none⟩ = some (.int .u8 0) := by rw [cell_heap y1]; exact prow_far hOl (by omega) (by omega)
                have c2 : wr.cell? ⟨w3.heap.size, 26, none⟩ = some (.int .u8 0) := by rw [cell_heap y1]; exact prow_far hOl (by omega) (by omega)
                have c3 : wr.cell? ⟨w3.heap.size, 27, none⟩ = some (.int .u8 0) := by rw [cell_heap y1]; exact prow_far hOl (by omega) (by omega)
                have f0 : wr.frozen? ⟨w3.heap.size, 24, none⟩ = false := frozen_heap y1 24
                have f1 : wr.frozen? ⟨w3.heap.size, 25, none⟩ = false := frozen_heap y1 25
                have f2 : wr.frozen? ⟨w3.heap.size, 26, none⟩ = false := frozen_heap y1 26
                have f3 : wr.frozen? ⟨w3.heap.size, 27, none⟩ = false := frozen_heap y1 27
                go_upto_region 14 with fail
                go_wp2_with (refine wpList_index_arr rfl (.tmp 44) (.tmp 45) 125 124 8 .u32 rfl Tryd.underlying125 Tryd.underlying124 (by kernel_rfl) _ (by rfl) .i64 6 (by rfl) (by decide) (.int .u32 s6) (by rfl) ?_)
                go_roundw
                case rel =>
                  have p0 := row_put5 (k := 24) (v := .int .u8 ((s6 / 16777216) % 256)) y1
                  rw [show 4 * 6 = 24 from rfl, prow_u8 hOl (show (24 : Nat) < 32 by decide) (x := (s6 / 16777216)) (by rfl)] at p0
                  have p1 := row_put5 (k := 25) (v := .int .u8 ((s6 / 65536) % 256)) p0
                  rw [prow_u8 hOl (show (25 : Nat) < 32 by decide) (x := (s6 / 65536)) (by rfl)] at p1
                  have p2 := row_put5 (k := 26) (v := .int .u8 ((s6 / 256) % 256)) p1
                  rw [prow_u8 hOl (show (26 : Nat) < 32 by decide) (x := (s6 / 256)) (by rfl)] at p2
                  have p3 := row_put5 (k := 27) (v := .int .u8 (s6 % 256)) p2
                  rw [prow_u8 hOl (show (27 : Nat) < 32 by decide) (x := s6) (by rfl)] at p3
                  exact ⟨7, by omega, p3, (((hKW.setOut hl3 _).setOut hl3 _).setOut hl3 _).setOut hl3 _, by go_num⟩
                case measure => (simp [intOf])
              · have c0 : wr.cell? ⟨w3.heap.size, 28, none⟩ = some (.int .u8 0) := by rw [cell_heap y1]; exact prow_far hOl (by omega) (by omega)
                have c1 : wr.cell? ⟨w3.heap.size, 29, none⟩ = some (.int .u8 0) := by rw [cell_heap y1]; exact prow_far hOl (by omega) (by omega)
                have c2 : wr.cell? ⟨w3.heap.size, 30, none⟩ = some (.int .u8 0) := by rw [cell_heap y1]; exact prow_far hOl (by omega) (by omega)
                have c3 : wr.cell? ⟨w3.heap.size, 31, none⟩ = some (.int .u8 0) := by rw [cell_heap y1]; exact prow_far hOl (by omega) (by omega)
                have f0 : wr.frozen? ⟨w3.heap.size, 28, none⟩ = false := frozen_heap y1 28
                have f1 : wr.frozen? ⟨w3.heap.size, 29, none⟩ = false := frozen_heap y1 29
                have f2 : wr.frozen? ⟨w3.heap.size, 30, none⟩ = false := frozen_heap y1 30
                have f3 : wr.frozen? ⟨w3.heap.size, 31, none⟩ = false := frozen_heap y1 31
                go_upto_region 14 with fail
                go_wp2_with (refine wpList_index_arr rfl (.tmp 44) (.tmp 45) 125 124 8 .u32 rfl Tryd.underlying125 Tryd.underlying124 (by kernel_rfl) _ (by rfl) .i64 7 (by rfl) (by decide) (.int .u32 s7) (by rfl) ?_)
                go_roundw
                case rel =>
                  have p0 := row_put5 (k := 28) (v := .int .u8 ((s7 / 16777216) % 256)) y1
                  rw [show 4 * 7 = 28 from rfl, prow_u8 hOl (show (28 : Nat) < 32 by decide) (x := (s7 / 16777216)) (by rfl)] at p0
                  have p1 := row_put5 (k := 29) (v := .int .u8 ((s7 / 65536) % 256)) p0
                  rw [prow_u8 hOl (show (29 : Nat) < 32 by decide) (x := (s7 / 65536)) (by rfl)] at p1
                  have p2 := row_put5 (k := 30) (v := .int .u8 ((s7 / 256) % 256)) p1
                  rw [prow_u8 hOl (show (30 : Nat) < 32 by decide) (x := (s7 / 256)) (by rfl)] at p2
                  have p3 := row_put5 (k := 31) (v := .int .u8 (s7 % 256)) p2
                  rw [prow_u8 hOl (show (31 : Nat) < 32 by decide) (x := s7) (by rfl)] at p3
                  exact ⟨8, by omega, p3, (((hKW.setOut hl3 _).setOut hl3 _).setOut hl3 _).setOut hl3 _, by go_num⟩
                case measure => (simp [intOf])
            · obtain rfl : i = 8 := by omega
              have d3 : decide (((8 : Nat) : Int) < 8) = false := rfl
              have y1 : wr.heap[w3.heap.size]? = some (.cells (hrow (out32 [s0, s1, s2, s3, s4, s5, s6, s7])) 25 (0, 0)) := by rw [← prow_full hOl]; exact y1
              have hsz : (hrow (out32 [s0, s1, s2, s3, s4, s5, s6, s7])).size = 32 := by rw [hrow_size]; exact hOl
              have hone := hrow_one (out32 [s0, s1, s2, s3, s4, s5, s6, s7])
              have y0 : wr.heap[w.heap.size]? = some (.cells #[Value.int .u8 0, Value.int .u8 0, Value.int .u8 0, Value.int .u8 0, Value.int .u8 0, Value.int .u8 0, Value.int .u8 0, Value.int .u8 0, Value.int .u8 0, Value.int .u8 0, Value.int .u8 0, Value.int .u8 0, Value.int .u8 0, Value.int .u8 0, Value.int .u8 0, Value.int .u8 0, Value.int .u8 0, Value.int .u8 0, Value.int .u8 0, Value.int .u8 0, Value.int .u8 0, Value.int .u8 0, Value.int .u8 0, Value.int .u8 0, Value.int .u8 0, Value.int .u8 0, Value.int .u8 0, Value.int .u8 0, Value.int .u8 0, Value.int .u8 0, Value.int .u8 0, Value.int .u8 0] 25 (0, 0)) := by rw [hKW.block _ hlW hne]; exact y0
              go_wp2_with (first | (refine wpList_loadRow rfl (.tmp 5) 25 rfl Tryd.underlying25 (by rw [hsz]; kernel_rfl) rfl y1 ?_) | (refine wpList_storeRowTo rfl (.tmp 2) (.tmp 76) 25 rfl (by rw [hsz]; kernel_rfl) rfl rfl y0 (by rw [hsz]; rfl) hone ?_))
              refine bodyPost_ret (v := .agg (hrow (out32 [s0, s1, s2, s3, s4, s5, s6, s7]))) ?_ rfl ?_
              · simp [results, Tryd.results99, Act.put, asAddr]
                exact run_loadVar_row _ _ 25 25 _ (0, 0) _ (setRow_heap _ _ _ _ _ _ y0) Tryd.underlying25 rfl (by rw [hsz]; kernel_rfl)
              exact ⟨by rw [HO.out], (hK.trans hKW).setRow (Nat.le_refl _) _⟩
    · have hkp : k < padN n := by have : k ≠ padN n := fun e => hu (by have := hpm.2 e; omega); omega
      have d1 : ((u : Int) == 56) = false := beq_eq_false_iff_ne.2 (by omega)
      have s0 : (⟨#[0]⟩ : ByteArray).size = 1 := rfl
      have hpn : padN n ≤ 63 := by unfold padN; omega
      have CA := add_any b wr _ _ B q u ⟨#[0]⟩ hG (hW.kept hb2 hKW) hb2 (by omega) (by rw [s0]; omega)
      go_wp2_with (go_at_call 98; refine CA.mono ?_; rintro e w4 ⟨rfl, hG4, hK4⟩)
      obtain ⟨B4, q4, u4', hG4⟩ := hG4
      rw [padT_succ] at hG4
      have hl4 := hG4.len
      rw [padT_len, hn] at hl4
      have hu4 := hG4.lt
      go_roundw
      case rel => exact ⟨k + 1, B4, q4, u4', by omega, by rw [show ((n : Int) + ((1 : Nat) : Int) + ((k + 1 : Nat) : Int)) = (n : Int) + ((1 : Nat) : Int) + (k : Int) + ((1 : Nat) : Int) by omega]; exact hG4, hKW.trans hK4⟩
      case measure =>
        have c4 : w4.cell? ⟨b, 72, none⟩ = some (.int .i64 u4') := by rw [cell_heap hG4.row, drow_at72 (hs_len _ _) hG4.buf]
        rw [c1, c4]
        show (120 - ((u4' : Nat) : Int).toNat) % 64 < (120 - ((u : Nat) : Int).toNat) % 64
        rw [Int.toNat_natCast, Int.toNat_natCast]
        omega
end Go.Proofs.YtfikbaoiialfeaaDoor
namespace Go.Proofs.YtfikbaoiialfeaaDoor
open Go.RowKit
attribute [local go_sem] strV
set_option linter.unusedVariables false
/-- The bytes of texts, one behind the other. -/
def flat (ss : List ByteArray) : List UInt8 := ss.flatMap fun s => s.data.toList
def sval (s : ByteArray) : List Value := [Value.string s]
theorem flat_take {ss : List ByteArray} {k : Nat} (hk : k < ss.length) : flat (ss.take (k + 1)) = flat (ss.take k) ++ ss[k].data.toList := by
  unfold flat
  rw [List.take_add_one, List.getElem?_eq_getElem hk, List.flatMap_append]
  simp
theorem flat_len {ss : List ByteArray} {k : Nat} : (flat (ss.take k)).length ≤ (flat ss).length := by
  have : flat ss = flat (ss.take k) ++ flat (ss.drop k) := by unfold flat; rw [← List.flatMap_append, List.take_append_drop]
  rw [this, List.length_append]; omega
theorem Kept.cell {b : Nat} {w w' : World} (h : Kept b w w') {p : Addr} (hp : p.block < w.heap.size) (hne : p.block ≠ b) : w'.cell? p = w.cell? p := World.cell?_of_block (w := w) (h.block p.block hp hne)
theorem dg_new {b : Nat} {w : World} (hr : w.heap[b]? = some (.cells (drow stab (List.replicate 64 0) 0 0) 128 (0, 0))) : DG b w [] 0 (List.replicate 64 0) 0 0 :=
  ⟨rfl, by decide, by simp, by simp, hr⟩
theorem drow_nostr {S : List Int} {B : List UInt8} {u z : Int} {j : Nat} {s : ByteArray} (h : (drow S B u z)[j]? = some (.string s)) : False := by
  have hm := Array.mem_of_getElem? h
  unfold drow at hm
  simp [Lib.byteCells] at hm
set_option maxRecDepth 100000 in
set_option maxHeartbeats 6400000 in
theorem sum_any (a : Option Addr) (n c : Nat) (ss : List ByteArray) (w : World) (hr : RowAt w a (ss.flatMap sval)) (hn : ss.length = n) (hW : SW w) (hz : (flat ss).length ≤ 1000000000000) (hnm : n ≤ maxLen) :
    Calls Tryd.prog 64 #[.slice a n c] w fun e w' => e = .returned (.agg (hrow (shaF (flat ss)))) ∧ Below w.heap.size w w' := by
  have hsz := hW.size
  unfold maxLen at hnm
  have HN := Lib.hid hn
  have hrg : ∀ W : World, SW W → W.rangeAt 0 0 (stab.map (Value.int .u32)) := fun W h j v hv => by
    have hj : j < 8 := by have := (List.getElem?_eq_some_iff.1 hv).1; rw [List.length_map] at this; exact this
    have hc := h.1.cell sw_g0 j (by rw [show stab.length = 8 from rfl]; exact hj)
    rw [Nat.zero_add, hc]
    rw [List.getElem?_map, get_some (show j < stab.length by rw [show stab.length = 8 from rfl]; exact hj)] at hv
    exact hv
  have g0 : (w.alloc (.cells #[Value.int .u8 0, Value.int .u8 0, Value.int .u8 0, Value.int .u8 0, Value.int .u8 0, Value.int .u8 0, Value.int .u8 0, Value.int .u8 0, Value.int .u8 0, Value.int .u8 0, Value.int .u8 0, Value.int .u8 0, Value.int .u8 0, Value.int .u8 0, Value.int .u8 0, Value.int .u8 0, Value.int .u8 0, Value.int .u8 0, Value.int .u8 0, Value.int .u8 0, Value.int .u8 0, Value.int .u8 0, Value.int .u8 0, Value.int .u8 0, Value.int .u8 0, Value.int .u8 0, Value.int .u8 0, Value.int .u8 0, Value.int .u8 0, Value.int .u8 0, Value.int .u8 0, Value.int .u8 0] 25)).heap[w.heap.size]? = some (.cells #[Value.int .u8 0, Value.int .u8 0, Value.int .u8 0, Value.int .u8 0, Value.int .u8 0, Value.int .u8 0, Value.int .u8 0, Value.int .u8 0, Value.int .u8 0, Value.int .u8 0, Value.int .u8 0, Value.int .u8 0, Value.int .u8 0, Value.int .u8 0, Value.int .u8 0, Value.int .u8 0, Value.int .u8 0, Value.int .u8 0, Value.int .u8 0, Value.int .u8 0, Value.int .u8 0, Value.int .u8 0, Value.int .u8 0, Value.int .u8 0, Value.int .u8 0, Value.int .u8 0, Value.int .u8 0, Value.int .u8 0, Value.int .u8 0, Value.int .u8 0, Value.int .u8 0, Value.int .u8 0] 25 (0, 0)) := heap_push _ _ _
  have hbA : Below w.heap.size w (w.alloc (.cells #[Value.int .u8 0, Value.int .u8 0, Value.int .u8 0, Value.int .u8 0, Value.int .u8 0, Value.int .u8 0, Value.int .u8 0, Value.int .u8 0, Value.int .u8 0, Value.int .u8 0, Value.int .u8 0, Value.int .u8 0, Value.int .u8 0, Value.int .u8 0, Value.int .u8 0, Value.int .u8 0, Value.int .u8 0, Value.int .u8 0, Value.int .u8 0, Value.int .u8 0, Value.int .u8 0, Value.int .u8 0, Value.int .u8 0, Value.int .u8 0, Value.int .u8 0, Value.int .u8 0, Value.int .u8 0, Value.int .u8 0, Value.int .u8 0, Value.int .u8 0, Value.int .u8 0, Value.int .u8 0] 25)) := Below.alloc (Below.refl _ _) (Nat.le_refl _) _
  go_enter Tryd.func64, Tryd.ntmps64
  go_upto_region 1 with fail
  refine wp_nameE _ (fun W1 hX => ?_)
  have y0 : W1.heap[w.heap.size]? = some (.cells #[Value.int .u8 0, Value.int .u8 0, Value.int .u8 0, Value.int .u8 0, Value.int .u8 0, Value.int .u8 0, Value.int .u8 0, Value.int .u8 0, Value.int .u8 0, Value.int .u8 0, Value.int .u8 0, Value.int .u8 0, Value.int .u8 0, Value.int .u8 0, Value.int .u8 0, Value.int .u8 0, Value.int .u8 0, Value.int .u8 0, Value.int .u8 0, Value.int .u8 0, Value.int .u8 0, Value.int .u8 0, Value.int .u8 0, Value.int .u8 0, Value.int .u8 0, Value.int .u8 0, Value.int .u8 0, Value.int .u8 0, Value.int .u8 0, Value.int .u8 0, Value.int .u8 0, Value.int .u8 0] 25 (0, 0)) := by rw [hX]; exact g0
  have hb1 : Below w.heap.size w W1 := by rw [hX]; exact hbA
  have hW1 := hW.below hb1
  have hl1 : w.heap.size < W1.heap.size := (Array.getElem?_eq_some_iff.1 y0).1
  clear hX g0 hbA
  have hrg1 := hrg W1 hW1
  have hone : (drow stab (List.replicate 64 0) 0 0).all (·.oneCell') = true := by kernel_rfl
  go_upto_region 2 with (first | (refine wpList_load_mid rfl 125 (.global 0) rfl 0 0 (by rfl) _ _ hrg1 Tryd.underlying125 rfl (by kernel_rfl) ?_) | (refine wpList_storeRowTo rfl (.tmp 3) (.tmp 7) 128 rfl (by kernel_rfl) rfl (Z := drow stab (List.replicate 64 0) 0 0) (by rfl) (heap_push _ _ _) (by kernel_rfl) hone ?_))
  refine wp_nameE _ (fun W2 hX => ?_)
  obtain ⟨b, hb⟩ : ∃ b, W1.heap.size = b := ⟨_, rfl⟩
  have hrow : W2.heap[b]? = some (.cells (drow stab (List.replicate 64 0) 0 0) 128 (0, 0)) := by rw [hX, ← hb]; exact setRow_heap _ _ _ _ _ _ (heap_push _ _ _)
  have hb2 : Below b W1 W2 := by rw [hX, ← hb]; exact below_setRow (Below.alloc (Below.refl _ _) (Nat.le_refl _) _) (Nat.le_refl _) _
  have hbel : Below w.heap.size w W2 := hb1.trans (hb2.mono (by omega))
  have y0 : W2.heap[w.heap.size]? = some (.cells #[Value.int .u8 0, Value.int .u8 0, Value.int .u8 0, Value.int .u8 0, Value.int .u8 0, Value.int .u8 0, Value.int .u8 0, Value.int .u8 0, Value.int .u8 0, Value.int .u8 0, Value.int .u8 0, Value.int .u8 0, Value.int .u8 0, Value.int .u8 0, Value.int .u8 0, Value.int .u8 0, Value.int .u8 0, Value.int .u8 0, Value.int .u8 0, Value.int .u8 0, Value.int .u8 0, Value.int .u8 0, Value.int .u8 0, Value.int .u8 0, Value.int .u8 0, Value.int .u8 0, Value.int .u8 0, Value.int .u8 0, Value.int .u8 0, Value.int .u8 0, Value.int .u8 0, Value.int .u8 0] 25 (0, 0)) := by rw [hb2.block _ (by omega)]; exact y0
  have hW2 := hW.below hbel
  have hG := dg_new hrow
  have hG0 := hrow
  have hbw : 2 ≤ b := by omega
  have hr := hr.below hbel
  have hlb : b < W2.heap.size := (Array.getElem?_eq_some_iff.1 hrow).1
  have hwb : w.heap.size < b := by omega
  have hl2 : w.heap.size < W2.heap.size := by omega
  rw [hb]
  clear hX hrg hrg1 hone hb1 hW1 hl1 hb2 hrow hsz hW hb
  go_upto_region 3 with fail
  go_loopw [10] (fun v wr => ∃ (k : Nat) (B : List UInt8) (q u : Nat), k ≤ n ∧ DG b wr (flat (ss.take k)) ((flat (ss.take k)).length : Int) B q u ∧ Kept b W2 wr ∧ v = .int .i64 k) (fun v _ => n - (intOf v).toNat)
  case atStart => exact ⟨0, _, 0, 0, Nat.zero_le _, by simpa [flat] using hG, Kept.of (Below.refl _ _), rfl⟩
  case round =>
    clear hG
    obtain ⟨k, B, q, u, hk, hG, hK, rfl⟩ := hrel
    have hfl := flat_len (ss := ss) (k := k)
    by_cases hlt : k < n
    · have d1 : decide ((k : Int) < (n : Int)) = true := decide_eq_true (by omega)
      have hks : k < ss.length := by have := HN.out; omega
      obtain ⟨b0, off, ha, hb0, hc⟩ := hr.elem (f := sval) (c := 1) (fun _ => rfl) hks (by decide)
      have hc0 := hc 0 (by decide)
      subst ha
      obtain ⟨s, hs⟩ : ∃ s, ss[k] = s := ⟨_, rfl⟩
      have hft := flat_take hks
      rw [hs] at hc0 hft
      have hfl2 := flat_len (ss := ss) (k := k + 1)
      rw [hft, List.length_append, str_len] at hfl2
      have hne : b0 ≠ b := fun e => by
        subst e
        have h1 := cell_heap hG0 (off + (k * 1 + 0))
        rw [hc0] at h1
        exact drow_nostr h1.symm
      have c0 : wr.cell? ⟨b0, off + k, none⟩ = some (.string s) := by
        rw [hK.cell (p := ⟨b0, off + k, none⟩) hb0 hne]
        rw [show off + k = off + (k * 1 + 0) by omega, hc0]; rfl
      have n0 : (0 : Int) ≤ (k : Int) := by omega
      have n1 : (k : Int) < (n : Int) := by omega
      have n2 : ((k : Nat) : Int).toNat = k := by omega
      have CA := add_any b wr _ _ B q u s hG (hW2.kept hbw hK) hbw (by omega) (by omega)
      go_wp2_with (go_at_call 98; refine CA.mono ?_; rintro e w4 ⟨rfl, hG4, hK4⟩)
      obtain ⟨B4, q4, u4', hG4⟩ := hG4
      go_roundw
      case rel => exact ⟨k + 1, B4, q4, u4', by omega, by rw [hft, List.length_append, str_len, Int.natCast_add]; exact hG4, hK.trans hK4, by go_num⟩
      case measure => (simp [intOf]) <;> omega
    · obtain rfl : k = n := by omega
      have d1 : decide ((k : Int) < (k : Int)) = false := decide_eq_false (by omega)
      rw [List.take_of_length_le (by have := HN.out; omega)] at hG
      have CE := end_any b wr _ B q u hG (hW2.kept hbw hK) hbw (by omega)
      have hl := shaF_len (flat ss)
      have hsz : (hrow (shaF (flat ss))).size = 32 := by rw [hrow_size]; exact hl
      have hone := hrow_one (shaF (flat ss))
      have y0 : wr.heap[w.heap.size]? = some (.cells #[Value.int .u8 0, Value.int .u8 0, Value.int .u8 0, Value.int .u8 0, Value.int .u8 0, Value.int .u8 0, Value.int .u8 0, Value.int .u8 0, Value.int .u8 0, Value.int .u8 0, Value.int .u8 0, Value.int .u8 0, Value.int .u8 0, Value.int .u8 0, Value.int .u8 0, Value.int .u8 0, Value.int .u8 0, Value.int .u8 0, Value.int .u8 0, Value.int .u8 0, Value.int .u8 0, Value.int .u8 0, Value.int .u8 0, Value.int .u8 0, Value.int .u8 0, Value.int .u8 0, Value.int .u8 0, Value.int .u8 0, Value.int .u8 0, Value.int .u8 0, Value.int .u8 0, Value.int .u8 0] 25 (0, 0)) := by rw [hK.block _ hl2 (by omega)]; exact y0
      have hl3 : w.heap.size < wr.heap.size := (Array.getElem?_eq_some_iff.1 y0).1
      go_wp2_with (first | (go_at_call 99; refine CE.mono ?_; rintro e w5 ⟨rfl, hK5⟩; have y5 : w5.heap[w.heap.size]? = some (.cells #[Value.int .u8 0, Value.int .u8 0, Value.int .u8 0, Value.int .u8 0, Value.int .u8 0, Value.int .u8 0, Value.int .u8 0, Value.int .u8 0, Value.int .u8 0, Value.int .u8 0, Value.int .u8 0, Value.int .u8 0, Value.int .u8 0, Value.int .u8 0, Value.int .u8 0, Value.int .u8 0, Value.int .u8 0, Value.int .u8 0, Value.int .u8 0, Value.int .u8 0, Value.int .u8 0, Value.int .u8 0, Value.int .u8 0, Value.int .u8 0, Value.int .u8 0, Value.int .u8 0, Value.int .u8 0, Value.int .u8 0, Value.int .u8 0, Value.int .u8 0, Value.int .u8 0, Value.int .u8 0] 25 (0, 0)) := (by rw [hK5.block _ hl3 (by omega)]; exact y0)) | (refine wpList_storeRowTo rfl (.tmp 2) (.tmp 17) 25 rfl (by rw [hsz]; kernel_rfl) rfl rfl y5 (by rw [hsz]; rfl) hone ?_))
      refine bodyPost_ret (v := .agg (hrow (shaF (flat ss)))) ?_ rfl ?_
      · simp [results, Tryd.results64, Act.put, asAddr]
        exact run_loadVar_row _ _ 25 25 _ (0, 0) _ (setRow_heap _ _ _ _ _ _ y5) Tryd.underlying25 rfl (by rw [hsz]; kernel_rfl)
      have hKK := hK.trans hK5
      exact ⟨rfl, below_setRow (hbel.trans (hKK.below (by omega) (by omega))) (Nat.le_refl _) _⟩
end Go.Proofs.YtfikbaoiialfeaaDoor
namespace Go.Proofs.YtfikbaoiialfeaaDoor
open Go.RowKit
attribute [local go_sem] strV
set_option linter.unusedVariables false
theorem hrow_get {q : List UInt8} {k : Nat} {x : UInt8} (h : q[k]? = some x) : (hrow q)[k]? = some (.int .u8 (x.toNat : Int)) := by
  simp [hrow, Lib.byteCells, h]
theorem conv_row {w : World} {g N : Nat} {q : List UInt8} {t : TypeId} (hg : w.heap[g]? = some (.cells (hrow q) t (0, 0))) (hq : q.length = N) :
    (convert 111 9 (.slice (some ⟨g, 0, none⟩) N N)).run Tryd.prog w = .ok (.string ⟨q.toArray⟩) w := by
  have := run_convert_bytes_back (P := Tryd.prog) w 111 9 5 ⟨g, 0, none⟩ N q Tryd.underlying111 Tryd.underlying5 Tryd.underlying9 (fun j hj => by
    have hadd : (⟨g, 0, none⟩ : Addr).add j = ⟨g, j, none⟩ := by unfold Addr.add; by_cases h : j = 0 <;> simp [h]
    rw [hadd, cell_heap hg, hrow_get (List.getElem?_eq_getElem hj)])
  rwa [hq] at this
set_option maxRecDepth 100000 in
set_option maxHeartbeats 6400000 in
theorem shaText_any (q : List UInt8) (w : World) (hq : q.length = 32) :
    Calls Tryd.prog 68 #[.agg (hrow q)] w fun e w' => e = .returned (.string ⟨q.toArray⟩) ∧ Below w.heap.size w w' := by
  have hg0 : (w.alloc (.cells (hrow q) 25)).heap[w.heap.size]? = some (.cells (hrow q) 25 (0, 0)) := heap_push _ _ _
  have hcv := conv_row hg0 hq
  go_enter Tryd.func68, Tryd.ntmps68
  go_wp2
  go_ret
  exact ⟨rfl, Below.alloc (Below.refl _ _) (Nat.le_refl _) _⟩
end Go.Proofs.YtfikbaoiialfeaaDoor
