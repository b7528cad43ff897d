/- sha: words of 32 bits, turned. A region that draws its order, whose calls yield one value in every world of a class, and whose last operations (a store) stand in one order: one walk, then those. -/
import Derived.Test.YtpledhipdiephaaDoorSt3
import Derived.Test.YtpledhipdiephaaDoorRows
import Derived.Test.YtpledhipdiephaaDoorKit
import Derived.Test.YtpledhipdiephaaDoorStr
import Derived.BigQuiet
import Derived.Deep.Cut
import Derived.WalkKit
import Derived.ProofKit
import Derived.Handy
import Derived.Below
import Derived.Lib.Hide
import Derived.IntWalk
import Derived.Outline
import Derived.WalkLawsBesides
import Derived.WalkSpells
import Derived.Deep.Quiet
import Derived.StillTail
namespace Go.Proofs.YtpledhipdiephaaDoor
open Go.RowKit
attribute [local go_sem] strV
def rr (x : Int) (n : Nat) : Int := bits .or .u32 (x / 2 ^ n) (x * 2 ^ (32 - n) % 4294967296)
def RN (n : Int) : Prop := n = 2 ∨ n = 6 ∨ n = 7 ∨ n = 11 ∨ n = 13 ∨ n = 17 ∨ n = 18 ∨ n = 19 ∨ n = 22 ∨ n = 25
theorem bits_or_comm (k : IntKind) (a b : Int) : bits .or k a b = bits .or k b a := by
  show k.wrap ((BitVec.ofInt k.bits a ||| BitVec.ofInt k.bits b).toNat : Int) = k.wrap ((BitVec.ofInt k.bits b ||| BitVec.ofInt k.bits a).toNat : Int)
  rw [BitVec.or_comm]
set_option maxRecDepth 100000 in
set_option maxHeartbeats 1600000 in
theorem turn_any (x : Int) (n : Int) (w : World) (hn : RN n) :
    Calls Tryd.prog 112 #[.int .u32 x, .int .i64 n] w fun e w' => e = .returned (.int .u32 (rr x n.toNat)) ∧ Below w.heap.size w w' := by
  rcases hn with rfl | rfl | rfl | rfl | rfl | rfl | rfl | rfl | rfl | rfl
  all_goals
    go_enter Tryd.func112, Tryd.ntmps112
    go_upto_region 1 with fail
    go_quiet (fail)
    go_wp2
    go_ret
    exact ⟨rfl, drewN_below _ _⟩
theorem m2 : bits .and .u64 (IntKind.u64.wrap (-2)) 31 = 30 := by decide +kernel
theorem m6 : bits .and .u64 (IntKind.u64.wrap (-6)) 31 = 26 := by decide +kernel
theorem m7 : bits .and .u64 (IntKind.u64.wrap (-7)) 31 = 25 := by decide +kernel
theorem m11 : bits .and .u64 (IntKind.u64.wrap (-11)) 31 = 21 := by decide +kernel
theorem m13 : bits .and .u64 (IntKind.u64.wrap (-13)) 31 = 19 := by decide +kernel
theorem m17 : bits .and .u64 (IntKind.u64.wrap (-17)) 31 = 15 := by decide +kernel
theorem m18 : bits .and .u64 (IntKind.u64.wrap (-18)) 31 = 14 := by decide +kernel
theorem m19 : bits .and .u64 (IntKind.u64.wrap (-19)) 31 = 13 := by decide +kernel
theorem m22 : bits .and .u64 (IntKind.u64.wrap (-22)) 31 = 10 := by decide +kernel
theorem m25 : bits .and .u64 (IntKind.u64.wrap (-25)) 31 = 7 := by decide +kernel
set_option maxRecDepth 100000 in
set_option maxHeartbeats 1600000 in
theorem rot_any (x : Int) (n : Int) (w : World) (hn : RN n) :
    Calls Tryd.prog 117 #[.int .u32 x, .int .i64 (-n)] w fun e w' => e = .returned (.int .u32 (rr x n.toNat)) ∧ Below w.heap.size w w' := by
  rcases hn with rfl | rfl | rfl | rfl | rfl | rfl | rfl | rfl | rfl | rfl
  · have f := m2
    go_enter Tryd.func117, Tryd.ntmps117
    go_wp2
    go_ret
    exact ⟨by rw [bits_or_comm]; rfl, Below.refl _ _⟩
  · have f := m6
    go_enter Tryd.func117, Tryd.ntmps117
    go_wp2
    go_ret
    exact ⟨by rw [bits_or_comm]; rfl, Below.refl _ _⟩
  · have f := m7
    go_enter Tryd.func117, Tryd.ntmps117
    go_wp2
    go_ret
    exact ⟨by rw [bits_or_comm]; rfl, Below.refl _ _⟩
  · have f := m11
    go_enter Tryd.func117, Tryd.ntmps117
    go_wp2
    go_ret
    exact ⟨by rw [bits_or_comm]; rfl, Below.refl _ _⟩
  · have f := m13
    go_enter Tryd.func117, Tryd.ntmps117
    go_wp2
    go_ret
    exact ⟨by rw [bits_or_comm]; rfl, Below.refl _ _⟩
  · have f := m17
    go_enter Tryd.func117, Tryd.ntmps117
    go_wp2
    go_ret
    exact ⟨by rw [bits_or_comm]; rfl, Below.refl _ _⟩
  · have f := m18
    go_enter Tryd.func117, Tryd.ntmps117
    go_wp2
    go_ret
    exact ⟨by rw [bits_or_comm]; rfl, Below.refl _ _⟩
  · have f := m19
    go_enter Tryd.func117, Tryd.ntmps117
    go_wp2
    go_ret
    exact ⟨by rw [bits_or_comm]; rfl, Below.refl _ _⟩
  · have f := m22
    go_enter Tryd.func117, Tryd.ntmps117
    go_wp2
    go_ret
    exact ⟨by rw [bits_or_comm]; rfl, Below.refl _ _⟩
  · have f := m25
    go_enter Tryd.func117, Tryd.ntmps117
    go_wp2
    go_ret
    exact ⟨by rw [bits_or_comm]; rfl, Below.refl _ _⟩
set_option maxRecDepth 100000 in
set_option maxHeartbeats 1600000 in
theorem right_any (x : Int) (n : Int) (w : World) (hn : RN n) :
    Calls Tryd.prog 116 #[.int .u32 x, .int .i64 n] w fun e w' => e = .returned (.int .u32 (rr x n.toNat)) ∧ Below w.heap.size w w' := by
  have CR := fun W => rot_any x n W hn
  rcases hn with rfl | rfl | rfl | rfl | rfl | rfl | rfl | rfl | rfl | rfl
  all_goals
    go_enter Tryd.func116, Tryd.ntmps116
    go_wp2_with (go_at_call 117; refine (CR _).mono ?_; rintro e w1 ⟨rfl, hb1⟩)
    go_ret
    exact ⟨rfl, hb1⟩
end Go.Proofs.YtpledhipdiephaaDoor
namespace Go.Proofs.YtpledhipdiephaaDoor
open Go.RowKit
section
variable {P : Program} {ops : Array Oper} {md : Region.Mode} {C : World → Prop}
/-- What must come before operation n comes in whatever order; then L. -/
def qHead (P : Program) (md : Region.Mode) (ops : Array Oper) (C : World → Prop) (n : Nat) (L : Array Bool → Act → Prop) : Nat → Array Bool → Act → Prop
  | 0, listed, a => L listed a
  | f + 1, listed, a => Region.ready md ops listed ≠ [] ∧ ∀ i ∈ Region.ready md ops listed, i < n ∧ qOp P ops C i (qHead P md ops C n L f (listed.setIfInBounds i true)) a
theorem wpAny_of_qHead {n g : Nat} {L : Array Bool → Act → Prop} {Q' : Exit → Act → World → Prop} (hL : ∀ listed a w, C w → L listed a → wpAny P md ops Q' g listed a w) :
    ∀ (f : Nat) (listed : Array Bool) (a : Act) (w : World), C w → qHead P md ops C n L f listed a → wpAny P md ops Q' (f + g) listed a w := by
  intro f
  induction f with
  | zero => intro listed a w hC h; rw [Nat.zero_add]; exact hL _ _ _ hC h
  | succ f ih =>
    intro listed a w hC h
    rw [show f + 1 + g = (f + g) + 1 by omega]
    exact ⟨fun h0 => absurd h0 h.1, fun i hi => wpOp_of_qOp hC (fun a' w' hC' h' => ih _ a' w' hC' h') (h.2 i hi).2⟩
theorem qHead_first {n i : Nat} {oi : Oper} {v : Value} {L : Array Bool → Act → Prop} (hi : ops[i]? = some oi) (hsel : ∀ (j : Nat) (o : Oper) cs b, ops[j]? = some o → o.op ≠ .select cs b)
    (hs : Region.sinkB md ops n = true) (hc : Region.chainB md ops n = true) (hn : n < ops.size) (hin : i < n)
    (hdone : ∀ listed a, L listed a → ∀ j ∈ Region.ready md ops listed, n ≤ j) :
    ∀ (f : Nat) (listed : Array Bool) (a : Act), HeadInv md ops n listed →
      (∀ j oj, ops[j]? = some oj → j ≠ i → listed.getD j true = false → (∀ e ∈ oj.after, Region.binds md e = true → e.on ≠ i) → oi.apart ops oj = true) →
      i ∈ Region.ready md ops listed → YieldsIn P ops C oi v a →
      qHead P md ops C n L f (listed.setIfInBounds i true) (a.put oi.dst v) → qHead P md ops C n L (f + 1) listed a := by
  intro f
  induction f with
  | zero =>
    intro listed a inv _ hr hy H
    refine ⟨fun h => (by rw [h] at hr; cases hr), fun j hj => ?_⟩
    have hjn : j < n := by
      rcases Nat.lt_or_ge j n with h | h
      · exact h
      · exact absurd hj (tail_waits hs hc hn inv _ i rfl hin (mem_ready.1 hr).1 j h)
    by_cases hji : j = i
    · subst hji; exact ⟨hjn, hy.qOp hi H⟩
    · have := hdone _ _ H j (ready_mono hj hji)
      omega
  | succ f ih =>
    intro listed a inv hfree hr hy H
    have hun := (mem_ready.1 hr).1
    refine ⟨fun h => (by rw [h] at hr; cases hr), fun j hj => ?_⟩
    have hjn : j < n := by
      rcases Nat.lt_or_ge j n with h | h
      · exact h
      · exact absurd hj (tail_waits hs hc hn inv _ i rfl hin hun j h)
    refine ⟨hjn, ?_⟩
    by_cases hji : j = i
    · subst hji; exact hy.qOp hi H
    · obtain ⟨hjun, oj, hoj, hall⟩ := mem_ready.1 hj
      have hnot : ∀ e ∈ oj.after, Region.binds md e = true → e.on ≠ i := fun e he hb heq => by
        have h1 := hall e he hb
        rw [heq, getD_both hun] at h1
        cases h1
      have h2 := qOp_put hoj (hfree j oj hoj hji hjun hnot) (fun cs b => hsel i oi cs b hi) (fun cs b => hsel j oj cs b hoj) hy (H.2 j (ready_mono hj hji)).2
      refine qOp_mono (fun a' h3 => ih (listed.setIfInBounds j true) a' (inv.set hj hjn) (fun k ok hk hki hunk hno => hfree k ok hk hki ?_ hno) (ready_mono hr (Ne.symm hji)) h3.1 ?_) h2
      · by_cases hjk : j = k
        · subst hjk; exact hjun
        · rw [getD_set_ne true hjk] at hunk; exact hunk
      · rw [Array.setIfInBounds_comm _ _ hji]
        exact h3.2
theorem qHead_lex {n g : Nat} {Lq : Act → Prop} (hsel : Region.noSelect ops = true) (hs : Region.sinkB md ops n = true) (hc : Region.chainB md ops n = true) (hn : n < ops.size) :
    ∀ (l : List Oper) (k : Nat) (listed : Array Bool) (a : Act), (∀ j, j < l.length → l[j]? = ops[k + j]?) → k + l.length = n → HeadInv md ops n listed →
    Region.lexHead md ops g l.length k listed = true → wpQuiet P ops C Lq l a →
    qHead P md ops C n (fun listed' a' => Region.seqB md ops g n listed' = true ∧ Lq a') l.length listed a := by
  intro l
  induction l with
  | nil =>
    intro k listed a _ hk _ hB h
    obtain rfl : k = n := by simpa using hk
    exact ⟨by simpa [Region.lexHead] using hB, h⟩
  | cons o l ih =>
    intro k listed a hl hk inv hB h
    have h0 : ops[k]? = some o := by simpa using (hl 0 (by simp)).symm
    simp only [List.length_cons, Region.lexHead, Bool.and_eq_true] at hB
    obtain ⟨⟨hr, hf⟩, hB'⟩ := hB
    have hkn : k < n := by simp only [List.length_cons] at hk; omega
    have hr' : k ∈ Region.ready md ops listed := by simpa using hr
    have hst : qOp P ops C k (wpQuiet P ops C Lq l) a := by unfold qOp; simp only [h0]; exact h
    obtain ⟨v, hy, hK⟩ := yieldsIn_of_qOp h0 hst
    exact qHead_first h0 (Region.noSelect_spec hsel) hs hc hn hkn (fun listed' a' hL => seqB_ready hL.1) l.length listed a inv (Region.free_spec h0 hf) hr' hy
      (ih (k + 1) _ _ (fun j hj => by have := hl (j + 1) (by simp; omega); simpa [Nat.add_assoc, Nat.add_comm 1 j] using this) (by simp only [List.length_cons] at hk; omega) (inv.set hr' hkn) hB' hK)
theorem wp_region_qtail {id : Nat} {Q : Exit → Act → World → Prop} {a : Act} {w : World} {l : List Oper} (n : Nat) (hm : P.follows .mixedOrders = true) (hB : Region.lexTailB .any l.toArray n = true) (hC : C { w with drawn := w.drawn + 1 })
    (h : wpQuiet P l.toArray C (fun a' => ∀ w', C w' → wpList P l.toArray Q (l.drop n) a' w') (l.take n) a) : (Code.region id l.toArray true).wp P Q a w := by
  simp only [Region.lexTailB, Bool.and_eq_true, decide_eq_true_eq] at hB
  obtain ⟨⟨⟨⟨hsel, hn⟩, hs⟩, hc⟩, hlex⟩ := hB
  have hn' : n < l.length := by simpa using hn
  have htl : (l.take n).length = n := by simp; omega
  have hdl : (l.drop n).length = l.toArray.size - n := by simp
  have inv0 : HeadInv .any l.toArray n (Array.replicate l.toArray.size false) :=
    ⟨by simp, fun j oj _ hl => (by rw [getD_replicate_false] at hl; cases hl), fun t _ ht => getD_in (by simpa using ht) (getD_replicate_false _ _)⟩
  have H := qHead_lex (md := .any) (g := l.toArray.size - n) hsel hs hc hn (l.take n) 0 _ a (fun j hj => by
    have hj' : j < n := by rw [htl] at hj; exact hj
    simp [hj']) (by simpa using htl) inv0 (by rw [htl]; exact hlex) h
  refine wp_region_any hm ?_
  have := wpAny_of_qHead (Q' := Q) (g := l.toArray.size - n) (fun listed a' w' hC' hL => by
    have := wpAny_of_seq (md := .any) (Q' := Q) (l.drop n) n listed a' w' (fun j => by simp [List.getElem?_drop]) (by rw [hdl]; exact hL.1) (hL.2 w' hC')
    rwa [hdl] at this) _ _ _ _ hC H
  rw [htl, show n + (l.toArray.size - n) = l.toArray.size by omega] at this
  exact this
end
/-- The same at the class of the worlds beyond W. -/
theorem wp_region_below_tail {P : Program} {id : Nat} {Q : Exit → Act → World → Prop} {a : Act} {w : World} {l : List Oper} (n : Nat) (hm : P.follows .mixedOrders = true) (hB : Region.lexTailB .any l.toArray n = true)
    (h : wpQuiet P l.toArray (fun w' => ∃ n : Beyond w, w' = n.x) (fun a' => ∀ w', (∃ n : Beyond w, w' = n.x) → wpList P l.toArray Q (l.drop n) a' w') (l.take n) a) : (Code.region id l.toArray true).wp P Q a w :=
  wp_region_qtail (C := fun w' => ∃ n : Beyond w, w' = n.x) n hm hB ⟨⟨_, (Below.refl w.heap.size w).drew⟩, rfl⟩ h
end Go.Proofs.YtpledhipdiephaaDoor
