/- A region that draws its order, told by one condition on the world (as the library's wpAnyH), whose last operations (a store into a cell that it reads) wait for all the others: the condition is shown of the worlds ahead of them only. Stores into a row that the call owns, into a block of cells. The document's table: where it lies, what it says. Pieces for the regions that lay an element into a row of the document's table. What a second Fold of one event says. -/
import Derived.StillTail
import Derived.OrdersHeld
import Derived.Deep.RegionHeld
import Derived.Below
import Derived.OneCell
import Derived.Laws.IdiomCopy
import Derived.Deep.MidRow
import Derived.Test.YtbckncopdkmoeaaLrM
import Derived.Test.YtbckncopdkmoeaaLf12
import Derived.WalkKit
import Derived.ProofKit
import Derived.Handy
import Derived.Lib.Hide
import Derived.IntWalk
import Derived.Outline
import Derived.WalkLawsBesides
import Derived.WalkSpells
import Derived.Test.YtbckncopdkmoeaaInsG
import Derived.Lib.AppendZerosOnto
import Derived.Deep.Cut
import Derived.BigRegion
import Derived.RegionTactic
import Derived.BigQuiet
import Derived.Deep.QuietTactic
import Derived.Deep.RegionLaw
import Derived.Laws.OwnMore
import Derived.OwnWalk
namespace Go.Proofs.Ytbckncopdkmoeaa
section
variable {P : Program} {ops : Array Oper} {Q : Exit → Act → World → Prop} {md : Region.Mode} {S : World → Prop}
/-- The operations ahead of number n come in whatever order, S holds behind each; then the others, g of them, in whatever order. -/
def wpTR (P : Program) (md : Region.Mode) (ops : Array Oper) (Q : Exit → Act → World → Prop) (S : World → Prop) (n g : Nat) : Nat → Array Bool → Act → World → Prop
  | 0, listed, a, w => (∀ j ∈ Region.ready md ops listed, n ≤ j) ∧ wpAny P md ops Q g listed a w
  | f + 1, listed, a, w => Region.ready md ops listed ≠ [] ∧ ∀ i ∈ Region.ready md ops listed, i < n ∧ wpOp P ops Q i (fun a' w' => S w' ∧ wpTR P md ops Q S n g f (listed.setIfInBounds i true) a' w') a w
theorem wpAny_of_TR {n g : Nat} : ∀ (f : Nat) (listed : Array Bool) (a : Act) (w : World), wpTR P md ops Q S n g f listed a w → wpAny P md ops Q (f + g) listed a w := by
  intro f
  induction f with
  | zero => intro listed a w h; rw [Nat.zero_add]; exact h.2
  | succ f ih =>
    intro listed a w h
    rw [show f + 1 + g = (f + g) + 1 by omega]
    exact ⟨fun h0 => absurd h0 h.1, fun i hi => wpOp_mono (fun a' w' h' => ih _ a' w' h'.2) (h.2 i hi).2⟩
theorem wpTR_first {n g i : Nat} {oi : Oper} {v : Value} (hi : ops[i]? = some oi) (hsel : ∀ (j : Nat) (o : Oper) cs b, ops[j]? = some o → o.op ≠ .select cs b)
    (hQ : ∀ c a w, Q (.panic c) (a.put oi.dst v) w → Q (.panic c) a w)
    (hs : Region.sinkB md ops n = true) (hc : Region.chainB md ops n = true) (hn : n < ops.size) (hin : i < n) :
    ∀ (f : Nat) (listed : Array Bool) (a : Act) (w : World), HeadInv md ops n listed →
      (∀ j oj, ops[j]? = some oj → j ≠ i → listed.getD j true = false → (∀ e ∈ oj.after, Region.binds md e = true → e.on ≠ i) → oi.apart ops oj = true) →
      i ∈ Region.ready md ops listed → YieldsIf P ops S oi v a → S w →
      wpTR P md ops Q S n g f (listed.setIfInBounds i true) (a.put oi.dst v) w → wpTR P md ops Q S n g (f + 1) listed a w := by
  intro f
  induction f with
  | zero =>
    intro listed a w inv _ hr hy hS H
    have hun := (mem_ready.1 hr).1
    refine ⟨fun h => (by rw [h] at hr; cases hr), fun j hj => ?_⟩
    have hjn : j < n := by
      rcases Nat.lt_or_ge j n with h | h
      · exact h
      · exact absurd hj (tail_waits hs hc hn inv _ i rfl hin hun j h)
    refine ⟨hjn, ?_⟩
    by_cases hji : j = i
    · subst hji; exact hy.wpOp hi hS ⟨hS, H⟩
    · have := H.1 j (ready_mono hj hji)
      omega
  | succ f ih =>
    intro listed a w inv hfree hr hy hS H
    have hun := (mem_ready.1 hr).1
    refine ⟨fun h => (by rw [h] at hr; cases hr), fun j hj => ?_⟩
    have hjn : j < n := by
      rcases Nat.lt_or_ge j n with h | h
      · exact h
      · exact absurd hj (tail_waits hs hc hn inv _ i rfl hin hun j h)
    refine ⟨hjn, ?_⟩
    by_cases hji : j = i
    · subst hji; exact hy.wpOp hi hS ⟨hS, H⟩
    · obtain ⟨hjun, oj, hoj, hall⟩ := mem_ready.1 hj
      have hnot : ∀ e ∈ oj.after, Region.binds md e = true → e.on ≠ i := fun e he hb heq => by
        have h1 := hall e he hb
        rw [heq, getD_both hun] at h1
        cases h1
      have h2 := wpOp_putIf hoj (hfree j oj hoj hji hjun hnot) (fun cs b => hsel i oi cs b hi) (fun cs b => hsel j oj cs b hoj) hQ hy (H.2 j (ready_mono hj hji)).2
      refine wpOp_mono (fun a' w' h3 => ⟨h3.2.1, ih (listed.setIfInBounds j true) a' w' (inv.set hj hjn) (fun k ok hk hki hunk hno => hfree k ok hk hki ?_ hno) (ready_mono hr (Ne.symm hji)) h3.1 h3.2.1 ?_⟩) h2
      · by_cases hjk : j = k
        · subst hjk; exact hjun
        · rw [getD_set_ne true hjk] at hunk; exact hunk
      · rw [Array.setIfInBounds_comm _ _ hji]
        exact h3.2.2
/-- What has come up lies ahead of number n, and so does all that it waits for; the checks of the region's shape. -/
def wpAnyT (P : Program) (md : Region.Mode) (ops : Array Oper) (Q : Exit → Act → World → Prop) (S : World → Prop) (n g f : Nat) (listed : Array Bool) (a : Act) (w : World) : Prop :=
  (Region.sinkB md ops n = true ∧ Region.chainB md ops n = true ∧ n < ops.size) → HeadInv md ops n listed → wpTR P md ops Q S n g f listed a w
theorem wpAnyT_take {n g i : Nat} {oi : Oper} {v : Value} {fuel : Nat} {listed : Array Bool} {a : Act} {w : World} (hi : ops[i]? = some oi)
    (hs : Region.noSelect ops = true) (hf : Region.free md ops listed i = true) (hr : (Region.ready md ops listed).contains i = true) (hin : i < n)
    (hQ : ∀ c a w, Q (.panic c) (a.put oi.dst v) w → Q (.panic c) a w) (hy : YieldsIf P ops S oi v a) (hS : S w)
    (h : wpAnyT P md ops Q S n g fuel (listed.setIfInBounds i true) (a.put oi.dst v) w) : wpAnyT P md ops Q S n g (fuel + 1) listed a w := fun hc inv =>
  have hr' : i ∈ Region.ready md ops listed := by simpa using hr
  wpTR_first hi (Region.noSelect_spec hs) hQ hc.1 hc.2.1 hc.2.2 hin fuel listed a w inv (Region.free_spec hi hf) hr' hy hS (h hc (inv.set hr' hin))
/-- Each of the operations rs comes up next; behind it S holds, and the rest goes on. -/
def AllReadyT (P : Program) (md : Region.Mode) (ops : Array Oper) (Q : Exit → Act → World → Prop) (S : World → Prop) (n g fuel : Nat) (listed : Array Bool) (a : Act) (w : World) (rs : List Nat) : Prop :=
  ∀ i ∈ rs, wpOp P ops Q i (fun a' w' => S w' ∧ wpAnyT P md ops Q S n g fuel (listed.setIfInBounds i true) a' w') a w
theorem AllReadyT.nil {n g fuel : Nat} {listed : Array Bool} {a : Act} {w : World} : AllReadyT P md ops Q S n g fuel listed a w [] := fun _ h => by cases h
theorem AllReadyT.cons {n g fuel : Nat} {listed : Array Bool} {a : Act} {w : World} {i : Nat} {o : Oper} {rs : List Nat} (ho : ops[i]? = some o)
    (h : ∀ K' : Act → World → Prop, Shut (∀ a w, S w → (S w → wpAnyT P md ops Q S n g fuel (listed.setIfInBounds i true) a w) → K' a w) → if Region.wanted o (yielded ops a.tmps) = true then Oper.wp P o a w K' Q else K' (a.put o.dst undef) w)
    (hs : AllReadyT P md ops Q S n g fuel listed a w rs) : AllReadyT P md ops Q S n g fuel listed a w (i :: rs) := fun j hj => by
  rcases List.mem_cons.1 hj with rfl | hj
  · exact wpOp_step ho (fun K' hK => h K' (fun a w hS hW => hK a w ⟨hS, hW hS⟩))
  · exact hs j hj
theorem wpAnyT_ready {rs : List Nat} {n g fuel : Nat} {listed : Array Bool} {a : Act} {w : World} (hr : Region.ready md ops listed = rs) (hne : rs ≠ []) (hlt : rs.all (· < n) = true)
    (h : AllReadyT P md ops Q S n g fuel listed a w rs) : wpAnyT P md ops Q S n g (fuel + 1) listed a w := fun hc inv =>
  ⟨fun h0 => absurd (hr ▸ h0) hne, fun i hi => by
    have hi' : i ∈ rs := hr ▸ hi
    have hin : i < n := by simpa using List.all_eq_true.1 hlt i hi'
    exact ⟨hin, wpOp_mono (fun a' w' h' => ⟨h'.1, h'.2 hc (inv.set hi hin)⟩) (h i hi')⟩⟩
/-- All that lie ahead of number n have come up. -/
theorem wpAnyT_tail {n g : Nat} {listed : Array Bool} {a : Act} {w : World} (hr : (Region.ready md ops listed).all (n ≤ ·) = true) (h : wpAny P md ops Q g listed a w) : wpAnyT P md ops Q S n g 0 listed a w :=
  fun _ _ => ⟨fun j hj => by simpa using List.all_eq_true.1 hr j hj, h⟩
theorem wp_region_tail {id : Nat} {a : Act} {w : World} (n g : Nat) (hm : P.follows .mixedOrders = true) (hsz : n + g = ops.size) (hn : n < ops.size) (hs : Region.sinkB .any ops n = true) (hc : Region.chainB .any ops n = true) (hS : S w.drew)
    (h : S w.drew → wpAnyT P .any ops Q S n g n (Array.replicate ops.size false) a w.drew) : (Code.region id ops true).wp P Q a w := by
  refine wp_region_any hm ?_
  have inv0 : HeadInv .any ops n (Array.replicate ops.size false) :=
    ⟨by simp, fun j oj _ hl => (by rw [getD_replicate_false] at hl; cases hl), fun t _ ht => getD_in (by simpa using ht) (getD_replicate_false _ _)⟩
  have := wpAny_of_TR n _ _ _ (h hS ⟨hs, hc, hn⟩ inv0)
  rw [hsz] at this
  exact this
end
end Go.Proofs.Ytbckncopdkmoeaa
namespace Go.Proofs.Ytbckncopdkmoeaa
open Go.RowKit
theorem cells_put {w : World} {d j : Nat} {R : Array Value} {t : TypeId} (h : w.heap[d]? = some (.cells R t (0, 0))) (v : Value) : (w.setCell ⟨d, j, none⟩ v).heap[d]? = some (.cells (R.setIfInBounds j v) t (0, 0)) := by
  have hlt := (Array.getElem?_eq_some_iff.1 h).1
  have h' : w.heap[d] = .cells R t (0, 0) := by simpa [Array.getElem?_eq_getElem hlt] using h
  show (w.heap.modify d _)[d]? = _
  rw [Array.getElem?_eq_getElem (by simpa using hlt), Array.getElem_modify_self, h']
  rfl
theorem grown_put (w : World) (d j : Nat) (v : Value) : w.grownBy (w.setCell ⟨d, j, none⟩ v) (some d) := by
  refine ⟨rfl, rfl, rfl, ?_, fun i hi hne => ?_⟩
  · show w.heap.size ≤ (w.heap.modify d _).size
    rw [Array.size_modify]; exact Nat.le_refl _
  · show (w.heap.modify d _)[i]? = _
    rw [Array.getElem?_modify, if_neg (fun e => hne (by rw [e]))]
theorem grown_trD {w w1 w2 : World} {r : Option Nat} (h : w.grownBy w1 r) (k : w1.grownBy w2 r) : w.grownBy w2 r :=
  ⟨k.os.trans h.os, k.tape.trans h.tape, k.output.trans h.output, Nat.le_trans h.size k.size, fun i hi hne => (k.block i (Nat.lt_of_lt_of_le hi h.size) hne).trans (h.block i hi hne)⟩
theorem own_put {w : World} {B g n c sz : Nat} {e : TypeId} {xs : List Value} (h : w.ownsRow B e sz (.slice (some ⟨g, 0, none⟩) n c) n xs) (j : Nat) (v : Value) : (w.setCell ⟨g, j, none⟩ v).ownsRow B e sz (.slice (some ⟨g, 0, none⟩) n c) n (xs.set j v) := by
  refine ⟨by rw [List.length_set]; exact h.1, ?_⟩
  rcases h.2 with ⟨e0, _⟩ | ⟨g', cap', cur, e0, hb, hg, hn, hm, hs, ht⟩
  · cases e0
  · injection e0 with e1 _ e3
    injection e1 with e1
    injection e1 with e1
    subst e1; subst e3
    refine .inr ⟨g, c, cur.setIfInBounds j v, rfl, hb, cells_put hg v, hn, hm, by rw [Array.size_setIfInBounds]; exact hs, ?_⟩
    rw [← ht]
    apply List.ext_getElem?
    intro i
    rw [Array.toList_setIfInBounds, List.getElem?_take, List.getElem?_set, List.getElem?_set, List.getElem?_take]
    by_cases hi : i < n * sz
    · rw [if_pos hi]
      by_cases hji : j = i
      · subst hji
        rw [if_pos rfl, if_pos rfl]
        have h1 : j < cur.toList.length ↔ j < (List.take (n * sz) cur.toList).length := by
          rw [List.length_take]
          omega
        by_cases h2 : j < cur.toList.length
        · rw [if_pos h2, if_pos (h1.1 h2)]
        · rw [if_neg h2, if_neg (fun q => h2 (h1.2 q))]
      · rw [if_neg hji, if_neg hji, if_pos hi]
    · rw [if_neg hi]
      by_cases hji : j = i
      · subst hji
        rw [if_pos rfl, if_neg (by rw [List.length_take]; omega)]
      · rw [if_neg hji, if_neg hi]
/-- A list with another's elements from o on. -/
def putL {α : Type} : List α → Nat → List α → List α
  | xs, _, [] => xs
  | xs, o, v :: r => putL (xs.set o v) (o + 1) r
theorem putL_length {α : Type} : ∀ (vs : List α) (xs : List α) (o : Nat), (putL xs o vs).length = xs.length
  | [], _, _ => rfl
  | v :: r, xs, o => by rw [putL, putL_length r, List.length_set]
theorem putL_get {α : Type} : ∀ (vs : List α) (xs : List α) (o i : Nat), o + vs.length ≤ xs.length → (putL xs o vs)[i]? = if o ≤ i ∧ i < o + vs.length then vs[i - o]? else xs[i]?
  | [], xs, o, i, _ => by rw [putL, if_neg (by simp only [List.length_nil]; omega)]
  | v :: r, xs, o, i, h => by
    simp only [List.length_cons] at h ⊢
    rw [putL, putL_get r (xs.set o v) (o + 1) i (by rw [List.length_set]; omega)]
    by_cases h1 : o + 1 ≤ i ∧ i < o + 1 + r.length
    · rw [if_pos h1, if_pos (by omega), show i - o = (i - (o + 1)) + 1 by omega, List.getElem?_cons_succ]
    · rw [if_neg h1]
      by_cases h2 : i = o
      · subst h2
        rw [if_pos (by omega), Nat.sub_self, List.getElem?_cons_zero, List.getElem?_set, if_pos rfl, if_pos (by omega)]
      · rw [if_neg (by omega), List.getElem?_set, if_neg (fun q => h2 q.symm)]
theorem own_puts {B g n c sz : Nat} {e : TypeId} : ∀ (vs : List Value) {w : World} {xs : List Value} (_ : w.ownsRow B e sz (.slice (some ⟨g, 0, none⟩) n c) n xs) (o : Nat), (w.setCells g o vs).ownsRow B e sz (.slice (some ⟨g, 0, none⟩) n c) n (putL xs o vs)
  | [], _, _, h, _ => h
  | v :: r, _, _, h, o => own_puts r (own_put h o v) (o + 1)
set_option linter.unusedVariables false in
theorem grown_puts (d : Nat) : ∀ (vs : List Value) (w : World) (o : Nat), w.grownBy (w.setCells d o vs) (some d)
  | [], w, _ => ⟨rfl, rfl, rfl, Nat.le_refl _, fun _ _ _ => rfl⟩
  | v :: r, w, o => grown_trD (grown_put w d o v) (grown_puts d r _ (o + 1))
/-- A row of rows of K cells each, one of them changed. -/
theorem put_flat {α : Type} {L : α → List Value} {K : Nat} (hl : ∀ x, (L x).length = K) (hK : 0 < K) (e : α) : ∀ (es : List α) (i : Nat), i < es.length → putL (es.flatMap L) (i * K) (L e) = (es.set i e).flatMap L := by
  intro es i hi
  have hlen : ∀ l : List α, (l.flatMap L).length = l.length * K := by
    intro l
    induction l with
    | nil => simp
    | cons x l ih => rw [List.flatMap_cons, List.length_append, ih, hl, List.length_cons, Nat.add_mul, Nat.one_mul, Nat.add_comm]
  have hsub : i * K + K ≤ es.length * K := by
    have := Nat.mul_le_mul_right K hi
    rw [Nat.succ_mul] at this
    exact this
  have hget : ∀ (l : List α) (j : Nat), (l.flatMap L)[j]? = (l[j / K]?).bind fun x => (L x)[j % K]? := by
    intro l
    induction l with
    | nil => intro j; simp
    | cons x l ih =>
      intro j
      rw [List.flatMap_cons]
      by_cases hj : j < K
      · rw [List.getElem?_append_left (by rw [hl]; exact hj), Nat.div_eq_of_lt hj, Nat.mod_eq_of_lt hj]; rfl
      · have hj' : K ≤ j := by omega
        rw [List.getElem?_append_right (by rw [hl]; exact hj'), hl, ih (j - K)]
        have e1 : j / K = (j - K) / K + 1 := Nat.div_eq_sub_div hK hj'
        have e2 : j % K = (j - K) % K := Nat.mod_eq_sub_mod hj'
        rw [e1, e2, List.getElem?_cons_succ]
  apply List.ext_getElem?
  intro j
  rw [putL_get _ _ _ _ (by rw [hl, hlen]; exact hsub), hl, hget es j, hget (es.set i e) j, List.getElem?_set]
  by_cases h1 : i * K ≤ j ∧ j < i * K + K
  · have hd : j / K = i := by
      refine Nat.div_eq_of_lt_le ?_ ?_
      · exact h1.1
      · rw [Nat.succ_mul]; exact h1.2
    have hm : j % K = j - i * K := by rw [Nat.mod_eq_sub_mul_div, hd, Nat.mul_comm]
    rw [if_pos h1, hd, if_pos rfl, if_pos hi, hm]; rfl
  · have hd : i ≠ j / K := by
      intro q
      apply h1
      have e1 := Nat.div_mul_le_self j K
      have e2 := Nat.mod_lt j hK
      have e3 := Nat.div_add_mod j K
      rw [Nat.mul_comm] at e3
      rw [q]
      exact ⟨e1, by omega⟩
    rw [if_neg h1, if_neg hd]
theorem own_grown {w w' : World} {B d sz n : Nat} {e t : TypeId} {v : Value} {xs : List Value} {R : Array Value} {fz : Nat × Nat} (h : w.ownsRow B e sz v n xs) (hg : w.grownBy w' (some d)) (hd : w.heap[d]? = some (.cells R t fz)) (hne : t ≠ e) : w'.ownsRow B e sz v n xs := by
  refine h.kept hg (.inr (fun q => ?_))
  rcases h.2 with ⟨rfl, _⟩ | ⟨g, cap, cur, rfl, _, hgg, _⟩
  · simp [Value.ownBlock] at q
  · simp [Value.ownBlock] at q
    subst q
    rw [hd] at hgg
    cases hgg
    exact hne rfl
end Go.Proofs.Ytbckncopdkmoeaa
namespace Go.Proofs.Ytbckncopdkmoeaa
open Go.RowKit
attribute [local go_sem] strV
set_option linter.unusedVariables false
set_option linter.unusedSimpArgs false
/-- The entries of a table at some keys. -/
def entsF (f : Lk → Option Ent) (ks : List Lk) : List Ent := ks.map fun y => (f y).getD zeroEnt
theorem entsF_len (f : Lk → Option Ent) (ks : List Lk) : (entsF f ks).length = ks.length := by unfold entsF; rw [List.length_map]
/-- The document's table at block d: rows of keys, entries, closed ends, each of the law's own. -/
def DocAt (w : World) (B d : Nat) (ks : List Lk) (es : List Ent) (qs : List Pe) : Prop :=
  B ≤ d ∧ ∃ ak ck ae ce ac cc, w.heap[d]? = some (.cells #[.slice ak ks.length ck, .slice ae es.length ce, .slice ac qs.length cc] 71 (0, 0)) ∧
    w.ownsRow B 81 4 (.slice ak ks.length ck) ks.length (ks.flatMap Lk.L) ∧ w.ownsRow B 82 14 (.slice ae es.length ce) es.length (es.flatMap Ent.L) ∧ w.ownsRow B 60 2 (.slice ac qs.length cc) qs.length (qs.flatMap Pe.L)
theorem DocAt.kept {w w' : World} {B d : Nat} {ks : List Lk} {es : List Ent} {qs : List Pe} (h : DocAt w B d ks es qs) (hb : Below w.heap.size w w') : DocAt w' B d ks es qs := by
  obtain ⟨h0, ak, ck, ae, ce, ac, cc, h2, h3, h4, h5⟩ := h
  exact ⟨h0, ak, ck, ae, ce, ac, cc, cells_of h2 hb (row_lt h2), own_kept9 h3 hb, own_kept9 h4 hb, own_kept9 h5 hb⟩
theorem own_mapped {w w' : World} {B j sz n : Nat} {e : TypeId} {v : Value} {xs : List Value} (h : w.ownsRow B e sz v n xs) (hg : w.grownBy w' (some j)) (hj : ∀ R t, w.heap[j]? ≠ some (.cells R t (0, 0))) : w'.ownsRow B e sz v n xs := by
  refine h.kept hg (.inr (fun q => ?_))
  rcases h.2 with ⟨rfl, _⟩ | ⟨g, cap, cur, rfl, _, hgg, _⟩
  · simp [Value.ownBlock] at q
  · simp [Value.ownBlock] at q
    subst q
    exact hj _ _ hgg
/-- A Fold of the program's table leaves the document's as it is. -/
theorem DocAt.life {w w' : World} {B d j : Nat} {ks : List Lk} {es : List Ent} {qs : List Pe} (h : DocAt w B d ks es qs) (hg : w.grownBy w' (some j)) (hj : ∀ R t, w.heap[j]? ≠ some (.cells R t (0, 0))) : DocAt w' B d ks es qs := by
  obtain ⟨h0, ak, ck, ae, ce, ac, cc, h2, h3, h4, h5⟩ := h
  refine ⟨h0, ak, ck, ae, ce, ac, cc, grown_at hg h2 (fun q => ?_), own_mapped h3 hg hj, own_mapped h4 hg hj, own_mapped h5 hg hj⟩
  obtain rfl := Option.some.inj q
  exact hj _ _ h2
theorem TabAt.no_cells {w : World} {g b c n j : Nat} {f : Lk → Option Ent} {cl : ByteArray → Int → Bool} (h : TabAt w g b c n f cl) (hj : j = b ∨ j = c) : ∀ R t, w.heap[j]? ≠ some (.cells R t (0, 0)) := fun R t q => by
  have := h.cells_ne q
  rcases hj with hj | hj
  · exact this.1 hj
  · exact this.2 hj
/-- A world that grew; of what stood, one block of the document's is not as it was. -/
def GrD (B : Nat) (w w' : World) : Prop := ∃ j R t, B ≤ j ∧ w.heap[j]? = some (.cells R t (0, 0)) ∧ t ≠ 122 ∧ w.grownBy w' (some j)
theorem GrD.below {B : Nat} {w w' : World} (h : GrD B w w') (hB : B ≤ w.heap.size) : Below B w w' := by
  obtain ⟨j, R, t, hj, _, _, hg⟩ := h
  exact grown_lowM hg (fun k e => by cases e; exact hj) hB
theorem TabAt.doc {w w' : World} {g b c n B : Nat} {f : Lk → Option Ent} {cl : ByteArray → Int → Bool} (hT : TabAt w g b c n f cl) (h : GrD B w w') : TabAt w' g b c n f cl := by
  obtain ⟨j, R, t, _, hj, ht, hg⟩ := h
  have h2 := hT.cells_ne hj
  refine hT.grown hg (fun q => ?_) (fun q => h2.1 q.symm) (fun q => h2.2 q.symm)
  subst q
  have h3 := hT.1
  rw [hj] at h3
  cases h3
  exact ht rfl
theorem GrD.of_below {w w' : World} {B d : Nat} {ks : List Lk} {es : List Ent} {qs : List Pe} (h : DocAt w B d ks es qs) (hb : Below w.heap.size w w') : GrD B w w' := by
  obtain ⟨h0, ak, ck, ae, ce, ac, cc, h2, h3, h4, h5⟩ := h
  exact ⟨d, _, _, h0, h2, by decide, grown_one hb d⟩
/-- The document's table says what s says. -/
def DocOf (w : World) (B d : Nat) (s : Tb) (m : Nat) : Prop := ∃ ks qs, KeysOf s ks ∧ EndsOf s qs ∧ ks.length ≤ m ∧ qs.length ≤ m ∧ DocAt w B d ks (entsF s.f ks) qs
theorem DocOf.kept {w w' : World} {B d m : Nat} {s : Tb} (h : DocOf w B d s m) (hb : Below w.heap.size w w') : DocOf w' B d s m := by
  obtain ⟨ks, qs, h1, h2, h3, h4, h5⟩ := h
  exact ⟨ks, qs, h1, h2, h3, h4, h5.kept hb⟩
theorem DocOf.life {w w' : World} {B d m j : Nat} {s : Tb} (h : DocOf w B d s m) (hg : w.grownBy w' (some j)) (hj : ∀ R t, w.heap[j]? ≠ some (.cells R t (0, 0))) : DocOf w' B d s m := by
  obtain ⟨ks, qs, h1, h2, h3, h4, h5⟩ := h
  exact ⟨ks, qs, h1, h2, h3, h4, h5.life hg hj⟩
theorem DocOf.mono {w : World} {B d m k : Nat} {s : Tb} (h : DocOf w B d s m) (hk : m ≤ k) : DocOf w B d s k := by
  obtain ⟨ks, qs, h1, h2, h3, h4, h5⟩ := h
  exact ⟨ks, qs, h1, h2, by omega, by omega, h5⟩
theorem DocOf.lt {w : World} {B d m : Nat} {s : Tb} (h : DocOf w B d s m) : B ≤ d ∧ d < w.heap.size := by
  obtain ⟨ks, qs, h1, h2, h3, h4, h0, ak, ck, ae, ce, ac, cc, h5, _⟩ := h
  exact ⟨h0, row_lt h5⟩
theorem DocOf.nil {w : World} {B d : Nat} (hB : B ≤ d) (h : w.heap[d]? = some (.cells #[.slice none 0 0, .slice none 0 0, .slice none 0 0] 71 (0, 0))) : DocOf w B d t0 0 :=
  ⟨[], [], ⟨List.Pairwise.nil, by simp, fun x _ => by simp [t0]⟩, ⟨List.Pairwise.nil, by simp, fun x _ => by simp [t0]⟩, Nat.le_refl _, Nat.le_refl _, hB, none, 0, none, 0, none, 0, h, World.ownsRow_nil _ _ _ _, World.ownsRow_nil _ _ _ _, World.ownsRow_nil _ _ _ _⟩
theorem step_no {s : Tb} {e : Ev} (h : mayEv e = false ∨ e.kd = 7) : stepT s e = s := by
  have h1 : foldF s.f e = s.f := by
    unfold foldF
    refine if_neg (fun q => ?_)
    rcases h with h | h
    · rw [h] at q; exact absurd q.1 (by decide)
    · have := q.2.1; rw [h] at this; exact absurd this (by decide)
  have h2 : foldC s.cl e = s.cl := by
    unfold foldC
    refine if_neg (fun q => ?_)
    rcases h with h | h
    · rw [h] at q; exact absurd q.1 (by decide)
    · have := q.2; omega
  unfold stepT
  rw [h1, h2]
theorem fold_no {s : Tb} {e : Ev} : (mayEv e = false → foldA s.f s.cl e = 1) ∧ (mayEv e = true → e.kd = 7 → foldA s.f s.cl e = 0) := by
  constructor
  · intro h; unfold foldA; rw [h]; rfl
  · intro h h7; unfold foldA; rw [if_pos h, if_pos h7]
theorem close_f {s : Tb} {e : Ev} (h6 : e.kd = 6) : (stepT s e).f = s.f := by
  show foldF s.f e = s.f
  unfold foldF
  refine if_neg (fun q => ?_)
  have := q.2.1; rw [h6] at this; exact absurd this (by decide)
theorem keysOf_f {s t : Tb} {ks : List Lk} (h : KeysOf s ks) (e : t.f = s.f) : KeysOf t ks := ⟨h.1, h.2.1, fun x hx => by rw [e]; exact h.2.2 x hx⟩
theorem endsOf_cl {s t : Tb} {qs : List Pe} (h : EndsOf s qs) (e : t.cl = s.cl) : EndsOf t qs := ⟨h.1, h.2.1, fun x hx => by rw [e]; exact h.2.2 x hx⟩
/-- The end of an event that closes one. -/
def endE (e : Ev) : Pe := ⟨e.ep, e.ec⟩
theorem endE_wf {e : Ev} (hM : mayEv e = true) (h6 : e.kd = 6) : (endE e).wf := by
  have hb := may_body hM
  unfold bodyE at hb
  rw [if_pos h6] at hb
  exact ⟨(mayE_wf hb).1, (show (Lit.int .i64 0).wf = true by decide), (mayE_wf hb).2⟩
/-- What a close says and does. -/
theorem close_says {s : Tb} {e : Ev} {qs : List Pe} (hM : mayEv e = true) (h6 : e.kd = 6) (h : EndsOf s qs) :
    foldA s.f s.cl e = (if findBE qs (endE e) = true then 8 else 0) ∧ EndsOf (stepT s e) (if findBE qs (endE e) = true then qs else qs.take (findIE qs (endE e)) ++ endE e :: qs.drop (findIE qs (endE e))) := by
  have hw := endE_wf hM h6
  have h1 := h.2.2 _ hw
  have h2 := findBE_mem h.1 (endE e)
  have hA : foldA s.f s.cl e = if s.cl e.ep e.ec = true then 8 else 0 := by unfold foldA; rw [if_pos hM, if_neg (by omega), if_pos h6]
  have hC : (stepT s e).cl = if s.cl e.ep e.ec = true then s.cl else clPut s.cl e.ep e.ec := by
    show foldC s.cl e = _
    unfold foldC; rw [if_pos ⟨hM, h6⟩]
  cases hb : findBE qs (endE e)
  · have hn : endE e ∉ qs := fun q => by rw [h2.2 q] at hb; cases hb
    have hc : s.cl e.ep e.ec = false := by
      cases hq : s.cl e.ep e.ec
      · rfl
      · exact absurd (h1.1 hq) hn
    rw [hc] at hA hC
    simp only [Bool.false_eq_true, if_false] at hA hC ⊢
    refine ⟨hA, (ins_findE h.1 hn).1, fun x hx => ?_, fun x hx => ?_⟩
    · rcases ((ins_findE h.1 hn).2 x).1 hx with rfl | hx
      · exact hw
      · exact h.2.1 x hx
    · rw [(ins_findE h.1 hn).2 x, hC]
      have hxe : x = endE e ↔ (x.po = e.ep ∧ x.ch = e.ec) := by cases x; simp [endE]
      rw [hxe, ← h.2.2 x hx]; simp [clPut]
  · have hc : s.cl e.ep e.ec = true := h1.2 (h2.1 hb)
    rw [hc] at hA hC
    simp only [if_true] at hA hC ⊢
    exact ⟨hA, endsOf_cl h hC⟩
theorem keys_new {s : Tb} {ks : List Lk} (h : KeysOf s ks) {k : Lk} (hk : k.wf) (hn : k ∉ ks) (r : Ent) (cl : ByteArray → Int → Bool) : KeysOf ⟨setF s.f k r, cl⟩ (ks.take (findI ks k) ++ k :: ks.drop (findI ks k)) := by
  obtain ⟨h1, h2⟩ := ins_find h.1 hn
  refine ⟨h1, fun x hx => ?_, fun x hx => ?_⟩
  · rcases (h2 x).1 hx with rfl | hx
    · exact hk
    · exact h.2.1 x hx
  · rw [h2]
    show ((setF s.f k r) x).isSome = true ↔ _
    by_cases hxk : x = k
    · subst hxk; rw [setF_same]; simp
    · rw [setF_other hxk, h.2.2 x hx]; simp [hxk]
theorem keys_set {s : Tb} {ks : List Lk} (h : KeysOf s ks) {k : Lk} (hk : k ∈ ks) (r : Ent) (cl : ByteArray → Int → Bool) : KeysOf ⟨setF s.f k r, cl⟩ ks := by
  refine ⟨h.1, h.2.1, fun x hx => ?_⟩
  show ((setF s.f k r) x).isSome = true ↔ _
  by_cases hxk : x = k
  · subst hxk; rw [setF_same]; simp [hk]
  · rw [setF_other hxk]; exact h.2.2 x hx
theorem pk_f {s : Tb} {e : Ev} (hM : mayEv e = true) (hp : hasP e.kd = true) : foldA s.f s.cl e = foldE s.f e ∧ (stepT s e).cl = s.cl ∧ (foldE s.f e = 0 → (stepT s e).f = setF s.f (keyE e) (foldR s.f e)) ∧ (foldE s.f e ≠ 0 → stepT s e = s) := by
  have hk : 1 ≤ e.kd ∧ e.kd ≤ 5 := by
    unfold hasP at hp
    rw [Bool.and_eq_true, decide_eq_true_eq, decide_eq_true_eq] at hp
    exact hp
  have hC : foldC s.cl e = s.cl := by unfold foldC; exact if_neg (fun q => by have := q.2; omega)
  refine ⟨?_, hC, fun h0 => ?_, fun h0 => ?_⟩
  · unfold foldA; rw [if_pos hM, if_neg (by omega), if_neg (by omega)]
  · show foldF s.f e = _
    unfold foldF; rw [if_pos ⟨hM, hp, h0⟩]
  · have hF : foldF s.f e = s.f := by unfold foldF; exact if_neg (fun q => h0 q.2.2)
    unfold stepT
    rw [hF, hC]
theorem markE_zero (e : Ev) : markE (entP zeroEnt e) e.kd = 0 := by
  unfold markE entP zeroEnt
  simp
/-- A packet that is new: its entry goes in. -/
theorem new_says {s : Tb} {e : Ev} {ks : List Lk} (hM : mayEv e = true) (hp : hasP e.kd = true) (h : KeysOf s ks) (hb : findB ks (keyE e) = false) :
    foldA s.f s.cl e = 0 ∧ (stepT s e).cl = s.cl ∧ KeysOf (stepT s e) (ks.take (findI ks (keyE e)) ++ keyE e :: ks.drop (findI ks (keyE e))) ∧
    entsF (stepT s e).f (ks.take (findI ks (keyE e)) ++ keyE e :: ks.drop (findI ks (keyE e))) = (entsF s.f ks).take (findI ks (keyE e)) ++ markR (entP zeroEnt e) e.kd e.ack :: (entsF s.f ks).drop (findI ks (keyE e)) := by
  have hw := key_wf hM hp
  obtain ⟨h1, h2, h3, h4⟩ := pk_f (s := s) hM hp
  have hn : keyE e ∉ ks := fun q => by rw [(findB_mem h.1 _).2 q] at hb; cases hb
  have hf : s.f (keyE e) = none := by
    cases hq : s.f (keyE e) with
    | none => rfl
    | some v => exact absurd ((h.2.2 _ hw).1 (by rw [hq]; rfl)) hn
  have hE : foldE s.f e = 0 := by
    unfold foldE
    rw [hf, if_neg (fun q => absurd q.1 (by decide))]
    exact markE_zero e
  have hR : foldR s.f e = markR (entP zeroEnt e) e.kd e.ack := by unfold foldR; rw [hf]; rfl
  have hF := h3 hE
  refine ⟨by rw [h1, hE], h2, keysOf_f (keys_new h hw hn (foldR s.f e) s.cl) hF, ?_⟩
  rw [hF, hR]
  exact ents_ins hn _ _
theorem mark_says (x : Ent) (k : Int) (hk : 1 ≤ k ∧ k ≤ 5) : markE x k = if mkB x k = true then 8 else if k = 4 ∧ x.ti = true ∨ k = 5 ∧ x.ac = true then 16 else 0 := by
  unfold markE mkB
  by_cases h1 : k = 1
  · subst h1; simp
  by_cases h2 : k = 2
  · subst h2; simp
  by_cases h3 : k = 3
  · subst h3; simp
  by_cases h4 : k = 4
  · subst h4; simp
  obtain rfl : k = 5 := by omega
  simp
theorem pkEq_ent {x : Ent} {e : Ev} (h : pkEq (pkX x) (pkV e) = true) : entP x e = x := by
  obtain ⟨xsp, xsc, xdp, xdc, xsq, xda, xth, xta, xack, xse, xre, xwr, xac, xti⟩ := x
  obtain ⟨kd, sp, sc, dp, dc, sq, da, th, ta, ack, ep, ec, ht⟩ := e
  simp only [pkEq, pkX, pkV, Bool.and_eq_true, beq_iff_eq] at h
  obtain ⟨⟨⟨⟨⟨⟨⟨h1, h2⟩, h3⟩, h4⟩, h5⟩, h6⟩, h7⟩, h8⟩ := h
  have h1 := ba_toList_inj h1
  have h3 := ba_toList_inj h3
  have h6 := ba_toList_inj h6
  subst h1 h2 h3 h4 h5 h6 h7 h8
  rfl
/-- A packet that is known: what Fold says and does, x its entry. -/
theorem old_says {s : Tb} {e : Ev} {ks : List Lk} (hM : mayEv e = true) (hp : hasP e.kd = true) (h : KeysOf s ks) (hb : findB ks (keyE e) = true) :
    ∃ x, (entsF s.f ks)[findI ks (keyE e)]? = some x ∧
    (pkEq (pkX x) (pkV e) = false → foldA s.f s.cl e = 3 ∧ stepT s e = s) ∧
    (pkEq (pkX x) (pkV e) = true → mkB x e.kd = true → foldA s.f s.cl e = 8 ∧ stepT s e = s) ∧
    (pkEq (pkX x) (pkV e) = true → mkB x e.kd = false → (e.kd = 4 ∧ x.ti = true ∨ e.kd = 5 ∧ x.ac = true) → foldA s.f s.cl e = 16 ∧ stepT s e = s) ∧
    (pkEq (pkX x) (pkV e) = true → mkB x e.kd = false → ¬ (e.kd = 4 ∧ x.ti = true ∨ e.kd = 5 ∧ x.ac = true) → foldA s.f s.cl e = 0 ∧ (stepT s e).cl = s.cl ∧ KeysOf (stepT s e) ks ∧ entsF (stepT s e).f ks = (entsF s.f ks).set (findI ks (keyE e)) (markR x e.kd e.ack)) := by
  have hw := key_wf hM hp
  have hk : 1 ≤ e.kd ∧ e.kd ≤ 5 := by
    unfold hasP at hp
    rw [Bool.and_eq_true, decide_eq_true_eq, decide_eq_true_eq] at hp
    exact hp
  obtain ⟨h1, h2, h3, h4⟩ := pk_f (s := s) hM hp
  have hm : keyE e ∈ ks := (findB_mem h.1 _).1 hb
  have hat := findB_at hb
  have hs := (h.2.2 _ hw).2 hm
  obtain ⟨x, hx⟩ := Option.isSome_iff_exists.1 hs
  have hgx : (s.f (keyE e)).getD zeroEnt = x := by rw [hx]; rfl
  have hEE : foldE s.f e = if pkEq (pkX x) (pkV e) = false then 3 else markE (entP x e) e.kd := by
    unfold foldE
    rw [hgx, hs]
    simp only [true_and]
  refine ⟨x, by unfold entsF; rw [List.getElem?_map, hat, ← hgx]; rfl, fun hq => ?_, fun hq hk1 => ?_, fun hq hk1 hk2 => ?_, fun hq hk1 hk2 => ?_⟩
  · have e3 : foldE s.f e = 3 := by rw [hEE, if_pos hq]
    exact ⟨by rw [h1, e3], h4 (by rw [e3]; decide)⟩
  all_goals rw [if_neg (by rw [hq]; decide), pkEq_ent hq, mark_says x _ hk] at hEE
  · have e3 : foldE s.f e = 8 := by rw [hEE, if_pos hk1]
    exact ⟨by rw [h1, e3], h4 (by rw [e3]; decide)⟩
  · have e3 : foldE s.f e = 16 := by rw [hEE, if_neg (by rw [hk1]; decide), if_pos hk2]
    exact ⟨by rw [h1, e3], h4 (by rw [e3]; decide)⟩
  · have e3 : foldE s.f e = 0 := by rw [hEE, if_neg (by rw [hk1]; decide), if_neg hk2]
    have hF := h3 e3
    have hR : foldR s.f e = markR x e.kd e.ack := by unfold foldR; rw [hgx, pkEq_ent hq]
    refine ⟨by rw [h1, e3], h2, keysOf_f (keys_set h hm (foldR s.f e) s.cl) hF, ?_⟩
    rw [hF, hR]
    exact ents_set h.1 hm _
end Go.Proofs.Ytbckncopdkmoeaa
namespace Go.Proofs.Ytbckncopdkmoeaa
open Go.RowKit
attribute [local go_sem] strV
set_option linter.unusedVariables false
set_option linter.unusedSimpArgs false
/-- Where a slice's rest begins. -/
def cutA (a : Option Addr) (c j K : Nat) : Option Addr := a.map fun ad => if c = j then ad else ⟨ad.block, ad.off + j * K, ad.spot⟩
theorem cutA_none {a : Option Addr} {n c j K : Nat} (hz : a = none → n = 0 ∧ c = 0) : cutA a c j K = none → n - j = 0 ∧ c - j = 0 := fun h => by
  cases a with
  | none => obtain ⟨h1, h2⟩ := hz rfl; omega
  | some ad => cases h
theorem row_newsD {w : World} {a : Option Addr} {vs : List Value} (h : RowAt w a vs) : ∀ ad, a = some ad → ∀ j u, vs[j]? = some u → w.cell? (ad.add j) = some u := by
  intro ad e j u hu
  have hj := (List.getElem?_eq_some_iff.1 hu).1
  rcases h with rfl | ⟨b, off, e2, _, hc⟩
  · simp at hj
  · rw [e] at e2
    cases e2
    rw [Addr.add_lit, hc j hj]; exact hu
theorem take_newsD {α : Type} {L : α → List Value} {K : Nat} (hl : ∀ x, (L x).length = K) {w : World} {a : Option Addr} {l : List α} (h : RowAt w a (l.flatMap L)) (k : Nat) : ∀ ad, a = some ad → ∀ j u, ((l.take k).flatMap L)[j]? = some u → w.cell? (ad.add j) = some u := by
  have := h.take (k * K)
  rw [take_flat L K hl] at this
  exact row_newsD this
theorem cut_newsD {α : Type} {L : α → List Value} {K : Nat} (hl : ∀ x, (L x).length = K) {w : World} {a : Option Addr} {l : List α} {n c j : Nat} (h : RowAt w a (l.flatMap L)) (hn : l.length = n) (hc : n ≤ c) (ha : ∀ ad, a = some ad → ∃ g, ad = ⟨g, 0, none⟩) : ∀ ad, cutA a c j K = some ad → ∀ i u, ((l.drop j).flatMap L)[i]? = some u → w.cell? (ad.add i) = some u := by
  intro ad e i u hu
  cases a with
  | none => cases e
  | some ad0 =>
    obtain ⟨g, rfl⟩ := ha ad0 rfl
    have hj := (List.getElem?_eq_some_iff.1 hu).1
    by_cases hcj : c = j
    · rw [List.drop_of_length_le (by omega)] at hj
      simp at hj
    · simp only [cutA, Option.map_some, hcj, if_false, Option.some.injEq] at e
      subst e
      by_cases hk : j ≤ l.length
      · have e2 : (l.flatMap L) = (l.take j).flatMap L ++ (l.drop j).flatMap L := by rw [← List.flatMap_append, List.take_append_drop]
        have h9 : ((l.take j).flatMap L).length = j * K := by rw [flat_length L K hl, List.length_take, Nat.min_eq_left hk]
        have := row_newsD h ⟨g, 0, none⟩ rfl (j * K + i) u (by rw [e2, List.getElem?_append_right (by omega), h9, Nat.add_sub_cancel_left]; exact hu)
        rw [Addr.add_lit, Nat.zero_add] at this
        rw [Addr.add_lit, Nat.zero_add]; exact this
      · rw [List.drop_of_length_le (by omega)] at hj
        simp at hj
theorem flat_oneD {α : Type} {L : α → List Value} (hl : ∀ x, ∀ u ∈ L x, u.oneCell' = true) (l : List α) : ∀ u ∈ l.flatMap L, u.oneCell' = true := by
  intro u hu
  obtain ⟨h, _, hh⟩ := List.mem_flatMap.1 hu
  exact hl h u hh
theorem Pe.L_one (x : Pe) : ∀ u ∈ x.L, u.oneCell' = true := by
  intro u hu; simp [Pe.L] at hu; rcases hu with rfl | rfl <;> rfl
theorem Lk.L_one (x : Lk) : ∀ u ∈ x.L, u.oneCell' = true := by
  intro u hu; simp [Lk.L] at hu; rcases hu with rfl | rfl | rfl | rfl <;> rfl
theorem Ent.L_one (x : Ent) : ∀ u ∈ x.L, u.oneCell' = true := by
  intro u hu; simp [Ent.L] at hu; rcases hu with rfl | rfl | rfl | rfl | rfl | rfl | rfl | rfl | rfl | rfl | rfl | rfl | rfl | rfl <;> rfl
theorem Pe.L_len (x : Pe) : x.L.length = 2 := rfl
theorem Lk.L_len4 (x : Lk) : x.L.length = 4 := rfl
theorem Ent.L_len14 (x : Ent) : x.L.length = 14 := rfl
theorem some_funD {w : World} {ad0 : Addr} {vs : List Value} (h : ∀ j u, vs[j]? = some u → w.cell? (ad0.add j) = some u) : ∀ ad, some ad0 = some ad → ∀ j u, vs[j]? = some u → w.cell? (ad.add j) = some u := by
  intro ad e
  obtain rfl := Option.some.inj e
  exact h
theorem row_newD {w : World} {g : Nat} {R : Array Value} {t : TypeId} (hz : w.heap[g]? = some (.cells R t (0, 0))) {vs : List Value} (hv : R.toList = vs) : ∀ j u, vs[j]? = some u → w.cell? ((⟨g, 0, none⟩ : Addr).add j) = some u := by
  intro j u hu
  rw [Addr.add_lit, Nat.zero_add, cell_heap hz]
  subst hv
  simpa using hu
theorem own_formD {w : World} {base : Nat} {e : TypeId} {size n n' c : Nat} {a : Option Addr} {xs : List Value} (h : w.ownsRow base e size (.slice a n c) n' xs) : ∀ ad, a = some ad → ∃ g, ad = ⟨g, 0, none⟩ := by
  intro ad e
  subst e
  rcases h.2 with ⟨h1, _⟩ | ⟨g, cap, cur, h1, _⟩
  · cases h1
  · simp only [Value.slice.injEq, Option.some.injEq] at h1
    exact ⟨g, h1.1⟩
theorem exec_toPe {o : Oper} {a : Act} {w : World} (x k : Nat) (ho : o.op = .slice 69 (.tmp x) none (some (.tmp k)) none) {ac : Option Addr} {n c j : Nat} (hx : a.eval (.tmp x) = .slice ac n c) (hk : a.eval (.tmp k) = .int .i64 (j : Int)) (hj : j ≤ n) (hn : n ≤ c) (hz : ac = none → n = 0 ∧ c = 0) (ha : ∀ ad, ac = some ad → ∃ g, ad = ⟨g, 0, none⟩) : (execOp a.eval o).run Try.prog w = .ok (.value (.slice ac j c)) w := by
  simp only [execOp, ho, Option.map]
  rw [hx, hk]
  have n0 : (0 : Int) ≤ (j : Int) := by omega
  have n1 : (j : Int) ≤ (c : Int) := by omega
  have n3 : (j : Int) ≤ (n : Int) := by omega
  have n2 : ((j : Nat) : Int).toNat = j := by omega
  cases ac with
  | none =>
    obtain ⟨rfl, rfl⟩ := hz rfl
    obtain rfl : j = 0 := by omega
    go_simp
    try with_reducible rfl
  | some ad =>
    obtain ⟨g, rfl⟩ := ha ad rfl
    go_simp
    try with_reducible rfl
theorem exec_fromPe {o : Oper} {a : Act} {w : World} (x k : Nat) (ho : o.op = .slice 69 (.tmp x) (some (.tmp k)) none none) {ac : Option Addr} {n c j : Nat} (hx : a.eval (.tmp x) = .slice ac n c) (hk : a.eval (.tmp k) = .int .i64 (j : Int)) (hj : j ≤ n) (hn : n ≤ c) (hz : ac = none → n = 0 ∧ c = 0) (ha : ∀ ad, ac = some ad → ∃ g, ad = ⟨g, 0, none⟩) : (execOp a.eval o).run Try.prog w = .ok (.value (.slice (cutA ac c j 2) (n - j) (c - j))) w := by
  simp only [execOp, ho, Option.map]
  rw [hx, hk]
  have n0 : (0 : Int) ≤ (j : Int) := by omega
  have n1 : (j : Int) ≤ (c : Int) := by omega
  have n3 : (j : Int) ≤ (n : Int) := by omega
  have n2 : ((j : Nat) : Int).toNat = j := by omega
  cases ac with
  | none =>
    obtain ⟨rfl, rfl⟩ := hz rfl
    obtain rfl : j = 0 := by omega
    go_simp
    first | done | rfl
  | some ad =>
    obtain ⟨g, rfl⟩ := ha ad rfl
    by_cases hc : c = j
    · subst hc
      obtain rfl : n = c := by omega
      have e9 : cutA (some ⟨g, 0, none⟩) n n 2 = some ⟨g, 0, none⟩ := by simp [cutA]
      rw [e9, Nat.sub_self]
      go_simp
      try with_reducible rfl
    · have e9 : cutA (some ⟨g, 0, none⟩) c j 2 = some ⟨g, j * 2, none⟩ := by simp [cutA, hc]
      rw [e9]
      go_simp
      try with_reducible rfl
theorem exec_toLk {o : Oper} {a : Act} {w : World} (x k : Nat) (ho : o.op = .slice 67 (.tmp x) none (some (.tmp k)) none) {ac : Option Addr} {n c j : Nat} (hx : a.eval (.tmp x) = .slice ac n c) (hk : a.eval (.tmp k) = .int .i64 (j : Int)) (hj : j ≤ n) (hn : n ≤ c) (hz : ac = none → n = 0 ∧ c = 0) (ha : ∀ ad, ac = some ad → ∃ g, ad = ⟨g, 0, none⟩) : (execOp a.eval o).run Try.prog w = .ok (.value (.slice ac j c)) w := by
  simp only [execOp, ho, Option.map]
  rw [hx, hk]
  have n0 : (0 : Int) ≤ (j : Int) := by omega
  have n1 : (j : Int) ≤ (c : Int) := by omega
  have n3 : (j : Int) ≤ (n : Int) := by omega
  have n2 : ((j : Nat) : Int).toNat = j := by omega
  cases ac with
  | none =>
    obtain ⟨rfl, rfl⟩ := hz rfl
    obtain rfl : j = 0 := by omega
    go_simp
    try with_reducible rfl
  | some ad =>
    obtain ⟨g, rfl⟩ := ha ad rfl
    go_simp
    try with_reducible rfl
theorem exec_fromLk {o : Oper} {a : Act} {w : World} (x k : Nat) (ho : o.op = .slice 67 (.tmp x) (some (.tmp k)) none none) {ac : Option Addr} {n c j : Nat} (hx : a.eval (.tmp x) = .slice ac n c) (hk : a.eval (.tmp k) = .int .i64 (j : Int)) (hj : j ≤ n) (hn : n ≤ c) (hz : ac = none → n = 0 ∧ c = 0) (ha : ∀ ad, ac = some ad → ∃ g, ad = ⟨g, 0, none⟩) : (execOp a.eval o).run Try.prog w = .ok (.value (.slice (cutA ac c j 4) (n - j) (c - j))) w := by
  simp only [execOp, ho, Option.map]
  rw [hx, hk]
  have n0 : (0 : Int) ≤ (j : Int) := by omega
  have n1 : (j : Int) ≤ (c : Int) := by omega
  have n3 : (j : Int) ≤ (n : Int) := by omega
  have n2 : ((j : Nat) : Int).toNat = j := by omega
  cases ac with
  | none =>
    obtain ⟨rfl, rfl⟩ := hz rfl
    obtain rfl : j = 0 := by omega
    go_simp
    first | done | rfl
  | some ad =>
    obtain ⟨g, rfl⟩ := ha ad rfl
    by_cases hc : c = j
    · subst hc
      obtain rfl : n = c := by omega
      have e9 : cutA (some ⟨g, 0, none⟩) n n 4 = some ⟨g, 0, none⟩ := by simp [cutA]
      rw [e9, Nat.sub_self]
      go_simp
      try with_reducible rfl
    · have e9 : cutA (some ⟨g, 0, none⟩) c j 4 = some ⟨g, j * 4, none⟩ := by simp [cutA, hc]
      rw [e9]
      go_simp
      try with_reducible rfl
theorem exec_toEn {o : Oper} {a : Act} {w : World} (x k : Nat) (ho : o.op = .slice 68 (.tmp x) none (some (.tmp k)) none) {ac : Option Addr} {n c j : Nat} (hx : a.eval (.tmp x) = .slice ac n c) (hk : a.eval (.tmp k) = .int .i64 (j : Int)) (hj : j ≤ n) (hn : n ≤ c) (hz : ac = none → n = 0 ∧ c = 0) (ha : ∀ ad, ac = some ad → ∃ g, ad = ⟨g, 0, none⟩) : (execOp a.eval o).run Try.prog w = .ok (.value (.slice ac j c)) w := by
  simp only [execOp, ho, Option.map]
  rw [hx, hk]
  have n0 : (0 : Int) ≤ (j : Int) := by omega
  have n1 : (j : Int) ≤ (c : Int) := by omega
  have n3 : (j : Int) ≤ (n : Int) := by omega
  have n2 : ((j : Nat) : Int).toNat = j := by omega
  cases ac with
  | none =>
    obtain ⟨rfl, rfl⟩ := hz rfl
    obtain rfl : j = 0 := by omega
    go_simp
    try with_reducible rfl
  | some ad =>
    obtain ⟨g, rfl⟩ := ha ad rfl
    go_simp
    try with_reducible rfl
theorem exec_fromEn {o : Oper} {a : Act} {w : World} (x k : Nat) (ho : o.op = .slice 68 (.tmp x) (some (.tmp k)) none none) {ac : Option Addr} {n c j : Nat} (hx : a.eval (.tmp x) = .slice ac n c) (hk : a.eval (.tmp k) = .int .i64 (j : Int)) (hj : j ≤ n) (hn : n ≤ c) (hz : ac = none → n = 0 ∧ c = 0) (ha : ∀ ad, ac = some ad → ∃ g, ad = ⟨g, 0, none⟩) : (execOp a.eval o).run Try.prog w = .ok (.value (.slice (cutA ac c j 14) (n - j) (c - j))) w := by
  simp only [execOp, ho, Option.map]
  rw [hx, hk]
  have n0 : (0 : Int) ≤ (j : Int) := by omega
  have n1 : (j : Int) ≤ (c : Int) := by omega
  have n3 : (j : Int) ≤ (n : Int) := by omega
  have n2 : ((j : Nat) : Int).toNat = j := by omega
  cases ac with
  | none =>
    obtain ⟨rfl, rfl⟩ := hz rfl
    obtain rfl : j = 0 := by omega
    go_simp
    first | done | rfl
  | some ad =>
    obtain ⟨g, rfl⟩ := ha ad rfl
    by_cases hc : c = j
    · subst hc
      obtain rfl : n = c := by omega
      have e9 : cutA (some ⟨g, 0, none⟩) n n 14 = some ⟨g, 0, none⟩ := by simp [cutA]
      rw [e9, Nat.sub_self]
      go_simp
      try with_reducible rfl
    · have e9 : cutA (some ⟨g, 0, none⟩) c j 14 = some ⟨g, j * 14, none⟩ := by simp [cutA, hc]
      rw [e9]
      go_simp
      try with_reducible rfl
end Go.Proofs.Ytbckncopdkmoeaa
namespace Go.Proofs.Ytbckncopdkmoeaa
open Go.RowKit
attribute [local go_sem] strV
set_option linter.unusedVariables false
theorem mkB_mark (x : Ent) (k : Int) (ack : ByteArray) (hk : 1 ≤ k ∧ k ≤ 5) : mkB (markR x k ack) k = true := by
  unfold markR mkB
  by_cases h1 : k = 1
  · subst h1; simp
  by_cases h2 : k = 2
  · subst h2; simp
  by_cases h3 : k = 3
  · subst h3; simp
  by_cases h4 : k = 4
  · subst h4; simp
  obtain rfl : k = 5 := by omega
  simp
theorem pkX_mark (x : Ent) (e : Ev) (k : Int) (ack : ByteArray) : pkX (markR (entP x e) k ack) = pkV e := by
  unfold markR
  split
  · rfl
  split
  · rfl
  split
  · rfl
  split
  · rfl
  rfl
theorem pkEq_refl (p : PkT) : pkEq p p = true := by simp [pkEq]
theorem tb_eq {s t : Tb} (h : s.f = t.f) (k : s.cl = t.cl) : s = t := by
  cases s; cases t
  simp only at h k
  rw [h, k]
/-- What was folded is refused the second time, and changes nothing. -/
theorem twice_says (s : Tb) (e : Ev) : stepT (stepT s e) e = stepT s e ∧ foldA (stepT s e).f (stepT s e).cl e = if foldA s.f s.cl e = 0 ∧ e.kd ≠ 7 then 8 else foldA s.f s.cl e := by
  cases hM : mayEv e
  · rw [step_no (.inl hM), step_no (.inl hM), (fold_no (s := s)).1 hM]
    exact ⟨rfl, by simp⟩
  by_cases h7 : e.kd = 7
  · rw [step_no (.inr h7), step_no (.inr h7), (fold_no (s := s)).2 hM h7]
    exact ⟨rfl, by simp [h7]⟩
  by_cases h6 : e.kd = 6
  · have hA : ∀ t : Tb, foldA t.f t.cl e = if t.cl e.ep e.ec = true then 8 else 0 := fun t => by unfold foldA; rw [if_pos hM, if_neg h7, if_pos h6]
    have hC : ∀ t : Tb, (stepT t e).cl = if t.cl e.ep e.ec = true then t.cl else clPut t.cl e.ep e.ec := fun t => by
      show foldC t.cl e = _
      unfold foldC; rw [if_pos ⟨hM, h6⟩]
    have hc1 : (stepT s e).cl e.ep e.ec = true := by
      rw [hC s]
      split
      · assumption
      · simp [clPut]
    refine ⟨tb_eq (close_f h6) (by rw [hC (stepT s e), if_pos hc1]), ?_⟩
    rw [hA (stepT s e), if_pos hc1, hA s]
    split <;> simp [h7]
  · have hp := may_hasP hM h6 h7
    have hk : 1 ≤ e.kd ∧ e.kd ≤ 5 := by
      unfold hasP at hp
      rw [Bool.and_eq_true, decide_eq_true_eq, decide_eq_true_eq] at hp
      exact hp
    obtain ⟨h1, h2, h3, h4⟩ := pk_f (s := s) hM hp
    obtain ⟨k1, k2, k3, k4⟩ := pk_f (s := stepT s e) hM hp
    by_cases h0 : foldE s.f e = 0
    · have hF := h3 h0
      have hE : foldE (stepT s e).f e = 8 := by
        unfold foldE
        rw [hF, setF_same]
        simp only [Option.isSome_some, Option.getD_some, true_and]
        have hq : pkX (foldR s.f e) = pkV e := by unfold foldR; exact pkX_mark _ _ _ _
        rw [hq, pkEq_refl, if_neg (by decide), mark_says _ _ hk]
        have hm : mkB (entP (foldR s.f e) e) e.kd = true := by
          rw [pkEq_ent (by rw [hq]; exact pkEq_refl _)]
          unfold foldR
          exact mkB_mark _ _ _ hk
        rw [if_pos hm]
      exact ⟨k4 (by rw [hE]; decide), by rw [k1, hE, h1, if_pos ⟨h0, h7⟩]⟩
    · rw [h4 h0, h4 h0, h1, if_neg (fun q => h0 q.1)]
      exact ⟨rfl, rfl⟩
end Go.Proofs.Ytbckncopdkmoeaa
