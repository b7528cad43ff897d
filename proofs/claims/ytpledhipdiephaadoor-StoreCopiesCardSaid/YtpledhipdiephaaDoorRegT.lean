/- A region that draws its order, told by one condition on the world (as the library's wpAnyH), whose last operations (a store into a cell that it reads) wait for all the others: the condition is shown of the worlds ahead of them only. -/
import Derived.StillTail
import Derived.OrdersHeld
import Derived.Deep.RegionHeld
namespace Go.Proofs.YtpledhipdiephaaDoor
section
variable {P : Program} {ops : Array Oper} {Q : Exit → Act → World → Prop} {md : Region.Mode} {S : World → Prop}
/-- The operations ahead of number n come in whatever order, S holds behind each; then the others, g of them, in whatever order. -/
def wpTR (P : Program) (md : Region.Mode) (ops : Array Oper) (Q : Exit → Act → World → Prop) (S : World → Prop) (n g : Nat) : Nat → Array Bool → Act → World → Prop
  | 0, listed, a, w => (∀ j ∈ Region.ready md ops listed, n ≤ j) ∧ wpAny P md ops Q g listed a w
  | f + 1, listed, a, w => Region.ready md ops listed ≠ [] ∧ ∀ i ∈ Region.ready md ops listed, i < n ∧ wpOp P ops Q i (fun a' w' => S w' ∧ wpTR P md ops Q S n g f (listed.setIfInBounds i true) a' w') a w
theorem wpAny_of_TR {n g : Nat} : ∀ (f : Nat) (listed : Array Bool) (a : Act) (w : World), wpTR P md ops Q S n g f listed a w → wpAny P md ops Q (f + g) listed a w := by
  intro f
  induction f with
  | zero => intro listed a w h; rw [Nat.zero_add]; exact h.2
  | succ f ih =>
    intro listed a w h
    rw [show f + 1 + g = (f + g) + 1 by omega]
    exact ⟨fun h0 => absurd h0 h.1, fun i hi => wpOp_mono (fun a' w' h' => ih _ a' w' h'.2) (h.2 i hi).2⟩
theorem wpTR_first {n g i : Nat} {oi : Oper} {v : Value} (hi : ops[i]? = some oi) (hsel : ∀ (j : Nat) (o : Oper) cs b, ops[j]? = some o → o.op ≠ .select cs b)
    (hQ : ∀ c a w, Q (.panic c) (a.put oi.dst v) w → Q (.panic c) a w)
    (hs : Region.sinkB md ops n = true) (hc : Region.chainB md ops n = true) (hn : n < ops.size) (hin : i < n) :
    ∀ (f : Nat) (listed : Array Bool) (a : Act) (w : World), HeadInv md ops n listed →
      (∀ j oj, ops[j]? = some oj → j ≠ i → listed.getD j true = false → (∀ e ∈ oj.after, Region.binds md e = true → e.on ≠ i) → oi.apart ops oj = true) →
      i ∈ Region.ready md ops listed → YieldsIf P ops S oi v a → S w →
      wpTR P md ops Q S n g f (listed.setIfInBounds i true) (a.put oi.dst v) w → wpTR P md ops Q S n g (f + 1) listed a w := by
  intro f
  induction f with
  | zero =>
    intro listed a w inv _ hr hy hS H
    have hun := (mem_ready.1 hr).1
    refine ⟨fun h => (by rw [h] at hr; cases hr), fun j hj => ?_⟩
    have hjn : j < n := by
      rcases Nat.lt_or_ge j n with h | h
      · exact h
      · exact absurd hj (tail_waits hs hc hn inv _ i rfl hin hun j h)
    refine ⟨hjn, ?_⟩
    by_cases hji : j = i
    · subst hji; exact hy.wpOp hi hS ⟨hS, H⟩
    · have := H.1 j (ready_mono hj hji)
      omega
  | succ f ih =>
    intro listed a w inv hfree hr hy hS H
    have hun := (mem_ready.1 hr).1
    refine ⟨fun h => (by rw [h] at hr; cases hr), fun j hj => ?_⟩
    have hjn : j < n := by
      rcases Nat.lt_or_ge j n with h | h
      · exact h
      · exact absurd hj (tail_waits hs hc hn inv _ i rfl hin hun j h)
    refine ⟨hjn, ?_⟩
    by_cases hji : j = i
    · subst hji; exact hy.wpOp hi hS ⟨hS, H⟩
    · obtain ⟨hjun, oj, hoj, hall⟩ := mem_ready.1 hj
      have hnot : ∀ e ∈ oj.after, Region.binds md e = true → e.on ≠ i := fun e he hb heq => by
        have h1 := hall e he hb
        rw [heq, getD_both hun] at h1
        cases h1
      have h2 := wpOp_putIf hoj (hfree j oj hoj hji hjun hnot) (fun cs b => hsel i oi cs b hi) (fun cs b => hsel j oj cs b hoj) hQ hy (H.2 j (ready_mono hj hji)).2
      refine wpOp_mono (fun a' w' h3 => ⟨h3.2.1, ih (listed.setIfInBounds j true) a' w' (inv.set hj hjn) (fun k ok hk hki hunk hno => hfree k ok hk hki ?_ hno) (ready_mono hr (Ne.symm hji)) h3.1 h3.2.1 ?_⟩) h2
      · by_cases hjk : j = k
        · subst hjk; exact hjun
        · rw [getD_set_ne true hjk] at hunk; exact hunk
      · rw [Array.setIfInBounds_comm _ _ hji]
        exact h3.2.2
/-- What has come up lies ahead of number n, and so does all that it waits for; the checks of the region's shape. -/
def wpAnyT (P : Program) (md : Region.Mode) (ops : Array Oper) (Q : Exit → Act → World → Prop) (S : World → Prop) (n g f : Nat) (listed : Array Bool) (a : Act) (w : World) : Prop :=
  (Region.sinkB md ops n = true ∧ Region.chainB md ops n = true ∧ n < ops.size) → HeadInv md ops n listed → wpTR P md ops Q S n g f listed a w
theorem wpAnyT_take {n g i : Nat} {oi : Oper} {v : Value} {fuel : Nat} {listed : Array Bool} {a : Act} {w : World} (hi : ops[i]? = some oi)
    (hs : Region.noSelect ops = true) (hf : Region.free md ops listed i = true) (hr : (Region.ready md ops listed).contains i = true) (hin : i < n)
    (hQ : ∀ c a w, Q (.panic c) (a.put oi.dst v) w → Q (.panic c) a w) (hy : YieldsIf P ops S oi v a) (hS : S w)
    (h : wpAnyT P md ops Q S n g fuel (listed.setIfInBounds i true) (a.put oi.dst v) w) : wpAnyT P md ops Q S n g (fuel + 1) listed a w := fun hc inv =>
  have hr' : i ∈ Region.ready md ops listed := by simpa using hr
  wpTR_first hi (Region.noSelect_spec hs) hQ hc.1 hc.2.1 hc.2.2 hin fuel listed a w inv (Region.free_spec hi hf) hr' hy hS (h hc (inv.set hr' hin))
/-- Each of the operations rs comes up next; behind it S holds, and the rest goes on. -/
def AllReadyT (P : Program) (md : Region.Mode) (ops : Array Oper) (Q : Exit → Act → World → Prop) (S : World → Prop) (n g fuel : Nat) (listed : Array Bool) (a : Act) (w : World) (rs : List Nat) : Prop :=
  ∀ i ∈ rs, wpOp P ops Q i (fun a' w' => S w' ∧ wpAnyT P md ops Q S n g fuel (listed.setIfInBounds i true) a' w') a w
theorem AllReadyT.nil {n g fuel : Nat} {listed : Array Bool} {a : Act} {w : World} : AllReadyT P md ops Q S n g fuel listed a w [] := fun _ h => by cases h
theorem AllReadyT.cons {n g fuel : Nat} {listed : Array Bool} {a : Act} {w : World} {i : Nat} {o : Oper} {rs : List Nat} (ho : ops[i]? = some o)
    (h : ∀ K' : Act → World → Prop, Shut (∀ a w, S w → (S w → wpAnyT P md ops Q S n g fuel (listed.setIfInBounds i true) a w) → K' a w) → if Region.wanted o (yielded ops a.tmps) = true then Oper.wp P o a w K' Q else K' (a.put o.dst undef) w)
    (hs : AllReadyT P md ops Q S n g fuel listed a w rs) : AllReadyT P md ops Q S n g fuel listed a w (i :: rs) := fun j hj => by
  rcases List.mem_cons.1 hj with rfl | hj
  · exact wpOp_step ho (fun K' hK => h K' (fun a w hS hW => hK a w ⟨hS, hW hS⟩))
  · exact hs j hj
theorem wpAnyT_ready {rs : List Nat} {n g fuel : Nat} {listed : Array Bool} {a : Act} {w : World} (hr : Region.ready md ops listed = rs) (hne : rs ≠ []) (hlt : rs.all (· < n) = true)
    (h : AllReadyT P md ops Q S n g fuel listed a w rs) : wpAnyT P md ops Q S n g (fuel + 1) listed a w := fun hc inv =>
  ⟨fun h0 => absurd (hr ▸ h0) hne, fun i hi => by
    have hi' : i ∈ rs := hr ▸ hi
    have hin : i < n := by simpa using List.all_eq_true.1 hlt i hi'
    exact ⟨hin, wpOp_mono (fun a' w' h' => ⟨h'.1, h'.2 hc (inv.set hi hin)⟩) (h i hi')⟩⟩
/-- All that lie ahead of number n have come up. -/
theorem wpAnyT_tail {n g : Nat} {listed : Array Bool} {a : Act} {w : World} (hr : (Region.ready md ops listed).all (n ≤ ·) = true) (h : wpAny P md ops Q g listed a w) : wpAnyT P md ops Q S n g 0 listed a w :=
  fun _ _ => ⟨fun j hj => by simpa using List.all_eq_true.1 hr j hj, h⟩
theorem wp_region_tail {id : Nat} {a : Act} {w : World} (n g : Nat) (hm : P.follows .mixedOrders = true) (hsz : n + g = ops.size) (hn : n < ops.size) (hs : Region.sinkB .any ops n = true) (hc : Region.chainB .any ops n = true) (hS : S w.drew)
    (h : S w.drew → wpAnyT P .any ops Q S n g n (Array.replicate ops.size false) a w.drew) : (Code.region id ops true).wp P Q a w := by
  refine wp_region_any hm ?_
  have inv0 : HeadInv .any ops n (Array.replicate ops.size false) :=
    ⟨by simp, fun j oj _ hl => (by rw [getD_replicate_false] at hl; cases hl), fun t _ ht => getD_in (by simpa using ht) (getD_replicate_false _ _)⟩
  have := wpAny_of_TR n _ _ _ (h hS ⟨hs, hc, hn⟩ inv0)
  rw [hsz] at this
  exact this
end
end Go.Proofs.YtpledhipdiephaaDoor
