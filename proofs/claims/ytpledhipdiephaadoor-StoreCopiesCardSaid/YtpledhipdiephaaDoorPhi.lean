/- A region that draws its order, whose operations read and call, each yielding a value of which something is known: whatever order is drawn, all of it is known behind the region. The values need not be the same in every order (a call that hands back a new slice). -/
import Derived.Test.YtpledhipdiephaaDoorRows2
import Derived.Orders
namespace Go.Proofs.YtpledhipdiephaaDoor
open Go.RowKit

section
variable {P : Program}

/-- The frame with value x k in the slot of operation k, for k from 'k' on. -/
def fillFrom : Nat → List Oper → (Nat → Value) → Act → Act
  | _, [], _, a => a
  | k, o :: rest, x, a => fillFrom (k + 1) rest x (a.put o.dst (x k))

/-- No two operations write one slot, each writes one, and each waits for earlier ones alone. -/
def dstsOk (l : List Oper) : Bool := l.all (fun o => o.dst.isSome) && decide (l.map (·.dst)).Nodup
def edgesOk : Nat → List Oper → Bool
  | _, [] => true
  | k, o :: rest => o.after.toList.all (fun e => decide (e.on < k) || !Region.binds .any e) && edgesOk (k + 1) rest

theorem fillFrom_put_comm (d : Tmp) (v : Value) : ∀ (l : List Oper) (k : Nat) (x : Nat → Value) (a : Act), (∀ o ∈ l, o.dst ≠ some d) →
    fillFrom k l x (a.put (some d) v) = (fillFrom k l x a).put (some d) v := by
  intro l
  induction l with
  | nil => intros; rfl
  | cons o l ih =>
    intro k x a h
    rw [fillFrom, fillFrom, ← ih _ _ _ (fun o' ho => h o' (List.mem_cons_of_mem _ ho))]
    have hne := h o (List.mem_cons_self ..)
    congr 1
    cases hd : o.dst with
    | none => rfl
    | some c =>
      have : c ≠ d := fun e => hne (by rw [hd, e])
      simp only [Act.put]
      rw [Array.setIfInBounds_comm _ _ (Ne.symm this)]

theorem put_put (a : Act) (d : Option Tmp) (u v : Value) : (a.put d u).put d v = a.put d v := by
  cases d with
  | none => rfl
  | some c => simp [Act.put]

/-- To put a value behind operation i is to fill with it. -/
theorem fillFrom_set : ∀ (l : List Oper) (k : Nat) (x : Nat → Value) (a : Act) (i : Nat) (o : Oper) (v : Value), l[i]? = some o → o.dst.isSome → (l.map (·.dst)).Nodup →
    (fillFrom k l x a).put o.dst v = fillFrom k l (fun j => if j = k + i then v else x j) a := by
  intro l
  induction l with
  | nil => intro k x a i o v h; simp at h
  | cons p l ih =>
    intro k x a i o v h hs hn
    rw [List.map_cons, List.nodup_cons] at hn
    cases i with
    | zero =>
      simp only [List.getElem?_cons_zero, Option.some.injEq] at h
      subst h
      obtain ⟨d, hd⟩ := Option.isSome_iff_exists.1 hs
      have hno : ∀ o' ∈ l, o'.dst ≠ some d := fun o' ho e => hn.1 (by rw [hd, ← e]; exact List.mem_map_of_mem ho)
      rw [fillFrom, fillFrom, hd, ← fillFrom_put_comm d v l (k + 1) x _ hno, put_put]
      simp only [Nat.add_zero, if_true]
      have hx : ∀ (l : List Oper) (k' : Nat) (b : Act), k < k' → fillFrom k' l x b = fillFrom k' l (fun j => if j = k then v else x j) b := by
        intro l
        induction l with
        | nil => intros; rfl
        | cons q l ih2 =>
          intro k' b hk
          rw [fillFrom, fillFrom, ih2 (k' + 1) _ (by omega)]
          simp only [show ¬ k' = k by omega, if_false]
      exact hx l (k + 1) _ (by omega)
    | succ i =>
      simp only [List.getElem?_cons_succ] at h
      rw [fillFrom, fillFrom, ih (k + 1) x _ i o v h hs hn.2]
      simp only [show ¬ k = k + (i + 1) by omega, if_false, show k + 1 + i = k + (i + 1) by omega]

/-- What the frame holds already. -/
theorem fillFrom_id : ∀ (l : List Oper) (k : Nat) (a : Act), (l.map (·.dst)).Nodup → ∃ x, fillFrom k l x a = a := by
  have put_id : ∀ (a : Act) (d : Option Tmp), a.put d (match d with | some c => a.tmps.getD c undef | none => undef) = a := by
    intro a d
    cases d with
    | none => rfl
    | some c =>
      simp only [Act.put]
      have : a.tmps.setIfInBounds c (a.tmps.getD c undef) = a.tmps := by
        apply Array.ext
        · simp
        · intro j h1 h2
          rw [Array.getElem_setIfInBounds (by simpa using h1)]
          split
          · rename_i e; subst e; simp [Array.getD, h2]
          · rfl
      rw [this]
  intro l
  induction l with
  | nil => intro k a _; exact ⟨fun _ => undef, rfl⟩
  | cons o l ih =>
    intro k a hn
    rw [List.map_cons, List.nodup_cons] at hn
    obtain ⟨x, hx⟩ := ih (k + 1) a hn.2
    refine ⟨fun j => if j = k then (match o.dst with | some c => a.tmps.getD c undef | none => undef) else x j, ?_⟩
    rw [fillFrom]
    simp only [if_true]
    rw [put_id]
    have hx2 : ∀ (l : List Oper) (k' : Nat) (b : Act) (v : Value), k < k' → fillFrom k' l (fun j => if j = k then v else x j) b = fillFrom k' l x b := by
      intro l
      induction l with
      | nil => intros; rfl
      | cons q l ih2 =>
        intro k' b v hk
        rw [fillFrom, fillFrom, ih2 (k' + 1) _ _ (by omega)]
        simp only [show ¬ k' = k by omega, if_false]
    rw [hx2 l (k + 1) a _ (by omega), hx]

/-- What an operation must do: in whatever later world, what it waits for being known. -/
def PhiStep (P : Program) (l : List Oper) (Φ : Nat → Value → World → Prop) (a : Act) (w : World) (i : Nat) (o : Oper) : Prop :=
  ∀ (x : Nat → Value) (w' : World), Below w.heap.size w w' → (∀ e ∈ o.after.toList, Region.binds .any e = true → Φ e.on (x e.on) w') →
    wpList P l.toArray (fun e a' w'' => e = .normal ∧ ∃ v, a' = (fillFrom 0 l x a).put o.dst v ∧ Below w'.heap.size w' w'' ∧ Φ i v w'') [o] (fillFrom 0 l x a) w'

theorem wp_other {o : Oper} {a : Act} {w : World} {R Q : Exit → Act → World → Prop} {K : Act → World → Prop} (hK : ∀ a w, R .normal a w → K a w) (hR : ∀ e a w, R e a w → e = .normal) (h : o.wp P a w (R .normal) R) : o.wp P a w K Q := by
  unfold Oper.wp at *
  generalize (execOp a.eval o).run P w = r at *
  have hno : ¬ LetsOut R := fun ⟨a, w, h⟩ => by cases hR _ _ _ h
  cases r with
  | ok n w' =>
    cases n <;> simp only [Oper.upon] at h ⊢
    case value => exact hK _ _ h
    case skip => exact hK _ _ h
    case defer => exact hK _ _ h
    case enter f args =>
      refine Calls.mono h fun e w'' he => ?_
      cases e with
      | returned v => exact hK _ _ he
      | panicked chain => cases hR _ _ _ he
      | outgrown => exact absurd he hno
    case row => exact Rows.mono h (fun _ _ he => hK _ _ he)
    all_goals exact h
  | halt x w' =>
    cases x <;> simp only [Oper.upon] at h ⊢
    case panic v => cases hR _ _ _ h
    all_goals exact h

theorem edgesOk_lt : ∀ (l : List Oper) (k : Nat), edgesOk k l = true → ∀ i o, l[i]? = some o → ∀ e ∈ o.after.toList, Region.binds .any e = true → e.on < k + i := by
  intro l
  induction l with
  | nil => intro k _ i o h; simp at h
  | cons p l ih =>
    intro k h i o hi e he hb
    rw [edgesOk, Bool.and_eq_true] at h
    cases i with
    | zero =>
      simp only [List.getElem?_cons_zero, Option.some.injEq] at hi
      subst hi
      have := List.all_eq_true.1 h.1 e he
      rw [Bool.or_eq_true, decide_eq_true_eq, hb] at this
      rcases this with h | h
      · omega
      · simp at h
    | succ i =>
      have := ih (k + 1) h.2 i o (by simpa using hi) e he hb
      omega

theorem wp_region_phi {id : Nat} {Q : Exit → Act → World → Prop} {a : Act} {w : World} {l : List Oper} (Φ : Nat → Value → World → Prop) (hm : P.follows .mixedOrders = true)
    (hd : dstsOk l = true) (he : edgesOk 0 l = true)
    (up : ∀ i v x y, Φ i v x → Below x.heap.size x y → Φ i v y)
    (step : ∀ i o, l[i]? = some o → PhiStep P l Φ a w i o)
    (post : ∀ x w', Below w.heap.size w w' → (∀ i, i < l.length → Φ i (x i) w') → Q .normal (fillFrom 0 l x a) w') :
    (Code.region id l.toArray true).wp P Q a w := by
  rw [dstsOk, Bool.and_eq_true, decide_eq_true_eq] at hd
  obtain ⟨hds, hnd⟩ := hd
  have key : ∀ (fuel : Nat) (listed : Array Bool) (x : Nat → Value) (w' : World), listed.size = l.length → listed.toList.count false ≤ fuel → Below w.heap.size w w' →
      (∀ j, listed.getD j false = true → Φ j (x j) w') → wpAny P .any l.toArray Q fuel listed (fillFrom 0 l x a) w' := by
    intro fuel
    have done : ∀ (listed : Array Bool) (x : Nat → Value) (w' : World), listed.size = l.length → Below w.heap.size w w' →
        (∀ j, listed.getD j false = true → Φ j (x j) w') → Region.ready .any l.toArray listed = [] → Q .normal (fillFrom 0 l x a) w' := by
      intro listed x w' hsz hb hΦ hr
      have all : ∀ j, j < l.length → listed.getD j false = true := by
        intro j
        induction j using Nat.strongRecOn with
        | _ j ihj =>
          intro hj
          cases hl : listed.getD j false with
          | true => rfl
          | false =>
            exfalso
            have hmem : j ∈ Region.ready .any l.toArray listed := by
              rw [mem_ready]
              refine ⟨?_, l[j], by simp [hj], fun e hmem hb' => ?_⟩
              · have hjs : j < listed.size := by omega
                simp only [Array.getD, hjs, dif_pos] at hl ⊢
                exact hl
              · have hlt := edgesOk_lt l 0 he j l[j] (List.getElem?_eq_getElem hj) e (by simpa using hmem) hb'
                exact ihj e.on (by omega) (by omega)
            rw [hr] at hmem
            cases hmem
      exact post x w' hb (fun i hi => hΦ i (all i hi))
    induction fuel with
    | zero =>
      intro listed x w' hsz hc hb hΦ
      have hr : Region.ready .any l.toArray listed = [] := by
        rw [List.eq_nil_iff_forall_not_mem]
        intro j hj
        obtain ⟨h1, o, ho, _⟩ := mem_ready.1 hj
        have hjl : j < l.length := by
          have := (Array.getElem?_eq_some_iff.1 ho).1
          simpa using this
        have hjs : j < listed.size := by omega
        have hcount : 0 < listed.toList.count false := by
          rw [List.count_pos_iff]
          simp only [Array.getD, hjs, dif_pos] at h1
          rw [← h1]
          simp
        omega
      exact ⟨hr, done listed x w' hsz hb hΦ hr⟩
    | succ fuel ih =>
      intro listed x w' hsz hc hb hΦ
      refine ⟨done listed x w' hsz hb hΦ, fun i hi => ?_⟩
      obtain ⟨h1, o, ho, hdep⟩ := mem_ready.1 hi
      have hol : l[i]? = some o := by simpa using ho
      have hil : i < l.length := (List.getElem?_eq_some_iff.1 hol).1
      have his : i < listed.size := by omega
      have hst := step i o hol x w' hb (fun e hmem hb' => hΦ e.on (hdep e (by simpa using hmem) hb'))
      have hnext : ∀ a' w'', (∃ v, a' = (fillFrom 0 l x a).put o.dst v ∧ Below w'.heap.size w' w'' ∧ Φ i v w'') →
          wpAny P .any l.toArray Q fuel (listed.setIfInBounds i true) a' w'' := by
        rintro a' w'' ⟨v, rfl, hb2, hv⟩
        have hs : o.dst.isSome = true := List.all_eq_true.1 hds o (List.mem_of_getElem? hol)
        rw [fillFrom_set l 0 x a i o v hol hs hnd]
        refine ih _ _ w'' (by simpa using hsz) ?_ (hb.trans (hb2.mono hb.size)) ?_
        · have : (listed.setIfInBounds i true).toList.count false + 1 = listed.toList.count false := by
            rw [Array.toList_setIfInBounds]
            have hg : listed.toList[i]? = some false := by
              simp only [Array.getD, his, dif_pos] at h1
              rw [List.getElem?_eq_getElem (by simpa using his)]
              simpa using h1
            have hil' : i < listed.toList.length := by simpa using his
            have hgi : listed.toList[i] = false := (List.getElem?_eq_some_iff.1 hg).2
            rw [List.count_set hil', hgi]
            have hpos : 0 < listed.toList.count false := by
              rw [List.count_pos_iff, ← hgi]; exact List.getElem_mem _
            have e1 : (false == false) = true := rfl
            have e2 : (true == false) = false := rfl
            rw [e1, e2]
            simp only [if_true, Bool.false_eq_true, if_false]
            omega
          omega
        · intro j hj
          by_cases hji : j = i
          · subst hji; simpa using hv
          · have hj' : listed.getD j false = true := by
              rw [Array.getD_eq_getD_getElem?, Array.getElem?_setIfInBounds_ne (Ne.symm hji), ← Array.getD_eq_getD_getElem?] at hj
              exact hj
            have := up j _ _ _ (hΦ j hj') hb2
            simpa [hji] using this
      unfold wpOp
      simp only [ho]
      unfold wpList at hst
      split
      · rename_i hw
        rw [if_pos hw] at hst
        rcases hst with hst | ⟨_, a'', w'', e, _⟩
        · exact .inl (wp_other (R := fun e a' w'' => e = .normal ∧ ∃ v, a' = (fillFrom 0 l x a).put o.dst v ∧ Below w'.heap.size w' w'' ∧ Φ i v w'') (fun a' w'' h => hnext a' w'' h.2) (fun e _ _ h => h.1) hst)
        · cases e
      · rename_i hw
        rw [if_neg hw] at hst
        exact hnext _ _ hst.2
  obtain ⟨x0, hx0⟩ := fillFrom_id l 0 a hnd
  refine wp_region_any hm ?_
  have := key l.length (Array.replicate l.length false) x0 { w with drawn := w.drawn + 1 } (by simp) (by simp) ((Below.refl w.heap.size w).drew) (fun j hj => by
    exfalso
    rcases Nat.lt_or_ge j l.length with h | h
    · simp [Array.getD, h] at hj
    · simp [Array.getD, Nat.not_lt.2 h] at hj)
  rw [hx0] at this
  simpa using this
end

/-! ### Facts on a value that stay true as memory grows -/
structure Fact where
  holds : Value → World → Prop
  up : ∀ v x y, holds v x → Below x.heap.size x y → holds v y
def Fact.any : Fact := ⟨fun _ _ => True, fun _ _ _ _ _ => trivial⟩
def Fact.eq (c : Value) : Fact := ⟨fun v _ => v = c, fun _ _ _ h _ => h⟩
/-- A slice of n elements with the cells vs. -/
def Fact.row (n : Nat) (vs : List Value) : Fact :=
  ⟨fun v w => ∃ a cap, v = .slice a n cap ∧ RowAt w a vs, fun _ _ _ ⟨a, cap, h, hr⟩ hb => ⟨a, cap, h, hr.below hb⟩⟩
def factAt (F : List Fact) (i : Nat) : Value → World → Prop := (F.getD i Fact.any).holds

/-- Does operation o wait for operation j? -/
def waits (o : Oper) (j : Nat) : Bool := o.after.toList.any fun e => e.on == j && Region.binds .any e

/-- Behind one operation: nothing is deferred, memory has grown at most, and of the value in slot d the fact is known. -/
def FrPost (ds : List Deferred) (w' : World) (φ : Value → World → Prop) (d : Nat) (e : Exit) (a' : Act) (w'' : World) : Prop :=
  e = .normal ∧ a'.defers = ds ∧ Below w'.heap.size w' w'' ∧ φ (a'.tmps.getD d undef) w''
theorem frPost_mk {ds : List Deferred} {w' : World} {φ : Value → World → Prop} {d : Nat} {a' : Act} {w'' : World} (h1 : a'.defers = ds) (h2 : Below w'.heap.size w' w'') (h3 : φ (a'.tmps.getD d undef) w'') :
    FrPost ds w' φ d .normal a' w'' := ⟨rfl, h1, h2, h3⟩
/-- What operation i must do in the frame 'fr x', whatever the other operations have yielded, so long as what it waits for is known. -/
def FrStep (P : Program) (l : List Oper) (F : List Fact) (fr : (Nat → Value) → Act) (w : World) (i : Nat) (o : Oper) : Prop :=
  ∀ (x : Nat → Value) (w' : World), Below w.heap.size w w' → (∀ j, waits o j = true → factAt F j (x j) w') →
    wpList P l.toArray (FrPost (fr x).defers w' (factAt F i) (o.dst.getD 0)) [o] (fr x) w'
def FrSteps (P : Program) (l : List Oper) (F : List Fact) (fr : (Nat → Value) → Act) (w : World) : Nat → List Oper → Prop
  | _, [] => True
  | k, o :: rest => FrStep P l F fr w k o ∧ FrSteps P l F fr w (k + 1) rest
theorem frSteps_all {P : Program} {l : List Oper} {F : List Fact} {fr : (Nat → Value) → Act} {w : World} : ∀ (m : List Oper) (k : Nat), FrSteps P l F fr w k m → ∀ i o, m[i]? = some o → FrStep P l F fr w (k + i) o := by
  intro m
  induction m with
  | nil => intro k _ i o h; simp at h
  | cons p m ih =>
    intro k h i o hi
    cases i with
    | zero =>
      simp only [List.getElem?_cons_zero, Option.some.injEq] at hi
      subst hi; exact h.1
    | succ i =>
      have := ih (k + 1) h.2 i o (by simpa using hi)
      rwa [show k + 1 + i = k + (i + 1) by omega] at this

theorem wp_put {P : Program} {o : Oper} {a : Act} {w : World} {R Q : Exit → Act → World → Prop} {K : Act → World → Prop} (hR : ∀ e a w, R e a w → e = .normal)
    (hdef : ∀ a' w', R .normal a' w' → a'.defers = a.defers) (hK : ∀ v w', R .normal (a.put o.dst v) w' → K (a.put o.dst v) w') (h : o.wp P a w (R .normal) R) : o.wp P a w K Q := by
  unfold Oper.wp at *
  generalize (execOp a.eval o).run P w = r at *
  have hno : ¬ LetsOut R := fun ⟨a, w, h⟩ => by cases hR _ _ _ h
  cases r with
  | ok n w' =>
    cases n <;> simp only [Oper.upon] at h ⊢
    case value => exact hK _ _ h
    case skip => exact hK _ _ h
    case defer d =>
      exfalso
      have := congrArg List.length (hdef _ _ h)
      cases hd : o.dst <;> simp [Act.put, hd] at this
    case enter f args =>
      refine Calls.mono h fun e w'' he => ?_
      cases e with
      | returned v => exact hK _ _ he
      | panicked chain => cases hR _ _ _ he
      | outgrown => exact absurd he hno
    case row => exact Rows.mono h (fun _ _ he => hK _ _ he)
    all_goals exact h
  | halt x w' =>
    cases x <;> simp only [Oper.upon] at h ⊢
    case panic v => cases hR _ _ _ h
    all_goals exact h

theorem fillFrom_size : ∀ (l : List Oper) (k : Nat) (x : Nat → Value) (a : Act), (fillFrom k l x a).tmps.size = a.tmps.size := by
  intro l
  induction l with
  | nil => intros; rfl
  | cons o l ih =>
    intro k x a
    rw [fillFrom, ih]
    cases o.dst <;> simp [Act.put]

def inFrame (n : Nat) (l : List Oper) : Bool := l.all fun o => match o.dst with | some d => decide (d < n) | none => false

def AllFacts (F : List Fact) (x : Nat → Value) (w : World) : Nat → Nat → Prop
  | 0, _ => True
  | n + 1, k => factAt F k (x k) w ∧ AllFacts F x w n (k + 1)
theorem allFacts_of {F : List Fact} {x : Nat → Value} {w : World} : ∀ (n k : Nat), (∀ i, k ≤ i → i < k + n → factAt F i (x i) w) → AllFacts F x w n k := by
  intro n
  induction n with
  | zero => intros; trivial
  | succ n ih => intro k h; exact ⟨h k (by omega) (by omega), ih (k + 1) (fun i h1 h2 => h i (by omega) (by omega))⟩

/-- As wp_region_phi: the facts as a list, the frame written out ('fr'), one step an operation. -/
theorem wp_region_facts {P : Program} {id : Nat} {Q : Exit → Act → World → Prop} {a : Act} {w : World} {l : List Oper} {fr : (Nat → Value) → Act} (F : List Fact) (hm : P.follows .mixedOrders = true)
    (hd : dstsOk l = true) (he : edgesOk 0 l = true) (hf : inFrame a.tmps.size l = true) (hfr : ∀ x, fillFrom 0 l x a = fr x) (steps : FrSteps P l F fr w 0 l)
    (post : ∀ x w', Below w.heap.size w w' → (∀ i, i < l.length → factAt F i (x i) w') → Q .normal (fr x) w') : (Code.region id l.toArray true).wp P Q a w := by
  refine wp_region_phi (factAt F) hm hd he (fun i v x y h hb => (F.getD i Fact.any).up v x y h hb) (fun i o ho x w' hb hdep => ?_)
    (fun x w' hb h => by rw [hfr]; exact post x w' hb h)
  have hst := by simpa using frSteps_all l 0 steps i o ho
  have h1 := hst x w' hb (fun j hj => by
    simp only [waits, List.any_eq_true, Bool.and_eq_true, beq_iff_eq] at hj
    obtain ⟨e, he1, he2, he3⟩ := hj
    rw [← he2]; exact hdep e he1 he3)
  rw [hfr]
  have hlt : ∀ d, o.dst = some d → d < (fr x).tmps.size := fun d hdo => by
    rw [← hfr, fillFrom_size]
    have := List.all_eq_true.1 hf o (List.mem_of_getElem? ho)
    rw [hdo] at this
    simpa using this
  have hsome : ∃ d, o.dst = some d := by
    have := List.all_eq_true.1 hf o (List.mem_of_getElem? ho)
    cases hdo : o.dst with
    | none => rw [hdo] at this; cases this
    | some d => exact ⟨d, rfl⟩
  obtain ⟨d, hdo⟩ := hsome
  have hget : ∀ v, ((fr x).put o.dst v).tmps.getD (o.dst.getD 0) undef = v := fun v => by
    rw [hdo]
    simp only [Act.put, Option.getD_some]
    rw [Array.getD_eq_getD_getElem?, Array.getElem?_setIfInBounds_self_of_lt (hlt d hdo)]; rfl
  unfold wpList at h1 ⊢
  split
  · rename_i hw
    rw [if_pos hw] at h1
    rcases h1 with h1 | ⟨_, a'', w'', e, _⟩
    · refine .inl (wp_put (R := FrPost (fr x).defers w' (factAt F i) (o.dst.getD 0)) (fun e _ _ h => h.1) (fun _ _ h => h.2.1) (fun v w'' h => ⟨rfl, v, rfl, h.2.2.1, ?_⟩) h1)
      have := h.2.2.2
      rwa [hget] at this
    · cases e
  · rename_i hw
    rw [if_neg hw] at h1
    obtain ⟨_, _, h2, h3⟩ := h1
    rw [hget] at h3
    exact ⟨rfl, undef, rfl, h2, h3⟩
end Go.Proofs.YtpledhipdiephaaDoor
