/- A region that draws its order, with one store of its own anywhere: the state is told by which operations are done. -/
import Derived.Test.YthipnkbfdkmhaaaGG
namespace Go.Proofs.Ythipnkbfdkmhaaa
open Go.RowKit
/-- No two operations write one slot, and at most one writes none. -/
def dstsOk1 (l : List Oper) : Bool := decide (l.map (·.dst)).Nodup
def inFrame1 (n : Nat) (l : List Oper) : Bool := l.all fun o => match o.dst with | some d => decide (d < n) | none => true
theorem fillFrom_none : ∀ (l : List Oper) (k : Nat) (x : Nat → Value) (a : Act) (i : Nat) (o : Oper) (v : Value), l[i]? = some o → o.dst = none →
    fillFrom k l x a = fillFrom k l (fun j => if j = k + i then v else x j) a := by
  intro l
  induction l with
  | nil => intro k x a i o v h; simp at h
  | cons p l ih =>
    intro k x a i o v h hs
    cases i with
    | zero =>
      simp only [List.getElem?_cons_zero, Option.some.injEq] at h
      subst h
      rw [fillFrom, fillFrom, hs]
      have hx : ∀ (l : List Oper) (k' : Nat) (b : Act), k < k' → fillFrom k' l x b = fillFrom k' l (fun j => if j = k + 0 then v else x j) b := by
        intro l
        induction l with
        | nil => intros; rfl
        | cons q l ih2 =>
          intro k' b hk
          rw [fillFrom, fillFrom, ih2 (k' + 1) _ (by omega)]
          simp only [show ¬ k' = k + 0 by omega, if_false]
      exact hx l (k + 1) _ (by omega)
    | succ i =>
      simp only [List.getElem?_cons_succ] at h
      rw [fillFrom, fillFrom, ih (k + 1) x _ i o v h hs]
      simp only [show ¬ k = k + (i + 1) by omega, if_false, show k + 1 + i = k + (i + 1) by omega]
theorem fillFrom_set1 (l : List Oper) (k : Nat) (x : Nat → Value) (a : Act) (i : Nat) (o : Oper) (v : Value) (h : l[i]? = some o) (hn : (l.map (·.dst)).Nodup) :
    (fillFrom k l x a).put o.dst v = fillFrom k l (fun j => if j = k + i then v else x j) a := by
  cases hd : o.dst with
  | none => exact fillFrom_none l k x a i o v h hd
  | some d =>
    have := fillFrom_set l k x a i o v h (by rw [hd]; rfl) hn
    rwa [hd] at this
section
variable {P : Program}
theorem wp_region_invN {id : Nat} {Q : Exit → Act → World → Prop} {a : Act} {w : World} {l : List Oper} (I : (Nat → Bool) → World → Prop) (v : Nat → Value) (hm : P.follows .mixedOrders = true)
    (hd : dstsOk1 l = true) (he : edgesOk 0 l = true)
    (base : I (fun _ => false) { w with drawn := w.drawn + 1 })
    (step : ∀ i o, l[i]? = some o → InvStep P l I v a i o)
    (post : ∀ x w', I (fun j => decide (j < l.length)) w' → (∀ i, i < l.length → x i = v i) → Q .normal (fillFrom 0 l x a) w') :
    (Code.region id l.toArray true).wp P Q a w := by
  rw [dstsOk1, decide_eq_true_eq] at hd
  have hnd := hd
  have key : ∀ (fuel : Nat) (listed : Array Bool) (x : Nat → Value) (w' : World), listed.size = l.length → listed.toList.count false ≤ fuel → I (fun j => listed.getD j false) w' →
      (∀ j, listed.getD j false = true → x j = v j) → Closed l (fun j => listed.getD j false) → wpAny P .any l.toArray Q fuel listed (fillFrom 0 l x a) w' := by
    intro fuel
    have done : ∀ (listed : Array Bool) (x : Nat → Value) (w' : World), listed.size = l.length → I (fun j => listed.getD j false) w' →
        (∀ j, listed.getD j false = true → x j = v j) → Region.ready .any l.toArray listed = [] → Q .normal (fillFrom 0 l x a) w' := by
      intro listed x w' hsz hb hΦ hr
      have all : ∀ j, j < l.length → listed.getD j false = true := by
        intro j
        induction j using Nat.strongRecOn with
        | _ j ihj =>
          intro hj
          cases hl : listed.getD j false with
          | true => rfl
          | false =>
            exfalso
            have hmem : j ∈ Region.ready .any l.toArray listed := by
              rw [mem_ready]
              refine ⟨?_, l[j], by simp [hj], fun e hmem hb' => ?_⟩
              · have hjs : j < listed.size := by omega
                simp only [Array.getD, hjs, dif_pos] at hl ⊢
                exact hl
              · have hlt := edgesOk_lt l 0 he j l[j] (List.getElem?_eq_getElem hj) e (by simpa using hmem) hb'
                exact ihj e.on (by omega) (by omega)
            rw [hr] at hmem
            cases hmem
      refine post x w' ?_ (fun i hi => hΦ i (all i hi))
      have hfun : (fun j => listed.getD j false) = (fun j => decide (j < l.length)) := by
        funext j
        by_cases hj : j < l.length
        · rw [all j hj, decide_eq_true hj]
        · rw [decide_eq_false hj]
          simp [Array.getD, hsz, hj]
      rw [← hfun]; exact hb
    induction fuel with
    | zero =>
      intro listed x w' hsz hc hb hΦ hcl
      have hr : Region.ready .any l.toArray listed = [] := by
        rw [List.eq_nil_iff_forall_not_mem]
        intro j hj
        obtain ⟨h1, o, ho, _⟩ := mem_ready.1 hj
        have hjl : j < l.length := by
          have := (Array.getElem?_eq_some_iff.1 ho).1
          simpa using this
        have hjs : j < listed.size := by omega
        have hcount : 0 < listed.toList.count false := by
          rw [List.count_pos_iff]
          simp only [Array.getD, hjs, dif_pos] at h1
          rw [← h1]
          simp
        omega
      exact ⟨hr, done listed x w' hsz hb hΦ hr⟩
    | succ fuel ih =>
      intro listed x w' hsz hc hb hΦ hcl
      refine ⟨done listed x w' hsz hb hΦ, fun i hi => ?_⟩
      obtain ⟨h1, o, ho, hdep⟩ := mem_ready.1 hi
      have hol : l[i]? = some o := by simpa using ho
      have hil : i < l.length := (List.getElem?_eq_some_iff.1 hol).1
      have his : i < listed.size := by omega
      have h1f : listed.getD i false = false := by
        simp only [Array.getD, his, dif_pos] at h1 ⊢; exact h1
      have hst := step i o hol (fun j => listed.getD j false) x w' h1f hb (fun e hmem hb' => ⟨hdep e (by simpa using hmem) hb', hΦ e.on (hdep e (by simpa using hmem) hb')⟩) hcl
      have hnext : ∀ a' w'', (a' = (fillFrom 0 l x a).put o.dst (v i) ∧ I (fun j => j == i || listed.getD j false) w'') →
          wpAny P .any l.toArray Q fuel (listed.setIfInBounds i true) a' w'' := by
        rintro a' w'' ⟨rfl, hb2⟩
        rw [fillFrom_set1 l 0 x a i o (v i) hol hnd]
        have hfun : (fun j => (listed.setIfInBounds i true).getD j false) = (fun j => j == i || listed.getD j false) := by
          funext j
          by_cases hji : j = i
          · subst hji; simp [Array.getD, his]
          · rw [Array.getD_eq_getD_getElem?, Array.getElem?_setIfInBounds_ne (Ne.symm hji), ← Array.getD_eq_getD_getElem?]; simp [hji]
        refine ih _ _ w'' (by simpa using hsz) ?_ (by rw [hfun]; exact hb2) ?_ ?_
        · have : (listed.setIfInBounds i true).toList.count false + 1 = listed.toList.count false := by
            rw [Array.toList_setIfInBounds]
            have hg : listed.toList[i]? = some false := by
              simp only [Array.getD, his, dif_pos] at h1
              rw [List.getElem?_eq_getElem (by simpa using his)]
              simpa using h1
            have hil' : i < listed.toList.length := by simpa using his
            have hgi : listed.toList[i] = false := (List.getElem?_eq_some_iff.1 hg).2
            rw [List.count_set hil', hgi]
            have hpos : 0 < listed.toList.count false := by
              rw [List.count_pos_iff, ← hgi]; exact List.getElem_mem _
            have e1 : (false == false) = true := rfl
            have e2 : (true == false) = false := rfl
            rw [e1, e2]
            simp only [if_true, Bool.false_eq_true, if_false]
            omega
          omega
        · intro j hj
          by_cases hji : j = i
          · subst hji; simp
          · have hj' : listed.getD j false = true := by
              rw [Array.getD_eq_getD_getElem?, Array.getElem?_setIfInBounds_ne (Ne.symm hji), ← Array.getD_eq_getD_getElem?] at hj
              exact hj
            have := hΦ j hj'
            simpa [hji] using this
        · rw [hfun]
          intro j o' ho' hj e hmem hbd
          by_cases hji : j = i
          · subst hji
            obtain rfl : o = o' := by rw [hol] at ho'; exact Option.some.inj ho'
            have := hdep e (by simpa using hmem) hbd
            simp [this]
          · have hj' : listed.getD j false = true := by simpa [hji] using hj
            have := hcl j o' ho' hj' e hmem hbd
            simp only at this
            simp [this]
      unfold wpOp
      simp only [ho]
      unfold wpList at hst
      split
      · rename_i hw
        rw [if_pos hw] at hst
        rcases hst with hst | ⟨_, a'', w'', e, _⟩
        · exact .inl (wp_other (R := fun e a' w'' => e = .normal ∧ a' = (fillFrom 0 l x a).put o.dst (v i) ∧ I (fun j => j == i || listed.getD j false) w'') (fun a' w'' h => hnext a' w'' h.2) (fun e _ _ h => h.1) hst)
        · cases e
      · rename_i hw
        rw [if_neg hw] at hst
        exact hnext _ _ hst.2
  obtain ⟨x0, hx0⟩ := fillFrom_id l 0 a hnd
  refine wp_region_any hm ?_
  have hf0 : (fun j => (Array.replicate l.length false).getD j false) = (fun _ => false) := by
    funext j
    rcases Nat.lt_or_ge j l.length with h | h
    · simp [Array.getD, h]
    · simp [Array.getD, Nat.not_lt.2 h]
  have := key l.length (Array.replicate l.length false) x0 { w with drawn := w.drawn + 1 } (by simp) (by simp) (by rw [hf0]; exact base) (fun j hj => by
    exfalso
    rcases Nat.lt_or_ge j l.length with h | h
    · simp [Array.getD, h] at hj
    · simp [Array.getD, Nat.not_lt.2 h] at hj) (by rw [hf0]; intro j o ho hj; cases hj)
  rw [hx0] at this
  simpa using this
end

/-- Behind one operation: nothing is deferred, the value is in its slot if it has one, the state is the next one. -/
def IvPostN (ds : List Deferred) (v : Value) (d : Option Tmp) (R : World → Prop) (e : Exit) (a' : Act) (w'' : World) : Prop :=
  e = .normal ∧ a'.defers = ds ∧ (∀ c, d = some c → a'.tmps.getD c undef = v) ∧ R w''
theorem ivPostN_mk {ds : List Deferred} {v : Value} {d : Nat} {R : World → Prop} {a' : Act} {w'' : World} (h1 : a'.defers = ds) (h2 : a'.tmps.getD d undef = v) (h3 : R w'') : IvPostN ds v (some d) R .normal a' w'' := ⟨rfl, h1, fun c hc => by obtain rfl := Option.some.inj hc; exact h2, h3⟩
theorem ivPostN_no {ds : List Deferred} {v : Value} {R : World → Prop} {a' : Act} {w'' : World} (h1 : a'.defers = ds) (h3 : R w'') : IvPostN ds v none R .normal a' w'' := ⟨rfl, h1, fun c hc => (by cases hc), h3⟩
def IvStepN (P : Program) (l : List Oper) (V : List Value) (fr : (Nat → Value) → Act) (I : (Nat → Bool) → World → Prop) (i : Nat) (o : Oper) : Prop :=
  ∀ (D : Nat → Bool) (x : Nat → Value) (w' : World), D i = false → I D w' → (∀ j, waits o j = true → D j = true ∧ x j = V.getD j undef) → Closed l D →
    wpList P l.toArray (IvPostN (fr x).defers (V.getD i undef) o.dst (I (fun j => j == i || D j))) [o] (fr x) w'
def IvStepsN (P : Program) (l : List Oper) (V : List Value) (fr : (Nat → Value) → Act) (I : (Nat → Bool) → World → Prop) : Nat → List Oper → Prop
  | _, [] => True
  | k, o :: rest => IvStepN P l V fr I k o ∧ IvStepsN P l V fr I (k + 1) rest
theorem ivStepsN_all {P : Program} {l : List Oper} {V : List Value} {fr : (Nat → Value) → Act} {I : (Nat → Bool) → World → Prop} : ∀ (m : List Oper) (k : Nat), IvStepsN P l V fr I k m → ∀ i o, m[i]? = some o → IvStepN P l V fr I (k + i) o := by
  intro m
  induction m with
  | nil => intro k _ i o h; simp at h
  | cons p m ih =>
    intro k h i o hi
    cases i with
    | zero =>
      simp only [List.getElem?_cons_zero, Option.some.injEq] at hi
      subst hi; exact h.1
    | succ i =>
      have := ih (k + 1) h.2 i o (by simpa using hi)
      rwa [show k + 1 + i = k + (i + 1) by omega] at this
/-- The region, its values as a list, its frame written out, one step an operation. -/
theorem wp_region_valsN {P : Program} {id : Nat} {Q : Exit → Act → World → Prop} {a : Act} {w : World} {l : List Oper} {fr : (Nat → Value) → Act} (V : List Value) (I : (Nat → Bool) → World → Prop) (hm : P.follows .mixedOrders = true)
    (hd : dstsOk1 l = true) (he : edgesOk 0 l = true) (hf : inFrame1 a.tmps.size l = true) (hfr : ∀ x, fillFrom 0 l x a = fr x)
    (base : I (fun _ => false) { w with drawn := w.drawn + 1 }) (steps : IvStepsN P l V fr I 0 l)
    (post : ∀ w', I (fun j => decide (j < l.length)) w' → ∀ x : Nat → Value, (∀ i, i < l.length → x i = V.getD i undef) → Q .normal (fr x) w') : (Code.region id l.toArray true).wp P Q a w := by
  refine wp_region_invN I (fun i => V.getD i undef) hm hd he base (fun i o ho D x w' hD hI hdep hcl => ?_)
    (fun x w' hI h => by rw [hfr]; exact post w' hI x h)
  have hst := by simpa using ivStepsN_all l 0 steps i o ho
  have h1 := hst D x w' hD hI (fun j hj => by
    simp only [waits, List.any_eq_true, Bool.and_eq_true, beq_iff_eq] at hj
    obtain ⟨e, he1, he2, he3⟩ := hj
    rw [← he2]; exact hdep e he1 he3) hcl
  rw [hfr]
  have hlt : ∀ d, o.dst = some d → d < (fr x).tmps.size := fun d hdo => by
    rw [← hfr, fillFrom_size]
    have := List.all_eq_true.1 hf o (List.mem_of_getElem? ho)
    rw [hdo] at this
    simpa using this
  unfold wpList at h1 ⊢
  split
  · rename_i hw
    rw [if_pos hw] at h1
    rcases h1 with h1 | ⟨_, a'', w'', e, _⟩
    · refine .inl (wp_put (R := IvPostN (fr x).defers (V.getD i undef) o.dst (I (fun j => j == i || D j))) (fun e _ _ h => h.1) (fun _ _ h => h.2.1) (fun v w'' h => ⟨rfl, ?_, h.2.2.2⟩) h1)
      have := h.2.2.1
      cases hdo : o.dst with
      | none => rfl
      | some d =>
        rw [hdo] at this
        have h9 := this d rfl
        simp only [Act.put] at h9
        rw [Array.getD_eq_getD_getElem?, Array.getElem?_setIfInBounds_self_of_lt (hlt d hdo)] at h9
        have h10 : v = V.getD i undef := h9
        rw [h10]
    · cases e
  · rename_i hw
    rw [if_neg hw] at h1
    obtain ⟨_, _, h2, h3⟩ := h1
    refine ⟨rfl, ?_, h3⟩
    show (fr x).put o.dst undef = (fr x).put o.dst (V.getD i undef)
    cases hdo : o.dst with
    | none => rfl
    | some d =>
      have h9 := h2 d hdo
      rw [hdo] at h9
      simp only [Act.put] at h9
      rw [Array.getD_eq_getD_getElem?, Array.getElem?_setIfInBounds_self_of_lt (hlt d hdo)] at h9
      have h10 : undef = V.getD i undef := h9
      rw [← h10]

end Go.Proofs.Ythipnkbfdkmhaaa
