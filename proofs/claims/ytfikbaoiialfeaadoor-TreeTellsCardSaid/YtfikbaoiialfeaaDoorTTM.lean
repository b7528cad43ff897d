/- A region that draws its order, with one store of its own anywhere: the state is told by which operations are done. A region that draws its order, told by a state that goes by what is done and by the values so far; one operation may write no slot. The document's Fold and Leaf; the program's Leaf; ways of any place. Leaves, the program's and the document's; ways of any place; the document's Fold in general. TreeTells walked. 'Rows.TreeTellsCardSaid': for every input the law returns true, and each argument reads behind the call as before. The package-level variables that the row lists start as the program's text lays them (the card ties them). -/
import Derived.Test.YtfikbaoiialfeaaDoorGG
import Derived.Test.YtfikbaoiialfeaaDoorFoldW
import Derived.Test.YtfikbaoiialfeaaDoorRefTree
import Derived.WalkKit
import Derived.ProofKit
import Derived.Handy
import Derived.Below
import Derived.Lib.Hide
import Derived.IntWalk
import Derived.Outline
import Derived.WalkLawsBesides
import Derived.WalkSpells
import Derived.Test.YtfikbaoiialfeaaDoorTreeDeep
import Derived.Test.YtfikbaoiialfeaaDoorRows
import Derived.Test.YtfikbaoiialfeaaDoorGJ
import Derived.OpenShut
import Derived.ShutString
import Derived.ChangeOld
import Derived.Test.YtfikbaoiialfeaaDoorCards
import Derived.Test.YtfikbaoiialfeaaDoorTie
import Derived.LaidMore
import Derived.Lay
import Derived.SevenTiedAt
import Derived.Stop.Joined
import Derived.Test.YtfikbaoiialfeaaDoorShaWrap
namespace Go.Proofs.YtfikbaoiialfeaaDoor
open Go.RowKit
/-- No two operations write one slot, and at most one writes none. -/
def dstsOk1 (l : List Oper) : Bool := decide (l.map (·.dst)).Nodup
def inFrame1 (n : Nat) (l : List Oper) : Bool := l.all fun o => match o.dst with | some d => decide (d < n) | none => true
theorem fillFrom_none : ∀ (l : List Oper) (k : Nat) (x : Nat → Value) (a : Act) (i : Nat) (o : Oper) (v : Value), l[i]? = some o → o.dst = none →
    fillFrom k l x a = fillFrom k l (fun j => if j = k + i then v else x j) a := by
  intro l
  induction l with
  | nil => intro k x a i o v h; simp at h
  | cons p l ih =>
    intro k x a i o v h hs
    cases i with
    | zero =>
      simp only [List.getElem?_cons_zero, Option.some.injEq] at h
      subst h
      rw [fillFrom, fillFrom, hs]
      have hx : ∀ (l : List Oper) (k' : Nat) (b : Act), k < k' → fillFrom k' l x b = fillFrom k' l (fun j => if j = k + 0 then v else x j) b := by
        intro l
        induction l with
        | nil => intros; rfl
        | cons q l ih2 =>
          intro k' b hk
          rw [fillFrom, fillFrom, ih2 (k' + 1) _ (by omega)]
          simp only [show ¬ k' = k + 0 by omega, if_false]
      exact hx l (k + 1) _ (by omega)
    | succ i =>
      simp only [List.getElem?_cons_succ] at h
      rw [fillFrom, fillFrom, ih (k + 1) x _ i o v h hs]
      simp only [show ¬ k = k + (i + 1) by omega, if_false, show k + 1 + i = k + (i + 1) by omega]
theorem fillFrom_set1 (l : List Oper) (k : Nat) (x : Nat → Value) (a : Act) (i : Nat) (o : Oper) (v : Value) (h : l[i]? = some o) (hn : (l.map (·.dst)).Nodup) :
    (fillFrom k l x a).put o.dst v = fillFrom k l (fun j => if j = k + i then v else x j) a := by
  cases hd : o.dst with
  | none => exact fillFrom_none l k x a i o v h hd
  | some d =>
    have := fillFrom_set l k x a i o v h (by rw [hd]; rfl) hn
    rwa [hd] at this
section
variable {P : Program}
theorem wp_region_invN {id : Nat} {Q : Exit → Act → World → Prop} {a : Act} {w : World} {l : List Oper} (I : (Nat → Bool) → World → Prop) (v : Nat → Value) (hm : P.follows .mixedOrders = true)
    (hd : dstsOk1 l = true) (he : edgesOk 0 l = true)
    (base : I (fun _ => false) { w with drawn := w.drawn + 1 })
    (step : ∀ i o, l[i]? = some o → InvStep P l I v a i o)
    (post : ∀ x w', I (fun j => decide (j < l.length)) w' → (∀ i, i < l.length → x i = v i) → Q .normal (fillFrom 0 l x a) w') :
    (Code.region id l.toArray true).wp P Q a w := by
  rw [dstsOk1, decide_eq_true_eq] at hd
  have hnd := hd
  have key : ∀ (fuel : Nat) (listed : Array Bool) (x : Nat → Value) (w' : World), listed.size = l.length → listed.toList.count false ≤ fuel → I (fun j => listed.getD j false) w' →
      (∀ j, listed.getD j false = true → x j = v j) → Closed l (fun j => listed.getD j false) → wpAny P .any l.toArray Q fuel listed (fillFrom 0 l x a) w' := by
    intro fuel
    have done : ∀ (listed : Array Bool) (x : Nat → Value) (w' : World), listed.size = l.length → I (fun j => listed.getD j false) w' →
        (∀ j, listed.getD j false = true → x j = v j) → Region.ready .any l.toArray listed = [] → Q .normal (fillFrom 0 l x a) w' := by
      intro listed x w' hsz hb hΦ hr
      have all : ∀ j, j < l.length → listed.getD j false = true := by
        intro j
        induction j using Nat.strongRecOn with
        | _ j ihj =>
          intro hj
          cases hl : listed.getD j false with
          | true => rfl
          | false =>
            exfalso
            have hmem : j ∈ Region.ready .any l.toArray listed := by
              rw [mem_ready]
              refine ⟨?_, l[j], by simp [hj], fun e hmem hb' => ?_⟩
              · have hjs : j < listed.size := by omega
                simp only [Array.getD, hjs, dif_pos] at hl ⊢
                exact hl
              · have hlt := edgesOk_lt l 0 he j l[j] (List.getElem?_eq_getElem hj) e (by simpa using hmem) hb'
                exact ihj e.on (by omega) (by omega)
            rw [hr] at hmem
            cases hmem
      refine post x w' ?_ (fun i hi => hΦ i (all i hi))
      have hfun : (fun j => listed.getD j false) = (fun j => decide (j < l.length)) := by
        funext j
        by_cases hj : j < l.length
        · rw [all j hj, decide_eq_true hj]
        · rw [decide_eq_false hj]
          simp [Array.getD, hsz, hj]
      rw [← hfun]; exact hb
    induction fuel with
    | zero =>
      intro listed x w' hsz hc hb hΦ hcl
      have hr : Region.ready .any l.toArray listed = [] := by
        rw [List.eq_nil_iff_forall_not_mem]
        intro j hj
        obtain ⟨h1, o, ho, _⟩ := mem_ready.1 hj
        have hjl : j < l.length := by
          have := (Array.getElem?_eq_some_iff.1 ho).1
          simpa using this
        have hjs : j < listed.size := by omega
        have hcount : 0 < listed.toList.count false := by
          rw [List.count_pos_iff]
          simp only [Array.getD, hjs, dif_pos] at h1
          rw [← h1]
          simp
        omega
      exact ⟨hr, done listed x w' hsz hb hΦ hr⟩
    | succ fuel ih =>
      intro listed x w' hsz hc hb hΦ hcl
      refine ⟨done listed x w' hsz hb hΦ, fun i hi => ?_⟩
      obtain ⟨h1, o, ho, hdep⟩ := mem_ready.1 hi
      have hol : l[i]? = some o := by simpa using ho
      have hil : i < l.length := (List.getElem?_eq_some_iff.1 hol).1
      have his : i < listed.size := by omega
      have h1f : listed.getD i false = false := by
        simp only [Array.getD, his, dif_pos] at h1 ⊢; exact h1
      have hst := step i o hol (fun j => listed.getD j false) x w' h1f hb (fun e hmem hb' => ⟨hdep e (by simpa using hmem) hb', hΦ e.on (hdep e (by simpa using hmem) hb')⟩) hcl
      have hnext : ∀ a' w'', (a' = (fillFrom 0 l x a).put o.dst (v i) ∧ I (fun j => j == i || listed.getD j false) w'') →
          wpAny P .any l.toArray Q fuel (listed.setIfInBounds i true) a' w'' := by
        rintro a' w'' ⟨rfl, hb2⟩
        rw [fillFrom_set1 l 0 x a i o (v i) hol hnd]
        have hfun : (fun j => (listed.setIfInBounds i true).getD j false) = (fun j => j == i || listed.getD j false) := by
          funext j
          by_cases hji : j = i
          · subst hji; simp [Array.getD, his]
          · rw [Array.getD_eq_getD_getElem?, Array.getElem?_setIfInBounds_ne (Ne.symm hji), ← Array.getD_eq_getD_getElem?]; simp [hji]
        refine ih _ _ w'' (by simpa using hsz) ?_ (by rw [hfun]; exact hb2) ?_ ?_
        · have : (listed.setIfInBounds i true).toList.count false + 1 = listed.toList.count false := by
            rw [Array.toList_setIfInBounds]
            have hg : listed.toList[i]? = some false := by
              simp only [Array.getD, his, dif_pos] at h1
              rw [List.getElem?_eq_getElem (by simpa using his)]
              simpa using h1
            have hil' : i < listed.toList.length := by simpa using his
            have hgi : listed.toList[i] = false := (List.getElem?_eq_some_iff.1 hg).2
            rw [List.count_set hil', hgi]
            have hpos : 0 < listed.toList.count false := by
              rw [List.count_pos_iff, ← hgi]; exact List.getElem_mem _
            have e1 : (false == false) = true := rfl
            have e2 : (true == false) = false := rfl
            rw [e1, e2]
            simp only [if_true, Bool.false_eq_true, if_false]
            omega
          omega
        · intro j hj
          by_cases hji : j = i
          · subst hji; simp
          · have hj' : listed.getD j false = true := by
              rw [Array.getD_eq_getD_getElem?, Array.getElem?_setIfInBounds_ne (Ne.symm hji), ← Array.getD_eq_getD_getElem?] at hj
              exact hj
            have := hΦ j hj'
            simpa [hji] using this
        · rw [hfun]
          intro j o' ho' hj e hmem hbd
          by_cases hji : j = i
          · subst hji
            obtain rfl : o = o' := by rw [hol] at ho'; exact Option.some.inj ho'
            have := hdep e (by simpa using hmem) hbd
            simp [this]
          · have hj' : listed.getD j false = true := by simpa [hji] using hj
            have := hcl j o' ho' hj' e hmem hbd
            simp only at this
            simp [this]
      unfold wpOp
      simp only [ho]
      unfold wpList at hst
      split
      · rename_i hw
        rw [if_pos hw] at hst
        rcases hst with hst | ⟨_, a'', w'', e, _⟩
        · exact .inl (wp_other (R := fun e a' w'' => e = .normal ∧ a' = (fillFrom 0 l x a).put o.dst (v i) ∧ I (fun j => j == i || listed.getD j false) w'') (fun a' w'' h => hnext a' w'' h.2) (fun e _ _ h => h.1) hst)
        · cases e
      · rename_i hw
        rw [if_neg hw] at hst
        exact hnext _ _ hst.2
  obtain ⟨x0, hx0⟩ := fillFrom_id l 0 a hnd
  refine wp_region_any hm ?_
  have hf0 : (fun j => (Array.replicate l.length false).getD j false) = (fun _ => false) := by
    funext j
    rcases Nat.lt_or_ge j l.length with h | h
    · simp [Array.getD, h]
    · simp [Array.getD, Nat.not_lt.2 h]
  have := key l.length (Array.replicate l.length false) x0 { w with drawn := w.drawn + 1 } (by simp) (by simp) (by rw [hf0]; exact base) (fun j hj => by
    exfalso
    rcases Nat.lt_or_ge j l.length with h | h
    · simp [Array.getD, h] at hj
    · simp [Array.getD, Nat.not_lt.2 h] at hj) (by rw [hf0]; intro j o ho hj; cases hj)
  rw [hx0] at this
  simpa using this
end

/-- Behind one operation: nothing is deferred, the value is in its slot if it has one, the state is the next one. -/
def IvPostN (ds : List Deferred) (v : Value) (d : Option Tmp) (R : World → Prop) (e : Exit) (a' : Act) (w'' : World) : Prop :=
  e = .normal ∧ a'.defers = ds ∧ (∀ c, d = some c → a'.tmps.getD c undef = v) ∧ R w''
theorem ivPostN_mk {ds : List Deferred} {v : Value} {d : Nat} {R : World → Prop} {a' : Act} {w'' : World} (h1 : a'.defers = ds) (h2 : a'.tmps.getD d undef = v) (h3 : R w'') : IvPostN ds v (some d) R .normal a' w'' := ⟨rfl, h1, fun c hc => by obtain rfl := Option.some.inj hc; exact h2, h3⟩
theorem ivPostN_no {ds : List Deferred} {v : Value} {R : World → Prop} {a' : Act} {w'' : World} (h1 : a'.defers = ds) (h3 : R w'') : IvPostN ds v none R .normal a' w'' := ⟨rfl, h1, fun c hc => (by cases hc), h3⟩
def IvStepN (P : Program) (l : List Oper) (V : List Value) (fr : (Nat → Value) → Act) (I : (Nat → Bool) → World → Prop) (i : Nat) (o : Oper) : Prop :=
  ∀ (D : Nat → Bool) (x : Nat → Value) (w' : World), D i = false → I D w' → (∀ j, waits o j = true → D j = true ∧ x j = V.getD j undef) → Closed l D →
    wpList P l.toArray (IvPostN (fr x).defers (V.getD i undef) o.dst (I (fun j => j == i || D j))) [o] (fr x) w'
def IvStepsN (P : Program) (l : List Oper) (V : List Value) (fr : (Nat → Value) → Act) (I : (Nat → Bool) → World → Prop) : Nat → List Oper → Prop
  | _, [] => True
  | k, o :: rest => IvStepN P l V fr I k o ∧ IvStepsN P l V fr I (k + 1) rest
theorem ivStepsN_all {P : Program} {l : List Oper} {V : List Value} {fr : (Nat → Value) → Act} {I : (Nat → Bool) → World → Prop} : ∀ (m : List Oper) (k : Nat), IvStepsN P l V fr I k m → ∀ i o, m[i]? = some o → IvStepN P l V fr I (k + i) o := by
  intro m
  induction m with
  | nil => intro k _ i o h; simp at h
  | cons p m ih =>
    intro k h i o hi
    cases i with
    | zero =>
      simp only [List.getElem?_cons_zero, Option.some.injEq] at hi
      subst hi; exact h.1
    | succ i =>
      have := ih (k + 1) h.2 i o (by simpa using hi)
      rwa [show k + 1 + i = k + (i + 1) by omega] at this
/-- The region, its values as a list, its frame written out, one step an operation. -/
theorem wp_region_valsN {P : Program} {id : Nat} {Q : Exit → Act → World → Prop} {a : Act} {w : World} {l : List Oper} {fr : (Nat → Value) → Act} (V : List Value) (I : (Nat → Bool) → World → Prop) (hm : P.follows .mixedOrders = true)
    (hd : dstsOk1 l = true) (he : edgesOk 0 l = true) (hf : inFrame1 a.tmps.size l = true) (hfr : ∀ x, fillFrom 0 l x a = fr x)
    (base : I (fun _ => false) { w with drawn := w.drawn + 1 }) (steps : IvStepsN P l V fr I 0 l)
    (post : ∀ w', I (fun j => decide (j < l.length)) w' → ∀ x : Nat → Value, (∀ i, i < l.length → x i = V.getD i undef) → Q .normal (fr x) w') : (Code.region id l.toArray true).wp P Q a w := by
  refine wp_region_invN I (fun i => V.getD i undef) hm hd he base (fun i o ho D x w' hD hI hdep hcl => ?_)
    (fun x w' hI h => by rw [hfr]; exact post w' hI x h)
  have hst := by simpa using ivStepsN_all l 0 steps i o ho
  have h1 := hst D x w' hD hI (fun j hj => by
    simp only [waits, List.any_eq_true, Bool.and_eq_true, beq_iff_eq] at hj
    obtain ⟨e, he1, he2, he3⟩ := hj
    rw [← he2]; exact hdep e he1 he3) hcl
  rw [hfr]
  have hlt : ∀ d, o.dst = some d → d < (fr x).tmps.size := fun d hdo => by
    rw [← hfr, fillFrom_size]
    have := List.all_eq_true.1 hf o (List.mem_of_getElem? ho)
    rw [hdo] at this
    simpa using this
  unfold wpList at h1 ⊢
  split
  · rename_i hw
    rw [if_pos hw] at h1
    rcases h1 with h1 | ⟨_, a'', w'', e, _⟩
    · refine .inl (wp_put (R := IvPostN (fr x).defers (V.getD i undef) o.dst (I (fun j => j == i || D j))) (fun e _ _ h => h.1) (fun _ _ h => h.2.1) (fun v w'' h => ⟨rfl, ?_, h.2.2.2⟩) h1)
      have := h.2.2.1
      cases hdo : o.dst with
      | none => rfl
      | some d =>
        rw [hdo] at this
        have h9 := this d rfl
        simp only [Act.put] at h9
        rw [Array.getD_eq_getD_getElem?, Array.getElem?_setIfInBounds_self_of_lt (hlt d hdo)] at h9
        have h10 : v = V.getD i undef := h9
        rw [h10]
    · cases e
  · rename_i hw
    rw [if_neg hw] at h1
    obtain ⟨_, _, h2, h3⟩ := h1
    refine ⟨rfl, ?_, h3⟩
    show (fr x).put o.dst undef = (fr x).put o.dst (V.getD i undef)
    cases hdo : o.dst with
    | none => rfl
    | some d =>
      have h9 := h2 d hdo
      rw [hdo] at h9
      simp only [Act.put] at h9
      rw [Array.getD_eq_getD_getElem?, Array.getElem?_setIfInBounds_self_of_lt (hlt d hdo)] at h9
      have h10 : undef = V.getD i undef := h9
      rw [← h10]

end Go.Proofs.YtfikbaoiialfeaaDoor
namespace Go.Proofs.YtfikbaoiialfeaaDoor
open Go.RowKit
/-- No two operations write one slot; several may write none. -/
def dstsOkG (l : List Oper) : Bool := decide (l.filterMap (·.dst)).Nodup
theorem nodupG_tail {p : Oper} {l : List Oper} (h : ((p :: l).filterMap (·.dst)).Nodup) : (l.filterMap (·.dst)).Nodup := by
  cases hd : p.dst with
  | none => rwa [List.filterMap_cons, hd] at h
  | some d => rw [List.filterMap_cons, hd] at h; exact (List.nodup_cons.1 h).2
theorem fillFrom_setG : ∀ (l : List Oper) (k : Nat) (x : Nat → Value) (a : Act) (i : Nat) (o : Oper) (v : Value), l[i]? = some o → (l.filterMap (·.dst)).Nodup →
    (fillFrom k l x a).put o.dst v = fillFrom k l (fun j => if j = k + i then v else x j) a := by
  intro l
  induction l with
  | nil => intro k x a i o v h; simp at h
  | cons p l ih =>
    intro k x a i o v h hn
    cases i with
    | zero =>
      simp only [List.getElem?_cons_zero, Option.some.injEq] at h
      subst h
      cases hd : p.dst with
      | none => exact fillFrom_none (p :: l) k x a 0 p v rfl hd
      | some d =>
        have hno : ∀ o' ∈ l, o'.dst ≠ some d := fun o' ho e => by
          rw [List.filterMap_cons, hd] at hn
          exact (List.nodup_cons.1 hn).1 (List.mem_filterMap.2 ⟨o', ho, e⟩)
        rw [fillFrom, fillFrom, hd, ← fillFrom_put_comm d v l (k + 1) x _ hno, put_put]
        simp only [Nat.add_zero, if_true]
        have hx : ∀ (l : List Oper) (k' : Nat) (b : Act), k < k' → fillFrom k' l x b = fillFrom k' l (fun j => if j = k then v else x j) b := by
          intro l
          induction l with
          | nil => intros; rfl
          | cons q l ih2 =>
            intro k' b hk
            rw [fillFrom, fillFrom, ih2 (k' + 1) _ (by omega)]
            simp only [show ¬ k' = k by omega, if_false]
        exact hx l (k + 1) _ (by omega)
    | succ i =>
      simp only [List.getElem?_cons_succ] at h
      rw [fillFrom, fillFrom, ih (k + 1) x _ i o v h (nodupG_tail hn)]
      simp only [show ¬ k = k + (i + 1) by omega, if_false, show k + 1 + i = k + (i + 1) by omega]
theorem fillFrom_idG : ∀ (l : List Oper) (k : Nat) (a : Act), ∃ x, fillFrom k l x a = a := by
  have put_id : ∀ (a : Act) (d : Option Tmp), a.put d (match d with | some c => a.tmps.getD c undef | none => undef) = a := by
    intro a d
    cases d with
    | none => rfl
    | some c =>
      simp only [Act.put]
      have : a.tmps.setIfInBounds c (a.tmps.getD c undef) = a.tmps := by
        apply Array.ext
        · simp
        · intro j h1 h2
          rw [Array.getElem_setIfInBounds (by simpa using h1)]
          split
          · rename_i e; subst e; simp [Array.getD, h2]
          · rfl
      rw [this]
  intro l
  induction l with
  | nil => intro k a; exact ⟨fun _ => undef, rfl⟩
  | cons o l ih =>
    intro k a
    obtain ⟨x, hx⟩ := ih (k + 1) a
    refine ⟨fun j => if j = k then (match o.dst with | some c => a.tmps.getD c undef | none => undef) else x j, ?_⟩
    rw [fillFrom]
    simp only [if_true]
    rw [put_id]
    have hx2 : ∀ (l : List Oper) (k' : Nat) (b : Act) (v : Value), k < k' → fillFrom k' l (fun j => if j = k then v else x j) b = fillFrom k' l x b := by
      intro l
      induction l with
      | nil => intros; rfl
      | cons q l ih2 =>
        intro k' b v hk
        rw [fillFrom, fillFrom, ih2 (k' + 1) _ _ (by omega)]
        simp only [show ¬ k' = k by omega, if_false]
    rw [hx2 l (k + 1) a _ (by omega), hx]
section
variable {P : Program}
theorem wp_region_stG {id : Nat} {Q : Exit → Act → World → Prop} {a : Act} {w : World} {l : List Oper} (I : (Nat → Bool) → (Nat → Value) → World → Prop) (hm : P.follows .mixedOrders = true)
    (hd : dstsOkG l = true) (he : edgesOk 0 l = true)
    (base : ∀ x, I (fun _ => false) x { w with drawn := w.drawn + 1 })
    (step : ∀ i o, l[i]? = some o → ∀ (D : Nat → Bool) (x : Nat → Value) (w' : World), D i = false → I D x w' → (∀ e ∈ o.after.toList, Region.binds .any e = true → D e.on = true) → Closed l D →
      wpList P l.toArray (fun e a' w'' => e = .normal ∧ ∃ v, a' = (fillFrom 0 l x a).put o.dst v ∧ I (fun j => j == i || D j) (fun j => if j = i then v else x j) w'') [o] (fillFrom 0 l x a) w')
    (post : ∀ x w', I (fun j => decide (j < l.length)) x w' → Q .normal (fillFrom 0 l x a) w') :
    (Code.region id l.toArray true).wp P Q a w := by
  rw [dstsOkG, decide_eq_true_eq] at hd
  have hnd := hd
  have key : ∀ (fuel : Nat) (listed : Array Bool) (x : Nat → Value) (w' : World), listed.size = l.length → listed.toList.count false ≤ fuel → I (fun j => listed.getD j false) x w' →
      Closed l (fun j => listed.getD j false) → wpAny P .any l.toArray Q fuel listed (fillFrom 0 l x a) w' := by
    intro fuel
    have done : ∀ (listed : Array Bool) (x : Nat → Value) (w' : World), listed.size = l.length → I (fun j => listed.getD j false) x w' →
        Region.ready .any l.toArray listed = [] → Q .normal (fillFrom 0 l x a) w' := by
      intro listed x w' hsz hb hr
      have all : ∀ j, j < l.length → listed.getD j false = true := by
        intro j
        induction j using Nat.strongRecOn with
        | _ j ihj =>
          intro hj
          cases hl : listed.getD j false with
          | true => rfl
          | false =>
            exfalso
            have hmem : j ∈ Region.ready .any l.toArray listed := by
              rw [mem_ready]
              refine ⟨?_, l[j], by simp [hj], fun e hmem hb' => ?_⟩
              · have hjs : j < listed.size := by omega
                simp only [Array.getD, hjs, dif_pos] at hl ⊢
                exact hl
              · have hlt := edgesOk_lt l 0 he j l[j] (List.getElem?_eq_getElem hj) e (by simpa using hmem) hb'
                exact ihj e.on (by omega) (by omega)
            rw [hr] at hmem
            cases hmem
      refine post x w' ?_
      have hfun : (fun j => listed.getD j false) = (fun j => decide (j < l.length)) := by
        funext j
        by_cases hj : j < l.length
        · rw [all j hj, decide_eq_true hj]
        · rw [decide_eq_false hj]
          simp [Array.getD, hsz, hj]
      rw [← hfun]; exact hb
    induction fuel with
    | zero =>
      intro listed x w' hsz hc hb hcl
      have hr : Region.ready .any l.toArray listed = [] := by
        rw [List.eq_nil_iff_forall_not_mem]
        intro j hj
        obtain ⟨h1, o, ho, _⟩ := mem_ready.1 hj
        have hjl : j < l.length := by
          have := (Array.getElem?_eq_some_iff.1 ho).1
          simpa using this
        have hjs : j < listed.size := by omega
        have hcount : 0 < listed.toList.count false := by
          rw [List.count_pos_iff]
          simp only [Array.getD, hjs, dif_pos] at h1
          rw [← h1]
          simp
        omega
      exact ⟨hr, done listed x w' hsz hb hr⟩
    | succ fuel ih =>
      intro listed x w' hsz hc hb hcl
      refine ⟨done listed x w' hsz hb, fun i hi => ?_⟩
      obtain ⟨h1, o, ho, hdep⟩ := mem_ready.1 hi
      have hol : l[i]? = some o := by simpa using ho
      have hil : i < l.length := (List.getElem?_eq_some_iff.1 hol).1
      have his : i < listed.size := by omega
      have h1f : listed.getD i false = false := by
        simp only [Array.getD, his, dif_pos] at h1 ⊢; exact h1
      have hst := step i o hol (fun j => listed.getD j false) x w' h1f hb (fun e hmem hb' => hdep e (by simpa using hmem) hb') hcl
      have hnext : ∀ a' w'', (∃ v, a' = (fillFrom 0 l x a).put o.dst v ∧ I (fun j => j == i || listed.getD j false) (fun j => if j = i then v else x j) w'') →
          wpAny P .any l.toArray Q fuel (listed.setIfInBounds i true) a' w'' := by
        rintro a' w'' ⟨v, rfl, hb2⟩
        rw [fillFrom_setG l 0 x a i o v hol hnd, Nat.zero_add]
        have hfun : (fun j => (listed.setIfInBounds i true).getD j false) = (fun j => j == i || listed.getD j false) := by
          funext j
          by_cases hji : j = i
          · subst hji; simp [Array.getD, his]
          · rw [Array.getD_eq_getD_getElem?, Array.getElem?_setIfInBounds_ne (Ne.symm hji), ← Array.getD_eq_getD_getElem?]; simp [hji]
        refine ih _ _ w'' (by simpa using hsz) ?_ (by rw [hfun]; exact hb2) ?_
        · have : (listed.setIfInBounds i true).toList.count false + 1 = listed.toList.count false := by
            rw [Array.toList_setIfInBounds]
            have hg : listed.toList[i]? = some false := by
              simp only [Array.getD, his, dif_pos] at h1
              rw [List.getElem?_eq_getElem (by simpa using his)]
              simpa using h1
            have hil' : i < listed.toList.length := by simpa using his
            have hgi : listed.toList[i] = false := (List.getElem?_eq_some_iff.1 hg).2
            rw [List.count_set hil', hgi]
            have hpos : 0 < listed.toList.count false := by
              rw [List.count_pos_iff, ← hgi]; exact List.getElem_mem _
            have e1 : (false == false) = true := rfl
            have e2 : (true == false) = false := rfl
            rw [e1, e2]
            simp only [if_true, Bool.false_eq_true, if_false]
            omega
          omega
        · rw [hfun]
          intro j o' ho' hj e hmem hbd
          by_cases hji : j = i
          · subst hji
            obtain rfl : o = o' := by rw [hol] at ho'; exact Option.some.inj ho'
            have := hdep e (by simpa using hmem) hbd
            simp [this]
          · have hj' : listed.getD j false = true := by simpa [hji] using hj
            have := hcl j o' ho' hj' e hmem hbd
            simp only at this
            simp [this]
      unfold wpOp
      simp only [ho]
      unfold wpList at hst
      split
      · rename_i hw
        rw [if_pos hw] at hst
        rcases hst with hst | ⟨_, a'', w'', e, _⟩
        · exact .inl (wp_other (R := fun e a' w'' => e = .normal ∧ ∃ v, a' = (fillFrom 0 l x a).put o.dst v ∧ I (fun j => j == i || listed.getD j false) (fun j => if j = i then v else x j) w'') (fun a' w'' h => hnext a' w'' h.2) (fun e _ _ h => h.1) hst)
        · cases e
      · rename_i hw
        rw [if_neg hw] at hst
        exact hnext _ _ hst.2
  obtain ⟨x0, hx0⟩ := fillFrom_idG l 0 a
  refine wp_region_any hm ?_
  have hf0 : (fun j => (Array.replicate l.length false).getD j false) = (fun _ => false) := by
    funext j
    rcases Nat.lt_or_ge j l.length with h | h
    · simp [Array.getD, h]
    · simp [Array.getD, Nat.not_lt.2 h]
  have := key l.length (Array.replicate l.length false) x0 { w with drawn := w.drawn + 1 } (by simp) (by simp) (by rw [hf0]; exact base x0) (by rw [hf0]; intro j o ho hj; cases hj)
  rw [hx0] at this
  simpa using this
end
/-- Behind one operation: nothing is deferred, the state with the value in its slot if it has one. -/
def GPost (ds : List Deferred) (d : Option Tmp) (R : Value → World → Prop) (e : Exit) (a' : Act) (w'' : World) : Prop :=
  e = .normal ∧ a'.defers = ds ∧ ∃ v, (∀ c, d = some c → a'.tmps.getD c undef = v) ∧ R v w''
theorem gPost_mk {ds : List Deferred} {d : Nat} {R : Value → World → Prop} {a' : Act} {w'' : World} {v : Value} (h1 : a'.defers = ds) (h2 : a'.tmps.getD d undef = v) (h3 : R v w'') : GPost ds (some d) R .normal a' w'' :=
  ⟨rfl, h1, v, fun c hc => by obtain rfl := Option.some.inj hc; exact h2, h3⟩
theorem gPost_no {ds : List Deferred} {R : Value → World → Prop} {a' : Act} {w'' : World} (h1 : a'.defers = ds) (h3 : R undef w'') : GPost ds none R .normal a' w'' := ⟨rfl, h1, undef, fun c hc => (by cases hc), h3⟩
def GStep (P : Program) (l : List Oper) (fr : (Nat → Value) → Act) (I : (Nat → Bool) → (Nat → Value) → World → Prop) (i : Nat) (o : Oper) : Prop :=
  ∀ (D : Nat → Bool) (x : Nat → Value) (w' : World), D i = false → I D x w' → (∀ j, waits o j = true → D j = true) → Closed l D →
    wpList P l.toArray (GPost (fr x).defers o.dst (fun v => I (fun j => j == i || D j) (fun j => if j = i then v else x j))) [o] (fr x) w'
def GSteps (P : Program) (l : List Oper) (fr : (Nat → Value) → Act) (I : (Nat → Bool) → (Nat → Value) → World → Prop) : Nat → List Oper → Prop
  | _, [] => True
  | k, o :: rest => GStep P l fr I k o ∧ GSteps P l fr I (k + 1) rest
theorem gSteps_all {P : Program} {l : List Oper} {fr : (Nat → Value) → Act} {I : (Nat → Bool) → (Nat → Value) → World → Prop} : ∀ (m : List Oper) (k : Nat), GSteps P l fr I k m → ∀ i o, m[i]? = some o → GStep P l fr I (k + i) o := by
  intro m
  induction m with
  | nil => intro k _ i o h; simp at h
  | cons p m ih =>
    intro k h i o hi
    cases i with
    | zero =>
      simp only [List.getElem?_cons_zero, Option.some.injEq] at hi
      subst hi; exact h.1
    | succ i =>
      have := ih (k + 1) h.2 i o (by simpa using hi)
      rwa [show k + 1 + i = k + (i + 1) by omega] at this
/-- The state, shut: the walk's rewriting leaves it alone. -/
structure GSt (I : (Nat → Bool) → (Nat → Value) → World → Prop) (D : Nat → Bool) (x : Nat → Value) (W : World) : Prop where
  out : I D x W
/-- The region, told by a state that goes by what is done and by the values so far, its frame written out, one step an operation. -/
theorem wp_region_stateG {P : Program} {id : Nat} {Q : Exit → Act → World → Prop} {a : Act} {w : World} {l : List Oper} {fr : (Nat → Value) → Act} (I : (Nat → Bool) → (Nat → Value) → World → Prop) (hm : P.follows .mixedOrders = true)
    (hd : dstsOkG l = true) (he : edgesOk 0 l = true) (hf : inFrame1 a.tmps.size l = true) (hfr : ∀ x, fillFrom 0 l x a = fr x)
    (base : ∀ x, I (fun _ => false) x { w with drawn := w.drawn + 1 }) (steps : GSteps P l fr (GSt I) 0 l)
    (post : ∀ w' (x : Nat → Value), I (fun j => decide (j < l.length)) x w' → Q .normal (fr x) w') : (Code.region id l.toArray true).wp P Q a w := by
  refine wp_region_stG (GSt I) hm hd he (fun x => ⟨base x⟩) (fun i o ho D x w' hD hI hdep hcl => ?_) (fun x w' hI => by rw [hfr]; exact post w' x hI.out)
  have hst := by simpa using gSteps_all l 0 steps i o ho
  have h1 := hst D x w' hD hI (fun j hj => by
    simp only [waits, List.any_eq_true, Bool.and_eq_true, beq_iff_eq] at hj
    obtain ⟨e, he1, he2, he3⟩ := hj
    rw [← he2]; exact hdep e he1 he3) hcl
  rw [hfr]
  have hlt : ∀ d, o.dst = some d → d < (fr x).tmps.size := fun d hdo => by
    rw [← hfr, fillFrom_size]
    have := List.all_eq_true.1 hf o (List.mem_of_getElem? ho)
    rw [hdo] at this
    simpa using this
  unfold wpList at h1 ⊢
  split
  · rename_i hw
    rw [if_pos hw] at h1
    rcases h1 with h1 | ⟨_, a'', w'', e, _⟩
    · refine .inl (wp_put (R := GPost (fr x).defers o.dst (fun v => GSt I (fun j => j == i || D j) (fun j => if j = i then v else x j))) (fun e _ _ h => h.1) (fun _ _ h => h.2.1) (fun v w'' h => ⟨rfl, ?_⟩) h1)
      obtain ⟨_, _, u, hu, hI2⟩ := h
      refine ⟨u, ?_, hI2⟩
      cases hdo : o.dst with
      | none => rfl
      | some d =>
        have h9 := hu d hdo
        rw [hdo] at h9
        simp only [Act.put] at h9
        rw [Array.getD_eq_getD_getElem?, Array.getElem?_setIfInBounds_self_of_lt (hlt d hdo)] at h9
        have h10 : v = u := h9
        rw [h10]
    · cases e
  · rename_i hw
    rw [if_neg hw] at h1
    obtain ⟨_, _, u, hu, hI2⟩ := h1
    refine ⟨rfl, u, ?_, hI2⟩
    cases hdo : o.dst with
    | none => rfl
    | some d =>
      have h9 := hu d hdo
      rw [hdo] at h9
      simp only [Act.put] at h9
      rw [Array.getD_eq_getD_getElem?, Array.getElem?_setIfInBounds_self_of_lt (hlt d hdo)] at h9
      have h10 : undef = u := h9
      rw [← h10]
end Go.Proofs.YtfikbaoiialfeaaDoor
namespace Go.Proofs.YtfikbaoiialfeaaDoor
open Go.RowKit
attribute [local go_sem] strV
set_option linter.unusedVariables false

set_option maxRecDepth 100000 in
set_option maxHeartbeats 4000000 in
theorem refFoldN_any : ∀ (n i : Nat) (z : H32) (wy : List H32) (a : Option Addr) (k cap : Nat) (w : World), i < n → n ≤ 1073741824 → wy.length = deepN n i → wy.length = k → k ≤ cap → cap ≤ maxLen → RowAt w a (wy.flatMap H32.cells) →
    Calls Tryd.prog 11 #[.int .i64 n, .int .i64 i, .agg (hrow z.1), .slice a k cap] w fun e w' => e = .returned (.tuple #[.agg (hrow (foldH n i z wy).1), .bool true]) ∧ Below w.heap.size w w' := by
  intro n
  induction n using Nat.strongRecOn with
  | _ n ih =>
  intro i z wy a k cap w hi hn3 hd hk hcap hcm hr
  have hq : (hrow z.1).size = 32 := by rw [hrow_size]; exact z.2
  have hqone := hrow_one z.1
  have g0 := al2_0 w (.cells (hrow z.1) 25) (.cells #[Value.int .u8 0, Value.int .u8 0, Value.int .u8 0, Value.int .u8 0, Value.int .u8 0, Value.int .u8 0, Value.int .u8 0, Value.int .u8 0, Value.int .u8 0, Value.int .u8 0, Value.int .u8 0, Value.int .u8 0, Value.int .u8 0, Value.int .u8 0, Value.int .u8 0, Value.int .u8 0, Value.int .u8 0, Value.int .u8 0, Value.int .u8 0, Value.int .u8 0, Value.int .u8 0, Value.int .u8 0, Value.int .u8 0, Value.int .u8 0, Value.int .u8 0, Value.int .u8 0, Value.int .u8 0, Value.int .u8 0, Value.int .u8 0, Value.int .u8 0, Value.int .u8 0, Value.int .u8 0] 25)
  have g9 := al2_1 w (.cells (hrow z.1) 25) (.cells #[Value.int .u8 0, Value.int .u8 0, Value.int .u8 0, Value.int .u8 0, Value.int .u8 0, Value.int .u8 0, Value.int .u8 0, Value.int .u8 0, Value.int .u8 0, Value.int .u8 0, Value.int .u8 0, Value.int .u8 0, Value.int .u8 0, Value.int .u8 0, Value.int .u8 0, Value.int .u8 0, Value.int .u8 0, Value.int .u8 0, Value.int .u8 0, Value.int .u8 0, Value.int .u8 0, Value.int .u8 0, Value.int .u8 0, Value.int .u8 0, Value.int .u8 0, Value.int .u8 0, Value.int .u8 0, Value.int .u8 0, Value.int .u8 0, Value.int .u8 0, Value.int .u8 0, Value.int .u8 0] 25)
  have hbA := al2_below w (.cells (hrow z.1) 25) (.cells #[Value.int .u8 0, Value.int .u8 0, Value.int .u8 0, Value.int .u8 0, Value.int .u8 0, Value.int .u8 0, Value.int .u8 0, Value.int .u8 0, Value.int .u8 0, Value.int .u8 0, Value.int .u8 0, Value.int .u8 0, Value.int .u8 0, Value.int .u8 0, Value.int .u8 0, Value.int .u8 0, Value.int .u8 0, Value.int .u8 0, Value.int .u8 0, Value.int .u8 0, Value.int .u8 0, Value.int .u8 0, Value.int .u8 0, Value.int .u8 0, Value.int .u8 0, Value.int .u8 0, Value.int .u8 0, Value.int .u8 0, Value.int .u8 0, Value.int .u8 0, Value.int .u8 0, Value.int .u8 0] 25)
  have CD := fun W => refDeep_any (n : Int) (i : Int) W
  have hdI : deepI (n : Int) (i : Int) = (k : Nat) := by
    unfold deepI; rw [insB_iff.2 ⟨by omega, by omega, by omega⟩]; simp [← hd, hk]
  simp only [hdI] at CD
  have e1 : decide ((n : Int) < 1) = false := decide_eq_false (by omega)
  have e2 : decide (1073741824 < (n : Int)) = false := decide_eq_false (by omega)
  have e2n : decide (1073741824 < n) = false := decide_eq_false (by omega)
  have e3 : decide ((i : Int) < 0) = false := decide_eq_false (by omega)
  have e4 : decide ((n : Int) ≤ (i : Int)) = false := decide_eq_false (by omega)
  have e4n : decide (n ≤ i) = false := decide_eq_false (by omega)
  have e5 : ((k : Int) != (k : Int)) = false := by simp
  have e5n : (k != k) = false := by simp
  clear hdI
  rcases Nat.lt_or_ge n 2 with hn2 | hn2
  · obtain rfl : n = 1 := by omega
    obtain rfl : i = 0 := by omega
    have HR : Hid ((foldH 1 0 z wy).1 = z.1) := Lib.hid (by rw [foldH_one (by omega)])
    clear ih e1 e2 e2n e3 e4 e4n
    go_enter Tryd.func11, Tryd.ntmps11
    go_upto_region 1 with fail
    refine wp_nameE _ (fun W1 hX => ?_)
    have y0 : W1.heap[w.heap.size]? = some (.cells (hrow z.1) 25 (0, 0)) := by rw [hX]; exact g0
    have y9 : W1.heap[w.heap.size + 1]? = some (.cells #[Value.int .u8 0, Value.int .u8 0, Value.int .u8 0, Value.int .u8 0, Value.int .u8 0, Value.int .u8 0, Value.int .u8 0, Value.int .u8 0, Value.int .u8 0, Value.int .u8 0, Value.int .u8 0, Value.int .u8 0, Value.int .u8 0, Value.int .u8 0, Value.int .u8 0, Value.int .u8 0, Value.int .u8 0, Value.int .u8 0, Value.int .u8 0, Value.int .u8 0, Value.int .u8 0, Value.int .u8 0, Value.int .u8 0, Value.int .u8 0, Value.int .u8 0, Value.int .u8 0, Value.int .u8 0, Value.int .u8 0, Value.int .u8 0, Value.int .u8 0, Value.int .u8 0, Value.int .u8 0] 25 (0, 0)) := by rw [hX]; exact g9
    have hbel : Below w.heap.size w W1 := by rw [hX]; exact hbA
    clear hX g0 g9 hbA
    have hy0 : w.heap.size < W1.heap.size := (Array.getElem?_eq_some_iff.1 y0).1
    have hy9 : w.heap.size + 1 < W1.heap.size := (Array.getElem?_eq_some_iff.1 y9).1
    go_upto_region 4 with (go_at_call 26; refine (CD _).mono ?_; rintro e w2 ⟨rfl, hb⟩; have y0 := cells_of y0 hb hy0; have y9 := cells_of y9 hb hy9; have hy0 := Nat.lt_of_lt_of_le hy0 hb.size; have hy9 := Nat.lt_of_lt_of_le hy9 hb.size; have hbel := hbel.trans (hb.mono hbel.size); clear hb)
    have hrg := hrow_range y0
    go_wp2_with (first | (refine wpList_load_mid rfl 25 (.tmp 6) rfl w.heap.size 0 rfl z.cells _ hrg Tryd.underlying25 rfl (hash_info z) ?_; rw [H32.row]) | (refine wpList_storeRowTo (Z := hrow z.1) rfl (.tmp 8) (.tmp 42) 25 rfl (by rw [hq]; kernel_rfl) rfl (by rfl) y9 (by rw [hq]; rfl) hqone ?_))
    have hrd := run_loadVar_row (P := Tryd.prog) _ _ 25 25 _ (0, 0) _ (setRow_heap _ _ _ _ _ _ y9) Tryd.underlying25 rfl (by rw [hq]; kernel_rfl)
    refine bodyPost_ret (v := .tuple #[.agg (hrow (z.1)), .bool true]) ?_ rfl ?_
    · simp [results, Tryd.results11, asAddr, hrd]
      try rfl
    exact ⟨by rw [HR.out], below_setRow hbel (by omega) _⟩
  have d2 : ((n : Int) == 1) = false := beq_eq_false_iff_ne.2 (by omega)
  have hk1 : 1 ≤ k := by
    rw [← hk, hd]
    by_cases hh : i < halfN n
    · rw [deepN_left hn2 hh]; omega
    · rw [deepN_right hn2 hh]; omega
  obtain ⟨wp, q, rfl⟩ : ∃ wp q, wy = wp ++ [q] := by
    rcases List.eq_nil_or_concat wy with h | ⟨l, b, h⟩
    · rw [h] at hk; simp at hk; omega
    · exact ⟨l, b, by rw [h, List.concat_eq_append]⟩
  rw [List.length_append, List.length_singleton] at hk hd
  obtain ⟨kk, hkk⟩ : ∃ kk, wp.length = kk := ⟨_, rfl⟩
  have hk30 := deepN_30 (n := n) (i := i) hn3
  have hrp : RowAt w a (wp.flatMap H32.cells) := by
    have := hs_take hr kk
    rw [List.take_append_of_le_length (by omega), List.take_of_length_le (by omega)] at this
    exact this
  obtain ⟨b, off, rfl, _, _⟩ := hs_at hr (k := 0) (by simp)
  have hr0 := hr
  have CH := fun W : World => refHalfN_any n W hn2 hn3
  have hlt := halfN_lt hn2
  have hpos := halfN_pos n
  have n0 : (0 : Int) ≤ (kk : Int) := by omega
  have n1 : (1 : Int) ≤ (k : Int) := by omega
  have n1' : (k : Int) ≤ 1000 := by omega
  have n2 : (kk : Int) ≤ (cap : Int) := by omega
  have n3 : (kk : Int) ≤ (k : Int) := by omega
  have n3' : (kk : Int) < (k : Int) := by omega
  have n4 : (k : Int) ≤ (cap : Int) := by omega
  have n5 : ((kk : Nat) : Int).toNat = kk := by omega
  have n6 : kk ≤ cap := by omega
  have n7 : kk ≤ k := by omega
  have n8 : kk < k := by omega
  by_cases hh : i < halfN n
  · have hfl := foldH_left (n := n) (i := i) hn2 hh z (wp ++ [q])
    have hdn := deepN_left hn2 hh
    rw [List.dropLast_concat, List.getLastD_concat] at hfl
    have IH := fun W => ih (halfN n) hlt i z wp (some ⟨b, off, none⟩) kk cap W hh (by omega) (by omega) hkk (by omega) hcm
    obtain ⟨h, hhh⟩ : ∃ h, halfN n = h := ⟨_, rfl⟩
    simp only [hhh] at hfl CH IH hh hlt hpos
    obtain ⟨FX, hFX⟩ : ∃ F, foldH h i z wp = F := ⟨_, rfl⟩
    simp only [hFX] at hfl IH
    have HR : Hid ((foldH n i z (wp ++ [q])).1 = nodeF FX.1 q.1) := Lib.hid (by rw [hfl]; rfl)
    have dd : decide ((i : Int) < (h : Int)) = true := decide_eq_true (by omega)
    have ddn : decide (i < h) = true := decide_eq_true hh
    clear hhh hFX hfl ih hdn
    go_enter Tryd.func11, Tryd.ntmps11
    go_upto_region 1 with fail
    refine wp_nameE _ (fun W1 hX => ?_)
    have y0 : W1.heap[w.heap.size]? = some (.cells (hrow z.1) 25 (0, 0)) := by rw [hX]; exact g0
    have y9 : W1.heap[w.heap.size + 1]? = some (.cells #[Value.int .u8 0, Value.int .u8 0, Value.int .u8 0, Value.int .u8 0, Value.int .u8 0, Value.int .u8 0, Value.int .u8 0, Value.int .u8 0, Value.int .u8 0, Value.int .u8 0, Value.int .u8 0, Value.int .u8 0, Value.int .u8 0, Value.int .u8 0, Value.int .u8 0, Value.int .u8 0, Value.int .u8 0, Value.int .u8 0, Value.int .u8 0, Value.int .u8 0, Value.int .u8 0, Value.int .u8 0, Value.int .u8 0, Value.int .u8 0, Value.int .u8 0, Value.int .u8 0, Value.int .u8 0, Value.int .u8 0, Value.int .u8 0, Value.int .u8 0, Value.int .u8 0, Value.int .u8 0] 25 (0, 0)) := by rw [hX]; exact g9
    have hbel : Below w.heap.size w W1 := by rw [hX]; exact hbA
    clear hX g0 g9 hbA
    have hy0 : w.heap.size < W1.heap.size := (Array.getElem?_eq_some_iff.1 y0).1
    have hy9 : w.heap.size + 1 < W1.heap.size := (Array.getElem?_eq_some_iff.1 y9).1
    have hsub : (k : Int) - 1 = ((kk : Nat) : Int) := by omega
    go_upto_region 7 with (first | (go_at_call 26; refine (CD _).mono ?_; rintro e w2 ⟨rfl, hb⟩; have y0 := cells_of y0 hb hy0; have y9 := cells_of y9 hb hy9; have hy0 := Nat.lt_of_lt_of_le hy0 hb.size; have hy9 := Nat.lt_of_lt_of_le hy9 hb.size; have hbel := hbel.trans (hb.mono hbel.size); clear hb) | (go_at_call 19; refine (CH _).mono ?_; rintro e w2 ⟨rfl, hb⟩; have y0 := cells_of y0 hb hy0; have y9 := cells_of y9 hb hy9; have hy0 := Nat.lt_of_lt_of_le hy0 hb.size; have hy9 := Nat.lt_of_lt_of_le hy9 hb.size; have hbel := hbel.trans (hb.mono hbel.size); clear hb))
    have hr := hr.below hbel
    clear hsub CH CD
    have hsF : (hrow FX.1).size = 32 := by rw [hrow_size]; exact FX.2
    have hoF := hrow_one FX.1
    refine wp_region_stateG (fun D x W => (D 0 = true → x 0 = .int .i64 (h : Int)) ∧ (D 1 = true → x 1 = .int .i64 (i : Int)) ∧ (D 2 = true → x 2 = .agg (hrow z.1)) ∧ (D 3 = true → x 3 = .slice (some ⟨b, off, none⟩) k cap) ∧ (D 4 = true → x 4 = .int .i64 (kk : Int)) ∧ (D 5 = true → x 5 = .slice (some ⟨b, off, none⟩) kk cap) ∧ (D 6 = true → x 6 = .tuple #[.agg (hrow FX.1), .bool true]) ∧ (D 7 = true → x 7 = .tuple #[.agg (hrow FX.1), .bool true]) ∧ (D 8 = true → x 8 = .agg (hrow FX.1)) ∧ (D 9 = true → x 9 = .bool true) ∧ (D 10 = true → ∃ g, x 10 = .pointer (some ⟨g, 0, none⟩) ∧ w2.heap.size ≤ g ∧ W.heap[g]? = some (.cells (bif D 11 then hrow FX.1 else #[Value.int .u8 0, Value.int .u8 0, Value.int .u8 0, Value.int .u8 0, Value.int .u8 0, Value.int .u8 0, Value.int .u8 0, Value.int .u8 0, Value.int .u8 0, Value.int .u8 0, Value.int .u8 0, Value.int .u8 0, Value.int .u8 0, Value.int .u8 0, Value.int .u8 0, Value.int .u8 0, Value.int .u8 0, Value.int .u8 0, Value.int .u8 0, Value.int .u8 0, Value.int .u8 0, Value.int .u8 0, Value.int .u8 0, Value.int .u8 0, Value.int .u8 0, Value.int .u8 0, Value.int .u8 0, Value.int .u8 0, Value.int .u8 0, Value.int .u8 0, Value.int .u8 0, Value.int .u8 0]) 25 (0, 0))) ∧ (D 11 = true → D 10 = true) ∧ (D 12 = true → x 12 = .bool true) ∧ Below w2.heap.size w2 W) (by kernel_rfl) (by kernel_rfl) (by kernel_rfl) (by kernel_rfl) (fun x => by simp only [fillFrom, Act.put, List.setIfInBounds_toArray, List.set_cons_succ, List.set_cons_zero, Nat.zero_add, Nat.reduceAdd]; rfl) ?_ ?_ ?_
    case refine_1 =>
      exact fun x => ⟨(fun h => by cases h), (fun h => by cases h), (fun h => by cases h), (fun h => by cases h), (fun h => by cases h), (fun h => by cases h), (fun h => by cases h), (fun h => by cases h), (fun h => by cases h), (fun h => by cases h), (fun h => by cases h), (fun h => by cases h), (fun h => by cases h), (Below.refl _ _).drew⟩
    case refine_2 =>
      refine ⟨?_, ?_, ?_, ?_, ?_, ?_, ?_, ?_, ?_, ?_, ?_, ?_, ?_, trivial⟩
      · intro D x w' hD hI hw hcl
        obtain ⟨i0, i1, i2, i3, i4, i5, i6, i7, i8, i9, i10, i11, i12, iB⟩ := hI.out
        clear hw
        go_wp2_with fail
        refine gPost_mk (v := .int .i64 (h : Int)) rfl rfl ?_
        exact ⟨⟨(fun _ => rfl), i1, i2, i3, i4, i5, i6, i7, i8, i9, i10, i11, i12, iB⟩⟩
      · intro D x w' hD hI hw hcl
        obtain ⟨i0, i1, i2, i3, i4, i5, i6, i7, i8, i9, i10, i11, i12, iB⟩ := hI.out
        clear hw
        go_wp2_with fail
        refine gPost_mk (v := .int .i64 (i : Int)) rfl rfl ?_
        exact ⟨⟨i0, (fun _ => rfl), i2, i3, i4, i5, i6, i7, i8, i9, i10, i11, i12, iB⟩⟩
      · intro D x w' hD hI hw hcl
        obtain ⟨i0, i1, i2, i3, i4, i5, i6, i7, i8, i9, i10, i11, i12, iB⟩ := hI.out
        clear hw
        have hrg := hrow_range (cells_of y0 iB hy0)
        go_wp2_with (refine wpList_load_mid rfl 25 (.tmp 6) rfl w.heap.size 0 rfl z.cells _ hrg Tryd.underlying25 rfl (hash_info z) ?_; rw [H32.row])
        refine gPost_mk (v := .agg (hrow z.1)) rfl rfl ?_
        exact ⟨⟨i0, i1, (fun _ => rfl), i3, i4, i5, i6, i7, i8, i9, i10, i11, i12, iB⟩⟩
      · intro D x w' hD hI hw hcl
        obtain ⟨i0, i1, i2, i3, i4, i5, i6, i7, i8, i9, i10, i11, i12, iB⟩ := hI.out
        clear hw
        go_wp2_with fail
        refine gPost_mk (v := .slice (some ⟨b, off, none⟩) k cap) rfl rfl ?_
        exact ⟨⟨i0, i1, i2, (fun _ => rfl), i4, i5, i6, i7, i8, i9, i10, i11, i12, iB⟩⟩
      · intro D x w' hD hI hw hcl
        obtain ⟨i0, i1, i2, i3, i4, i5, i6, i7, i8, i9, i10, i11, i12, iB⟩ := hI.out
        clear hw
        go_wp2_with fail
        refine gPost_mk (v := .int .i64 (kk : Int)) rfl rfl ?_
        exact ⟨⟨i0, i1, i2, i3, (fun _ => rfl), i5, i6, i7, i8, i9, i10, i11, i12, iB⟩⟩
      · intro D x w' hD hI hw hcl
        obtain ⟨i0, i1, i2, i3, i4, i5, i6, i7, i8, i9, i10, i11, i12, iB⟩ := hI.out
        have d3 : x 3 = .slice (some ⟨b, off, none⟩) k cap := i3 (hw 3 rfl)
        have d4 : x 4 = .int .i64 (kk : Int) := i4 (hw 4 rfl)
        clear hw
        go_wp2_with fail
        refine gPost_mk (v := .slice (some ⟨b, off, none⟩) kk cap) rfl rfl ?_
        exact ⟨⟨i0, i1, i2, i3, i4, (fun _ => rfl), i6, i7, i8, i9, i10, i11, i12, iB⟩⟩
      · intro D x w' hD hI hw hcl
        obtain ⟨i0, i1, i2, i3, i4, i5, i6, i7, i8, i9, i10, i11, i12, iB⟩ := hI.out
        have d0 : x 0 = .int .i64 (h : Int) := i0 (hw 0 rfl)
        have d1 : x 1 = .int .i64 (i : Int) := i1 (hw 1 rfl)
        have d2 : x 2 = .agg (hrow z.1) := i2 (hw 2 rfl)
        have d5 : x 5 = .slice (some ⟨b, off, none⟩) kk cap := i5 (hw 5 rfl)
        clear hw
        have CC := IH w' (hrp.below (hbel.trans (iB.mono hbel.size)))
        go_wp2_with (go_at_call 11; refine (CC).mono ?_; rintro e wx ⟨rfl, hbx⟩)
        refine gPost_mk (v := .tuple #[.agg (hrow FX.1), .bool true]) rfl rfl ?_
        exact ⟨⟨i0, i1, i2, i3, i4, i5, (fun _ => rfl), i7, i8, i9, (fun h => by obtain ⟨g, e1, e2, e3⟩ := i10 h; exact ⟨g, e1, e2, cells_of e3 hbx (Array.getElem?_eq_some_iff.1 e3).1⟩), i11, i12, iB.trans (hbx.mono iB.size)⟩⟩
      · intro D x w' hD hI hw hcl
        obtain ⟨i0, i1, i2, i3, i4, i5, i6, i7, i8, i9, i10, i11, i12, iB⟩ := hI.out
        have d6 : x 6 = .tuple #[.agg (hrow FX.1), .bool true] := i6 (hw 6 rfl)
        clear hw
        go_wp2_with fail
        refine gPost_mk (v := .tuple #[.agg (hrow FX.1), .bool true]) rfl rfl ?_
        exact ⟨⟨i0, i1, i2, i3, i4, i5, i6, (fun _ => rfl), i8, i9, i10, i11, i12, iB⟩⟩
      · intro D x w' hD hI hw hcl
        obtain ⟨i0, i1, i2, i3, i4, i5, i6, i7, i8, i9, i10, i11, i12, iB⟩ := hI.out
        have d7 : x 7 = .tuple #[.agg (hrow FX.1), .bool true] := i7 (hw 7 rfl)
        clear hw
        go_wp2_with fail
        refine gPost_mk (v := .agg (hrow FX.1)) rfl rfl ?_
        exact ⟨⟨i0, i1, i2, i3, i4, i5, i6, i7, (fun _ => rfl), i9, i10, i11, i12, iB⟩⟩
      · intro D x w' hD hI hw hcl
        obtain ⟨i0, i1, i2, i3, i4, i5, i6, i7, i8, i9, i10, i11, i12, iB⟩ := hI.out
        have d7 : x 7 = .tuple #[.agg (hrow FX.1), .bool true] := i7 (hw 7 rfl)
        clear hw
        go_wp2_with fail
        refine gPost_mk (v := .bool true) rfl rfl ?_
        exact ⟨⟨i0, i1, i2, i3, i4, i5, i6, i7, i8, (fun _ => rfl), i10, i11, i12, iB⟩⟩
      · intro D x w' hD hI hw hcl
        obtain ⟨i0, i1, i2, i3, i4, i5, i6, i7, i8, i9, i10, i11, i12, iB⟩ := hI.out
        clear hw
        have hs : D 11 = false := by
          cases h : D 11 with
          | false => rfl
          | true => rw [i11 h] at hD; cases hD
        go_wp2_with fail
        refine gPost_mk (v := .pointer (some ⟨w'.heap.size, 0, none⟩)) rfl rfl ?_
        exact ⟨⟨i0, i1, i2, i3, i4, i5, i6, i7, i8, i9, (fun _ => ⟨w'.heap.size, rfl, iB.size, by show _ = some (Obj.cells (bif D 11 then _ else _) _ (0, 0)); rw [hs]; exact heap_pushF _ _ _⟩), (fun _ => rfl), i12, Below.alloc iB iB.size _⟩⟩
      · intro D x w' hD hI hw hcl
        obtain ⟨i0, i1, i2, i3, i4, i5, i6, i7, i8, i9, i10, i11, i12, iB⟩ := hI.out
        have d8 : x 8 = .agg (hrow FX.1) := i8 (hw 8 rfl)
        have hD10 : D 10 = true := hw 10 rfl
        obtain ⟨g, d10, e2, e3⟩ := i10 hD10
        clear hw
        simp only [d8, d10]
        rw [hD] at e3
        have e3 : w'.heap[g]? = some (.cells #[Value.int .u8 0, Value.int .u8 0, Value.int .u8 0, Value.int .u8 0, Value.int .u8 0, Value.int .u8 0, Value.int .u8 0, Value.int .u8 0, Value.int .u8 0, Value.int .u8 0, Value.int .u8 0, Value.int .u8 0, Value.int .u8 0, Value.int .u8 0, Value.int .u8 0, Value.int .u8 0, Value.int .u8 0, Value.int .u8 0, Value.int .u8 0, Value.int .u8 0, Value.int .u8 0, Value.int .u8 0, Value.int .u8 0, Value.int .u8 0, Value.int .u8 0, Value.int .u8 0, Value.int .u8 0, Value.int .u8 0, Value.int .u8 0, Value.int .u8 0, Value.int .u8 0, Value.int .u8 0] 25 (0, 0)) := e3
        go_wp2_with (refine wpList_storeRowTo (Z := hrow FX.1) rfl (.tmp 12) (.tmp 59) 25 rfl (by rw [hsF]; kernel_rfl) rfl (by rfl) e3 (by rw [hsF]; rfl) hoF ?_)
        refine gPost_no rfl ?_
        exact ⟨⟨i0, i1, i2, i3, i4, i5, i6, i7, i8, i9, (fun _ => ⟨g, d10, e2, setRow_heap _ _ _ _ _ _ e3⟩), (fun _ => hD10), i12, below_setRow iB e2 _⟩⟩
      · intro D x w' hD hI hw hcl
        obtain ⟨i0, i1, i2, i3, i4, i5, i6, i7, i8, i9, i10, i11, i12, iB⟩ := hI.out
        have d9 : x 9 = .bool true := i9 (hw 9 rfl)
        clear hw
        go_wp2_with fail
        refine gPost_mk (v := .bool true) rfl rfl ?_
        exact ⟨⟨i0, i1, i2, i3, i4, i5, i6, i7, i8, i9, i10, i11, (fun _ => rfl), iB⟩⟩
    · intro w' X hI
      obtain ⟨j0, j1, j2, j3, j4, j5, j6, j7, j8, j9, j10, j11, j12, jB⟩ := hI
      have f7 : X 12 = .bool true := j12 rfl
      obtain ⟨g, hx7, hBg, hT⟩ := j10 rfl
      have hT : w'.heap[g]? = some (.cells (hrow FX.1) 25 (0, 0)) := hT
      clear j0 j1 j2 j3 j4 j5 j6 j7 j8 j9 j10 j11 j12
      simp only [f7, hx7]
      have y9 := cells_of y9 jB hy9
      have hbel := hbel.trans (jB.mono hbel.size)
      go_upto_region 8 with fail
      refine wp_nameE _ (fun W5 hX => ?_)
      rw [← hX] at hT y9 hbel
      clear hX
      have hr : RowAt W5 (some ⟨b, off, none⟩) ((wp ++ [q]).flatMap H32.cells) := hr0.below hbel
      have hTl : g < W5.heap.size := (Array.getElem?_eq_some_iff.1 hT).1
      have hy9 : w.heap.size + 1 < W5.heap.size := (Array.getElem?_eq_some_iff.1 y9).1
      obtain ⟨b2, o2, he2, hb2, hrgq⟩ := hs_at hr (k := kk) (by simp; omega)
      simp only [Option.some.injEq, Addr.mk.injEq, and_true] at he2
      obtain ⟨rfl, rfl⟩ := he2
      rw [show (wp ++ [q])[kk]'(by simp; omega) = q by simp [← hkk]] at hrgq
      refine wp_region_facts_chain 6 (by decide) [Fact.eq (.agg (hrow FX.1)), Fact.eq (.slice (some ⟨b, off, none⟩) k cap), Fact.eq (.int .i64 (kk : Int)), Fact.eq (.pointer (some ⟨b, off + kk * 32, none⟩)), Fact.eq (.agg (hrow q.1)), Fact.eq (.agg (hrow (nodeF FX.1 q.1)))] (by kernel_rfl) (by kernel_rfl) (by kernel_rfl) (by kernel_rfl) (by kernel_rfl) (by kernel_rfl) (by kernel_rfl) (fun x => by simp only [List.take_succ_cons, List.take_zero, fillFrom, Act.put, List.setIfInBounds_toArray, List.set_cons_succ, List.set_cons_zero]; rfl) ?_ ?_
      · refine ⟨?_, ?_, ?_, ?_, ?_, ?_, trivial⟩
        · intro x w' hbw hd
          clear hd
          have hrg := hrow_range (cells_of hT hbw hTl)
          go_wp2_with (first | (refine wpList_load_mid rfl 25 (.tmp 12) rfl g 0 rfl FX.cells _ hrg Tryd.underlying25 rfl (hash_info FX) ?_; rw [H32.row]))
          exact frPost_mk rfl (by repeat (first | assumption | exact Below.refl _ _ | refine bch ?_ (by assumption) | refine Below.alloc ?_ (by simp) _)) rfl
        · intro x w' hbw hd
          clear hd
          go_wp2_with fail
          exact frPost_mk rfl (by repeat (first | assumption | exact Below.refl _ _ | refine bch ?_ (by assumption) | refine Below.alloc ?_ (by simp) _)) rfl
        · intro x w' hbw hd
          clear hd
          go_wp2_with fail
          exact frPost_mk rfl (by repeat (first | assumption | exact Below.refl _ _ | refine bch ?_ (by assumption) | refine Below.alloc ?_ (by simp) _)) rfl
        · intro x w' hbw hd
          have d1 : x 1 = .slice (some ⟨b, off, none⟩) k cap := hd 1 rfl
          have d2 : x 2 = .int .i64 (kk : Int) := hd 2 rfl
          clear hd
          go_wp2_with fail
          exact frPost_mk rfl (by repeat (first | assumption | exact Below.refl _ _ | refine bch ?_ (by assumption) | refine Below.alloc ?_ (by simp) _)) rfl
        · intro x w' hbw hd
          have d3 : x 3 = .pointer (some ⟨b, off + kk * 32, none⟩) := hd 3 rfl
          clear hd
          have hrg : w'.rangeAt b (off + kk * 32) q.cells := fun j v hv => by rw [hbw.cell (p := ⟨b, off + kk * 32 + j, none⟩) hb2]; exact hrgq j v hv
          go_wp2_with (first | (refine wpList_load_mid rfl 25 (.tmp 64) rfl b (off + kk * 32) d3 q.cells _ hrg Tryd.underlying25 rfl (hash_info q) ?_; rw [H32.row]))
          exact frPost_mk rfl (by repeat (first | assumption | exact Below.refl _ _ | refine bch ?_ (by assumption) | refine Below.alloc ?_ (by simp) _)) rfl
        · intro x w' hbw hd
          have d0 : x 0 = .agg (hrow FX.1) := hd 0 rfl
          have d4 : x 4 = .agg (hrow q.1) := hd 4 rfl
          clear hd
          have CC := refNode_any FX.1 q.1 w' FX.2 q.2
          go_wp2_with (first | (go_at_call 15; refine (CC).mono ?_; rintro e wx ⟨rfl, hbx⟩))
          exact frPost_mk rfl (by repeat (first | assumption | exact Below.refl _ _ | refine bch ?_ (by assumption) | refine Below.alloc ?_ (by simp) _)) rfl
      · intro X2 w7 hbw hall
        have hf : X2 5 = .agg (hrow (nodeF FX.1 q.1)) := hall 5 (by decide)
        clear hall
        simp only [hf, List.drop_succ_cons, List.drop_zero]
        have hl := nodeF_len FX.1 q.1
        have hsz : (hrow (nodeF FX.1 q.1)).size = 32 := by rw [hrow_size]; exact hl
        have hone := hrow_one (nodeF FX.1 q.1)
        have y9 := cells_of y9 hbw hy9
        have hbel := hbel.trans (hbw.mono hbel.size)
        go_wp2_with (refine wpList_storeRowTo rfl (.tmp 8) (.tmp 66) 25 rfl (by rw [hsz]; kernel_rfl) rfl (by rfl) y9 (by rw [hsz]; rfl) hone ?_)
        have hrd := run_loadVar_row (P := Tryd.prog) _ _ 25 25 _ (0, 0) _ (setRow_heap _ _ _ _ _ _ y9) Tryd.underlying25 rfl (by rw [hsz]; kernel_rfl)
        refine bodyPost_ret (v := .tuple #[.agg (hrow (nodeF FX.1 q.1)), .bool true]) ?_ rfl ?_
        · simp [results, Tryd.results11, asAddr, hrd]
          try rfl
        exact ⟨by rw [HR.out], below_setRow hbel (by omega) _⟩
  · have hfl := foldH_right (n := n) (i := i) hn2 hh z (wp ++ [q])
    have hdn := deepN_right hn2 hh
    rw [List.dropLast_concat, List.getLastD_concat] at hfl
    have IH := fun W => ih (n - halfN n) (by omega) (i - halfN n) z wp (some ⟨b, off, none⟩) kk cap W (by omega) (by omega) (by omega) hkk (by omega) hcm
    obtain ⟨h, hhh⟩ : ∃ h, halfN n = h := ⟨_, rfl⟩
    simp only [hhh] at hfl CH IH hh hlt hpos
    obtain ⟨s, hs⟩ : ∃ s, n - h = s := ⟨_, rfl⟩
    obtain ⟨j, hj⟩ : ∃ j, i - h = j := ⟨_, rfl⟩
    simp only [hs, hj] at hfl IH
    obtain ⟨FX, hFX⟩ : ∃ F, foldH s j z wp = F := ⟨_, rfl⟩
    simp only [hFX] at hfl IH
    have HR : Hid ((foldH n i z (wp ++ [q])).1 = nodeF q.1 FX.1) := Lib.hid (by rw [hfl]; rfl)
    have dd : decide ((i : Int) < (h : Int)) = false := decide_eq_false (by omega)
    have ddn : decide (i < h) = false := decide_eq_false hh
    clear hhh hFX hfl ih hdn
    go_enter Tryd.func11, Tryd.ntmps11
    go_upto_region 1 with fail
    refine wp_nameE _ (fun W1 hX => ?_)
    have y0 : W1.heap[w.heap.size]? = some (.cells (hrow z.1) 25 (0, 0)) := by rw [hX]; exact g0
    have y9 : W1.heap[w.heap.size + 1]? = some (.cells #[Value.int .u8 0, Value.int .u8 0, Value.int .u8 0, Value.int .u8 0, Value.int .u8 0, Value.int .u8 0, Value.int .u8 0, Value.int .u8 0, Value.int .u8 0, Value.int .u8 0, Value.int .u8 0, Value.int .u8 0, Value.int .u8 0, Value.int .u8 0, Value.int .u8 0, Value.int .u8 0, Value.int .u8 0, Value.int .u8 0, Value.int .u8 0, Value.int .u8 0, Value.int .u8 0, Value.int .u8 0, Value.int .u8 0, Value.int .u8 0, Value.int .u8 0, Value.int .u8 0, Value.int .u8 0, Value.int .u8 0, Value.int .u8 0, Value.int .u8 0, Value.int .u8 0, Value.int .u8 0] 25 (0, 0)) := by rw [hX]; exact g9
    have hbel : Below w.heap.size w W1 := by rw [hX]; exact hbA
    clear hX g0 g9 hbA
    have hy0 : w.heap.size < W1.heap.size := (Array.getElem?_eq_some_iff.1 y0).1
    have hy9 : w.heap.size + 1 < W1.heap.size := (Array.getElem?_eq_some_iff.1 y9).1
    have hsub : (k : Int) - 1 = ((kk : Nat) : Int) := by omega
    go_upto_region 9 with (first | (go_at_call 26; refine (CD _).mono ?_; rintro e w2 ⟨rfl, hb⟩; have y0 := cells_of y0 hb hy0; have y9 := cells_of y9 hb hy9; have hy0 := Nat.lt_of_lt_of_le hy0 hb.size; have hy9 := Nat.lt_of_lt_of_le hy9 hb.size; have hbel := hbel.trans (hb.mono hbel.size); clear hb) | (go_at_call 19; refine (CH _).mono ?_; rintro e w2 ⟨rfl, hb⟩; have y0 := cells_of y0 hb hy0; have y9 := cells_of y9 hb hy9; have hy0 := Nat.lt_of_lt_of_le hy0 hb.size; have hy9 := Nat.lt_of_lt_of_le hy9 hb.size; have hbel := hbel.trans (hb.mono hbel.size); clear hb))
    have hr := hr.below hbel
    clear hsub CH CD
    have hsF : (hrow FX.1).size = 32 := by rw [hrow_size]; exact FX.2
    have hoF := hrow_one FX.1
    refine wp_region_stateG (fun D x W => (D 0 = true → x 0 = .int .i64 (n : Int)) ∧ (D 1 = true → x 1 = .int .i64 (h : Int)) ∧ (D 2 = true → x 2 = .int .i64 (s : Int)) ∧ (D 3 = true → x 3 = .int .i64 (i : Int)) ∧ (D 4 = true → x 4 = .int .i64 (h : Int)) ∧ (D 5 = true → x 5 = .int .i64 (j : Int)) ∧ (D 6 = true → x 6 = .agg (hrow z.1)) ∧ (D 7 = true → x 7 = .slice (some ⟨b, off, none⟩) k cap) ∧ (D 8 = true → x 8 = .int .i64 (kk : Int)) ∧ (D 9 = true → x 9 = .slice (some ⟨b, off, none⟩) kk cap) ∧ (D 10 = true → x 10 = .tuple #[.agg (hrow FX.1), .bool true]) ∧ (D 11 = true → x 11 = .tuple #[.agg (hrow FX.1), .bool true]) ∧ (D 12 = true → x 12 = .agg (hrow FX.1)) ∧ (D 13 = true → x 13 = .bool true) ∧ (D 14 = true → ∃ g, x 14 = .pointer (some ⟨g, 0, none⟩) ∧ w2.heap.size ≤ g ∧ W.heap[g]? = some (.cells (bif D 15 then hrow FX.1 else #[Value.int .u8 0, Value.int .u8 0, Value.int .u8 0, Value.int .u8 0, Value.int .u8 0, Value.int .u8 0, Value.int .u8 0, Value.int .u8 0, Value.int .u8 0, Value.int .u8 0, Value.int .u8 0, Value.int .u8 0, Value.int .u8 0, Value.int .u8 0, Value.int .u8 0, Value.int .u8 0, Value.int .u8 0, Value.int .u8 0, Value.int .u8 0, Value.int .u8 0, Value.int .u8 0, Value.int .u8 0, Value.int .u8 0, Value.int .u8 0, Value.int .u8 0, Value.int .u8 0, Value.int .u8 0, Value.int .u8 0, Value.int .u8 0, Value.int .u8 0, Value.int .u8 0, Value.int .u8 0]) 25 (0, 0))) ∧ (D 15 = true → D 14 = true) ∧ (D 16 = true → x 16 = .bool true) ∧ Below w2.heap.size w2 W) (by kernel_rfl) (by kernel_rfl) (by kernel_rfl) (by kernel_rfl) (fun x => by simp only [fillFrom, Act.put, List.setIfInBounds_toArray, List.set_cons_succ, List.set_cons_zero, Nat.zero_add, Nat.reduceAdd]; rfl) ?_ ?_ ?_
    case refine_1 =>
      exact fun x => ⟨(fun h => by cases h), (fun h => by cases h), (fun h => by cases h), (fun h => by cases h), (fun h => by cases h), (fun h => by cases h), (fun h => by cases h), (fun h => by cases h), (fun h => by cases h), (fun h => by cases h), (fun h => by cases h), (fun h => by cases h), (fun h => by cases h), (fun h => by cases h), (fun h => by cases h), (fun h => by cases h), (fun h => by cases h), (Below.refl _ _).drew⟩
    case refine_2 =>
      refine ⟨?_, ?_, ?_, ?_, ?_, ?_, ?_, ?_, ?_, ?_, ?_, ?_, ?_, ?_, ?_, ?_, ?_, trivial⟩
      · intro D x w' hD hI hw hcl
        obtain ⟨i0, i1, i2, i3, i4, i5, i6, i7, i8, i9, i10, i11, i12, i13, i14, i15, i16, iB⟩ := hI.out
        clear hw
        go_wp2_with fail
        refine gPost_mk (v := .int .i64 (n : Int)) rfl rfl ?_
        exact ⟨⟨(fun _ => rfl), i1, i2, i3, i4, i5, i6, i7, i8, i9, i10, i11, i12, i13, i14, i15, i16, iB⟩⟩
      · intro D x w' hD hI hw hcl
        obtain ⟨i0, i1, i2, i3, i4, i5, i6, i7, i8, i9, i10, i11, i12, i13, i14, i15, i16, iB⟩ := hI.out
        clear hw
        go_wp2_with fail
        refine gPost_mk (v := .int .i64 (h : Int)) rfl rfl ?_
        exact ⟨⟨i0, (fun _ => rfl), i2, i3, i4, i5, i6, i7, i8, i9, i10, i11, i12, i13, i14, i15, i16, iB⟩⟩
      · intro D x w' hD hI hw hcl
        obtain ⟨i0, i1, i2, i3, i4, i5, i6, i7, i8, i9, i10, i11, i12, i13, i14, i15, i16, iB⟩ := hI.out
        have d0 : x 0 = .int .i64 (n : Int) := i0 (hw 0 rfl)
        have d1 : x 1 = .int .i64 (h : Int) := i1 (hw 1 rfl)
        clear hw
        have hsub : (n : Int) - (h : Int) = ((s : Nat) : Int) := by omega
        have hs1 : (0 : Int) ≤ (n : Int) - (h : Int) := by omega
        have hs2 : (n : Int) - (h : Int) ≤ 1073741824 := by omega
        go_wp2_with fail
        refine gPost_mk (v := .int .i64 (s : Int)) rfl (by show Value.int .i64 _ = Value.int .i64 _; first | rfl | rw [hsub]) ?_
        exact ⟨⟨i0, i1, (fun _ => rfl), i3, i4, i5, i6, i7, i8, i9, i10, i11, i12, i13, i14, i15, i16, iB⟩⟩
      · intro D x w' hD hI hw hcl
        obtain ⟨i0, i1, i2, i3, i4, i5, i6, i7, i8, i9, i10, i11, i12, i13, i14, i15, i16, iB⟩ := hI.out
        clear hw
        go_wp2_with fail
        refine gPost_mk (v := .int .i64 (i : Int)) rfl rfl ?_
        exact ⟨⟨i0, i1, i2, (fun _ => rfl), i4, i5, i6, i7, i8, i9, i10, i11, i12, i13, i14, i15, i16, iB⟩⟩
      · intro D x w' hD hI hw hcl
        obtain ⟨i0, i1, i2, i3, i4, i5, i6, i7, i8, i9, i10, i11, i12, i13, i14, i15, i16, iB⟩ := hI.out
        clear hw
        go_wp2_with fail
        refine gPost_mk (v := .int .i64 (h : Int)) rfl rfl ?_
        exact ⟨⟨i0, i1, i2, i3, (fun _ => rfl), i5, i6, i7, i8, i9, i10, i11, i12, i13, i14, i15, i16, iB⟩⟩
      · intro D x w' hD hI hw hcl
        obtain ⟨i0, i1, i2, i3, i4, i5, i6, i7, i8, i9, i10, i11, i12, i13, i14, i15, i16, iB⟩ := hI.out
        have d3 : x 3 = .int .i64 (i : Int) := i3 (hw 3 rfl)
        have d4 : x 4 = .int .i64 (h : Int) := i4 (hw 4 rfl)
        clear hw
        have hsub : (i : Int) - (h : Int) = ((j : Nat) : Int) := by omega
        have hs1 : (0 : Int) ≤ (i : Int) - (h : Int) := by omega
        have hs2 : (i : Int) - (h : Int) ≤ 1073741824 := by omega
        go_wp2_with fail
        refine gPost_mk (v := .int .i64 (j : Int)) rfl (by show Value.int .i64 _ = Value.int .i64 _; first | rfl | rw [hsub]) ?_
        exact ⟨⟨i0, i1, i2, i3, i4, (fun _ => rfl), i6, i7, i8, i9, i10, i11, i12, i13, i14, i15, i16, iB⟩⟩
      · intro D x w' hD hI hw hcl
        obtain ⟨i0, i1, i2, i3, i4, i5, i6, i7, i8, i9, i10, i11, i12, i13, i14, i15, i16, iB⟩ := hI.out
        clear hw
        have hrg := hrow_range (cells_of y0 iB hy0)
        go_wp2_with (refine wpList_load_mid rfl 25 (.tmp 6) rfl w.heap.size 0 rfl z.cells _ hrg Tryd.underlying25 rfl (hash_info z) ?_; rw [H32.row])
        refine gPost_mk (v := .agg (hrow z.1)) rfl rfl ?_
        exact ⟨⟨i0, i1, i2, i3, i4, i5, (fun _ => rfl), i7, i8, i9, i10, i11, i12, i13, i14, i15, i16, iB⟩⟩
      · intro D x w' hD hI hw hcl
        obtain ⟨i0, i1, i2, i3, i4, i5, i6, i7, i8, i9, i10, i11, i12, i13, i14, i15, i16, iB⟩ := hI.out
        clear hw
        go_wp2_with fail
        refine gPost_mk (v := .slice (some ⟨b, off, none⟩) k cap) rfl rfl ?_
        exact ⟨⟨i0, i1, i2, i3, i4, i5, i6, (fun _ => rfl), i8, i9, i10, i11, i12, i13, i14, i15, i16, iB⟩⟩
      · intro D x w' hD hI hw hcl
        obtain ⟨i0, i1, i2, i3, i4, i5, i6, i7, i8, i9, i10, i11, i12, i13, i14, i15, i16, iB⟩ := hI.out
        clear hw
        go_wp2_with fail
        refine gPost_mk (v := .int .i64 (kk : Int)) rfl rfl ?_
        exact ⟨⟨i0, i1, i2, i3, i4, i5, i6, i7, (fun _ => rfl), i9, i10, i11, i12, i13, i14, i15, i16, iB⟩⟩
      · intro D x w' hD hI hw hcl
        obtain ⟨i0, i1, i2, i3, i4, i5, i6, i7, i8, i9, i10, i11, i12, i13, i14, i15, i16, iB⟩ := hI.out
        have d7 : x 7 = .slice (some ⟨b, off, none⟩) k cap := i7 (hw 7 rfl)
        have d8 : x 8 = .int .i64 (kk : Int) := i8 (hw 8 rfl)
        clear hw
        go_wp2_with fail
        refine gPost_mk (v := .slice (some ⟨b, off, none⟩) kk cap) rfl rfl ?_
        exact ⟨⟨i0, i1, i2, i3, i4, i5, i6, i7, i8, (fun _ => rfl), i10, i11, i12, i13, i14, i15, i16, iB⟩⟩
      · intro D x w' hD hI hw hcl
        obtain ⟨i0, i1, i2, i3, i4, i5, i6, i7, i8, i9, i10, i11, i12, i13, i14, i15, i16, iB⟩ := hI.out
        have d2 : x 2 = .int .i64 (s : Int) := i2 (hw 2 rfl)
        have d5 : x 5 = .int .i64 (j : Int) := i5 (hw 5 rfl)
        have d6 : x 6 = .agg (hrow z.1) := i6 (hw 6 rfl)
        have d9 : x 9 = .slice (some ⟨b, off, none⟩) kk cap := i9 (hw 9 rfl)
        clear hw
        have CC := IH w' (hrp.below (hbel.trans (iB.mono hbel.size)))
        go_wp2_with (go_at_call 11; refine (CC).mono ?_; rintro e wx ⟨rfl, hbx⟩)
        refine gPost_mk (v := .tuple #[.agg (hrow FX.1), .bool true]) rfl rfl ?_
        exact ⟨⟨i0, i1, i2, i3, i4, i5, i6, i7, i8, i9, (fun _ => rfl), i11, i12, i13, (fun h => by obtain ⟨g, e1, e2, e3⟩ := i14 h; exact ⟨g, e1, e2, cells_of e3 hbx (Array.getElem?_eq_some_iff.1 e3).1⟩), i15, i16, iB.trans (hbx.mono iB.size)⟩⟩
      · intro D x w' hD hI hw hcl
        obtain ⟨i0, i1, i2, i3, i4, i5, i6, i7, i8, i9, i10, i11, i12, i13, i14, i15, i16, iB⟩ := hI.out
        have d10 : x 10 = .tuple #[.agg (hrow FX.1), .bool true] := i10 (hw 10 rfl)
        clear hw
        go_wp2_with fail
        refine gPost_mk (v := .tuple #[.agg (hrow FX.1), .bool true]) rfl rfl ?_
        exact ⟨⟨i0, i1, i2, i3, i4, i5, i6, i7, i8, i9, i10, (fun _ => rfl), i12, i13, i14, i15, i16, iB⟩⟩
      · intro D x w' hD hI hw hcl
        obtain ⟨i0, i1, i2, i3, i4, i5, i6, i7, i8, i9, i10, i11, i12, i13, i14, i15, i16, iB⟩ := hI.out
        have d11 : x 11 = .tuple #[.agg (hrow FX.1), .bool true] := i11 (hw 11 rfl)
        clear hw
        go_wp2_with fail
        refine gPost_mk (v := .agg (hrow FX.1)) rfl rfl ?_
        exact ⟨⟨i0, i1, i2, i3, i4, i5, i6, i7, i8, i9, i10, i11, (fun _ => rfl), i13, i14, i15, i16, iB⟩⟩
      · intro D x w' hD hI hw hcl
        obtain ⟨i0, i1, i2, i3, i4, i5, i6, i7, i8, i9, i10, i11, i12, i13, i14, i15, i16, iB⟩ := hI.out
        have d11 : x 11 = .tuple #[.agg (hrow FX.1), .bool true] := i11 (hw 11 rfl)
        clear hw
        go_wp2_with fail
        refine gPost_mk (v := .bool true) rfl rfl ?_
        exact ⟨⟨i0, i1, i2, i3, i4, i5, i6, i7, i8, i9, i10, i11, i12, (fun _ => rfl), i14, i15, i16, iB⟩⟩
      · intro D x w' hD hI hw hcl
        obtain ⟨i0, i1, i2, i3, i4, i5, i6, i7, i8, i9, i10, i11, i12, i13, i14, i15, i16, iB⟩ := hI.out
        clear hw
        have hs : D 15 = false := by
          cases h : D 15 with
          | false => rfl
          | true => rw [i15 h] at hD; cases hD
        go_wp2_with fail
        refine gPost_mk (v := .pointer (some ⟨w'.heap.size, 0, none⟩)) rfl rfl ?_
        exact ⟨⟨i0, i1, i2, i3, i4, i5, i6, i7, i8, i9, i10, i11, i12, i13, (fun _ => ⟨w'.heap.size, rfl, iB.size, by show _ = some (Obj.cells (bif D 15 then _ else _) _ (0, 0)); rw [hs]; exact heap_pushF _ _ _⟩), (fun _ => rfl), i16, Below.alloc iB iB.size _⟩⟩
      · intro D x w' hD hI hw hcl
        obtain ⟨i0, i1, i2, i3, i4, i5, i6, i7, i8, i9, i10, i11, i12, i13, i14, i15, i16, iB⟩ := hI.out
        have d12 : x 12 = .agg (hrow FX.1) := i12 (hw 12 rfl)
        have hD14 : D 14 = true := hw 14 rfl
        obtain ⟨g, d14, e2, e3⟩ := i14 hD14
        clear hw
        simp only [d12, d14]
        rw [hD] at e3
        have e3 : w'.heap[g]? = some (.cells #[Value.int .u8 0, Value.int .u8 0, Value.int .u8 0, Value.int .u8 0, Value.int .u8 0, Value.int .u8 0, Value.int .u8 0, Value.int .u8 0, Value.int .u8 0, Value.int .u8 0, Value.int .u8 0, Value.int .u8 0, Value.int .u8 0, Value.int .u8 0, Value.int .u8 0, Value.int .u8 0, Value.int .u8 0, Value.int .u8 0, Value.int .u8 0, Value.int .u8 0, Value.int .u8 0, Value.int .u8 0, Value.int .u8 0, Value.int .u8 0, Value.int .u8 0, Value.int .u8 0, Value.int .u8 0, Value.int .u8 0, Value.int .u8 0, Value.int .u8 0, Value.int .u8 0, Value.int .u8 0] 25 (0, 0)) := e3
        go_wp2_with (refine wpList_storeRowTo (Z := hrow FX.1) rfl (.tmp 14) (.tmp 79) 25 rfl (by rw [hsF]; kernel_rfl) rfl (by rfl) e3 (by rw [hsF]; rfl) hoF ?_)
        refine gPost_no rfl ?_
        exact ⟨⟨i0, i1, i2, i3, i4, i5, i6, i7, i8, i9, i10, i11, i12, i13, (fun _ => ⟨g, d14, e2, setRow_heap _ _ _ _ _ _ e3⟩), (fun _ => hD14), i16, below_setRow iB e2 _⟩⟩
      · intro D x w' hD hI hw hcl
        obtain ⟨i0, i1, i2, i3, i4, i5, i6, i7, i8, i9, i10, i11, i12, i13, i14, i15, i16, iB⟩ := hI.out
        have d13 : x 13 = .bool true := i13 (hw 13 rfl)
        clear hw
        go_wp2_with fail
        refine gPost_mk (v := .bool true) rfl rfl ?_
        exact ⟨⟨i0, i1, i2, i3, i4, i5, i6, i7, i8, i9, i10, i11, i12, i13, i14, i15, (fun _ => rfl), iB⟩⟩
    · intro w' X hI
      obtain ⟨j0, j1, j2, j3, j4, j5, j6, j7, j8, j9, j10, j11, j12, j13, j14, j15, j16, jB⟩ := hI
      have f7 : X 16 = .bool true := j16 rfl
      obtain ⟨g, hx7, hBg, hT⟩ := j14 rfl
      have hT : w'.heap[g]? = some (.cells (hrow FX.1) 25 (0, 0)) := hT
      clear j0 j1 j2 j3 j4 j5 j6 j7 j8 j9 j10 j11 j12 j13 j14 j15 j16
      simp only [f7, hx7]
      have y9 := cells_of y9 jB hy9
      have hbel := hbel.trans (jB.mono hbel.size)
      go_upto_region 10 with fail
      refine wp_nameE _ (fun W5 hX => ?_)
      rw [← hX] at hT y9 hbel
      clear hX
      have hr : RowAt W5 (some ⟨b, off, none⟩) ((wp ++ [q]).flatMap H32.cells) := hr0.below hbel
      have hTl : g < W5.heap.size := (Array.getElem?_eq_some_iff.1 hT).1
      have hy9 : w.heap.size + 1 < W5.heap.size := (Array.getElem?_eq_some_iff.1 y9).1
      obtain ⟨b2, o2, he2, hb2, hrgq⟩ := hs_at hr (k := kk) (by simp; omega)
      simp only [Option.some.injEq, Addr.mk.injEq, and_true] at he2
      obtain ⟨rfl, rfl⟩ := he2
      rw [show (wp ++ [q])[kk]'(by simp; omega) = q by simp [← hkk]] at hrgq
      refine wp_region_facts_chain 6 (by decide) [Fact.eq (.slice (some ⟨b, off, none⟩) k cap), Fact.eq (.int .i64 (kk : Int)), Fact.eq (.pointer (some ⟨b, off + kk * 32, none⟩)), Fact.eq (.agg (hrow q.1)), Fact.eq (.agg (hrow FX.1)), Fact.eq (.agg (hrow (nodeF q.1 FX.1)))] (by kernel_rfl) (by kernel_rfl) (by kernel_rfl) (by kernel_rfl) (by kernel_rfl) (by kernel_rfl) (by kernel_rfl) (fun x => by simp only [List.take_succ_cons, List.take_zero, fillFrom, Act.put, List.setIfInBounds_toArray, List.set_cons_succ, List.set_cons_zero]; rfl) ?_ ?_
      · refine ⟨?_, ?_, ?_, ?_, ?_, ?_, trivial⟩
        · intro x w' hbw hd
          clear hd
          go_wp2_with fail
          exact frPost_mk rfl (by repeat (first | assumption | exact Below.refl _ _ | refine bch ?_ (by assumption) | refine Below.alloc ?_ (by simp) _)) rfl
        · intro x w' hbw hd
          clear hd
          go_wp2_with fail
          exact frPost_mk rfl (by repeat (first | assumption | exact Below.refl _ _ | refine bch ?_ (by assumption) | refine Below.alloc ?_ (by simp) _)) rfl
        · intro x w' hbw hd
          have d0 : x 0 = .slice (some ⟨b, off, none⟩) k cap := hd 0 rfl
          have d1 : x 1 = .int .i64 (kk : Int) := hd 1 rfl
          clear hd
          go_wp2_with fail
          exact frPost_mk rfl (by repeat (first | assumption | exact Below.refl _ _ | refine bch ?_ (by assumption) | refine Below.alloc ?_ (by simp) _)) rfl
        · intro x w' hbw hd
          have d2 : x 2 = .pointer (some ⟨b, off + kk * 32, none⟩) := hd 2 rfl
          clear hd
          have hrg : w'.rangeAt b (off + kk * 32) q.cells := fun j v hv => by rw [hbw.cell (p := ⟨b, off + kk * 32 + j, none⟩) hb2]; exact hrgq j v hv
          go_wp2_with (first | (refine wpList_load_mid rfl 25 (.tmp 83) rfl b (off + kk * 32) d2 q.cells _ hrg Tryd.underlying25 rfl (hash_info q) ?_; rw [H32.row]))
          exact frPost_mk rfl (by repeat (first | assumption | exact Below.refl _ _ | refine bch ?_ (by assumption) | refine Below.alloc ?_ (by simp) _)) rfl
        · intro x w' hbw hd
          clear hd
          have hrg := hrow_range (cells_of hT hbw hTl)
          go_wp2_with (first | (refine wpList_load_mid rfl 25 (.tmp 14) rfl g 0 rfl FX.cells _ hrg Tryd.underlying25 rfl (hash_info FX) ?_; rw [H32.row]))
          exact frPost_mk rfl (by repeat (first | assumption | exact Below.refl _ _ | refine bch ?_ (by assumption) | refine Below.alloc ?_ (by simp) _)) rfl
        · intro x w' hbw hd
          have d3 : x 3 = .agg (hrow q.1) := hd 3 rfl
          have d4 : x 4 = .agg (hrow FX.1) := hd 4 rfl
          clear hd
          have CC := refNode_any q.1 FX.1 w' q.2 FX.2
          go_wp2_with (first | (go_at_call 15; refine (CC).mono ?_; rintro e wx ⟨rfl, hbx⟩))
          exact frPost_mk rfl (by repeat (first | assumption | exact Below.refl _ _ | refine bch ?_ (by assumption) | refine Below.alloc ?_ (by simp) _)) rfl
      · intro X2 w7 hbw hall
        have hf : X2 5 = .agg (hrow (nodeF q.1 FX.1)) := hall 5 (by decide)
        clear hall
        simp only [hf, List.drop_succ_cons, List.drop_zero]
        have hl := nodeF_len q.1 FX.1
        have hsz : (hrow (nodeF q.1 FX.1)).size = 32 := by rw [hrow_size]; exact hl
        have hone := hrow_one (nodeF q.1 FX.1)
        have y9 := cells_of y9 hbw hy9
        have hbel := hbel.trans (hbw.mono hbel.size)
        go_wp2_with (refine wpList_storeRowTo rfl (.tmp 8) (.tmp 86) 25 rfl (by rw [hsz]; kernel_rfl) rfl (by rfl) y9 (by rw [hsz]; rfl) hone ?_)
        have hrd := run_loadVar_row (P := Tryd.prog) _ _ 25 25 _ (0, 0) _ (setRow_heap _ _ _ _ _ _ y9) Tryd.underlying25 rfl (by rw [hsz]; kernel_rfl)
        refine bodyPost_ret (v := .tuple #[.agg (hrow (nodeF q.1 FX.1)), .bool true]) ?_ rfl ?_
        · simp [results, Tryd.results11, asAddr, hrd]
          try rfl
        exact ⟨by rw [HR.out], below_setRow hbel (by omega) _⟩
end Go.Proofs.YtfikbaoiialfeaaDoor
namespace Go.Proofs.YtfikbaoiialfeaaDoor
open Go.RowKit
attribute [local go_sem] strV
set_option linter.unusedVariables false
theorem own_sliceH {w : World} {base : Nat} {e : TypeId} {size n : Nat} {v : Value} {xs : List Value} (h : w.ownsRow base e size v n xs) :
    ∃ a cap, v = .slice a n cap ∧ RowAt w a xs ∧ n ≤ cap ∧ cap ≤ maxLen := by
  obtain ⟨a, cap, hv, hr, _⟩ := RowAt.own h
  obtain ⟨h1, h2⟩ := h
  refine ⟨a, cap, hv, hr, ?_⟩
  rcases h2 with ⟨q1, q2⟩ | ⟨g, cap', cur, q1, q4, _, q2, q3, _⟩
  · rw [q1] at hv
    simp only [Value.slice.injEq] at hv
    obtain ⟨r0, r1, r2⟩ := hv
    exact ⟨by omega, by rw [← r2]; exact Nat.zero_le _⟩
  · rw [q1] at hv
    simp only [Value.slice.injEq] at hv
    obtain ⟨r0, _, r2⟩ := hv
    exact ⟨by omega, by omega⟩
def leafF (k v : ByteArray) : List UInt8 := shaF ([0] ++ eightL k.size ++ k.data.toList ++ v.data.toList)
theorem leafF_len (k v : ByteArray) : (leafF k v).length = 32 := shaF_len _
theorem flat4 (a b c d : ByteArray) : flat [a, b, c, d] = a.data.toList ++ b.data.toList ++ c.data.toList ++ d.data.toList := by simp [flat]
set_option maxRecDepth 100000 in
set_option maxHeartbeats 6400000 in
theorem leaf_any (key val : ByteArray) (w : World) (hW : SW w) (hk : key.size ≤ 1000000) (hv : val.size ≤ 1000000) :
    Calls Tryd.prog 12 #[.string key, .string val] w fun e w' => e = .returned (.agg (hrow (leafF key val))) ∧ Below w.heap.size w w' := by
  have CE := fun W => eight_any (key.size : Int) W
  unfold strV at CE
  have hl := leafF_len key val
  have hsz : (hrow (leafF key val)).size = 32 := by rw [hrow_size]; exact hl
  have hone := hrow_one (leafF key val)
  have hfl : flat [⟨#[0]⟩, ⟨(eightL (key.size : Int)).toArray⟩, key, val] = [0] ++ eightL (key.size : Int) ++ key.data.toList ++ val.data.toList := by rw [flat4]
  have hln : (flat [⟨#[0]⟩, ⟨(eightL (key.size : Int)).toArray⟩, key, val]).length ≤ 1000000000000 := by
    rw [hfl]
    have := eightL_le (key.size : Int)
    have e1 : key.data.toList.length = key.size := by rw [Array.length_toList]; rfl
    have e2 : val.data.toList.length = val.size := by rw [Array.length_toList]; rfl
    simp only [List.length_append, List.length_cons, List.length_nil, e1, e2]
    omega
  obtain ⟨E, hE⟩ : ∃ E : ByteArray, (⟨(eightL (key.size : Int)).toArray⟩ : ByteArray) = E := ⟨_, rfl⟩
  simp only [hE] at CE hln hfl
  have CS := fun (W : World) (hb : Below w.heap.size w W) => sum_any (some ⟨W.heap.size, 0, none⟩) 4 4 [⟨#[0]⟩, E, key, val] (W.alloc (.cells #[.string ⟨#[0]⟩, .string E, .string key, .string val] 9)) (row_newH W _ _) rfl ((hW.below hb).below (Below.alloc (Below.refl _ _) (Nat.le_refl _) _)) hln (by unfold maxLen; omega)
  rw [hfl] at CS
  have hLF : shaF ([0] ++ eightL (key.size : Int) ++ key.data.toList ++ val.data.toList) = leafF key val := rfl
  rw [hLF] at CS
  obtain ⟨L, hL⟩ : ∃ L, leafF key val = L := ⟨_, rfl⟩
  simp only [hL] at CS hl hsz hone ⊢
  have hq := heap_push w #[Value.int .u8 0, Value.int .u8 0, Value.int .u8 0, Value.int .u8 0, Value.int .u8 0, Value.int .u8 0, Value.int .u8 0, Value.int .u8 0, Value.int .u8 0, Value.int .u8 0, Value.int .u8 0, Value.int .u8 0, Value.int .u8 0, Value.int .u8 0, Value.int .u8 0, Value.int .u8 0, Value.int .u8 0, Value.int .u8 0, Value.int .u8 0, Value.int .u8 0, Value.int .u8 0, Value.int .u8 0, Value.int .u8 0, Value.int .u8 0, Value.int .u8 0, Value.int .u8 0, Value.int .u8 0, Value.int .u8 0, Value.int .u8 0, Value.int .u8 0, Value.int .u8 0, Value.int .u8 0] 25
  have hb0 : Below w.heap.size w (w.alloc (.cells #[Value.int .u8 0, Value.int .u8 0, Value.int .u8 0, Value.int .u8 0, Value.int .u8 0, Value.int .u8 0, Value.int .u8 0, Value.int .u8 0, Value.int .u8 0, Value.int .u8 0, Value.int .u8 0, Value.int .u8 0, Value.int .u8 0, Value.int .u8 0, Value.int .u8 0, Value.int .u8 0, Value.int .u8 0, Value.int .u8 0, Value.int .u8 0, Value.int .u8 0, Value.int .u8 0, Value.int .u8 0, Value.int .u8 0, Value.int .u8 0, Value.int .u8 0, Value.int .u8 0, Value.int .u8 0, Value.int .u8 0, Value.int .u8 0, Value.int .u8 0, Value.int .u8 0, Value.int .u8 0] 25)) := Below.alloc (Below.refl _ _) (Nat.le_refl _) _
  clear hE hln hfl hLF hL
  go_enter Tryd.func12, Tryd.ntmps12
  go_upto_region 1 with fail
  refine wp_nameE _ (fun W1 hX => ?_)
  have y9 : W1.heap[w.heap.size]? = some (.cells #[Value.int .u8 0, Value.int .u8 0, Value.int .u8 0, Value.int .u8 0, Value.int .u8 0, Value.int .u8 0, Value.int .u8 0, Value.int .u8 0, Value.int .u8 0, Value.int .u8 0, Value.int .u8 0, Value.int .u8 0, Value.int .u8 0, Value.int .u8 0, Value.int .u8 0, Value.int .u8 0, Value.int .u8 0, Value.int .u8 0, Value.int .u8 0, Value.int .u8 0, Value.int .u8 0, Value.int .u8 0, Value.int .u8 0, Value.int .u8 0, Value.int .u8 0, Value.int .u8 0, Value.int .u8 0, Value.int .u8 0, Value.int .u8 0, Value.int .u8 0, Value.int .u8 0, Value.int .u8 0] 25 (0, 0)) := by rw [hX]; exact hq
  have hbel : Below w.heap.size w W1 := by rw [hX]; exact hb0
  clear hX hq hb0
  have hy9 : w.heap.size < W1.heap.size := (Array.getElem?_eq_some_iff.1 y9).1
  go_wp2_with (first | (go_at_call 65; refine (CE _).mono ?_; rintro e wx ⟨rfl, hbx⟩; have y9 := cells_of y9 hbx hy9; have hy9 := Nat.lt_of_lt_of_le hy9 hbx.size; have hbel := hbel.trans (hbx.mono hbel.size); clear hbx) | (go_at_call 64; refine (CS _ hbel).mono ?_; rintro e wy ⟨rfl, hby⟩; have hby := (Below.alloc (Below.refl wx.heap.size wx) (Nat.le_refl _) (.cells #[.string ⟨#[0]⟩, .string E, .string key, .string val] 9)).trans (hby.mono (by simp)); have y9 := cells_of y9 hby hy9; have hbel := hbel.trans (hby.mono hbel.size)) | (refine wpList_storeRowTo (Z := hrow L) rfl (.tmp 4) (.tmp 11) 25 rfl (by rw [hsz]; kernel_rfl) rfl (by rfl) y9 (by rw [hsz]; rfl) hone ?_))
  refine bodyPost_ret (v := .agg (hrow (L))) ?_ rfl ?_
  · simp [results, Tryd.results12, asAddr]
    exact run_loadVar_row _ _ 25 25 _ (0, 0) _ (setRow_heap _ _ _ _ _ _ y9) Tryd.underlying25 rfl (by rw [hsz]; kernel_rfl)
  exact ⟨rfl, below_setRow hbel (Nat.le_refl _) _⟩
set_option maxRecDepth 100000 in
set_option maxHeartbeats 6400000 in
theorem refLeaf_any (key val : ByteArray) (w : World) (hk : key.size ≤ 300000) (hv : val.size ≤ 300000) :
    Calls Tryd.prog 13 #[.string key, .string val] w fun e w' => e = .returned (.agg (hrow (leafF key val))) ∧ Below w.heap.size w w' := by
  have CE := fun W => refEight_any (key.size : Int) W
  unfold strV at CE
  have hl := leafF_len key val
  have hsz : (hrow (leafF key val)).size = 32 := by rw [hrow_size]; exact hl
  have hone := hrow_one (leafF key val)
  obtain ⟨E, hE⟩ : ∃ E : ByteArray, (⟨(eightL (key.size : Int)).toArray⟩ : ByteArray) = E := ⟨_, rfl⟩
  have hEs : E.size ≤ 8 := by rw [← hE]; exact eightL_le _
  simp only [hE] at CE
  have h1s : (⟨#[0]⟩ : ByteArray).size = 1 := rfl
  have hcat1 : ¬ 9223372036854775807 < (⟨#[0]⟩ : ByteArray).size + E.size := by omega
  have hcat2 : ¬ 9223372036854775807 < ((⟨#[0]⟩ : ByteArray) ++ E).size + key.size := by rw [ByteArray.size_append]; omega
  have hcat3 : ¬ 9223372036854775807 < (((⟨#[0]⟩ : ByteArray) ++ E) ++ key).size + val.size := by rw [ByteArray.size_append, ByteArray.size_append]; omega
  have hcat4 : ¬ 9223372036854775807 < (⟨#[0]⟩ : ByteArray).size + E.size + key.size := by omega
  have hcat5 : ¬ 9223372036854775807 < (⟨#[0]⟩ : ByteArray).size + E.size + key.size + val.size := by omega
  have hcat6 : ¬ 9223372036854775807 < 1 + E.size + key.size := by omega
  have hcat7 : ¬ 9223372036854775807 < 1 + E.size + key.size + val.size := by omega
  have CS := fun W => refSum_any ((((⟨#[0]⟩ : ByteArray) ++ E) ++ key) ++ val) W (by rw [ByteArray.size_append, ByteArray.size_append, ByteArray.size_append, h1s]; omega)
  rw [show ((((⟨#[0]⟩ : ByteArray) ++ E) ++ key) ++ val : ByteArray).data.toList = [0] ++ eightL (key.size : Int) ++ key.data.toList ++ val.data.toList by rw [← hE]; simp, show shaF ([0] ++ eightL (key.size : Int) ++ key.data.toList ++ val.data.toList) = leafF key val from rfl] at CS
  obtain ⟨L, hL⟩ : ∃ L, leafF key val = L := ⟨_, rfl⟩
  simp only [hL] at CS hl hsz hone ⊢
  have hq := heap_push w #[Value.int .u8 0, Value.int .u8 0, Value.int .u8 0, Value.int .u8 0, Value.int .u8 0, Value.int .u8 0, Value.int .u8 0, Value.int .u8 0, Value.int .u8 0, Value.int .u8 0, Value.int .u8 0, Value.int .u8 0, Value.int .u8 0, Value.int .u8 0, Value.int .u8 0, Value.int .u8 0, Value.int .u8 0, Value.int .u8 0, Value.int .u8 0, Value.int .u8 0, Value.int .u8 0, Value.int .u8 0, Value.int .u8 0, Value.int .u8 0, Value.int .u8 0, Value.int .u8 0, Value.int .u8 0, Value.int .u8 0, Value.int .u8 0, Value.int .u8 0, Value.int .u8 0, Value.int .u8 0] 25
  have hb0 : Below w.heap.size w (w.alloc (.cells #[Value.int .u8 0, Value.int .u8 0, Value.int .u8 0, Value.int .u8 0, Value.int .u8 0, Value.int .u8 0, Value.int .u8 0, Value.int .u8 0, Value.int .u8 0, Value.int .u8 0, Value.int .u8 0, Value.int .u8 0, Value.int .u8 0, Value.int .u8 0, Value.int .u8 0, Value.int .u8 0, Value.int .u8 0, Value.int .u8 0, Value.int .u8 0, Value.int .u8 0, Value.int .u8 0, Value.int .u8 0, Value.int .u8 0, Value.int .u8 0, Value.int .u8 0, Value.int .u8 0, Value.int .u8 0, Value.int .u8 0, Value.int .u8 0, Value.int .u8 0, Value.int .u8 0, Value.int .u8 0] 25)) := Below.alloc (Below.refl _ _) (Nat.le_refl _) _
  clear hE hL h1s
  go_enter Tryd.func13, Tryd.ntmps13
  go_upto_region 1 with fail
  refine wp_nameE _ (fun W1 hX => ?_)
  have y9 : W1.heap[w.heap.size]? = some (.cells #[Value.int .u8 0, Value.int .u8 0, Value.int .u8 0, Value.int .u8 0, Value.int .u8 0, Value.int .u8 0, Value.int .u8 0, Value.int .u8 0, Value.int .u8 0, Value.int .u8 0, Value.int .u8 0, Value.int .u8 0, Value.int .u8 0, Value.int .u8 0, Value.int .u8 0, Value.int .u8 0, Value.int .u8 0, Value.int .u8 0, Value.int .u8 0, Value.int .u8 0, Value.int .u8 0, Value.int .u8 0, Value.int .u8 0, Value.int .u8 0, Value.int .u8 0, Value.int .u8 0, Value.int .u8 0, Value.int .u8 0, Value.int .u8 0, Value.int .u8 0, Value.int .u8 0, Value.int .u8 0] 25 (0, 0)) := by rw [hX]; exact hq
  have hbel : Below w.heap.size w W1 := by rw [hX]; exact hb0
  clear hX hq hb0
  have hy9 : w.heap.size < W1.heap.size := (Array.getElem?_eq_some_iff.1 y9).1
  go_wp2_with (first | (go_at_call 67; refine (CE _).mono ?_; rintro e wx ⟨rfl, hbx⟩; have y9 := cells_of y9 hbx hy9; have hy9 := Nat.lt_of_lt_of_le hy9 hbx.size; have hbel := hbel.trans (hbx.mono hbel.size); clear hbx) | (go_at_call 66; refine (CS _).mono ?_; rintro e wy ⟨rfl, hby⟩; have y9 := cells_of y9 hby hy9; have hbel := hbel.trans (hby.mono hbel.size)) | (refine wpList_storeRowTo (Z := hrow L) rfl (.tmp 4) (.tmp 13) 25 rfl (by rw [hsz]; kernel_rfl) rfl (by rfl) y9 (by rw [hsz]; rfl) hone ?_))
  refine bodyPost_ret (v := .agg (hrow (L))) ?_ rfl ?_
  · simp [results, Tryd.results13, asAddr]
    exact run_loadVar_row _ _ 25 25 _ (0, 0) _ (setRow_heap _ _ _ _ _ _ y9) Tryd.underlying25 rfl (by rw [hsz]; kernel_rfl)
  exact ⟨rfl, below_setRow hbel (Nat.le_refl _) _⟩
def wayI (l : List H32) (i : Int) : List H32 := if 0 ≤ i ∧ i < l.length then wayH l i.toNat else []
def WayPostI (w : World) (l : List H32) (i : Int) (e : Ending) (w' : World) : Prop := ∃ v, e = .returned v ∧ w'.ownsRow w.heap.size 25 32 v (wayI l i).length ((wayI l i).flatMap H32.cells) ∧ Below w.heap.size w w'
set_option maxRecDepth 100000 in
set_option maxHeartbeats 6400000 in
theorem Way_any (l : List H32) (i : Int) (a : Option Addr) (n cap : Nat) (w : World) (hn : l.length = n) (h6 : n ≤ 1000000) (hcap : n ≤ cap) (hcm : cap ≤ maxLen) (hr : RowAt w a (l.flatMap H32.cells)) (hW : SW w) :
    Calls Tryd.prog 23 #[.slice a n cap, .int .i64 i] w (WayPostI w l i) := by
  by_cases hi : 0 ≤ i ∧ i < l.length
  · obtain ⟨j, rfl⟩ : ∃ m : Nat, i = m := ⟨i.toNat, by omega⟩
    refine (way_any n l j a cap w hn (by omega) h6 hcap hcm hr hW).mono ?_
    rintro e w' ⟨v, he, ho, hb⟩
    have hw : wayI l (j : Int) = wayH l j := by unfold wayI; rw [if_pos hi, Int.toNat_natCast]
    exact ⟨v, he, by rw [hw]; exact ho, hb⟩
  · have hw : wayI l i = [] := by unfold wayI; rw [if_neg hi]
    have hfin : ∀ w' : World, Below w.heap.size w w' → WayPostI w l i (.returned (.slice none 0 0)) w' := fun w' hb => ⟨_, rfl, by rw [hw]; exact ⟨rfl, .inl ⟨rfl, rfl⟩⟩, hb⟩
    by_cases h1 : i < 0
    · have d1 : decide (i < 0) = true := decide_eq_true h1
      clear hw
      go_enter Tryd.func23, Tryd.ntmps23
      go_wp2
      go_ret
      exact hfin _ (Below.refl _ _)
    · have d1 : decide (i < 0) = false := decide_eq_false h1
      have d2 : decide ((n : Int) ≤ i) = true := decide_eq_true (by omega)
      clear hw
      go_enter Tryd.func23, Tryd.ntmps23
      go_wp2
      go_ret
      exact hfin _ (Below.refl _ _)
set_option maxRecDepth 100000 in
set_option maxHeartbeats 6400000 in
theorem RefWay_any (l : List H32) (i : Int) (a : Option Addr) (n cap : Nat) (w : World) (hn : l.length = n) (h6 : n ≤ 1000000) (hcap : n ≤ cap) (hcm : cap ≤ maxLen) (hr : RowAt w a (l.flatMap H32.cells))  :
    Calls Tryd.prog 24 #[.slice a n cap, .int .i64 i] w (WayPostI w l i) := by
  by_cases hi : 0 ≤ i ∧ i < l.length
  · obtain ⟨j, rfl⟩ : ∃ m : Nat, i = m := ⟨i.toNat, by omega⟩
    refine (refWay_any n l j a cap w hn (by omega) h6 hcap hcm hr trivial).mono ?_
    rintro e w' ⟨v, he, ho, hb⟩
    have hw : wayI l (j : Int) = wayH l j := by unfold wayI; rw [if_pos hi, Int.toNat_natCast]
    exact ⟨v, he, by rw [hw]; exact ho, hb⟩
  · have hw : wayI l i = [] := by unfold wayI; rw [if_neg hi]
    have hfin : ∀ w' : World, Below w.heap.size w w' → WayPostI w l i (.returned (.slice none 0 0)) w' := fun w' hb => ⟨_, rfl, by rw [hw]; exact ⟨rfl, .inl ⟨rfl, rfl⟩⟩, hb⟩
    by_cases h1 : i < 0
    · have d1 : decide (i < 0) = true := decide_eq_true h1
      clear hw
      go_enter Tryd.func24, Tryd.ntmps24
      go_wp2
      go_ret
      exact hfin _ (Below.refl _ _)
    · have d1 : decide (i < 0) = false := decide_eq_false h1
      have d2 : decide ((n : Int) ≤ i) = true := decide_eq_true (by omega)
      clear hw
      go_enter Tryd.func24, Tryd.ntmps24
      go_wp2
      go_ret
      exact hfin _ (Below.refl _ _)
set_option maxRecDepth 100000 in
set_option maxHeartbeats 6400000 in
theorem refFold_all (n i : Int) (z : H32) (wy : List H32) (a : Option Addr) (k cap : Nat) (w : World) (hk : wy.length = k) (hcap : k ≤ cap) (hcm : cap ≤ maxLen) (hr : RowAt w a (wy.flatMap H32.cells)) :
    Calls Tryd.prog 11 #[.int .i64 n, .int .i64 i, .agg (hrow z.1), .slice a k cap] w fun e w' => e = .returned (.tuple #[.agg (hrow (foldR n i z wy).1.1), .bool (foldR n i z wy).2]) ∧ Below w.heap.size w w' := by
  have hz : (hrow z32).size = 32 := by rfl
  have hzone := hrow_one z32
  have g0 := al2_0 w (.cells (hrow z.1) 25) (.cells #[Value.int .u8 0, Value.int .u8 0, Value.int .u8 0, Value.int .u8 0, Value.int .u8 0, Value.int .u8 0, Value.int .u8 0, Value.int .u8 0, Value.int .u8 0, Value.int .u8 0, Value.int .u8 0, Value.int .u8 0, Value.int .u8 0, Value.int .u8 0, Value.int .u8 0, Value.int .u8 0, Value.int .u8 0, Value.int .u8 0, Value.int .u8 0, Value.int .u8 0, Value.int .u8 0, Value.int .u8 0, Value.int .u8 0, Value.int .u8 0, Value.int .u8 0, Value.int .u8 0, Value.int .u8 0, Value.int .u8 0, Value.int .u8 0, Value.int .u8 0, Value.int .u8 0, Value.int .u8 0] 25)
  have g9 := al2_1 w (.cells (hrow z.1) 25) (.cells #[Value.int .u8 0, Value.int .u8 0, Value.int .u8 0, Value.int .u8 0, Value.int .u8 0, Value.int .u8 0, Value.int .u8 0, Value.int .u8 0, Value.int .u8 0, Value.int .u8 0, Value.int .u8 0, Value.int .u8 0, Value.int .u8 0, Value.int .u8 0, Value.int .u8 0, Value.int .u8 0, Value.int .u8 0, Value.int .u8 0, Value.int .u8 0, Value.int .u8 0, Value.int .u8 0, Value.int .u8 0, Value.int .u8 0, Value.int .u8 0, Value.int .u8 0, Value.int .u8 0, Value.int .u8 0, Value.int .u8 0, Value.int .u8 0, Value.int .u8 0, Value.int .u8 0, Value.int .u8 0] 25)
  have hbA := al2_below w (.cells (hrow z.1) 25) (.cells #[Value.int .u8 0, Value.int .u8 0, Value.int .u8 0, Value.int .u8 0, Value.int .u8 0, Value.int .u8 0, Value.int .u8 0, Value.int .u8 0, Value.int .u8 0, Value.int .u8 0, Value.int .u8 0, Value.int .u8 0, Value.int .u8 0, Value.int .u8 0, Value.int .u8 0, Value.int .u8 0, Value.int .u8 0, Value.int .u8 0, Value.int .u8 0, Value.int .u8 0, Value.int .u8 0, Value.int .u8 0, Value.int .u8 0, Value.int .u8 0, Value.int .u8 0, Value.int .u8 0, Value.int .u8 0, Value.int .u8 0, Value.int .u8 0, Value.int .u8 0, Value.int .u8 0, Value.int .u8 0] 25)
  have CD := fun W => refDeep_any n i W
  obtain ⟨D, hD⟩ : ∃ d, deepI n i = d := ⟨_, rfl⟩
  simp only [hD] at CD
  by_cases c1 : n < 1
  · have d1 : decide (n < 1) = true := decide_eq_true c1
    have HF : Hid (foldR n i z wy = (zeroH, false)) := Lib.hid (by
      have : insB n i = false := by cases h : insB n i; rfl; have := insB_iff.1 h; omega
      unfold foldR; rw [this]; rfl)
    clear hD
    go_enter Tryd.func11, Tryd.ntmps11
    go_upto_region 1 with fail
    refine wp_nameE _ (fun W1 hX => ?_)
    have y0 : W1.heap[w.heap.size]? = some (.cells (hrow z.1) 25 (0, 0)) := by rw [hX]; exact g0
    have y9 : W1.heap[w.heap.size + 1]? = some (.cells #[Value.int .u8 0, Value.int .u8 0, Value.int .u8 0, Value.int .u8 0, Value.int .u8 0, Value.int .u8 0, Value.int .u8 0, Value.int .u8 0, Value.int .u8 0, Value.int .u8 0, Value.int .u8 0, Value.int .u8 0, Value.int .u8 0, Value.int .u8 0, Value.int .u8 0, Value.int .u8 0, Value.int .u8 0, Value.int .u8 0, Value.int .u8 0, Value.int .u8 0, Value.int .u8 0, Value.int .u8 0, Value.int .u8 0, Value.int .u8 0, Value.int .u8 0, Value.int .u8 0, Value.int .u8 0, Value.int .u8 0, Value.int .u8 0, Value.int .u8 0, Value.int .u8 0, Value.int .u8 0] 25 (0, 0)) := by rw [hX]; exact g9
    have hbel : Below w.heap.size w W1 := by rw [hX]; exact hbA
    clear hX g0 g9 hbA
    have hy9 : w.heap.size + 1 < W1.heap.size := (Array.getElem?_eq_some_iff.1 y9).1
    go_upto_region 2 with (go_at_call 26; refine (CD _).mono ?_; rintro e w2 ⟨rfl, hb⟩; have y9 := cells_of y9 hb hy9; have hy9 := Nat.lt_of_lt_of_le hy9 hb.size; have hbel := hbel.trans (hb.mono hbel.size); clear hb)
    go_wp2_with (refine wpList_storeRowTo (Z := hrow z32) rfl (.tmp 8) (.tmp 39) 25 rfl (by rw [hz]; kernel_rfl) rfl (by rfl) y9 (by rw [hz]; rfl) hzone ?_)
    have hrd := run_loadVar_row (P := Tryd.prog) _ _ 25 25 _ (0, 0) _ (setRow_heap _ _ _ _ _ _ y9) Tryd.underlying25 rfl (by rw [hz]; kernel_rfl)
    refine bodyPost_ret (v := .tuple #[.agg (hrow z32), .bool false]) ?_ rfl ?_
    · simp [results, Tryd.results11, asAddr, hrd]
      try rfl
    exact ⟨by rw [HF.out]; rfl, below_setRow hbel (by omega) _⟩
  have d1 : decide (n < 1) = false := decide_eq_false c1
  by_cases c2 : 1073741824 < n
  · have d2 : decide (1073741824 < n) = true := decide_eq_true c2
    have HF : Hid (foldR n i z wy = (zeroH, false)) := Lib.hid (by
      have : insB n i = false := by cases h : insB n i; rfl; have := insB_iff.1 h; omega
      unfold foldR; rw [this]; rfl)
    clear hD
    go_enter Tryd.func11, Tryd.ntmps11
    go_upto_region 1 with fail
    refine wp_nameE _ (fun W1 hX => ?_)
    have y0 : W1.heap[w.heap.size]? = some (.cells (hrow z.1) 25 (0, 0)) := by rw [hX]; exact g0
    have y9 : W1.heap[w.heap.size + 1]? = some (.cells #[Value.int .u8 0, Value.int .u8 0, Value.int .u8 0, Value.int .u8 0, Value.int .u8 0, Value.int .u8 0, Value.int .u8 0, Value.int .u8 0, Value.int .u8 0, Value.int .u8 0, Value.int .u8 0, Value.int .u8 0, Value.int .u8 0, Value.int .u8 0, Value.int .u8 0, Value.int .u8 0, Value.int .u8 0, Value.int .u8 0, Value.int .u8 0, Value.int .u8 0, Value.int .u8 0, Value.int .u8 0, Value.int .u8 0, Value.int .u8 0, Value.int .u8 0, Value.int .u8 0, Value.int .u8 0, Value.int .u8 0, Value.int .u8 0, Value.int .u8 0, Value.int .u8 0, Value.int .u8 0] 25 (0, 0)) := by rw [hX]; exact g9
    have hbel : Below w.heap.size w W1 := by rw [hX]; exact hbA
    clear hX g0 g9 hbA
    have hy9 : w.heap.size + 1 < W1.heap.size := (Array.getElem?_eq_some_iff.1 y9).1
    go_upto_region 2 with (go_at_call 26; refine (CD _).mono ?_; rintro e w2 ⟨rfl, hb⟩; have y9 := cells_of y9 hb hy9; have hy9 := Nat.lt_of_lt_of_le hy9 hb.size; have hbel := hbel.trans (hb.mono hbel.size); clear hb)
    go_wp2_with (refine wpList_storeRowTo (Z := hrow z32) rfl (.tmp 8) (.tmp 39) 25 rfl (by rw [hz]; kernel_rfl) rfl (by rfl) y9 (by rw [hz]; rfl) hzone ?_)
    have hrd := run_loadVar_row (P := Tryd.prog) _ _ 25 25 _ (0, 0) _ (setRow_heap _ _ _ _ _ _ y9) Tryd.underlying25 rfl (by rw [hz]; kernel_rfl)
    refine bodyPost_ret (v := .tuple #[.agg (hrow z32), .bool false]) ?_ rfl ?_
    · simp [results, Tryd.results11, asAddr, hrd]
      try rfl
    exact ⟨by rw [HF.out]; rfl, below_setRow hbel (by omega) _⟩
  have d2 : decide (1073741824 < n) = false := decide_eq_false c2
  by_cases c3 : i < 0
  · have d3 : decide (i < 0) = true := decide_eq_true c3
    have HF : Hid (foldR n i z wy = (zeroH, false)) := Lib.hid (by
      have : insB n i = false := by cases h : insB n i; rfl; have := insB_iff.1 h; omega
      unfold foldR; rw [this]; rfl)
    clear hD
    go_enter Tryd.func11, Tryd.ntmps11
    go_upto_region 1 with fail
    refine wp_nameE _ (fun W1 hX => ?_)
    have y0 : W1.heap[w.heap.size]? = some (.cells (hrow z.1) 25 (0, 0)) := by rw [hX]; exact g0
    have y9 : W1.heap[w.heap.size + 1]? = some (.cells #[Value.int .u8 0, Value.int .u8 0, Value.int .u8 0, Value.int .u8 0, Value.int .u8 0, Value.int .u8 0, Value.int .u8 0, Value.int .u8 0, Value.int .u8 0, Value.int .u8 0, Value.int .u8 0, Value.int .u8 0, Value.int .u8 0, Value.int .u8 0, Value.int .u8 0, Value.int .u8 0, Value.int .u8 0, Value.int .u8 0, Value.int .u8 0, Value.int .u8 0, Value.int .u8 0, Value.int .u8 0, Value.int .u8 0, Value.int .u8 0, Value.int .u8 0, Value.int .u8 0, Value.int .u8 0, Value.int .u8 0, Value.int .u8 0, Value.int .u8 0, Value.int .u8 0, Value.int .u8 0] 25 (0, 0)) := by rw [hX]; exact g9
    have hbel : Below w.heap.size w W1 := by rw [hX]; exact hbA
    clear hX g0 g9 hbA
    have hy9 : w.heap.size + 1 < W1.heap.size := (Array.getElem?_eq_some_iff.1 y9).1
    go_upto_region 2 with (go_at_call 26; refine (CD _).mono ?_; rintro e w2 ⟨rfl, hb⟩; have y9 := cells_of y9 hb hy9; have hy9 := Nat.lt_of_lt_of_le hy9 hb.size; have hbel := hbel.trans (hb.mono hbel.size); clear hb)
    go_wp2_with (refine wpList_storeRowTo (Z := hrow z32) rfl (.tmp 8) (.tmp 39) 25 rfl (by rw [hz]; kernel_rfl) rfl (by rfl) y9 (by rw [hz]; rfl) hzone ?_)
    have hrd := run_loadVar_row (P := Tryd.prog) _ _ 25 25 _ (0, 0) _ (setRow_heap _ _ _ _ _ _ y9) Tryd.underlying25 rfl (by rw [hz]; kernel_rfl)
    refine bodyPost_ret (v := .tuple #[.agg (hrow z32), .bool false]) ?_ rfl ?_
    · simp [results, Tryd.results11, asAddr, hrd]
      try rfl
    exact ⟨by rw [HF.out]; rfl, below_setRow hbel (by omega) _⟩
  have d3 : decide (i < 0) = false := decide_eq_false c3
  by_cases c4 : n ≤ i
  · have d4 : decide (n ≤ i) = true := decide_eq_true c4
    have HF : Hid (foldR n i z wy = (zeroH, false)) := Lib.hid (by
      have : insB n i = false := by cases h : insB n i; rfl; have := insB_iff.1 h; omega
      unfold foldR; rw [this]; rfl)
    clear hD
    go_enter Tryd.func11, Tryd.ntmps11
    go_upto_region 1 with fail
    refine wp_nameE _ (fun W1 hX => ?_)
    have y0 : W1.heap[w.heap.size]? = some (.cells (hrow z.1) 25 (0, 0)) := by rw [hX]; exact g0
    have y9 : W1.heap[w.heap.size + 1]? = some (.cells #[Value.int .u8 0, Value.int .u8 0, Value.int .u8 0, Value.int .u8 0, Value.int .u8 0, Value.int .u8 0, Value.int .u8 0, Value.int .u8 0, Value.int .u8 0, Value.int .u8 0, Value.int .u8 0, Value.int .u8 0, Value.int .u8 0, Value.int .u8 0, Value.int .u8 0, Value.int .u8 0, Value.int .u8 0, Value.int .u8 0, Value.int .u8 0, Value.int .u8 0, Value.int .u8 0, Value.int .u8 0, Value.int .u8 0, Value.int .u8 0, Value.int .u8 0, Value.int .u8 0, Value.int .u8 0, Value.int .u8 0, Value.int .u8 0, Value.int .u8 0, Value.int .u8 0, Value.int .u8 0] 25 (0, 0)) := by rw [hX]; exact g9
    have hbel : Below w.heap.size w W1 := by rw [hX]; exact hbA
    clear hX g0 g9 hbA
    have hy9 : w.heap.size + 1 < W1.heap.size := (Array.getElem?_eq_some_iff.1 y9).1
    go_upto_region 2 with (go_at_call 26; refine (CD _).mono ?_; rintro e w2 ⟨rfl, hb⟩; have y9 := cells_of y9 hb hy9; have hy9 := Nat.lt_of_lt_of_le hy9 hb.size; have hbel := hbel.trans (hb.mono hbel.size); clear hb)
    go_wp2_with (refine wpList_storeRowTo (Z := hrow z32) rfl (.tmp 8) (.tmp 39) 25 rfl (by rw [hz]; kernel_rfl) rfl (by rfl) y9 (by rw [hz]; rfl) hzone ?_)
    have hrd := run_loadVar_row (P := Tryd.prog) _ _ 25 25 _ (0, 0) _ (setRow_heap _ _ _ _ _ _ y9) Tryd.underlying25 rfl (by rw [hz]; kernel_rfl)
    refine bodyPost_ret (v := .tuple #[.agg (hrow z32), .bool false]) ?_ rfl ?_
    · simp [results, Tryd.results11, asAddr, hrd]
      try rfl
    exact ⟨by rw [HF.out]; rfl, below_setRow hbel (by omega) _⟩
  have d4 : decide (n ≤ i) = false := decide_eq_false c4
  have hib : insB n i = true := insB_iff.2 ⟨by omega, by omega, by omega⟩
  by_cases c5 : (k : Int) = D
  · obtain ⟨i, rfl⟩ : ∃ m : Nat, i = m := ⟨i.toNat, by omega⟩
    obtain ⟨n, rfl⟩ : ∃ m : Nat, n = m := ⟨n.toNat, by omega⟩
    have hdk : wy.length = deepN n i := by
      unfold deepI at hD
      rw [hib] at hD
      simp only [cond_true, Int.toNat_natCast] at hD
      omega
    have hF : foldR n i z wy = (foldH n i z wy, true) := by
      unfold foldR
      rw [hib, hD, decide_eq_true (by rw [hk]; exact c5), Int.toNat_natCast, Int.toNat_natCast]
      rfl
    rw [hF]
    exact refFoldN_any n i z wy a k cap w (by omega) (by omega) hdk hk hcap hcm hr
  · have d5 : ((k : Int) != D) = true := by rw [bne_iff_ne]; exact c5
    have HF : Hid (foldR n i z wy = (zeroH, false)) := Lib.hid (by
      unfold foldR; rw [hib, hD, decide_eq_false (by rw [hk]; exact c5)]; rfl)
    clear hD
    go_enter Tryd.func11, Tryd.ntmps11
    go_upto_region 1 with fail
    refine wp_nameE _ (fun W1 hX => ?_)
    have y0 : W1.heap[w.heap.size]? = some (.cells (hrow z.1) 25 (0, 0)) := by rw [hX]; exact g0
    have y9 : W1.heap[w.heap.size + 1]? = some (.cells #[Value.int .u8 0, Value.int .u8 0, Value.int .u8 0, Value.int .u8 0, Value.int .u8 0, Value.int .u8 0, Value.int .u8 0, Value.int .u8 0, Value.int .u8 0, Value.int .u8 0, Value.int .u8 0, Value.int .u8 0, Value.int .u8 0, Value.int .u8 0, Value.int .u8 0, Value.int .u8 0, Value.int .u8 0, Value.int .u8 0, Value.int .u8 0, Value.int .u8 0, Value.int .u8 0, Value.int .u8 0, Value.int .u8 0, Value.int .u8 0, Value.int .u8 0, Value.int .u8 0, Value.int .u8 0, Value.int .u8 0, Value.int .u8 0, Value.int .u8 0, Value.int .u8 0, Value.int .u8 0] 25 (0, 0)) := by rw [hX]; exact g9
    have hbel : Below w.heap.size w W1 := by rw [hX]; exact hbA
    clear hX g0 g9 hbA
    have hy9 : w.heap.size + 1 < W1.heap.size := (Array.getElem?_eq_some_iff.1 y9).1
    go_upto_region 2 with (go_at_call 26; refine (CD _).mono ?_; rintro e w2 ⟨rfl, hb⟩; have y9 := cells_of y9 hb hy9; have hy9 := Nat.lt_of_lt_of_le hy9 hb.size; have hbel := hbel.trans (hb.mono hbel.size); clear hb)
    go_wp2_with (refine wpList_storeRowTo (Z := hrow z32) rfl (.tmp 8) (.tmp 39) 25 rfl (by rw [hz]; kernel_rfl) rfl (by rfl) y9 (by rw [hz]; rfl) hzone ?_)
    have hrd := run_loadVar_row (P := Tryd.prog) _ _ 25 25 _ (0, 0) _ (setRow_heap _ _ _ _ _ _ y9) Tryd.underlying25 rfl (by rw [hz]; kernel_rfl)
    refine bodyPost_ret (v := .tuple #[.agg (hrow z32), .bool false]) ?_ rfl ?_
    · simp [results, Tryd.results11, asAddr, hrd]
      try rfl
    exact ⟨by rw [HF.out]; rfl, below_setRow hbel (by omega) _⟩
end Go.Proofs.YtfikbaoiialfeaaDoor
namespace Go.Proofs.YtfikbaoiialfeaaDoor
open Go.RowKit
attribute [local go_sem] strV
set_option linter.unusedVariables false
set_option maxRecDepth 100000 in
set_option maxHeartbeats 40000000 in
theorem walkTreeTells (a : Option Addr) (m cap : Nat) (l : List H32) (i n : Int) (a3 : Option Addr) (k cap3 : Nat) (wy : List H32) (key val : ByteArray) (w : World) (hW : SW w) (hr : RowAt w a (l.flatMap H32.cells)) (hl : l.length = m) (hcap : m ≤ cap) (hcm : cap ≤ maxLen)
    (hr3 : RowAt w a3 (wy.flatMap H32.cells)) (hk : wy.length = k) (hcap3 : k ≤ cap3) (hcm3 : cap3 ≤ maxLen) (hks : key.size ≤ maxLen) (hvs : val.size ≤ maxLen) :
    Calls Tryd.prog 3 #[.slice a m cap, .int .i64 i, .int .i64 n, .slice a3 k cap3, .string key, .string val] w fun e w' => e = .returned (.bool true) ∧ Below w.heap.size w w' := by
  have hW0 := hW
  have hbel := Below.refl w.heap.size w
  go_enter Tryd.func3, Tryd.ntmps3
  go_upto_region 3 with (go_at_call 9; refine (first6_any _ hW).mono ?_; rintro e w0 ⟨rfl, hb⟩; have hbel := hbel.trans (hb.mono hbel.size); have hW := hW.below (hb.mono (Nat.le_refl _)); clear hb)
  by_cases h1 : 40 < m
  · have dh1 : decide (40 < (m : Int)) = true := decide_eq_true (by omega)
    have dh1n : decide (40 < m) = true := decide_eq_true h1
    go_wp2_with (go_at_call 9; refine (first6_any _ hW).mono ?_; rintro e w0 ⟨rfl, hb⟩; have hbel := hbel.trans (hb.mono hbel.size); have hW := hW.below (hb.mono (Nat.le_refl _)); clear hb)
    go_ret
    exact ⟨by first | rfl | simp, hbel⟩
  have dh1 : decide (40 < (m : Int)) = false := decide_eq_false (by omega)
  have dh1n : decide (40 < m) = false := decide_eq_false h1
  by_cases h2 : 40 < k
  · have dh2 : decide (40 < (k : Int)) = true := decide_eq_true (by omega)
    have dh2n : decide (40 < k) = true := decide_eq_true h2
    go_wp2_with (go_at_call 9; refine (first6_any _ hW).mono ?_; rintro e w0 ⟨rfl, hb⟩; have hbel := hbel.trans (hb.mono hbel.size); have hW := hW.below (hb.mono (Nat.le_refl _)); clear hb)
    go_ret
    exact ⟨by first | rfl | simp, hbel⟩
  have dh2 : decide (40 < (k : Int)) = false := decide_eq_false (by omega)
  have dh2n : decide (40 < k) = false := decide_eq_false h2
  by_cases h3 : 300 < key.size
  · have dh3 : decide (300 < (key.size : Int)) = true := decide_eq_true (by omega)
    have dh3n : decide (300 < key.size) = true := decide_eq_true h3
    go_wp2_with (go_at_call 9; refine (first6_any _ hW).mono ?_; rintro e w0 ⟨rfl, hb⟩; have hbel := hbel.trans (hb.mono hbel.size); have hW := hW.below (hb.mono (Nat.le_refl _)); clear hb)
    go_ret
    exact ⟨by first | rfl | simp, hbel⟩
  have dh3 : decide (300 < (key.size : Int)) = false := decide_eq_false (by omega)
  have dh3n : decide (300 < key.size) = false := decide_eq_false h3
  by_cases h4 : 300 < val.size
  · have dh4 : decide (300 < (val.size : Int)) = true := decide_eq_true (by omega)
    have dh4n : decide (300 < val.size) = true := decide_eq_true h4
    go_wp2_with (go_at_call 9; refine (first6_any _ hW).mono ?_; rintro e w0 ⟨rfl, hb⟩; have hbel := hbel.trans (hb.mono hbel.size); have hW := hW.below (hb.mono (Nat.le_refl _)); clear hb)
    go_ret
    exact ⟨by first | rfl | simp, hbel⟩
  have dh4 : decide (300 < (val.size : Int)) = false := decide_eq_false (by omega)
  have dh4n : decide (300 < val.size) = false := decide_eq_false h4
  go_upto_region 6 with (go_at_call 9; refine (first6_any _ hW).mono ?_; rintro e w0 ⟨rfl, hb⟩; have hbel := hbel.trans (hb.mono hbel.size); have hW := hW.below (hb.mono (Nat.le_refl _)); clear hb)
  by_cases hm0 : m = 0
  · have d0 : decide (0 < (m : Int)) = false := decide_eq_false (by omega)
    have d0n : decide (0 < m) = false := decide_eq_false (by omega)
    clear hm0
    go_upto_region 8 with fail
    have q0 := al2_0 w0 (.cells #[Value.int .u8 0, Value.int .u8 0, Value.int .u8 0, Value.int .u8 0, Value.int .u8 0, Value.int .u8 0, Value.int .u8 0, Value.int .u8 0, Value.int .u8 0, Value.int .u8 0, Value.int .u8 0, Value.int .u8 0, Value.int .u8 0, Value.int .u8 0, Value.int .u8 0, Value.int .u8 0, Value.int .u8 0, Value.int .u8 0, Value.int .u8 0, Value.int .u8 0, Value.int .u8 0, Value.int .u8 0, Value.int .u8 0, Value.int .u8 0, Value.int .u8 0, Value.int .u8 0, Value.int .u8 0, Value.int .u8 0, Value.int .u8 0, Value.int .u8 0, Value.int .u8 0, Value.int .u8 0] 25) (.cells #[Value.int .u8 0, Value.int .u8 0, Value.int .u8 0, Value.int .u8 0, Value.int .u8 0, Value.int .u8 0, Value.int .u8 0, Value.int .u8 0, Value.int .u8 0, Value.int .u8 0, Value.int .u8 0, Value.int .u8 0, Value.int .u8 0, Value.int .u8 0, Value.int .u8 0, Value.int .u8 0, Value.int .u8 0, Value.int .u8 0, Value.int .u8 0, Value.int .u8 0, Value.int .u8 0, Value.int .u8 0, Value.int .u8 0, Value.int .u8 0, Value.int .u8 0, Value.int .u8 0, Value.int .u8 0, Value.int .u8 0, Value.int .u8 0, Value.int .u8 0, Value.int .u8 0, Value.int .u8 0] 25)
    have q1 := al2_1 w0 (.cells #[Value.int .u8 0, Value.int .u8 0, Value.int .u8 0, Value.int .u8 0, Value.int .u8 0, Value.int .u8 0, Value.int .u8 0, Value.int .u8 0, Value.int .u8 0, Value.int .u8 0, Value.int .u8 0, Value.int .u8 0, Value.int .u8 0, Value.int .u8 0, Value.int .u8 0, Value.int .u8 0, Value.int .u8 0, Value.int .u8 0, Value.int .u8 0, Value.int .u8 0, Value.int .u8 0, Value.int .u8 0, Value.int .u8 0, Value.int .u8 0, Value.int .u8 0, Value.int .u8 0, Value.int .u8 0, Value.int .u8 0, Value.int .u8 0, Value.int .u8 0, Value.int .u8 0, Value.int .u8 0] 25) (.cells #[Value.int .u8 0, Value.int .u8 0, Value.int .u8 0, Value.int .u8 0, Value.int .u8 0, Value.int .u8 0, Value.int .u8 0, Value.int .u8 0, Value.int .u8 0, Value.int .u8 0, Value.int .u8 0, Value.int .u8 0, Value.int .u8 0, Value.int .u8 0, Value.int .u8 0, Value.int .u8 0, Value.int .u8 0, Value.int .u8 0, Value.int .u8 0, Value.int .u8 0, Value.int .u8 0, Value.int .u8 0, Value.int .u8 0, Value.int .u8 0, Value.int .u8 0, Value.int .u8 0, Value.int .u8 0, Value.int .u8 0, Value.int .u8 0, Value.int .u8 0, Value.int .u8 0, Value.int .u8 0] 25)
    have qb := al2_below w0 (.cells #[Value.int .u8 0, Value.int .u8 0, Value.int .u8 0, Value.int .u8 0, Value.int .u8 0, Value.int .u8 0, Value.int .u8 0, Value.int .u8 0, Value.int .u8 0, Value.int .u8 0, Value.int .u8 0, Value.int .u8 0, Value.int .u8 0, Value.int .u8 0, Value.int .u8 0, Value.int .u8 0, Value.int .u8 0, Value.int .u8 0, Value.int .u8 0, Value.int .u8 0, Value.int .u8 0, Value.int .u8 0, Value.int .u8 0, Value.int .u8 0, Value.int .u8 0, Value.int .u8 0, Value.int .u8 0, Value.int .u8 0, Value.int .u8 0, Value.int .u8 0, Value.int .u8 0, Value.int .u8 0] 25) (.cells #[Value.int .u8 0, Value.int .u8 0, Value.int .u8 0, Value.int .u8 0, Value.int .u8 0, Value.int .u8 0, Value.int .u8 0, Value.int .u8 0, Value.int .u8 0, Value.int .u8 0, Value.int .u8 0, Value.int .u8 0, Value.int .u8 0, Value.int .u8 0, Value.int .u8 0, Value.int .u8 0, Value.int .u8 0, Value.int .u8 0, Value.int .u8 0, Value.int .u8 0, Value.int .u8 0, Value.int .u8 0, Value.int .u8 0, Value.int .u8 0, Value.int .u8 0, Value.int .u8 0, Value.int .u8 0, Value.int .u8 0, Value.int .u8 0, Value.int .u8 0, Value.int .u8 0, Value.int .u8 0] 25)
    refine wp_nameE _ (fun W8 hX => ?_)
    have y13 : W8.heap[w0.heap.size]? = some (.cells (hrow zeroH.1) 25 (0, 0)) := by rw [hX]; exact q0
    have y14 : W8.heap[w0.heap.size + 1]? = some (.cells (hrow zeroH.1) 25 (0, 0)) := by rw [hX]; exact q1
    have hbel : Below w.heap.size w W8 := by rw [hX]; exact hbel.trans (qb.mono hbel.size)
    clear hX q0 q1 qb
    obtain ⟨g13, hg13⟩ : ∃ g, w0.heap.size = g := ⟨_, rfl⟩
    rw [hg13] at y13 y14
    simp only [hg13]
    obtain ⟨g14, hg14⟩ : ∃ g, g13 + 1 = g := ⟨_, rfl⟩
    rw [hg14] at y14
    simp only [hg14]
    clear hg13 hg14
    obtain ⟨A, hA⟩ : ∃ q : H32, zeroH = q := ⟨_, rfl⟩
    obtain ⟨B, hB⟩ : ∃ q : H32, zeroH = q := ⟨_, rfl⟩
    rw [hA] at y13
    rw [hB] at y14
    clear hA hB
    have h13l := (Array.getElem?_eq_some_iff.1 y13).1
    have h14l := (Array.getElem?_eq_some_iff.1 y14).1
    have hszA : (hrow A.1).size = 32 := by rw [hrow_size]; exact A.2
    have hszB : (hrow B.1).size = 32 := by rw [hrow_size]; exact B.2
    have hr8 := hr.below hbel
    have hr38 := hr3.below hbel
    have CF := fun W (hb : Below w.heap.size w W) => Fold_any n i A wy a3 k cap3 W hk hcap3 hcm3 (hr3.below hb) (hW0.below hb)
    have CRF := fun W (hb : Below w.heap.size w W) => refFold_all n i A wy a3 k cap3 W hk hcap3 hcm3 (hr3.below hb)
    obtain ⟨⟨X, p⟩, hFR⟩ : ∃ x, foldR n i A wy = x := ⟨_, rfl⟩
    simp only [hFR] at CF CRF
    clear hFR
    have hszX : (hrow X.1).size = 32 := by rw [hrow_size]; exact X.2
    have hoX := hrow_one X.1
    go_upto_region 9 with (first | (refine wpList_loadRow rfl (.tmp 13) 25 rfl Tryd.underlying25 (by rw [hszA]; kernel_rfl) rfl y13 ?_) | (go_at_call 10; refine (CF _ hbel).mono ?_; rintro e w3 ⟨rfl, hb⟩; have y13 := cells_of y13 hb h13l; have y14 := cells_of y14 hb h14l; have h13l := Nat.lt_of_lt_of_le h13l hb.size; have h14l := Nat.lt_of_lt_of_le h14l hb.size; have hbel := hbel.trans (hb.mono hbel.size); clear hb) | (refine wpList_storeRowTo (Z := hrow X.1) rfl (.tmp 15) (.tmp 58) 25 rfl (by rw [hszX]; kernel_rfl) rfl (by rfl) (heap_pushF _ _ _) (by rw [hszX]; rfl) hoX ?_))
    refine wp_nameE _ (fun W5 hX => ?_)
    have hb5 : Below w3.heap.size w3 W5 := by rw [hX]; exact below_setRow (Below.alloc (Below.refl _ _) (Nat.le_refl _) _) (Nat.le_refl _) _
    have y15 : W5.heap[w3.heap.size]? = some (.cells (hrow X.1) 25 (0, 0)) := by rw [hX]; exact setRow_heap _ _ _ _ _ _ (heap_pushF _ _ _)
    clear hX
    have y13 := cells_of y13 hb5 h13l
    have y14 := cells_of y14 hb5 h14l
    have h13l := Nat.lt_of_lt_of_le h13l hb5.size
    have h14l := Nat.lt_of_lt_of_le h14l hb5.size
    have hbel := hbel.trans (hb5.mono hbel.size)
    obtain ⟨g15, hg15⟩ : ∃ g, w3.heap.size = g := ⟨_, rfl⟩
    rw [hg15] at y15
    simp only [hg15]
    clear hg15 hb5
    have h15l := (Array.getElem?_eq_some_iff.1 y15).1
    go_upto_region 10 with (first | (refine wpList_loadRow rfl (.tmp 13) 25 rfl Tryd.underlying25 (by rw [hszA]; kernel_rfl) rfl y13 ?_) | (go_at_call 11; refine (CRF _ hbel).mono ?_; rintro e w6 ⟨rfl, hb⟩; have y13 := cells_of y13 hb h13l; have y14 := cells_of y14 hb h14l; have y15 := cells_of y15 hb h15l; have h13l := Nat.lt_of_lt_of_le h13l hb.size; have h14l := Nat.lt_of_lt_of_le h14l hb.size; have h15l := Nat.lt_of_lt_of_le h15l hb.size; have hbel := hbel.trans (hb.mono hbel.size); clear hb) | (refine wpList_storeRowTo (Z := hrow X.1) rfl (.tmp 17) (.tmp 66) 25 rfl (by rw [hszX]; kernel_rfl) rfl (by rfl) (heap_pushF _ _ _) (by rw [hszX]; rfl) hoX ?_))
    refine wp_nameE _ (fun W9 hX => ?_)
    have hb5 : Below w6.heap.size w6 W9 := by rw [hX]; exact below_setRow (Below.alloc (Below.refl _ _) (Nat.le_refl _) _) (Nat.le_refl _) _
    have y17 : W9.heap[w6.heap.size]? = some (.cells (hrow X.1) 25 (0, 0)) := by rw [hX]; exact setRow_heap _ _ _ _ _ _ (heap_pushF _ _ _)
    clear hX
    have y13 := cells_of y13 hb5 h13l
    have y14 := cells_of y14 hb5 h14l
    have y15 := cells_of y15 hb5 h15l
    have hbel := hbel.trans (hb5.mono hbel.size)
    obtain ⟨g17, hg17⟩ : ∃ g, w6.heap.size = g := ⟨_, rfl⟩
    rw [hg17] at y17
    simp only [hg17]
    clear hg17 hb5 h13l h14l h15l
    have h13l := (Array.getElem?_eq_some_iff.1 y13).1
    have h14l := (Array.getElem?_eq_some_iff.1 y14).1
    have h15l := (Array.getElem?_eq_some_iff.1 y15).1
    have h17l := (Array.getElem?_eq_some_iff.1 y17).1
    have hEQ : ∀ (q : H32) (V : World), (Op.equalIn 10000 25 (.agg (hrow q.1)) (.agg (hrow q.1))).run Tryd.prog V = .ok true V := fun q V => by
      rw [run_equal_hash V 25 q.1 q.1 q.2 q.2 Tryd.underlying25 Tryd.underlying5 (by kernel_rfl)]; simp
    obtain ⟨LF, hLF⟩ : ∃ q : H32, q.1 = leafF key val := ⟨⟨leafF key val, leafF_len _ _⟩, rfl⟩
    obtain ⟨ND, hND⟩ : ∃ q : H32, q.1 = nodeF A.1 B.1 := ⟨⟨nodeF A.1 B.1, nodeF_len _ _⟩, rfl⟩
    obtain ⟨RT, hRT⟩ : ∃ q : H32, q.1 = rootF n A.1 := ⟨⟨rootF n A.1, rootF_len _ _⟩, rfl⟩
    obtain ⟨TP, hTP⟩ : ∃ q : H32, q = topH l := ⟨_, rfl⟩
    obtain ⟨HF, hHF⟩ : ∃ q : Int, halfI n = q := ⟨_, rfl⟩
    obtain ⟨DP, hDP⟩ : ∃ q : Int, deepI n i = q := ⟨_, rfl⟩
    obtain ⟨WY, hWY⟩ : ∃ q, wayI l i = q := ⟨_, rfl⟩
    have hwl : WY.length ≤ maxLen := by
      rw [← hWY]
      unfold wayI
      split
      · rename_i hin
        have := way_len l.length l i.toNat rfl (by omega)
        have := deepN_30 (n := l.length) (i := i.toNat) (by omega)
        unfold maxLen; omega
      · exact Nat.zero_le _
    have CLf := fun W (hb : Below w.heap.size w W) => leaf_any key val W (hW0.below hb) (by omega) (by omega)
    have CRLf := fun W => refLeaf_any key val W (by omega) (by omega)
    have CN := fun W (hb : Below w.heap.size w W) => node_any A.1 B.1 W (hW0.below hb) A.2 B.2
    have CRN := fun W => refNode_any A.1 B.1 W A.2 B.2
    have CR := fun W (hb : Below w.heap.size w W) => root_any n A.1 W (hW0.below hb) A.2
    have CRR := fun W => refRoot_any n A.1 W A.2
    have CH := fun W => half2_any n W
    have CRH := fun W => refHalf_any n W
    have CT := fun W (hb : Below w.heap.size w W) => top_any m l a cap W hl (by omega) hcap hcm (hr.below hb) (hW0.below hb)
    have CRT := fun W (hb : Below w.heap.size w W) => refTop_any m l a cap W hl (by omega) hcap hcm (hr.below hb) trivial
    have CD := fun W => deep_any n i W
    have CRD := fun W => refDeep_any n i W
    have CW := fun W (hb : Below w.heap.size w W) => Way_any l i a m cap W hl (by omega) hcap hcm (hr.below hb) (hW0.below hb)
    have CRW := fun W (hb : Below w.heap.size w W) => RefWay_any l i a m cap W hl (by omega) hcap hcm (hr.below hb)
    unfold WayPostI at CW CRW
    simp only [← hLF] at CLf CRLf
    simp only [← hND] at CN CRN
    simp only [← hRT] at CR CRR
    simp only [← hTP] at CT CRT
    simp only [hHF] at CH CRH
    simp only [hDP] at CD CRD
    simp only [hWY] at CW CRW
    have hHH : (HF == HF) = true := beq_self_eq_true _
    have hDD : (DP == DP) = true := beq_self_eq_true _
    have hPP : (p == p) = true := beq_self_eq_true _
    clear hLF hND hRT hTP hHF hDP hWY CF CRF hr8 hr38
    simp only [List.append_eq, List.cons_append, List.nil_append]
    refine wp_region_facts [Fact.eq (.string key), Fact.eq (.string val), Fact.eq (.agg (hrow LF.1)), Fact.eq (.string key), Fact.eq (.string val), Fact.eq (.agg (hrow LF.1)), Fact.eq (.bool true), Fact.eq (.bool true), Fact.eq (.agg (hrow A.1)), Fact.eq (.agg (hrow B.1)), Fact.eq (.agg (hrow ND.1)), Fact.eq (.agg (hrow A.1)), Fact.eq (.agg (hrow B.1)), Fact.eq (.agg (hrow ND.1)), Fact.eq (.bool true), Fact.eq (.bool true), Fact.eq (.bool true), Fact.eq (.int .i64 n), Fact.eq (.agg (hrow A.1)), Fact.eq (.agg (hrow RT.1)), Fact.eq (.int .i64 n), Fact.eq (.agg (hrow A.1)), Fact.eq (.agg (hrow RT.1)), Fact.eq (.bool true), Fact.eq (.bool true), Fact.eq (.bool true), Fact.eq (.int .i64 n), Fact.eq (.int .i64 HF), Fact.eq (.int .i64 n), Fact.eq (.int .i64 HF), Fact.eq (.bool true), Fact.eq (.bool true), Fact.eq (.bool true), Fact.eq (.slice a m cap), Fact.eq (.agg (hrow TP.1)), Fact.eq (.slice a m cap), Fact.eq (.agg (hrow TP.1)), Fact.eq (.bool true), Fact.eq (.bool true), Fact.eq (.bool true), Fact.eq (.slice a m cap), Fact.eq (.int .i64 i), Fact.row (WY.length) (WY.flatMap H32.cells), Fact.eq (.slice a m cap), Fact.eq (.int .i64 i), Fact.row (WY.length) (WY.flatMap H32.cells), Fact.eq (.bool true), Fact.eq (.bool true), Fact.eq (.bool true), Fact.eq (.int .i64 n), Fact.eq (.int .i64 i), Fact.eq (.int .i64 DP), Fact.eq (.int .i64 n), Fact.eq (.int .i64 i), Fact.eq (.int .i64 DP), Fact.eq (.bool true), Fact.eq (.bool true), Fact.eq (.bool true), Fact.eq (.agg (hrow X.1)), Fact.eq (.agg (hrow X.1)), Fact.eq (.bool true), Fact.eq (.bool true), Fact.eq (.bool true), Fact.eq (.bool p), Fact.eq (.bool p), Fact.eq (.bool true), Fact.eq (.bool true), Fact.eq (.bool true)] (by kernel_rfl) (by kernel_rfl) (by kernel_rfl) (by kernel_rfl) (fun x => by simp only [fillFrom, Act.put, List.setIfInBounds_toArray, List.set_cons_succ, List.set_cons_zero]; rfl) ?_ ?_
    · refine ⟨?_, ?_, ?_, ?_, ?_, ?_, ?_, ?_, ?_, ?_, ?_, ?_, ?_, ?_, ?_, ?_, ?_, ?_, ?_, ?_, ?_, ?_, ?_, ?_, ?_, ?_, ?_, ?_, ?_, ?_, ?_, ?_, ?_, ?_, ?_, ?_, ?_, ?_, ?_, ?_, ?_, ?_, ?_, ?_, ?_, ?_, ?_, ?_, ?_, ?_, ?_, ?_, ?_, ?_, ?_, ?_, ?_, ?_, ?_, ?_, ?_, ?_, ?_, ?_, ?_, ?_, ?_, ?_, trivial⟩
      · intro x w' hbw hd
        clear hd
        go_wp2_with fail
        exact frPost_mk rfl (by repeat (first | assumption | exact Below.refl _ _ | refine bch ?_ (by assumption) | refine Below.alloc ?_ (by simp) _)) rfl
      · intro x w' hbw hd
        clear hd
        go_wp2_with fail
        exact frPost_mk rfl (by repeat (first | assumption | exact Below.refl _ _ | refine bch ?_ (by assumption) | refine Below.alloc ?_ (by simp) _)) rfl
      · intro x w' hbw hd
        have d0 : x 0 = .string key := hd 0 rfl
        have d1 : x 1 = .string val := hd 1 rfl
        clear hd
        have hbW := hbel.trans (hbw.mono hbel.size)
        go_wp2_with (first | (go_at_call 12; refine (CLf w' hbW).mono ?_; rintro e wx ⟨rfl, hbx⟩))
        exact frPost_mk rfl (by repeat (first | assumption | exact Below.refl _ _ | refine bch ?_ (by assumption) | refine Below.alloc ?_ (by simp) _)) rfl
      · intro x w' hbw hd
        clear hd
        go_wp2_with fail
        exact frPost_mk rfl (by repeat (first | assumption | exact Below.refl _ _ | refine bch ?_ (by assumption) | refine Below.alloc ?_ (by simp) _)) rfl
      · intro x w' hbw hd
        clear hd
        go_wp2_with fail
        exact frPost_mk rfl (by repeat (first | assumption | exact Below.refl _ _ | refine bch ?_ (by assumption) | refine Below.alloc ?_ (by simp) _)) rfl
      · intro x w' hbw hd
        have d3 : x 3 = .string key := hd 3 rfl
        have d4 : x 4 = .string val := hd 4 rfl
        clear hd
        go_wp2_with (first | (go_at_call 13; refine (CRLf w').mono ?_; rintro e wx ⟨rfl, hbx⟩))
        exact frPost_mk rfl (by repeat (first | assumption | exact Below.refl _ _ | refine bch ?_ (by assumption) | refine Below.alloc ?_ (by simp) _)) rfl
      · intro x w' hbw hd
        have d2 : x 2 = .agg (hrow LF.1) := hd 2 rfl
        have d5 : x 5 = .agg (hrow LF.1) := hd 5 rfl
        clear hd
        have hE := hEQ LF w'
        go_wp2_with fail
        exact frPost_mk rfl (by repeat (first | assumption | exact Below.refl _ _ | refine bch ?_ (by assumption) | refine Below.alloc ?_ (by simp) _)) rfl
      · intro x w' hbw hd
        have d6 : x 6 = .bool true := hd 6 rfl
        clear hd
        go_wp2_with fail
        exact frPost_mk rfl (by repeat (first | assumption | exact Below.refl _ _ | refine bch ?_ (by assumption) | refine Below.alloc ?_ (by simp) _)) rfl
      · intro x w' hbw hd
        have d7 : x 7 = .bool true := hd 7 rfl
        clear hd
        have hgc := cells_of y13 hbw h13l
        go_wp2_with (first | (refine wpList_loadRowG (.tmp 13) 25 rfl Tryd.underlying25 (by rw [hszA]; kernel_rfl) rfl hgc (by first | rfl | (simp [Region.wanted, yielded, *]; done)) ?_))
        exact frPost_mk rfl (by repeat (first | assumption | exact Below.refl _ _ | refine bch ?_ (by assumption) | refine Below.alloc ?_ (by simp) _)) rfl
      · intro x w' hbw hd
        have d7 : x 7 = .bool true := hd 7 rfl
        clear hd
        have hgc := cells_of y14 hbw h14l
        go_wp2_with (first | (refine wpList_loadRowG (.tmp 14) 25 rfl Tryd.underlying25 (by rw [hszB]; kernel_rfl) rfl hgc (by first | rfl | (simp [Region.wanted, yielded, *]; done)) ?_))
        exact frPost_mk rfl (by repeat (first | assumption | exact Below.refl _ _ | refine bch ?_ (by assumption) | refine Below.alloc ?_ (by simp) _)) rfl
      · intro x w' hbw hd
        have d7 : x 7 = .bool true := hd 7 rfl
        have d8 : x 8 = .agg (hrow A.1) := hd 8 rfl
        have d9 : x 9 = .agg (hrow B.1) := hd 9 rfl
        clear hd
        have hbW := hbel.trans (hbw.mono hbel.size)
        go_wp2_with (first | (go_at_call 14; refine (CN w' hbW).mono ?_; rintro e wx ⟨rfl, hbx⟩))
        exact frPost_mk rfl (by repeat (first | assumption | exact Below.refl _ _ | refine bch ?_ (by assumption) | refine Below.alloc ?_ (by simp) _)) rfl
      · intro x w' hbw hd
        have d7 : x 7 = .bool true := hd 7 rfl
        clear hd
        have hgc := cells_of y13 hbw h13l
        go_wp2_with (first | (refine wpList_loadRowG (.tmp 13) 25 rfl Tryd.underlying25 (by rw [hszA]; kernel_rfl) rfl hgc (by first | rfl | (simp [Region.wanted, yielded, *]; done)) ?_))
        exact frPost_mk rfl (by repeat (first | assumption | exact Below.refl _ _ | refine bch ?_ (by assumption) | refine Below.alloc ?_ (by simp) _)) rfl
      · intro x w' hbw hd
        have d7 : x 7 = .bool true := hd 7 rfl
        clear hd
        have hgc := cells_of y14 hbw h14l
        go_wp2_with (first | (refine wpList_loadRowG (.tmp 14) 25 rfl Tryd.underlying25 (by rw [hszB]; kernel_rfl) rfl hgc (by first | rfl | (simp [Region.wanted, yielded, *]; done)) ?_))
        exact frPost_mk rfl (by repeat (first | assumption | exact Below.refl _ _ | refine bch ?_ (by assumption) | refine Below.alloc ?_ (by simp) _)) rfl
      · intro x w' hbw hd
        have d7 : x 7 = .bool true := hd 7 rfl
        have d11 : x 11 = .agg (hrow A.1) := hd 11 rfl
        have d12 : x 12 = .agg (hrow B.1) := hd 12 rfl
        clear hd
        go_wp2_with (first | (go_at_call 15; refine (CRN w').mono ?_; rintro e wx ⟨rfl, hbx⟩))
        exact frPost_mk rfl (by repeat (first | assumption | exact Below.refl _ _ | refine bch ?_ (by assumption) | refine Below.alloc ?_ (by simp) _)) rfl
      · intro x w' hbw hd
        have d7 : x 7 = .bool true := hd 7 rfl
        have d10 : x 10 = .agg (hrow ND.1) := hd 10 rfl
        have d13 : x 13 = .agg (hrow ND.1) := hd 13 rfl
        clear hd
        have hE := hEQ ND w'
        go_wp2_with fail
        exact frPost_mk rfl (by repeat (first | assumption | exact Below.refl _ _ | refine bch ?_ (by assumption) | refine Below.alloc ?_ (by simp) _)) rfl
      · intro x w' hbw hd
        have d7 : x 7 = .bool true := hd 7 rfl
        have d14 : x 14 = .bool true := hd 14 rfl
        clear hd
        go_wp2_with fail
        exact frPost_mk rfl (by repeat (first | assumption | exact Below.refl _ _ | refine bch ?_ (by assumption) | refine Below.alloc ?_ (by simp) _)) rfl
      · intro x w' hbw hd
        have d15 : x 15 = .bool true := hd 15 rfl
        clear hd
        go_wp2_with fail
        exact frPost_mk rfl (by repeat (first | assumption | exact Below.refl _ _ | refine bch ?_ (by assumption) | refine Below.alloc ?_ (by simp) _)) rfl
      · intro x w' hbw hd
        have d16 : x 16 = .bool true := hd 16 rfl
        clear hd
        go_wp2_with fail
        exact frPost_mk rfl (by repeat (first | assumption | exact Below.refl _ _ | refine bch ?_ (by assumption) | refine Below.alloc ?_ (by simp) _)) rfl
      · intro x w' hbw hd
        have d16 : x 16 = .bool true := hd 16 rfl
        clear hd
        have hgc := cells_of y13 hbw h13l
        go_wp2_with (first | (refine wpList_loadRowG (.tmp 13) 25 rfl Tryd.underlying25 (by rw [hszA]; kernel_rfl) rfl hgc (by first | rfl | (simp [Region.wanted, yielded, *]; done)) ?_))
        exact frPost_mk rfl (by repeat (first | assumption | exact Below.refl _ _ | refine bch ?_ (by assumption) | refine Below.alloc ?_ (by simp) _)) rfl
      · intro x w' hbw hd
        have d16 : x 16 = .bool true := hd 16 rfl
        have d17 : x 17 = .int .i64 n := hd 17 rfl
        have d18 : x 18 = .agg (hrow A.1) := hd 18 rfl
        clear hd
        have hbW := hbel.trans (hbw.mono hbel.size)
        go_wp2_with (first | (go_at_call 16; refine (CR w' hbW).mono ?_; rintro e wx ⟨rfl, hbx⟩))
        exact frPost_mk rfl (by repeat (first | assumption | exact Below.refl _ _ | refine bch ?_ (by assumption) | refine Below.alloc ?_ (by simp) _)) rfl
      · intro x w' hbw hd
        have d16 : x 16 = .bool true := hd 16 rfl
        clear hd
        go_wp2_with fail
        exact frPost_mk rfl (by repeat (first | assumption | exact Below.refl _ _ | refine bch ?_ (by assumption) | refine Below.alloc ?_ (by simp) _)) rfl
      · intro x w' hbw hd
        have d16 : x 16 = .bool true := hd 16 rfl
        clear hd
        have hgc := cells_of y13 hbw h13l
        go_wp2_with (first | (refine wpList_loadRowG (.tmp 13) 25 rfl Tryd.underlying25 (by rw [hszA]; kernel_rfl) rfl hgc (by first | rfl | (simp [Region.wanted, yielded, *]; done)) ?_))
        exact frPost_mk rfl (by repeat (first | assumption | exact Below.refl _ _ | refine bch ?_ (by assumption) | refine Below.alloc ?_ (by simp) _)) rfl
      · intro x w' hbw hd
        have d16 : x 16 = .bool true := hd 16 rfl
        have d20 : x 20 = .int .i64 n := hd 20 rfl
        have d21 : x 21 = .agg (hrow A.1) := hd 21 rfl
        clear hd
        go_wp2_with (first | (go_at_call 17; refine (CRR w').mono ?_; rintro e wx ⟨rfl, hbx⟩))
        exact frPost_mk rfl (by repeat (first | assumption | exact Below.refl _ _ | refine bch ?_ (by assumption) | refine Below.alloc ?_ (by simp) _)) rfl
      · intro x w' hbw hd
        have d16 : x 16 = .bool true := hd 16 rfl
        have d19 : x 19 = .agg (hrow RT.1) := hd 19 rfl
        have d22 : x 22 = .agg (hrow RT.1) := hd 22 rfl
        clear hd
        have hE := hEQ RT w'
        go_wp2_with fail
        exact frPost_mk rfl (by repeat (first | assumption | exact Below.refl _ _ | refine bch ?_ (by assumption) | refine Below.alloc ?_ (by simp) _)) rfl
      · intro x w' hbw hd
        have d16 : x 16 = .bool true := hd 16 rfl
        have d23 : x 23 = .bool true := hd 23 rfl
        clear hd
        go_wp2_with fail
        exact frPost_mk rfl (by repeat (first | assumption | exact Below.refl _ _ | refine bch ?_ (by assumption) | refine Below.alloc ?_ (by simp) _)) rfl
      · intro x w' hbw hd
        have d24 : x 24 = .bool true := hd 24 rfl
        clear hd
        go_wp2_with fail
        exact frPost_mk rfl (by repeat (first | assumption | exact Below.refl _ _ | refine bch ?_ (by assumption) | refine Below.alloc ?_ (by simp) _)) rfl
      · intro x w' hbw hd
        have d25 : x 25 = .bool true := hd 25 rfl
        clear hd
        go_wp2_with fail
        exact frPost_mk rfl (by repeat (first | assumption | exact Below.refl _ _ | refine bch ?_ (by assumption) | refine Below.alloc ?_ (by simp) _)) rfl
      · intro x w' hbw hd
        have d25 : x 25 = .bool true := hd 25 rfl
        have d26 : x 26 = .int .i64 n := hd 26 rfl
        clear hd
        go_wp2_with (first | (go_at_call 18; refine (CH w').mono ?_; rintro e wx ⟨rfl, hbx⟩))
        exact frPost_mk rfl (by repeat (first | assumption | exact Below.refl _ _ | refine bch ?_ (by assumption) | refine Below.alloc ?_ (by simp) _)) rfl
      · intro x w' hbw hd
        have d25 : x 25 = .bool true := hd 25 rfl
        clear hd
        go_wp2_with fail
        exact frPost_mk rfl (by repeat (first | assumption | exact Below.refl _ _ | refine bch ?_ (by assumption) | refine Below.alloc ?_ (by simp) _)) rfl
      · intro x w' hbw hd
        have d25 : x 25 = .bool true := hd 25 rfl
        have d28 : x 28 = .int .i64 n := hd 28 rfl
        clear hd
        go_wp2_with (first | (go_at_call 19; refine (CRH w').mono ?_; rintro e wx ⟨rfl, hbx⟩))
        exact frPost_mk rfl (by repeat (first | assumption | exact Below.refl _ _ | refine bch ?_ (by assumption) | refine Below.alloc ?_ (by simp) _)) rfl
      · intro x w' hbw hd
        have d25 : x 25 = .bool true := hd 25 rfl
        have d27 : x 27 = .int .i64 HF := hd 27 rfl
        have d29 : x 29 = .int .i64 HF := hd 29 rfl
        clear hd
        go_wp2_with fail
        exact frPost_mk rfl (by repeat (first | assumption | exact Below.refl _ _ | refine bch ?_ (by assumption) | refine Below.alloc ?_ (by simp) _)) rfl
      · intro x w' hbw hd
        have d25 : x 25 = .bool true := hd 25 rfl
        have d30 : x 30 = .bool true := hd 30 rfl
        clear hd
        go_wp2_with fail
        exact frPost_mk rfl (by repeat (first | assumption | exact Below.refl _ _ | refine bch ?_ (by assumption) | refine Below.alloc ?_ (by simp) _)) rfl
      · intro x w' hbw hd
        have d31 : x 31 = .bool true := hd 31 rfl
        clear hd
        go_wp2_with fail
        exact frPost_mk rfl (by repeat (first | assumption | exact Below.refl _ _ | refine bch ?_ (by assumption) | refine Below.alloc ?_ (by simp) _)) rfl
      · intro x w' hbw hd
        have d32 : x 32 = .bool true := hd 32 rfl
        clear hd
        go_wp2_with fail
        exact frPost_mk rfl (by repeat (first | assumption | exact Below.refl _ _ | refine bch ?_ (by assumption) | refine Below.alloc ?_ (by simp) _)) rfl
      · intro x w' hbw hd
        have d32 : x 32 = .bool true := hd 32 rfl
        have d33 : x 33 = .slice a m cap := hd 33 rfl
        clear hd
        have hbW := hbel.trans (hbw.mono hbel.size)
        go_wp2_with (first | (go_at_call 20; refine (CT w' hbW).mono ?_; rintro e wx ⟨rfl, hbx⟩))
        exact frPost_mk rfl (by repeat (first | assumption | exact Below.refl _ _ | refine bch ?_ (by assumption) | refine Below.alloc ?_ (by simp) _)) rfl
      · intro x w' hbw hd
        have d32 : x 32 = .bool true := hd 32 rfl
        clear hd
        go_wp2_with fail
        exact frPost_mk rfl (by repeat (first | assumption | exact Below.refl _ _ | refine bch ?_ (by assumption) | refine Below.alloc ?_ (by simp) _)) rfl
      · intro x w' hbw hd
        have d32 : x 32 = .bool true := hd 32 rfl
        have d35 : x 35 = .slice a m cap := hd 35 rfl
        clear hd
        have hbW := hbel.trans (hbw.mono hbel.size)
        go_wp2_with (first | (go_at_call 21; refine (CRT w' hbW).mono ?_; rintro e wx ⟨rfl, hbx⟩))
        exact frPost_mk rfl (by repeat (first | assumption | exact Below.refl _ _ | refine bch ?_ (by assumption) | refine Below.alloc ?_ (by simp) _)) rfl
      · intro x w' hbw hd
        have d32 : x 32 = .bool true := hd 32 rfl
        have d34 : x 34 = .agg (hrow TP.1) := hd 34 rfl
        have d36 : x 36 = .agg (hrow TP.1) := hd 36 rfl
        clear hd
        have hE := hEQ TP w'
        go_wp2_with fail
        exact frPost_mk rfl (by repeat (first | assumption | exact Below.refl _ _ | refine bch ?_ (by assumption) | refine Below.alloc ?_ (by simp) _)) rfl
      · intro x w' hbw hd
        have d32 : x 32 = .bool true := hd 32 rfl
        have d37 : x 37 = .bool true := hd 37 rfl
        clear hd
        go_wp2_with fail
        exact frPost_mk rfl (by repeat (first | assumption | exact Below.refl _ _ | refine bch ?_ (by assumption) | refine Below.alloc ?_ (by simp) _)) rfl
      · intro x w' hbw hd
        have d38 : x 38 = .bool true := hd 38 rfl
        clear hd
        go_wp2_with fail
        exact frPost_mk rfl (by repeat (first | assumption | exact Below.refl _ _ | refine bch ?_ (by assumption) | refine Below.alloc ?_ (by simp) _)) rfl
      · intro x w' hbw hd
        have d39 : x 39 = .bool true := hd 39 rfl
        clear hd
        go_wp2_with fail
        exact frPost_mk rfl (by repeat (first | assumption | exact Below.refl _ _ | refine bch ?_ (by assumption) | refine Below.alloc ?_ (by simp) _)) rfl
      · intro x w' hbw hd
        have d39 : x 39 = .bool true := hd 39 rfl
        clear hd
        go_wp2_with fail
        exact frPost_mk rfl (by repeat (first | assumption | exact Below.refl _ _ | refine bch ?_ (by assumption) | refine Below.alloc ?_ (by simp) _)) rfl
      · intro x w' hbw hd
        have d39 : x 39 = .bool true := hd 39 rfl
        have d40 : x 40 = .slice a m cap := hd 40 rfl
        have d41 : x 41 = .int .i64 i := hd 41 rfl
        clear hd
        have hbW := hbel.trans (hbw.mono hbel.size)
        go_wp2_with (first | (go_at_call 23; refine (CW w' hbW).mono ?_; rintro e wx ⟨v9, rfl, ho9, hbx⟩; obtain ⟨a9, c9, rfl, hrv9, _, _⟩ := own_sliceH ho9))
        exact frPost_mk rfl (by repeat (first | assumption | exact Below.refl _ _ | refine bch ?_ (by assumption) | refine Below.alloc ?_ (by simp) _)) ⟨_, _, rfl, by assumption⟩
      · intro x w' hbw hd
        have d39 : x 39 = .bool true := hd 39 rfl
        clear hd
        go_wp2_with fail
        exact frPost_mk rfl (by repeat (first | assumption | exact Below.refl _ _ | refine bch ?_ (by assumption) | refine Below.alloc ?_ (by simp) _)) rfl
      · intro x w' hbw hd
        have d39 : x 39 = .bool true := hd 39 rfl
        clear hd
        go_wp2_with fail
        exact frPost_mk rfl (by repeat (first | assumption | exact Below.refl _ _ | refine bch ?_ (by assumption) | refine Below.alloc ?_ (by simp) _)) rfl
      · intro x w' hbw hd
        have d39 : x 39 = .bool true := hd 39 rfl
        have d43 : x 43 = .slice a m cap := hd 43 rfl
        have d44 : x 44 = .int .i64 i := hd 44 rfl
        clear hd
        have hbW := hbel.trans (hbw.mono hbel.size)
        go_wp2_with (first | (go_at_call 24; refine (CRW w' hbW).mono ?_; rintro e wx ⟨v9, rfl, ho9, hbx⟩; obtain ⟨a9, c9, rfl, hrv9, _, _⟩ := own_sliceH ho9))
        exact frPost_mk rfl (by repeat (first | assumption | exact Below.refl _ _ | refine bch ?_ (by assumption) | refine Below.alloc ?_ (by simp) _)) ⟨_, _, rfl, by assumption⟩
      · intro x w' hbw hd
        have d39 : x 39 = .bool true := hd 39 rfl
        obtain ⟨a42, cap42, d42, r42⟩ := (show (Fact.row (WY.length) (WY.flatMap H32.cells)).holds (x 42) w' from hd 42 rfl)
        obtain ⟨a45, cap45, d45, r45⟩ := (show (Fact.row (WY.length) (WY.flatMap H32.cells)).holds (x 45) w' from hd 45 rfl)
        clear hd
        have CC := hashes_any a42 a45 _ _ cap42 cap45 WY WY w' r42 r45 rfl rfl hwl hwl
        rw [show hsB WY WY = true from decide_eq_true rfl] at CC
        go_wp2_with (first | (go_at_call 22; refine (CC).mono ?_; rintro e wx ⟨rfl, hbx⟩))
        exact frPost_mk rfl (by repeat (first | assumption | exact Below.refl _ _ | refine bch ?_ (by assumption) | refine Below.alloc ?_ (by simp) _)) rfl
      · intro x w' hbw hd
        have d39 : x 39 = .bool true := hd 39 rfl
        have d46 : x 46 = .bool true := hd 46 rfl
        clear hd
        go_wp2_with fail
        exact frPost_mk rfl (by repeat (first | assumption | exact Below.refl _ _ | refine bch ?_ (by assumption) | refine Below.alloc ?_ (by simp) _)) rfl
      · intro x w' hbw hd
        have d47 : x 47 = .bool true := hd 47 rfl
        clear hd
        go_wp2_with fail
        exact frPost_mk rfl (by repeat (first | assumption | exact Below.refl _ _ | refine bch ?_ (by assumption) | refine Below.alloc ?_ (by simp) _)) rfl
      · intro x w' hbw hd
        have d48 : x 48 = .bool true := hd 48 rfl
        clear hd
        go_wp2_with fail
        exact frPost_mk rfl (by repeat (first | assumption | exact Below.refl _ _ | refine bch ?_ (by assumption) | refine Below.alloc ?_ (by simp) _)) rfl
      · intro x w' hbw hd
        have d48 : x 48 = .bool true := hd 48 rfl
        clear hd
        go_wp2_with fail
        exact frPost_mk rfl (by repeat (first | assumption | exact Below.refl _ _ | refine bch ?_ (by assumption) | refine Below.alloc ?_ (by simp) _)) rfl
      · intro x w' hbw hd
        have d48 : x 48 = .bool true := hd 48 rfl
        have d49 : x 49 = .int .i64 n := hd 49 rfl
        have d50 : x 50 = .int .i64 i := hd 50 rfl
        clear hd
        go_wp2_with (first | (go_at_call 25; refine (CD w').mono ?_; rintro e wx ⟨rfl, hbx⟩))
        exact frPost_mk rfl (by repeat (first | assumption | exact Below.refl _ _ | refine bch ?_ (by assumption) | refine Below.alloc ?_ (by simp) _)) rfl
      · intro x w' hbw hd
        have d48 : x 48 = .bool true := hd 48 rfl
        clear hd
        go_wp2_with fail
        exact frPost_mk rfl (by repeat (first | assumption | exact Below.refl _ _ | refine bch ?_ (by assumption) | refine Below.alloc ?_ (by simp) _)) rfl
      · intro x w' hbw hd
        have d48 : x 48 = .bool true := hd 48 rfl
        clear hd
        go_wp2_with fail
        exact frPost_mk rfl (by repeat (first | assumption | exact Below.refl _ _ | refine bch ?_ (by assumption) | refine Below.alloc ?_ (by simp) _)) rfl
      · intro x w' hbw hd
        have d48 : x 48 = .bool true := hd 48 rfl
        have d52 : x 52 = .int .i64 n := hd 52 rfl
        have d53 : x 53 = .int .i64 i := hd 53 rfl
        clear hd
        go_wp2_with (first | (go_at_call 26; refine (CRD w').mono ?_; rintro e wx ⟨rfl, hbx⟩))
        exact frPost_mk rfl (by repeat (first | assumption | exact Below.refl _ _ | refine bch ?_ (by assumption) | refine Below.alloc ?_ (by simp) _)) rfl
      · intro x w' hbw hd
        have d48 : x 48 = .bool true := hd 48 rfl
        have d51 : x 51 = .int .i64 DP := hd 51 rfl
        have d54 : x 54 = .int .i64 DP := hd 54 rfl
        clear hd
        go_wp2_with fail
        exact frPost_mk rfl (by repeat (first | assumption | exact Below.refl _ _ | refine bch ?_ (by assumption) | refine Below.alloc ?_ (by simp) _)) rfl
      · intro x w' hbw hd
        have d48 : x 48 = .bool true := hd 48 rfl
        have d55 : x 55 = .bool true := hd 55 rfl
        clear hd
        go_wp2_with fail
        exact frPost_mk rfl (by repeat (first | assumption | exact Below.refl _ _ | refine bch ?_ (by assumption) | refine Below.alloc ?_ (by simp) _)) rfl
      · intro x w' hbw hd
        have d56 : x 56 = .bool true := hd 56 rfl
        clear hd
        go_wp2_with fail
        exact frPost_mk rfl (by repeat (first | assumption | exact Below.refl _ _ | refine bch ?_ (by assumption) | refine Below.alloc ?_ (by simp) _)) rfl
      · intro x w' hbw hd
        have d57 : x 57 = .bool true := hd 57 rfl
        clear hd
        have hgc := cells_of y15 hbw h15l
        go_wp2_with (first | (refine wpList_loadRowG (.tmp 15) 25 rfl Tryd.underlying25 (by rw [hszX]; kernel_rfl) rfl hgc (by first | rfl | (simp [Region.wanted, yielded, *]; done)) ?_))
        exact frPost_mk rfl (by repeat (first | assumption | exact Below.refl _ _ | refine bch ?_ (by assumption) | refine Below.alloc ?_ (by simp) _)) rfl
      · intro x w' hbw hd
        have d57 : x 57 = .bool true := hd 57 rfl
        clear hd
        have hgc := cells_of y17 hbw h17l
        go_wp2_with (first | (refine wpList_loadRowG (.tmp 17) 25 rfl Tryd.underlying25 (by rw [hszX]; kernel_rfl) rfl hgc (by first | rfl | (simp [Region.wanted, yielded, *]; done)) ?_))
        exact frPost_mk rfl (by repeat (first | assumption | exact Below.refl _ _ | refine bch ?_ (by assumption) | refine Below.alloc ?_ (by simp) _)) rfl
      · intro x w' hbw hd
        have d57 : x 57 = .bool true := hd 57 rfl
        have d58 : x 58 = .agg (hrow X.1) := hd 58 rfl
        have d59 : x 59 = .agg (hrow X.1) := hd 59 rfl
        clear hd
        have hE := hEQ X w'
        go_wp2_with fail
        exact frPost_mk rfl (by repeat (first | assumption | exact Below.refl _ _ | refine bch ?_ (by assumption) | refine Below.alloc ?_ (by simp) _)) rfl
      · intro x w' hbw hd
        have d57 : x 57 = .bool true := hd 57 rfl
        have d60 : x 60 = .bool true := hd 60 rfl
        clear hd
        go_wp2_with fail
        exact frPost_mk rfl (by repeat (first | assumption | exact Below.refl _ _ | refine bch ?_ (by assumption) | refine Below.alloc ?_ (by simp) _)) rfl
      · intro x w' hbw hd
        have d61 : x 61 = .bool true := hd 61 rfl
        clear hd
        go_wp2_with fail
        exact frPost_mk rfl (by repeat (first | assumption | exact Below.refl _ _ | refine bch ?_ (by assumption) | refine Below.alloc ?_ (by simp) _)) rfl
      · intro x w' hbw hd
        have d62 : x 62 = .bool true := hd 62 rfl
        clear hd
        go_wp2_with fail
        exact frPost_mk rfl (by repeat (first | assumption | exact Below.refl _ _ | refine bch ?_ (by assumption) | refine Below.alloc ?_ (by simp) _)) rfl
      · intro x w' hbw hd
        have d62 : x 62 = .bool true := hd 62 rfl
        clear hd
        go_wp2_with fail
        exact frPost_mk rfl (by repeat (first | assumption | exact Below.refl _ _ | refine bch ?_ (by assumption) | refine Below.alloc ?_ (by simp) _)) rfl
      · intro x w' hbw hd
        have d62 : x 62 = .bool true := hd 62 rfl
        have d63 : x 63 = .bool p := hd 63 rfl
        have d64 : x 64 = .bool p := hd 64 rfl
        clear hd
        go_wp2_with fail
        exact frPost_mk rfl (by repeat (first | assumption | exact Below.refl _ _ | refine bch ?_ (by assumption) | refine Below.alloc ?_ (by simp) _)) rfl
      · intro x w' hbw hd
        have d62 : x 62 = .bool true := hd 62 rfl
        have d65 : x 65 = .bool true := hd 65 rfl
        clear hd
        go_wp2_with fail
        exact frPost_mk rfl (by repeat (first | assumption | exact Below.refl _ _ | refine bch ?_ (by assumption) | refine Below.alloc ?_ (by simp) _)) rfl
      · intro x w' hbw hd
        have d66 : x 66 = .bool true := hd 66 rfl
        clear hd
        go_wp2_with fail
        exact frPost_mk rfl (by repeat (first | assumption | exact Below.refl _ _ | refine bch ?_ (by assumption) | refine Below.alloc ?_ (by simp) _)) rfl
    intro x wf hbw hd
    have d67 : x 67 = .bool true := hd 67 (by decide)
    clear hd
    simp only [d67]
    have hbel := hbel.trans (hbw.mono hbel.size)
    go_wp2
    go_ret
    exact ⟨by first | rfl | simp, hbel⟩
  have d0 : decide (0 < (m : Int)) = true := decide_eq_true (by omega)
  have d0n : decide (0 < m) = true := decide_eq_true (by omega)
  obtain ⟨m9, hm9⟩ : ∃ q, m = q + 1 := ⟨m - 1, by omega⟩
  have HM9 := Lib.hid hm9
  clear hm9
  go_upto_region 7 with fail
  have q0 := al2_0 w0 (.cells #[Value.int .u8 0, Value.int .u8 0, Value.int .u8 0, Value.int .u8 0, Value.int .u8 0, Value.int .u8 0, Value.int .u8 0, Value.int .u8 0, Value.int .u8 0, Value.int .u8 0, Value.int .u8 0, Value.int .u8 0, Value.int .u8 0, Value.int .u8 0, Value.int .u8 0, Value.int .u8 0, Value.int .u8 0, Value.int .u8 0, Value.int .u8 0, Value.int .u8 0, Value.int .u8 0, Value.int .u8 0, Value.int .u8 0, Value.int .u8 0, Value.int .u8 0, Value.int .u8 0, Value.int .u8 0, Value.int .u8 0, Value.int .u8 0, Value.int .u8 0, Value.int .u8 0, Value.int .u8 0] 25) (.cells #[Value.int .u8 0, Value.int .u8 0, Value.int .u8 0, Value.int .u8 0, Value.int .u8 0, Value.int .u8 0, Value.int .u8 0, Value.int .u8 0, Value.int .u8 0, Value.int .u8 0, Value.int .u8 0, Value.int .u8 0, Value.int .u8 0, Value.int .u8 0, Value.int .u8 0, Value.int .u8 0, Value.int .u8 0, Value.int .u8 0, Value.int .u8 0, Value.int .u8 0, Value.int .u8 0, Value.int .u8 0, Value.int .u8 0, Value.int .u8 0, Value.int .u8 0, Value.int .u8 0, Value.int .u8 0, Value.int .u8 0, Value.int .u8 0, Value.int .u8 0, Value.int .u8 0, Value.int .u8 0] 25)
  have q1 := al2_1 w0 (.cells #[Value.int .u8 0, Value.int .u8 0, Value.int .u8 0, Value.int .u8 0, Value.int .u8 0, Value.int .u8 0, Value.int .u8 0, Value.int .u8 0, Value.int .u8 0, Value.int .u8 0, Value.int .u8 0, Value.int .u8 0, Value.int .u8 0, Value.int .u8 0, Value.int .u8 0, Value.int .u8 0, Value.int .u8 0, Value.int .u8 0, Value.int .u8 0, Value.int .u8 0, Value.int .u8 0, Value.int .u8 0, Value.int .u8 0, Value.int .u8 0, Value.int .u8 0, Value.int .u8 0, Value.int .u8 0, Value.int .u8 0, Value.int .u8 0, Value.int .u8 0, Value.int .u8 0, Value.int .u8 0] 25) (.cells #[Value.int .u8 0, Value.int .u8 0, Value.int .u8 0, Value.int .u8 0, Value.int .u8 0, Value.int .u8 0, Value.int .u8 0, Value.int .u8 0, Value.int .u8 0, Value.int .u8 0, Value.int .u8 0, Value.int .u8 0, Value.int .u8 0, Value.int .u8 0, Value.int .u8 0, Value.int .u8 0, Value.int .u8 0, Value.int .u8 0, Value.int .u8 0, Value.int .u8 0, Value.int .u8 0, Value.int .u8 0, Value.int .u8 0, Value.int .u8 0, Value.int .u8 0, Value.int .u8 0, Value.int .u8 0, Value.int .u8 0, Value.int .u8 0, Value.int .u8 0, Value.int .u8 0, Value.int .u8 0] 25)
  have qb := al2_below w0 (.cells #[Value.int .u8 0, Value.int .u8 0, Value.int .u8 0, Value.int .u8 0, Value.int .u8 0, Value.int .u8 0, Value.int .u8 0, Value.int .u8 0, Value.int .u8 0, Value.int .u8 0, Value.int .u8 0, Value.int .u8 0, Value.int .u8 0, Value.int .u8 0, Value.int .u8 0, Value.int .u8 0, Value.int .u8 0, Value.int .u8 0, Value.int .u8 0, Value.int .u8 0, Value.int .u8 0, Value.int .u8 0, Value.int .u8 0, Value.int .u8 0, Value.int .u8 0, Value.int .u8 0, Value.int .u8 0, Value.int .u8 0, Value.int .u8 0, Value.int .u8 0, Value.int .u8 0, Value.int .u8 0] 25) (.cells #[Value.int .u8 0, Value.int .u8 0, Value.int .u8 0, Value.int .u8 0, Value.int .u8 0, Value.int .u8 0, Value.int .u8 0, Value.int .u8 0, Value.int .u8 0, Value.int .u8 0, Value.int .u8 0, Value.int .u8 0, Value.int .u8 0, Value.int .u8 0, Value.int .u8 0, Value.int .u8 0, Value.int .u8 0, Value.int .u8 0, Value.int .u8 0, Value.int .u8 0, Value.int .u8 0, Value.int .u8 0, Value.int .u8 0, Value.int .u8 0, Value.int .u8 0, Value.int .u8 0, Value.int .u8 0, Value.int .u8 0, Value.int .u8 0, Value.int .u8 0, Value.int .u8 0, Value.int .u8 0] 25)
  refine wp_nameE _ (fun W7 hX => ?_)
  have y13 : W7.heap[w0.heap.size]? = some (.cells #[Value.int .u8 0, Value.int .u8 0, Value.int .u8 0, Value.int .u8 0, Value.int .u8 0, Value.int .u8 0, Value.int .u8 0, Value.int .u8 0, Value.int .u8 0, Value.int .u8 0, Value.int .u8 0, Value.int .u8 0, Value.int .u8 0, Value.int .u8 0, Value.int .u8 0, Value.int .u8 0, Value.int .u8 0, Value.int .u8 0, Value.int .u8 0, Value.int .u8 0, Value.int .u8 0, Value.int .u8 0, Value.int .u8 0, Value.int .u8 0, Value.int .u8 0, Value.int .u8 0, Value.int .u8 0, Value.int .u8 0, Value.int .u8 0, Value.int .u8 0, Value.int .u8 0, Value.int .u8 0] 25 (0, 0)) := by rw [hX]; exact q0
  have y14 : W7.heap[w0.heap.size + 1]? = some (.cells #[Value.int .u8 0, Value.int .u8 0, Value.int .u8 0, Value.int .u8 0, Value.int .u8 0, Value.int .u8 0, Value.int .u8 0, Value.int .u8 0, Value.int .u8 0, Value.int .u8 0, Value.int .u8 0, Value.int .u8 0, Value.int .u8 0, Value.int .u8 0, Value.int .u8 0, Value.int .u8 0, Value.int .u8 0, Value.int .u8 0, Value.int .u8 0, Value.int .u8 0, Value.int .u8 0, Value.int .u8 0, Value.int .u8 0, Value.int .u8 0, Value.int .u8 0, Value.int .u8 0, Value.int .u8 0, Value.int .u8 0, Value.int .u8 0, Value.int .u8 0, Value.int .u8 0, Value.int .u8 0] 25 (0, 0)) := by rw [hX]; exact q1
  have h13w : w.heap.size ≤ w0.heap.size := hbel.size
  have h14w : w.heap.size ≤ w0.heap.size + 1 := Nat.le_succ_of_le hbel.size
  have hbel : Below w.heap.size w W7 := by rw [hX]; exact hbel.trans (qb.mono hbel.size)
  clear hX q0 q1 qb
  have hne : w0.heap.size ≠ w0.heap.size + 1 := by omega
  obtain ⟨g13, hg13⟩ : ∃ g, w0.heap.size = g := ⟨_, rfl⟩
  rw [hg13] at hne y13 y14 h13w h14w
  simp only [hg13]
  obtain ⟨g14, hg14⟩ : ∃ g, g13 + 1 = g := ⟨_, rfl⟩
  rw [hg14] at hne y14 h14w
  simp only [hg14]
  clear hg13 hg14
  obtain ⟨b, off, rfl, hbb, hrgA⟩ := hs_at hr (k := 0) (by omega)
  obtain ⟨b2, off2, he2, _, hrgB⟩ := hs_at hr (k := m9) (by have := HM9.out; omega)
  simp only [Option.some.injEq, Addr.mk.injEq, and_true] at he2
  obtain ⟨rfl, rfl⟩ := he2
  obtain ⟨A, hA⟩ : ∃ q : H32, l[0]'(by omega) = q := ⟨l[0]'(by omega), rfl⟩
  obtain ⟨B, hB⟩ : ∃ q : H32, l[m9]'(by have := HM9.out; omega) = q := ⟨l[m9]'(by have := HM9.out; omega), rfl⟩
  rw [hA, Nat.zero_mul, Nat.add_zero] at hrgA
  rw [hB] at hrgB
  clear hA hB
  have hszA : (hrow A.1).size = 32 := by rw [hrow_size]; exact A.2
  have hszB : (hrow B.1).size = 32 := by rw [hrow_size]; exact B.2
  have hoA := hrow_one A.1
  have hoB := hrow_one B.1
  have mi0 : (0 : Int) < (m : Int) := by omega
  refine wp_region_stateG (fun D x W => (D 0 = true → x 0 = .slice (some ⟨b, off, none⟩) m cap) ∧ (D 1 = true → x 1 = .pointer (some ⟨b, off, none⟩)) ∧ (D 2 = true → x 2 = .agg (hrow A.1)) ∧ (D 3 = true → x 3 = .slice (some ⟨b, off, none⟩) m cap) ∧ (D 4 = true → x 4 = .slice (some ⟨b, off, none⟩) m cap) ∧ (D 5 = true → x 5 = .int .i64 (m : Int)) ∧ (D 6 = true → x 6 = .int .i64 (m9 : Int)) ∧ (D 7 = true → x 7 = .pointer (some ⟨b, off + m9 * 32, none⟩)) ∧ (D 8 = true → x 8 = .agg (hrow B.1)) ∧ W.heap[g13]? = some (.cells (bif D 9 then hrow A.1 else #[Value.int .u8 0, Value.int .u8 0, Value.int .u8 0, Value.int .u8 0, Value.int .u8 0, Value.int .u8 0, Value.int .u8 0, Value.int .u8 0, Value.int .u8 0, Value.int .u8 0, Value.int .u8 0, Value.int .u8 0, Value.int .u8 0, Value.int .u8 0, Value.int .u8 0, Value.int .u8 0, Value.int .u8 0, Value.int .u8 0, Value.int .u8 0, Value.int .u8 0, Value.int .u8 0, Value.int .u8 0, Value.int .u8 0, Value.int .u8 0, Value.int .u8 0, Value.int .u8 0, Value.int .u8 0, Value.int .u8 0, Value.int .u8 0, Value.int .u8 0, Value.int .u8 0, Value.int .u8 0]) 25 (0, 0)) ∧ W.heap[g14]? = some (.cells (bif D 10 then hrow B.1 else #[Value.int .u8 0, Value.int .u8 0, Value.int .u8 0, Value.int .u8 0, Value.int .u8 0, Value.int .u8 0, Value.int .u8 0, Value.int .u8 0, Value.int .u8 0, Value.int .u8 0, Value.int .u8 0, Value.int .u8 0, Value.int .u8 0, Value.int .u8 0, Value.int .u8 0, Value.int .u8 0, Value.int .u8 0, Value.int .u8 0, Value.int .u8 0, Value.int .u8 0, Value.int .u8 0, Value.int .u8 0, Value.int .u8 0, Value.int .u8 0, Value.int .u8 0, Value.int .u8 0, Value.int .u8 0, Value.int .u8 0, Value.int .u8 0, Value.int .u8 0, Value.int .u8 0, Value.int .u8 0]) 25 (0, 0)) ∧ Below w.heap.size w W) (by kernel_rfl) (by kernel_rfl) (by kernel_rfl) (by kernel_rfl) (fun x => by simp only [fillFrom, Act.put, List.setIfInBounds_toArray, List.set_cons_succ, List.set_cons_zero, Nat.zero_add, Nat.reduceAdd]; rfl) ?_ ?_ ?_
  case refine_1 => exact fun x => ⟨(fun h => by cases h), (fun h => by cases h), (fun h => by cases h), (fun h => by cases h), (fun h => by cases h), (fun h => by cases h), (fun h => by cases h), (fun h => by cases h), (fun h => by cases h), y13, y14, hbel.drew⟩
  case refine_2 =>
    refine ⟨?_, ?_, ?_, ?_, ?_, ?_, ?_, ?_, ?_, ?_, ?_, trivial⟩
    · intro D x w' hD hI hw hcl
      obtain ⟨i0, i1, i2, i3, i4, i5, i6, i7, i8, j13, j14, iB⟩ := hI.out
      clear hw
      go_wp2_with fail
      refine gPost_mk (v := .slice (some ⟨b, off, none⟩) m cap) rfl rfl ?_
      exact ⟨⟨(fun _ => rfl), i1, i2, i3, i4, i5, i6, i7, i8, j13, j14, iB⟩⟩
    · intro D x w' hD hI hw hcl
      obtain ⟨i0, i1, i2, i3, i4, i5, i6, i7, i8, j13, j14, iB⟩ := hI.out
      have d0 := i0 (hw 0 rfl)
      clear hw
      go_wp2_with fail
      refine gPost_mk (v := .pointer (some ⟨b, off, none⟩)) rfl (by first | rfl | (show Value.pointer _ = Value.pointer _; simp)) ?_
      exact ⟨⟨i0, (fun _ => rfl), i2, i3, i4, i5, i6, i7, i8, j13, j14, iB⟩⟩
    · intro D x w' hD hI hw hcl
      obtain ⟨i0, i1, i2, i3, i4, i5, i6, i7, i8, j13, j14, iB⟩ := hI.out
      have d1 := i1 (hw 1 rfl)
      simp only [d1]
      have hrg : w'.rangeAt b off A.cells := fun j v hv => by rw [iB.cell (p := ⟨b, off + j, none⟩) hbb]; exact hrgA j v hv
      clear hw
      go_wp2_with (refine wpList_load_mid rfl 25 (.tmp 44) rfl b off rfl A.cells _ hrg Tryd.underlying25 rfl (hash_info A) ?_; rw [H32.row])
      refine gPost_mk (v := .agg (hrow A.1)) rfl rfl ?_
      exact ⟨⟨i0, i1, (fun _ => rfl), i3, i4, i5, i6, i7, i8, j13, j14, iB⟩⟩
    · intro D x w' hD hI hw hcl
      obtain ⟨i0, i1, i2, i3, i4, i5, i6, i7, i8, j13, j14, iB⟩ := hI.out
      clear hw
      go_wp2_with fail
      refine gPost_mk (v := .slice (some ⟨b, off, none⟩) m cap) rfl rfl ?_
      exact ⟨⟨i0, i1, i2, (fun _ => rfl), i4, i5, i6, i7, i8, j13, j14, iB⟩⟩
    · intro D x w' hD hI hw hcl
      obtain ⟨i0, i1, i2, i3, i4, i5, i6, i7, i8, j13, j14, iB⟩ := hI.out
      clear hw
      go_wp2_with fail
      refine gPost_mk (v := .slice (some ⟨b, off, none⟩) m cap) rfl rfl ?_
      exact ⟨⟨i0, i1, i2, i3, (fun _ => rfl), i5, i6, i7, i8, j13, j14, iB⟩⟩
    · intro D x w' hD hI hw hcl
      obtain ⟨i0, i1, i2, i3, i4, i5, i6, i7, i8, j13, j14, iB⟩ := hI.out
      have d4 := i4 (hw 4 rfl)
      clear hw
      go_wp2_with fail
      refine gPost_mk (v := .int .i64 (m : Int)) rfl rfl ?_
      exact ⟨⟨i0, i1, i2, i3, i4, (fun _ => rfl), i6, i7, i8, j13, j14, iB⟩⟩
    · intro D x w' hD hI hw hcl
      obtain ⟨i0, i1, i2, i3, i4, i5, i6, i7, i8, j13, j14, iB⟩ := hI.out
      have d5 := i5 (hw 5 rfl)
      have hsub : (m : Int) - 1 = ((m9 : Nat) : Int) := by have := HM9.out; omega
      have hs1 : (0 : Int) ≤ (m : Int) - 1 := by omega
      have hs2 : (m : Int) - 1 ≤ 1000 := by omega
      clear hw
      go_wp2_with fail
      refine gPost_mk (v := .int .i64 (m9 : Int)) rfl (by show Value.int .i64 _ = Value.int .i64 _; first | rfl | rw [hsub]) ?_
      exact ⟨⟨i0, i1, i2, i3, i4, i5, (fun _ => rfl), i7, i8, j13, j14, iB⟩⟩
    · intro D x w' hD hI hw hcl
      obtain ⟨i0, i1, i2, i3, i4, i5, i6, i7, i8, j13, j14, iB⟩ := hI.out
      have d3 := i3 (hw 3 rfl)
      have d6 := i6 (hw 6 rfl)
      have n0 : (0 : Int) ≤ (m9 : Int) := by omega
      have n1 : (m9 : Int) < (m : Int) := by have := HM9.out; omega
      have n2 : ((m9 : Nat) : Int).toNat = m9 := by omega
      clear hw
      go_wp2_with fail
      refine gPost_mk (v := .pointer (some ⟨b, off + m9 * 32, none⟩)) rfl (by first | rfl | (show Value.pointer _ = Value.pointer _; simp)) ?_
      exact ⟨⟨i0, i1, i2, i3, i4, i5, i6, (fun _ => rfl), i8, j13, j14, iB⟩⟩
    · intro D x w' hD hI hw hcl
      obtain ⟨i0, i1, i2, i3, i4, i5, i6, i7, i8, j13, j14, iB⟩ := hI.out
      have d7 := i7 (hw 7 rfl)
      simp only [d7]
      have hrg : w'.rangeAt b (off + m9 * 32) B.cells := fun j v hv => by rw [iB.cell (p := ⟨b, off + m9 * 32 + j, none⟩) hbb]; exact hrgB j v hv
      clear hw
      go_wp2_with (refine wpList_load_mid rfl 25 (.tmp 50) rfl b (off + m9 * 32) rfl B.cells _ hrg Tryd.underlying25 rfl (hash_info B) ?_; rw [H32.row])
      refine gPost_mk (v := .agg (hrow B.1)) rfl rfl ?_
      exact ⟨⟨i0, i1, i2, i3, i4, i5, i6, i7, (fun _ => rfl), j13, j14, iB⟩⟩
    · intro D x w' hD hI hw hcl
      obtain ⟨i0, i1, i2, i3, i4, i5, i6, i7, i8, j13, j14, iB⟩ := hI.out
      have d2 := i2 (hw 2 rfl)
      simp only [d2]
      rw [hD] at j13
      have j13 : w'.heap[g13]? = some (.cells #[Value.int .u8 0, Value.int .u8 0, Value.int .u8 0, Value.int .u8 0, Value.int .u8 0, Value.int .u8 0, Value.int .u8 0, Value.int .u8 0, Value.int .u8 0, Value.int .u8 0, Value.int .u8 0, Value.int .u8 0, Value.int .u8 0, Value.int .u8 0, Value.int .u8 0, Value.int .u8 0, Value.int .u8 0, Value.int .u8 0, Value.int .u8 0, Value.int .u8 0, Value.int .u8 0, Value.int .u8 0, Value.int .u8 0, Value.int .u8 0, Value.int .u8 0, Value.int .u8 0, Value.int .u8 0, Value.int .u8 0, Value.int .u8 0, Value.int .u8 0, Value.int .u8 0, Value.int .u8 0] 25 (0, 0)) := j13
      clear hw
      go_wp2_with (refine wpList_storeRowTo (Z := hrow A.1) rfl (.tmp 13) (.tmp 45) 25 rfl (by rw [hszA]; kernel_rfl) rfl (by rfl) j13 (by rw [hszA]; rfl) hoA ?_)
      refine gPost_no rfl ?_
      exact ⟨⟨i0, i1, i2, i3, i4, i5, i6, i7, i8, setRow_heap _ _ _ _ _ _ j13, (setRow_other _ _ _ _ (by omega)).trans j14, below_setRow iB h13w _⟩⟩
    · intro D x w' hD hI hw hcl
      obtain ⟨i0, i1, i2, i3, i4, i5, i6, i7, i8, j13, j14, iB⟩ := hI.out
      have d8 := i8 (hw 8 rfl)
      simp only [d8]
      rw [hD] at j14
      have j14 : w'.heap[g14]? = some (.cells #[Value.int .u8 0, Value.int .u8 0, Value.int .u8 0, Value.int .u8 0, Value.int .u8 0, Value.int .u8 0, Value.int .u8 0, Value.int .u8 0, Value.int .u8 0, Value.int .u8 0, Value.int .u8 0, Value.int .u8 0, Value.int .u8 0, Value.int .u8 0, Value.int .u8 0, Value.int .u8 0, Value.int .u8 0, Value.int .u8 0, Value.int .u8 0, Value.int .u8 0, Value.int .u8 0, Value.int .u8 0, Value.int .u8 0, Value.int .u8 0, Value.int .u8 0, Value.int .u8 0, Value.int .u8 0, Value.int .u8 0, Value.int .u8 0, Value.int .u8 0, Value.int .u8 0, Value.int .u8 0] 25 (0, 0)) := j14
      clear hw
      go_wp2_with (refine wpList_storeRowTo (Z := hrow B.1) rfl (.tmp 14) (.tmp 51) 25 rfl (by rw [hszB]; kernel_rfl) rfl (by rfl) j14 (by rw [hszB]; rfl) hoB ?_)
      refine gPost_no rfl ?_
      exact ⟨⟨i0, i1, i2, i3, i4, i5, i6, i7, i8, (setRow_other _ _ _ _ (by omega)).trans j13, setRow_heap _ _ _ _ _ _ j14, below_setRow iB h14w _⟩⟩
  intro W8 x hI
  obtain ⟨_, _, _, _, _, _, _, _, _, j13, j14, hbel⟩ := hI
  have y13 : W8.heap[g13]? = some (.cells (hrow A.1) 25 (0, 0)) := j13
  have y14 : W8.heap[g14]? = some (.cells (hrow B.1) 25 (0, 0)) := j14
  clear j13 j14 hszA hszB
  have h13l := (Array.getElem?_eq_some_iff.1 y13).1
  have h14l := (Array.getElem?_eq_some_iff.1 y14).1
  have hszA : (hrow A.1).size = 32 := by rw [hrow_size]; exact A.2
  have hszB : (hrow B.1).size = 32 := by rw [hrow_size]; exact B.2
  have hr8 := hr.below hbel
  have hr38 := hr3.below hbel
  have CF := fun W (hb : Below w.heap.size w W) => Fold_any n i A wy a3 k cap3 W hk hcap3 hcm3 (hr3.below hb) (hW0.below hb)
  have CRF := fun W (hb : Below w.heap.size w W) => refFold_all n i A wy a3 k cap3 W hk hcap3 hcm3 (hr3.below hb)
  obtain ⟨⟨X, p⟩, hFR⟩ : ∃ x, foldR n i A wy = x := ⟨_, rfl⟩
  simp only [hFR] at CF CRF
  clear hFR
  have hszX : (hrow X.1).size = 32 := by rw [hrow_size]; exact X.2
  have hoX := hrow_one X.1
  go_upto_region 9 with (first | (refine wpList_loadRow rfl (.tmp 13) 25 rfl Tryd.underlying25 (by rw [hszA]; kernel_rfl) rfl y13 ?_) | (go_at_call 10; refine (CF _ hbel).mono ?_; rintro e w3 ⟨rfl, hb⟩; have y13 := cells_of y13 hb h13l; have y14 := cells_of y14 hb h14l; have h13l := Nat.lt_of_lt_of_le h13l hb.size; have h14l := Nat.lt_of_lt_of_le h14l hb.size; have hbel := hbel.trans (hb.mono hbel.size); clear hb) | (refine wpList_storeRowTo (Z := hrow X.1) rfl (.tmp 15) (.tmp 58) 25 rfl (by rw [hszX]; kernel_rfl) rfl (by rfl) (heap_pushF _ _ _) (by rw [hszX]; rfl) hoX ?_))
  refine wp_nameE _ (fun W5 hX => ?_)
  have hb5 : Below w3.heap.size w3 W5 := by rw [hX]; exact below_setRow (Below.alloc (Below.refl _ _) (Nat.le_refl _) _) (Nat.le_refl _) _
  have y15 : W5.heap[w3.heap.size]? = some (.cells (hrow X.1) 25 (0, 0)) := by rw [hX]; exact setRow_heap _ _ _ _ _ _ (heap_pushF _ _ _)
  clear hX
  have y13 := cells_of y13 hb5 h13l
  have y14 := cells_of y14 hb5 h14l
  have h13l := Nat.lt_of_lt_of_le h13l hb5.size
  have h14l := Nat.lt_of_lt_of_le h14l hb5.size
  have hbel := hbel.trans (hb5.mono hbel.size)
  obtain ⟨g15, hg15⟩ : ∃ g, w3.heap.size = g := ⟨_, rfl⟩
  rw [hg15] at y15
  simp only [hg15]
  clear hg15 hb5
  have h15l := (Array.getElem?_eq_some_iff.1 y15).1
  go_upto_region 10 with (first | (refine wpList_loadRow rfl (.tmp 13) 25 rfl Tryd.underlying25 (by rw [hszA]; kernel_rfl) rfl y13 ?_) | (go_at_call 11; refine (CRF _ hbel).mono ?_; rintro e w6 ⟨rfl, hb⟩; have y13 := cells_of y13 hb h13l; have y14 := cells_of y14 hb h14l; have y15 := cells_of y15 hb h15l; have h13l := Nat.lt_of_lt_of_le h13l hb.size; have h14l := Nat.lt_of_lt_of_le h14l hb.size; have h15l := Nat.lt_of_lt_of_le h15l hb.size; have hbel := hbel.trans (hb.mono hbel.size); clear hb) | (refine wpList_storeRowTo (Z := hrow X.1) rfl (.tmp 17) (.tmp 66) 25 rfl (by rw [hszX]; kernel_rfl) rfl (by rfl) (heap_pushF _ _ _) (by rw [hszX]; rfl) hoX ?_))
  refine wp_nameE _ (fun W9 hX => ?_)
  have hb5 : Below w6.heap.size w6 W9 := by rw [hX]; exact below_setRow (Below.alloc (Below.refl _ _) (Nat.le_refl _) _) (Nat.le_refl _) _
  have y17 : W9.heap[w6.heap.size]? = some (.cells (hrow X.1) 25 (0, 0)) := by rw [hX]; exact setRow_heap _ _ _ _ _ _ (heap_pushF _ _ _)
  clear hX
  have y13 := cells_of y13 hb5 h13l
  have y14 := cells_of y14 hb5 h14l
  have y15 := cells_of y15 hb5 h15l
  have hbel := hbel.trans (hb5.mono hbel.size)
  obtain ⟨g17, hg17⟩ : ∃ g, w6.heap.size = g := ⟨_, rfl⟩
  rw [hg17] at y17
  simp only [hg17]
  clear hg17 hb5 h13l h14l h15l
  have h13l := (Array.getElem?_eq_some_iff.1 y13).1
  have h14l := (Array.getElem?_eq_some_iff.1 y14).1
  have h15l := (Array.getElem?_eq_some_iff.1 y15).1
  have h17l := (Array.getElem?_eq_some_iff.1 y17).1
  have hEQ : ∀ (q : H32) (V : World), (Op.equalIn 10000 25 (.agg (hrow q.1)) (.agg (hrow q.1))).run Tryd.prog V = .ok true V := fun q V => by
    rw [run_equal_hash V 25 q.1 q.1 q.2 q.2 Tryd.underlying25 Tryd.underlying5 (by kernel_rfl)]; simp
  obtain ⟨LF, hLF⟩ : ∃ q : H32, q.1 = leafF key val := ⟨⟨leafF key val, leafF_len _ _⟩, rfl⟩
  obtain ⟨ND, hND⟩ : ∃ q : H32, q.1 = nodeF A.1 B.1 := ⟨⟨nodeF A.1 B.1, nodeF_len _ _⟩, rfl⟩
  obtain ⟨RT, hRT⟩ : ∃ q : H32, q.1 = rootF n A.1 := ⟨⟨rootF n A.1, rootF_len _ _⟩, rfl⟩
  obtain ⟨TP, hTP⟩ : ∃ q : H32, q = topH l := ⟨_, rfl⟩
  obtain ⟨HF, hHF⟩ : ∃ q : Int, halfI n = q := ⟨_, rfl⟩
  obtain ⟨DP, hDP⟩ : ∃ q : Int, deepI n i = q := ⟨_, rfl⟩
  obtain ⟨WY, hWY⟩ : ∃ q, wayI l i = q := ⟨_, rfl⟩
  have hwl : WY.length ≤ maxLen := by
    rw [← hWY]
    unfold wayI
    split
    · rename_i hin
      have := way_len l.length l i.toNat rfl (by omega)
      have := deepN_30 (n := l.length) (i := i.toNat) (by omega)
      unfold maxLen; omega
    · exact Nat.zero_le _
  have CLf := fun W (hb : Below w.heap.size w W) => leaf_any key val W (hW0.below hb) (by omega) (by omega)
  have CRLf := fun W => refLeaf_any key val W (by omega) (by omega)
  have CN := fun W (hb : Below w.heap.size w W) => node_any A.1 B.1 W (hW0.below hb) A.2 B.2
  have CRN := fun W => refNode_any A.1 B.1 W A.2 B.2
  have CR := fun W (hb : Below w.heap.size w W) => root_any n A.1 W (hW0.below hb) A.2
  have CRR := fun W => refRoot_any n A.1 W A.2
  have CH := fun W => half2_any n W
  have CRH := fun W => refHalf_any n W
  have CT := fun W (hb : Below w.heap.size w W) => top_any m l (some ⟨b, off, none⟩) cap W hl (by omega) hcap hcm (hr.below hb) (hW0.below hb)
  have CRT := fun W (hb : Below w.heap.size w W) => refTop_any m l (some ⟨b, off, none⟩) cap W hl (by omega) hcap hcm (hr.below hb) trivial
  have CD := fun W => deep_any n i W
  have CRD := fun W => refDeep_any n i W
  have CW := fun W (hb : Below w.heap.size w W) => Way_any l i (some ⟨b, off, none⟩) m cap W hl (by omega) hcap hcm (hr.below hb) (hW0.below hb)
  have CRW := fun W (hb : Below w.heap.size w W) => RefWay_any l i (some ⟨b, off, none⟩) m cap W hl (by omega) hcap hcm (hr.below hb)
  unfold WayPostI at CW CRW
  simp only [← hLF] at CLf CRLf
  simp only [← hND] at CN CRN
  simp only [← hRT] at CR CRR
  simp only [← hTP] at CT CRT
  simp only [hHF] at CH CRH
  simp only [hDP] at CD CRD
  simp only [hWY] at CW CRW
  have hHH : (HF == HF) = true := beq_self_eq_true _
  have hDD : (DP == DP) = true := beq_self_eq_true _
  have hPP : (p == p) = true := beq_self_eq_true _
  clear hLF hND hRT hTP hHF hDP hWY CF CRF hr8 hr38
  simp only [List.append_eq, List.cons_append, List.nil_append]
  refine wp_region_facts [Fact.eq (.string key), Fact.eq (.string val), Fact.eq (.agg (hrow LF.1)), Fact.eq (.string key), Fact.eq (.string val), Fact.eq (.agg (hrow LF.1)), Fact.eq (.bool true), Fact.eq (.bool true), Fact.eq (.agg (hrow A.1)), Fact.eq (.agg (hrow B.1)), Fact.eq (.agg (hrow ND.1)), Fact.eq (.agg (hrow A.1)), Fact.eq (.agg (hrow B.1)), Fact.eq (.agg (hrow ND.1)), Fact.eq (.bool true), Fact.eq (.bool true), Fact.eq (.bool true), Fact.eq (.int .i64 n), Fact.eq (.agg (hrow A.1)), Fact.eq (.agg (hrow RT.1)), Fact.eq (.int .i64 n), Fact.eq (.agg (hrow A.1)), Fact.eq (.agg (hrow RT.1)), Fact.eq (.bool true), Fact.eq (.bool true), Fact.eq (.bool true), Fact.eq (.int .i64 n), Fact.eq (.int .i64 HF), Fact.eq (.int .i64 n), Fact.eq (.int .i64 HF), Fact.eq (.bool true), Fact.eq (.bool true), Fact.eq (.bool true), Fact.eq (.slice (some ⟨b, off, none⟩) m cap), Fact.eq (.agg (hrow TP.1)), Fact.eq (.slice (some ⟨b, off, none⟩) m cap), Fact.eq (.agg (hrow TP.1)), Fact.eq (.bool true), Fact.eq (.bool true), Fact.eq (.bool true), Fact.eq (.slice (some ⟨b, off, none⟩) m cap), Fact.eq (.int .i64 i), Fact.row (WY.length) (WY.flatMap H32.cells), Fact.eq (.slice (some ⟨b, off, none⟩) m cap), Fact.eq (.int .i64 i), Fact.row (WY.length) (WY.flatMap H32.cells), Fact.eq (.bool true), Fact.eq (.bool true), Fact.eq (.bool true), Fact.eq (.int .i64 n), Fact.eq (.int .i64 i), Fact.eq (.int .i64 DP), Fact.eq (.int .i64 n), Fact.eq (.int .i64 i), Fact.eq (.int .i64 DP), Fact.eq (.bool true), Fact.eq (.bool true), Fact.eq (.bool true), Fact.eq (.agg (hrow X.1)), Fact.eq (.agg (hrow X.1)), Fact.eq (.bool true), Fact.eq (.bool true), Fact.eq (.bool true), Fact.eq (.bool p), Fact.eq (.bool p), Fact.eq (.bool true), Fact.eq (.bool true), Fact.eq (.bool true)] (by kernel_rfl) (by kernel_rfl) (by kernel_rfl) (by kernel_rfl) (fun x => by simp only [fillFrom, Act.put, List.setIfInBounds_toArray, List.set_cons_succ, List.set_cons_zero]; rfl) ?_ ?_
  · refine ⟨?_, ?_, ?_, ?_, ?_, ?_, ?_, ?_, ?_, ?_, ?_, ?_, ?_, ?_, ?_, ?_, ?_, ?_, ?_, ?_, ?_, ?_, ?_, ?_, ?_, ?_, ?_, ?_, ?_, ?_, ?_, ?_, ?_, ?_, ?_, ?_, ?_, ?_, ?_, ?_, ?_, ?_, ?_, ?_, ?_, ?_, ?_, ?_, ?_, ?_, ?_, ?_, ?_, ?_, ?_, ?_, ?_, ?_, ?_, ?_, ?_, ?_, ?_, ?_, ?_, ?_, ?_, ?_, trivial⟩
    · intro x w' hbw hd
      clear hd
      go_wp2_with fail
      exact frPost_mk rfl (by repeat (first | assumption | exact Below.refl _ _ | refine bch ?_ (by assumption) | refine Below.alloc ?_ (by simp) _)) rfl
    · intro x w' hbw hd
      clear hd
      go_wp2_with fail
      exact frPost_mk rfl (by repeat (first | assumption | exact Below.refl _ _ | refine bch ?_ (by assumption) | refine Below.alloc ?_ (by simp) _)) rfl
    · intro x w' hbw hd
      have d0 : x 0 = .string key := hd 0 rfl
      have d1 : x 1 = .string val := hd 1 rfl
      clear hd
      have hbW := hbel.trans (hbw.mono hbel.size)
      go_wp2_with (first | (go_at_call 12; refine (CLf w' hbW).mono ?_; rintro e wx ⟨rfl, hbx⟩))
      exact frPost_mk rfl (by repeat (first | assumption | exact Below.refl _ _ | refine bch ?_ (by assumption) | refine Below.alloc ?_ (by simp) _)) rfl
    · intro x w' hbw hd
      clear hd
      go_wp2_with fail
      exact frPost_mk rfl (by repeat (first | assumption | exact Below.refl _ _ | refine bch ?_ (by assumption) | refine Below.alloc ?_ (by simp) _)) rfl
    · intro x w' hbw hd
      clear hd
      go_wp2_with fail
      exact frPost_mk rfl (by repeat (first | assumption | exact Below.refl _ _ | refine bch ?_ (by assumption) | refine Below.alloc ?_ (by simp) _)) rfl
    · intro x w' hbw hd
      have d3 : x 3 = .string key := hd 3 rfl
      have d4 : x 4 = .string val := hd 4 rfl
      clear hd
      go_wp2_with (first | (go_at_call 13; refine (CRLf w').mono ?_; rintro e wx ⟨rfl, hbx⟩))
      exact frPost_mk rfl (by repeat (first | assumption | exact Below.refl _ _ | refine bch ?_ (by assumption) | refine Below.alloc ?_ (by simp) _)) rfl
    · intro x w' hbw hd
      have d2 : x 2 = .agg (hrow LF.1) := hd 2 rfl
      have d5 : x 5 = .agg (hrow LF.1) := hd 5 rfl
      clear hd
      have hE := hEQ LF w'
      go_wp2_with fail
      exact frPost_mk rfl (by repeat (first | assumption | exact Below.refl _ _ | refine bch ?_ (by assumption) | refine Below.alloc ?_ (by simp) _)) rfl
    · intro x w' hbw hd
      have d6 : x 6 = .bool true := hd 6 rfl
      clear hd
      go_wp2_with fail
      exact frPost_mk rfl (by repeat (first | assumption | exact Below.refl _ _ | refine bch ?_ (by assumption) | refine Below.alloc ?_ (by simp) _)) rfl
    · intro x w' hbw hd
      have d7 : x 7 = .bool true := hd 7 rfl
      clear hd
      have hgc := cells_of y13 hbw h13l
      go_wp2_with (first | (refine wpList_loadRowG (.tmp 13) 25 rfl Tryd.underlying25 (by rw [hszA]; kernel_rfl) rfl hgc (by first | rfl | (simp [Region.wanted, yielded, *]; done)) ?_))
      exact frPost_mk rfl (by repeat (first | assumption | exact Below.refl _ _ | refine bch ?_ (by assumption) | refine Below.alloc ?_ (by simp) _)) rfl
    · intro x w' hbw hd
      have d7 : x 7 = .bool true := hd 7 rfl
      clear hd
      have hgc := cells_of y14 hbw h14l
      go_wp2_with (first | (refine wpList_loadRowG (.tmp 14) 25 rfl Tryd.underlying25 (by rw [hszB]; kernel_rfl) rfl hgc (by first | rfl | (simp [Region.wanted, yielded, *]; done)) ?_))
      exact frPost_mk rfl (by repeat (first | assumption | exact Below.refl _ _ | refine bch ?_ (by assumption) | refine Below.alloc ?_ (by simp) _)) rfl
    · intro x w' hbw hd
      have d7 : x 7 = .bool true := hd 7 rfl
      have d8 : x 8 = .agg (hrow A.1) := hd 8 rfl
      have d9 : x 9 = .agg (hrow B.1) := hd 9 rfl
      clear hd
      have hbW := hbel.trans (hbw.mono hbel.size)
      go_wp2_with (first | (go_at_call 14; refine (CN w' hbW).mono ?_; rintro e wx ⟨rfl, hbx⟩))
      exact frPost_mk rfl (by repeat (first | assumption | exact Below.refl _ _ | refine bch ?_ (by assumption) | refine Below.alloc ?_ (by simp) _)) rfl
    · intro x w' hbw hd
      have d7 : x 7 = .bool true := hd 7 rfl
      clear hd
      have hgc := cells_of y13 hbw h13l
      go_wp2_with (first | (refine wpList_loadRowG (.tmp 13) 25 rfl Tryd.underlying25 (by rw [hszA]; kernel_rfl) rfl hgc (by first | rfl | (simp [Region.wanted, yielded, *]; done)) ?_))
      exact frPost_mk rfl (by repeat (first | assumption | exact Below.refl _ _ | refine bch ?_ (by assumption) | refine Below.alloc ?_ (by simp) _)) rfl
    · intro x w' hbw hd
      have d7 : x 7 = .bool true := hd 7 rfl
      clear hd
      have hgc := cells_of y14 hbw h14l
      go_wp2_with (first | (refine wpList_loadRowG (.tmp 14) 25 rfl Tryd.underlying25 (by rw [hszB]; kernel_rfl) rfl hgc (by first | rfl | (simp [Region.wanted, yielded, *]; done)) ?_))
      exact frPost_mk rfl (by repeat (first | assumption | exact Below.refl _ _ | refine bch ?_ (by assumption) | refine Below.alloc ?_ (by simp) _)) rfl
    · intro x w' hbw hd
      have d7 : x 7 = .bool true := hd 7 rfl
      have d11 : x 11 = .agg (hrow A.1) := hd 11 rfl
      have d12 : x 12 = .agg (hrow B.1) := hd 12 rfl
      clear hd
      go_wp2_with (first | (go_at_call 15; refine (CRN w').mono ?_; rintro e wx ⟨rfl, hbx⟩))
      exact frPost_mk rfl (by repeat (first | assumption | exact Below.refl _ _ | refine bch ?_ (by assumption) | refine Below.alloc ?_ (by simp) _)) rfl
    · intro x w' hbw hd
      have d7 : x 7 = .bool true := hd 7 rfl
      have d10 : x 10 = .agg (hrow ND.1) := hd 10 rfl
      have d13 : x 13 = .agg (hrow ND.1) := hd 13 rfl
      clear hd
      have hE := hEQ ND w'
      go_wp2_with fail
      exact frPost_mk rfl (by repeat (first | assumption | exact Below.refl _ _ | refine bch ?_ (by assumption) | refine Below.alloc ?_ (by simp) _)) rfl
    · intro x w' hbw hd
      have d7 : x 7 = .bool true := hd 7 rfl
      have d14 : x 14 = .bool true := hd 14 rfl
      clear hd
      go_wp2_with fail
      exact frPost_mk rfl (by repeat (first | assumption | exact Below.refl _ _ | refine bch ?_ (by assumption) | refine Below.alloc ?_ (by simp) _)) rfl
    · intro x w' hbw hd
      have d15 : x 15 = .bool true := hd 15 rfl
      clear hd
      go_wp2_with fail
      exact frPost_mk rfl (by repeat (first | assumption | exact Below.refl _ _ | refine bch ?_ (by assumption) | refine Below.alloc ?_ (by simp) _)) rfl
    · intro x w' hbw hd
      have d16 : x 16 = .bool true := hd 16 rfl
      clear hd
      go_wp2_with fail
      exact frPost_mk rfl (by repeat (first | assumption | exact Below.refl _ _ | refine bch ?_ (by assumption) | refine Below.alloc ?_ (by simp) _)) rfl
    · intro x w' hbw hd
      have d16 : x 16 = .bool true := hd 16 rfl
      clear hd
      have hgc := cells_of y13 hbw h13l
      go_wp2_with (first | (refine wpList_loadRowG (.tmp 13) 25 rfl Tryd.underlying25 (by rw [hszA]; kernel_rfl) rfl hgc (by first | rfl | (simp [Region.wanted, yielded, *]; done)) ?_))
      exact frPost_mk rfl (by repeat (first | assumption | exact Below.refl _ _ | refine bch ?_ (by assumption) | refine Below.alloc ?_ (by simp) _)) rfl
    · intro x w' hbw hd
      have d16 : x 16 = .bool true := hd 16 rfl
      have d17 : x 17 = .int .i64 n := hd 17 rfl
      have d18 : x 18 = .agg (hrow A.1) := hd 18 rfl
      clear hd
      have hbW := hbel.trans (hbw.mono hbel.size)
      go_wp2_with (first | (go_at_call 16; refine (CR w' hbW).mono ?_; rintro e wx ⟨rfl, hbx⟩))
      exact frPost_mk rfl (by repeat (first | assumption | exact Below.refl _ _ | refine bch ?_ (by assumption) | refine Below.alloc ?_ (by simp) _)) rfl
    · intro x w' hbw hd
      have d16 : x 16 = .bool true := hd 16 rfl
      clear hd
      go_wp2_with fail
      exact frPost_mk rfl (by repeat (first | assumption | exact Below.refl _ _ | refine bch ?_ (by assumption) | refine Below.alloc ?_ (by simp) _)) rfl
    · intro x w' hbw hd
      have d16 : x 16 = .bool true := hd 16 rfl
      clear hd
      have hgc := cells_of y13 hbw h13l
      go_wp2_with (first | (refine wpList_loadRowG (.tmp 13) 25 rfl Tryd.underlying25 (by rw [hszA]; kernel_rfl) rfl hgc (by first | rfl | (simp [Region.wanted, yielded, *]; done)) ?_))
      exact frPost_mk rfl (by repeat (first | assumption | exact Below.refl _ _ | refine bch ?_ (by assumption) | refine Below.alloc ?_ (by simp) _)) rfl
    · intro x w' hbw hd
      have d16 : x 16 = .bool true := hd 16 rfl
      have d20 : x 20 = .int .i64 n := hd 20 rfl
      have d21 : x 21 = .agg (hrow A.1) := hd 21 rfl
      clear hd
      go_wp2_with (first | (go_at_call 17; refine (CRR w').mono ?_; rintro e wx ⟨rfl, hbx⟩))
      exact frPost_mk rfl (by repeat (first | assumption | exact Below.refl _ _ | refine bch ?_ (by assumption) | refine Below.alloc ?_ (by simp) _)) rfl
    · intro x w' hbw hd
      have d16 : x 16 = .bool true := hd 16 rfl
      have d19 : x 19 = .agg (hrow RT.1) := hd 19 rfl
      have d22 : x 22 = .agg (hrow RT.1) := hd 22 rfl
      clear hd
      have hE := hEQ RT w'
      go_wp2_with fail
      exact frPost_mk rfl (by repeat (first | assumption | exact Below.refl _ _ | refine bch ?_ (by assumption) | refine Below.alloc ?_ (by simp) _)) rfl
    · intro x w' hbw hd
      have d16 : x 16 = .bool true := hd 16 rfl
      have d23 : x 23 = .bool true := hd 23 rfl
      clear hd
      go_wp2_with fail
      exact frPost_mk rfl (by repeat (first | assumption | exact Below.refl _ _ | refine bch ?_ (by assumption) | refine Below.alloc ?_ (by simp) _)) rfl
    · intro x w' hbw hd
      have d24 : x 24 = .bool true := hd 24 rfl
      clear hd
      go_wp2_with fail
      exact frPost_mk rfl (by repeat (first | assumption | exact Below.refl _ _ | refine bch ?_ (by assumption) | refine Below.alloc ?_ (by simp) _)) rfl
    · intro x w' hbw hd
      have d25 : x 25 = .bool true := hd 25 rfl
      clear hd
      go_wp2_with fail
      exact frPost_mk rfl (by repeat (first | assumption | exact Below.refl _ _ | refine bch ?_ (by assumption) | refine Below.alloc ?_ (by simp) _)) rfl
    · intro x w' hbw hd
      have d25 : x 25 = .bool true := hd 25 rfl
      have d26 : x 26 = .int .i64 n := hd 26 rfl
      clear hd
      go_wp2_with (first | (go_at_call 18; refine (CH w').mono ?_; rintro e wx ⟨rfl, hbx⟩))
      exact frPost_mk rfl (by repeat (first | assumption | exact Below.refl _ _ | refine bch ?_ (by assumption) | refine Below.alloc ?_ (by simp) _)) rfl
    · intro x w' hbw hd
      have d25 : x 25 = .bool true := hd 25 rfl
      clear hd
      go_wp2_with fail
      exact frPost_mk rfl (by repeat (first | assumption | exact Below.refl _ _ | refine bch ?_ (by assumption) | refine Below.alloc ?_ (by simp) _)) rfl
    · intro x w' hbw hd
      have d25 : x 25 = .bool true := hd 25 rfl
      have d28 : x 28 = .int .i64 n := hd 28 rfl
      clear hd
      go_wp2_with (first | (go_at_call 19; refine (CRH w').mono ?_; rintro e wx ⟨rfl, hbx⟩))
      exact frPost_mk rfl (by repeat (first | assumption | exact Below.refl _ _ | refine bch ?_ (by assumption) | refine Below.alloc ?_ (by simp) _)) rfl
    · intro x w' hbw hd
      have d25 : x 25 = .bool true := hd 25 rfl
      have d27 : x 27 = .int .i64 HF := hd 27 rfl
      have d29 : x 29 = .int .i64 HF := hd 29 rfl
      clear hd
      go_wp2_with fail
      exact frPost_mk rfl (by repeat (first | assumption | exact Below.refl _ _ | refine bch ?_ (by assumption) | refine Below.alloc ?_ (by simp) _)) rfl
    · intro x w' hbw hd
      have d25 : x 25 = .bool true := hd 25 rfl
      have d30 : x 30 = .bool true := hd 30 rfl
      clear hd
      go_wp2_with fail
      exact frPost_mk rfl (by repeat (first | assumption | exact Below.refl _ _ | refine bch ?_ (by assumption) | refine Below.alloc ?_ (by simp) _)) rfl
    · intro x w' hbw hd
      have d31 : x 31 = .bool true := hd 31 rfl
      clear hd
      go_wp2_with fail
      exact frPost_mk rfl (by repeat (first | assumption | exact Below.refl _ _ | refine bch ?_ (by assumption) | refine Below.alloc ?_ (by simp) _)) rfl
    · intro x w' hbw hd
      have d32 : x 32 = .bool true := hd 32 rfl
      clear hd
      go_wp2_with fail
      exact frPost_mk rfl (by repeat (first | assumption | exact Below.refl _ _ | refine bch ?_ (by assumption) | refine Below.alloc ?_ (by simp) _)) rfl
    · intro x w' hbw hd
      have d32 : x 32 = .bool true := hd 32 rfl
      have d33 : x 33 = .slice (some ⟨b, off, none⟩) m cap := hd 33 rfl
      clear hd
      have hbW := hbel.trans (hbw.mono hbel.size)
      go_wp2_with (first | (go_at_call 20; refine (CT w' hbW).mono ?_; rintro e wx ⟨rfl, hbx⟩))
      exact frPost_mk rfl (by repeat (first | assumption | exact Below.refl _ _ | refine bch ?_ (by assumption) | refine Below.alloc ?_ (by simp) _)) rfl
    · intro x w' hbw hd
      have d32 : x 32 = .bool true := hd 32 rfl
      clear hd
      go_wp2_with fail
      exact frPost_mk rfl (by repeat (first | assumption | exact Below.refl _ _ | refine bch ?_ (by assumption) | refine Below.alloc ?_ (by simp) _)) rfl
    · intro x w' hbw hd
      have d32 : x 32 = .bool true := hd 32 rfl
      have d35 : x 35 = .slice (some ⟨b, off, none⟩) m cap := hd 35 rfl
      clear hd
      have hbW := hbel.trans (hbw.mono hbel.size)
      go_wp2_with (first | (go_at_call 21; refine (CRT w' hbW).mono ?_; rintro e wx ⟨rfl, hbx⟩))
      exact frPost_mk rfl (by repeat (first | assumption | exact Below.refl _ _ | refine bch ?_ (by assumption) | refine Below.alloc ?_ (by simp) _)) rfl
    · intro x w' hbw hd
      have d32 : x 32 = .bool true := hd 32 rfl
      have d34 : x 34 = .agg (hrow TP.1) := hd 34 rfl
      have d36 : x 36 = .agg (hrow TP.1) := hd 36 rfl
      clear hd
      have hE := hEQ TP w'
      go_wp2_with fail
      exact frPost_mk rfl (by repeat (first | assumption | exact Below.refl _ _ | refine bch ?_ (by assumption) | refine Below.alloc ?_ (by simp) _)) rfl
    · intro x w' hbw hd
      have d32 : x 32 = .bool true := hd 32 rfl
      have d37 : x 37 = .bool true := hd 37 rfl
      clear hd
      go_wp2_with fail
      exact frPost_mk rfl (by repeat (first | assumption | exact Below.refl _ _ | refine bch ?_ (by assumption) | refine Below.alloc ?_ (by simp) _)) rfl
    · intro x w' hbw hd
      have d38 : x 38 = .bool true := hd 38 rfl
      clear hd
      go_wp2_with fail
      exact frPost_mk rfl (by repeat (first | assumption | exact Below.refl _ _ | refine bch ?_ (by assumption) | refine Below.alloc ?_ (by simp) _)) rfl
    · intro x w' hbw hd
      have d39 : x 39 = .bool true := hd 39 rfl
      clear hd
      go_wp2_with fail
      exact frPost_mk rfl (by repeat (first | assumption | exact Below.refl _ _ | refine bch ?_ (by assumption) | refine Below.alloc ?_ (by simp) _)) rfl
    · intro x w' hbw hd
      have d39 : x 39 = .bool true := hd 39 rfl
      clear hd
      go_wp2_with fail
      exact frPost_mk rfl (by repeat (first | assumption | exact Below.refl _ _ | refine bch ?_ (by assumption) | refine Below.alloc ?_ (by simp) _)) rfl
    · intro x w' hbw hd
      have d39 : x 39 = .bool true := hd 39 rfl
      have d40 : x 40 = .slice (some ⟨b, off, none⟩) m cap := hd 40 rfl
      have d41 : x 41 = .int .i64 i := hd 41 rfl
      clear hd
      have hbW := hbel.trans (hbw.mono hbel.size)
      go_wp2_with (first | (go_at_call 23; refine (CW w' hbW).mono ?_; rintro e wx ⟨v9, rfl, ho9, hbx⟩; obtain ⟨a9, c9, rfl, hrv9, _, _⟩ := own_sliceH ho9))
      exact frPost_mk rfl (by repeat (first | assumption | exact Below.refl _ _ | refine bch ?_ (by assumption) | refine Below.alloc ?_ (by simp) _)) ⟨_, _, rfl, by assumption⟩
    · intro x w' hbw hd
      have d39 : x 39 = .bool true := hd 39 rfl
      clear hd
      go_wp2_with fail
      exact frPost_mk rfl (by repeat (first | assumption | exact Below.refl _ _ | refine bch ?_ (by assumption) | refine Below.alloc ?_ (by simp) _)) rfl
    · intro x w' hbw hd
      have d39 : x 39 = .bool true := hd 39 rfl
      clear hd
      go_wp2_with fail
      exact frPost_mk rfl (by repeat (first | assumption | exact Below.refl _ _ | refine bch ?_ (by assumption) | refine Below.alloc ?_ (by simp) _)) rfl
    · intro x w' hbw hd
      have d39 : x 39 = .bool true := hd 39 rfl
      have d43 : x 43 = .slice (some ⟨b, off, none⟩) m cap := hd 43 rfl
      have d44 : x 44 = .int .i64 i := hd 44 rfl
      clear hd
      have hbW := hbel.trans (hbw.mono hbel.size)
      go_wp2_with (first | (go_at_call 24; refine (CRW w' hbW).mono ?_; rintro e wx ⟨v9, rfl, ho9, hbx⟩; obtain ⟨a9, c9, rfl, hrv9, _, _⟩ := own_sliceH ho9))
      exact frPost_mk rfl (by repeat (first | assumption | exact Below.refl _ _ | refine bch ?_ (by assumption) | refine Below.alloc ?_ (by simp) _)) ⟨_, _, rfl, by assumption⟩
    · intro x w' hbw hd
      have d39 : x 39 = .bool true := hd 39 rfl
      obtain ⟨a42, cap42, d42, r42⟩ := (show (Fact.row (WY.length) (WY.flatMap H32.cells)).holds (x 42) w' from hd 42 rfl)
      obtain ⟨a45, cap45, d45, r45⟩ := (show (Fact.row (WY.length) (WY.flatMap H32.cells)).holds (x 45) w' from hd 45 rfl)
      clear hd
      have CC := hashes_any a42 a45 _ _ cap42 cap45 WY WY w' r42 r45 rfl rfl hwl hwl
      rw [show hsB WY WY = true from decide_eq_true rfl] at CC
      go_wp2_with (first | (go_at_call 22; refine (CC).mono ?_; rintro e wx ⟨rfl, hbx⟩))
      exact frPost_mk rfl (by repeat (first | assumption | exact Below.refl _ _ | refine bch ?_ (by assumption) | refine Below.alloc ?_ (by simp) _)) rfl
    · intro x w' hbw hd
      have d39 : x 39 = .bool true := hd 39 rfl
      have d46 : x 46 = .bool true := hd 46 rfl
      clear hd
      go_wp2_with fail
      exact frPost_mk rfl (by repeat (first | assumption | exact Below.refl _ _ | refine bch ?_ (by assumption) | refine Below.alloc ?_ (by simp) _)) rfl
    · intro x w' hbw hd
      have d47 : x 47 = .bool true := hd 47 rfl
      clear hd
      go_wp2_with fail
      exact frPost_mk rfl (by repeat (first | assumption | exact Below.refl _ _ | refine bch ?_ (by assumption) | refine Below.alloc ?_ (by simp) _)) rfl
    · intro x w' hbw hd
      have d48 : x 48 = .bool true := hd 48 rfl
      clear hd
      go_wp2_with fail
      exact frPost_mk rfl (by repeat (first | assumption | exact Below.refl _ _ | refine bch ?_ (by assumption) | refine Below.alloc ?_ (by simp) _)) rfl
    · intro x w' hbw hd
      have d48 : x 48 = .bool true := hd 48 rfl
      clear hd
      go_wp2_with fail
      exact frPost_mk rfl (by repeat (first | assumption | exact Below.refl _ _ | refine bch ?_ (by assumption) | refine Below.alloc ?_ (by simp) _)) rfl
    · intro x w' hbw hd
      have d48 : x 48 = .bool true := hd 48 rfl
      have d49 : x 49 = .int .i64 n := hd 49 rfl
      have d50 : x 50 = .int .i64 i := hd 50 rfl
      clear hd
      go_wp2_with (first | (go_at_call 25; refine (CD w').mono ?_; rintro e wx ⟨rfl, hbx⟩))
      exact frPost_mk rfl (by repeat (first | assumption | exact Below.refl _ _ | refine bch ?_ (by assumption) | refine Below.alloc ?_ (by simp) _)) rfl
    · intro x w' hbw hd
      have d48 : x 48 = .bool true := hd 48 rfl
      clear hd
      go_wp2_with fail
      exact frPost_mk rfl (by repeat (first | assumption | exact Below.refl _ _ | refine bch ?_ (by assumption) | refine Below.alloc ?_ (by simp) _)) rfl
    · intro x w' hbw hd
      have d48 : x 48 = .bool true := hd 48 rfl
      clear hd
      go_wp2_with fail
      exact frPost_mk rfl (by repeat (first | assumption | exact Below.refl _ _ | refine bch ?_ (by assumption) | refine Below.alloc ?_ (by simp) _)) rfl
    · intro x w' hbw hd
      have d48 : x 48 = .bool true := hd 48 rfl
      have d52 : x 52 = .int .i64 n := hd 52 rfl
      have d53 : x 53 = .int .i64 i := hd 53 rfl
      clear hd
      go_wp2_with (first | (go_at_call 26; refine (CRD w').mono ?_; rintro e wx ⟨rfl, hbx⟩))
      exact frPost_mk rfl (by repeat (first | assumption | exact Below.refl _ _ | refine bch ?_ (by assumption) | refine Below.alloc ?_ (by simp) _)) rfl
    · intro x w' hbw hd
      have d48 : x 48 = .bool true := hd 48 rfl
      have d51 : x 51 = .int .i64 DP := hd 51 rfl
      have d54 : x 54 = .int .i64 DP := hd 54 rfl
      clear hd
      go_wp2_with fail
      exact frPost_mk rfl (by repeat (first | assumption | exact Below.refl _ _ | refine bch ?_ (by assumption) | refine Below.alloc ?_ (by simp) _)) rfl
    · intro x w' hbw hd
      have d48 : x 48 = .bool true := hd 48 rfl
      have d55 : x 55 = .bool true := hd 55 rfl
      clear hd
      go_wp2_with fail
      exact frPost_mk rfl (by repeat (first | assumption | exact Below.refl _ _ | refine bch ?_ (by assumption) | refine Below.alloc ?_ (by simp) _)) rfl
    · intro x w' hbw hd
      have d56 : x 56 = .bool true := hd 56 rfl
      clear hd
      go_wp2_with fail
      exact frPost_mk rfl (by repeat (first | assumption | exact Below.refl _ _ | refine bch ?_ (by assumption) | refine Below.alloc ?_ (by simp) _)) rfl
    · intro x w' hbw hd
      have d57 : x 57 = .bool true := hd 57 rfl
      clear hd
      have hgc := cells_of y15 hbw h15l
      go_wp2_with (first | (refine wpList_loadRowG (.tmp 15) 25 rfl Tryd.underlying25 (by rw [hszX]; kernel_rfl) rfl hgc (by first | rfl | (simp [Region.wanted, yielded, *]; done)) ?_))
      exact frPost_mk rfl (by repeat (first | assumption | exact Below.refl _ _ | refine bch ?_ (by assumption) | refine Below.alloc ?_ (by simp) _)) rfl
    · intro x w' hbw hd
      have d57 : x 57 = .bool true := hd 57 rfl
      clear hd
      have hgc := cells_of y17 hbw h17l
      go_wp2_with (first | (refine wpList_loadRowG (.tmp 17) 25 rfl Tryd.underlying25 (by rw [hszX]; kernel_rfl) rfl hgc (by first | rfl | (simp [Region.wanted, yielded, *]; done)) ?_))
      exact frPost_mk rfl (by repeat (first | assumption | exact Below.refl _ _ | refine bch ?_ (by assumption) | refine Below.alloc ?_ (by simp) _)) rfl
    · intro x w' hbw hd
      have d57 : x 57 = .bool true := hd 57 rfl
      have d58 : x 58 = .agg (hrow X.1) := hd 58 rfl
      have d59 : x 59 = .agg (hrow X.1) := hd 59 rfl
      clear hd
      have hE := hEQ X w'
      go_wp2_with fail
      exact frPost_mk rfl (by repeat (first | assumption | exact Below.refl _ _ | refine bch ?_ (by assumption) | refine Below.alloc ?_ (by simp) _)) rfl
    · intro x w' hbw hd
      have d57 : x 57 = .bool true := hd 57 rfl
      have d60 : x 60 = .bool true := hd 60 rfl
      clear hd
      go_wp2_with fail
      exact frPost_mk rfl (by repeat (first | assumption | exact Below.refl _ _ | refine bch ?_ (by assumption) | refine Below.alloc ?_ (by simp) _)) rfl
    · intro x w' hbw hd
      have d61 : x 61 = .bool true := hd 61 rfl
      clear hd
      go_wp2_with fail
      exact frPost_mk rfl (by repeat (first | assumption | exact Below.refl _ _ | refine bch ?_ (by assumption) | refine Below.alloc ?_ (by simp) _)) rfl
    · intro x w' hbw hd
      have d62 : x 62 = .bool true := hd 62 rfl
      clear hd
      go_wp2_with fail
      exact frPost_mk rfl (by repeat (first | assumption | exact Below.refl _ _ | refine bch ?_ (by assumption) | refine Below.alloc ?_ (by simp) _)) rfl
    · intro x w' hbw hd
      have d62 : x 62 = .bool true := hd 62 rfl
      clear hd
      go_wp2_with fail
      exact frPost_mk rfl (by repeat (first | assumption | exact Below.refl _ _ | refine bch ?_ (by assumption) | refine Below.alloc ?_ (by simp) _)) rfl
    · intro x w' hbw hd
      have d62 : x 62 = .bool true := hd 62 rfl
      have d63 : x 63 = .bool p := hd 63 rfl
      have d64 : x 64 = .bool p := hd 64 rfl
      clear hd
      go_wp2_with fail
      exact frPost_mk rfl (by repeat (first | assumption | exact Below.refl _ _ | refine bch ?_ (by assumption) | refine Below.alloc ?_ (by simp) _)) rfl
    · intro x w' hbw hd
      have d62 : x 62 = .bool true := hd 62 rfl
      have d65 : x 65 = .bool true := hd 65 rfl
      clear hd
      go_wp2_with fail
      exact frPost_mk rfl (by repeat (first | assumption | exact Below.refl _ _ | refine bch ?_ (by assumption) | refine Below.alloc ?_ (by simp) _)) rfl
    · intro x w' hbw hd
      have d66 : x 66 = .bool true := hd 66 rfl
      clear hd
      go_wp2_with fail
      exact frPost_mk rfl (by repeat (first | assumption | exact Below.refl _ _ | refine bch ?_ (by assumption) | refine Below.alloc ?_ (by simp) _)) rfl
  intro x wf hbw hd
  have d67 : x 67 = .bool true := hd 67 (by decide)
  clear hd
  simp only [d67]
  have hbel := hbel.trans (hbw.mono hbel.size)
  go_wp2
  go_ret
  exact ⟨by first | rfl | simp, hbel⟩
end Go.Proofs.YtfikbaoiialfeaaDoor
namespace Go.Proofs.YtfikbaoiialfeaaDoor.treeTells
open Go.ChangeShapes Go.WideShapes Go.ChangeAt Go.RowKit
open Go.ChangeMaps (open_string shut_string)
set_option linter.unusedVariables false
theorem own : ownKnob Tryd.prog.godebug = none := by kernel_rfl
theorem laidOut : laidOutB Tryd.prog = true := by kernel_rfl
set_option maxRecDepth 100000 in
theorem lifted (os : Os) (started : os.Started) (H : Type) (enc : TypeId × Value → H) :
    ReturnsInHanded {} Tryd.checked os 3 .any (fun w args => (Rows.treeTellsSpec.pre enc Tryd.prog Tryd.f3 Rows.treeTellsRow.domain false w args ∧ laidMetH Tryd.prog (Rows.treeTellsRow.laid) w) ∧ sizedMet enc Tryd.prog Tryd.f3 (OpenSpec.ofChange Rows.treeTellsSpec) false w args)
      (Rows.treeTellsSpec.post enc Tryd.prog Tryd.f3 false true false false) := by
  refine returnsInHanded_of_change_and (C := Tryd.checked) (X := fun w _ => laidMetH Tryd.prog (Rows.treeTellsRow.laid) w) (fun _ _ _ hh h => h.of_heap hh) own started (by kernel_rfl) Tryd.func3
    (ChangeSpec.witness_shaped (enc := enc) (C := Tryd.checked) (os := os) (X := fun w _ => laidMetH Tryd.prog (Rows.treeTellsRow.laid) w) false (World.laidAll Tryd.prog os (Rows.treeTellsRow.laid)) #[.slice none 0 0, .int .i64 0, .int .i64 0, .slice none 0 0, .string ByteArray.empty, .string ByteArray.empty] 8 (World.laidAll_os _ _ _)
      (World.shaped_of_ZipB (by kernel_rfl) (by kernel_rfl)) (by kernel_rfl) (by kernel_rfl) (by kernel_rfl)
      (by rw [MakeChecks.laidMetH_plain _ _ _ (by kernel_rfl)]; exact laidMet_laidAll _ (by kernel_rfl) (by kernel_rfl))) ?_
  intro W base args ds gs before hval0 hW hcnd _ hLaid _
  have hval : ∀ (j : Nat) t v, Tryd.f3.params[j]? = some t → args[j]? = some v → Value.okWide Tryd.prog W .any base t v := hval0
  have hW' := hW
  obtain ⟨p, q, hA0, hV, rfl, hfz, hnd⟩ := hW
  have hA : DataW.TrodAll enc Tryd.prog W 0 (fun _ => true) true Tryd.f3.params.toList args.toList ds p := hA0
  rw [Tryd.params3] at hA hval
  obtain ⟨v0, vs0, d0, ds0, p0, q0, hargs, rfl, rfl, h0, r0⟩ := trodAll_cons hA
  obtain ⟨v1, vs1, d1, ds1, p1, q1, rfl, rfl, rfl, h1, r1⟩ := trodAll_cons r0
  obtain ⟨v2, vs2, d2, ds2, p2, q2, rfl, rfl, rfl, h2, r2⟩ := trodAll_cons r1
  obtain ⟨v3, vs3, d3, ds3, p3, q3, rfl, rfl, rfl, h3, r3⟩ := trodAll_cons r2
  obtain ⟨v4, vs4, d4, ds4, p4, q4, rfl, rfl, rfl, h4, r4⟩ := trodAll_cons r3
  obtain ⟨v5, vs5, d5, ds5, p5, q5, rfl, rfl, rfl, h5, r5⟩ := trodAll_cons r4
  obtain ⟨rfl, rfl, rfl⟩ := trodAll_nil r5
  obtain rfl : args = #[v0, v1, v2, v3, v4, v5] := by cases args; simp_all
  obtain ⟨rfl, rfl⟩ := trodVars_none hV
  obtain ⟨a0, len0, cap0, rfl⟩ := okWide_slice Tryd.underlying22 (hval 0 22 v0 rfl rfl)
  have k0 := h0
  have lt0 : ∀ x ∈ p0, x.block < W.heap.size := by obtain ⟨m, hm⟩ := k0; exact DataW.trod_lt m _ _ _ hm
  obtain ⟨z0, w0, n0, l0, m0⟩ : ∃ ps : List H32, RowAt W a0 (ps.flatMap H32.cells) ∧ ps.length = len0 ∧ len0 ≤ cap0 ∧ cap0 ≤ maxLen := by
    obtain ⟨fuel, hf⟩ := h0
    obtain ⟨a, len, cap, hcs, hl, hm, rows, hrl, hrow, hr⟩ := open_recs Tryd.underlying22 hf
    simp [Value.cells] at hcs; obtain ⟨rfl, rfl, rfl⟩ := hcs
    obtain ⟨ps, e, hpl⟩ := recs_of H32.cells rows (fun r hr' => h32_open (hr r hr').1 (hr r hr').2)
    exact ⟨ps, by rw [← e]; exact hrow, by omega, hl, hm⟩
  obtain ⟨a1, rfl, rfl, rfl, w1⟩ := open_int Tryd.underlying3 (hval 1 3 v1 rfl rfl) h1
  obtain ⟨a2, rfl, rfl, rfl, w2⟩ := open_int Tryd.underlying3 (hval 2 3 v2 rfl rfl) h2
  obtain ⟨a3, len3, cap3, rfl⟩ := okWide_slice Tryd.underlying22 (hval 3 22 v3 rfl rfl)
  have k3 := h3
  have lt3 : ∀ x ∈ p3, x.block < W.heap.size := by obtain ⟨m, hm⟩ := k3; exact DataW.trod_lt m _ _ _ hm
  obtain ⟨z3, w3, n3, l3, m3⟩ : ∃ ps : List H32, RowAt W a3 (ps.flatMap H32.cells) ∧ ps.length = len3 ∧ len3 ≤ cap3 ∧ cap3 ≤ maxLen := by
    obtain ⟨fuel, hf⟩ := h3
    obtain ⟨a, len, cap, hcs, hl, hm, rows, hrl, hrow, hr⟩ := open_recs Tryd.underlying22 hf
    simp [Value.cells] at hcs; obtain ⟨rfl, rfl, rfl⟩ := hcs
    obtain ⟨ps, e, hpl⟩ := recs_of H32.cells rows (fun r hr' => h32_open (hr r hr').1 (hr r hr').2)
    exact ⟨ps, by rw [← e]; exact hrow, by omega, hl, hm⟩
  obtain ⟨a4, rfl, rfl, rfl, w4⟩ := open_string Tryd.underlying9 (hval 4 9 v4 rfl rfl) h4
  obtain ⟨a5, rfl, rfl, rfl, w5⟩ := open_string Tryd.underlying9 (hval 5 9 v5 rfl rfl) h5
  clear hA0 hval0
  refine (walkTreeTells a0 len0 cap0 z0 a1 a2 a3 len3 cap3 z3 a4 a5 W (sw_of hLaid) w0 n0 l0 m0 w3 n3 l3 m3 w4 w5).mono fun e W' ⟨he, bel⟩ => ?_
  subst he
  exact ⟨_, rfl, _, _, _, [], _, [], hW', trodAll_mk1 (shut_bool Tryd.underlying4 _), (trodAll_cons_mk (Below.trod laidOut (by kernel_rfl) (of_decide_eq_true (by kernel_rfl)) k0 bel lt0) (trodAll_cons_mk (shut_int Tryd.underlying3 w1) (trodAll_cons_mk (shut_int Tryd.underlying3 w2) (trodAll_cons_mk (Below.trod laidOut (by kernel_rfl) (of_decide_eq_true (by kernel_rfl)) k3 bel lt3) (trodAll_cons_mk (shut_string Tryd.underlying9 w4) (trodAll_cons_mk (shut_string Tryd.underlying9 w5) trodAll_mk0)))))), rfl, bel.frame _, fun h => by cases h⟩
theorem over : Rows.treeTellsRow.holds Tryd.pinned (OpenSpec.ofChange Rows.treeTellsSpec) :=
  OpenClaim.holds_of_wide 3 Tryd.f3 rfl rfl rfl rfl rfl rfl rfl ⟨rfl, rfl, rfl, rfl, rfl⟩ rfl rfl rfl rfl rfl (by kernel_rfl) Tryd.func3 (by kernel_rfl)
    (of_decide_eq_true (by kernel_rfl)) (by unfold Func.isWrapper; first | (rw [if_pos (by decide +kernel)]; kernel_rfl) | (rw [if_neg (by decide +kernel)]; exact ⟨rfl, rfl⟩))
    (fun os started H enc _ => lifted os started H enc)
/-- THE STATEMENT -/
theorem proved : Rows.TreeTellsCardSaid :=
  Claim7.holds_tied_plain_at .later [] [.data, .data] true (true, "1bb117afa347b6b3c41767b6d561f167091ff2edc6b3d1608c2e7b1089f7cd02") false over (fun _ h => by cases h) (by kernel_rfl) (fun _ h => by cases h) treeTells_row_tie rfl ⟨rfl, rfl⟩ (by kernel_rfl) rfl
    (fun f fn hf hfn => by
      obtain rfl : f = 3 := Option.some.inj ((show Tryd.prog.funcNamed "lighterman/liglaw6.TreeTells" = some 3 by kernel_rfl).symm.trans hf) |>.symm
      obtain rfl : fn = Tryd.f3 := (Option.some.inj (Tryd.func3.symm.trans hfn)).symm
      exact ⟨by kernel_rfl, fun j t ht => by
        rw [Tryd.params3] at ht
        have hm : t ∈ [22, 3, 3, 22, 9, 9] := by simpa using Array.mem_of_getElem? ht
        have hall : ([22, 3, 3, 22, 9, 9].all fun u => !Tryd.prog.wantsStandIn u) = true := by kernel_rfl
        exact (show Tryd.prog.wantsStandIn t = false by simpa using List.all_eq_true.1 hall t hm)⟩)
    (by kernel_rfl)
end Go.Proofs.YtfikbaoiialfeaaDoor.treeTells
