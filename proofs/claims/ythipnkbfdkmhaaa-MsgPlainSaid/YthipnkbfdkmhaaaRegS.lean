/- A region that draws its order, told by a state that goes by what is done and by the values so far, with several operations behind all others, in one order. -/
import Derived.Test.YthipnkbfdkmhaaaRegC
namespace Go.Proofs.Ythipnkbfdkmhaaa
open Go.RowKit
section
variable {P : Program}
theorem wp_region_st_chain {id : Nat} {Q : Exit → Act → World → Prop} {a : Act} {w : World} {l l0 tl : List Oper} (hl : l = l0 ++ tl) (htl : tl ≠ []) (I : (Nat → Bool) → (Nat → Value) → World → Prop) (hm : P.follows .mixedOrders = true)
    (hd : dstsOk l0 = true) (he : edgesOk 0 l = true) (hs : Region.sinkB .any l.toArray l0.length = true) (hc : Region.chainB .any l.toArray l0.length = true) (hq : Region.seqB .any l.toArray tl.length l0.length (doneTo l.length l0.length) = true)
    (base : ∀ x, I (fun _ => false) x { w with drawn := w.drawn + 1 })
    (step : ∀ i o, l0[i]? = some o → ∀ (D : Nat → Bool) (x : Nat → Value) (w' : World), D i = false → I D x w' → (∀ e ∈ o.after.toList, Region.binds .any e = true → D e.on = true) → Closed l D →
      wpList P l.toArray (fun e a' w'' => e = .normal ∧ ∃ v, a' = (fillFrom 0 l0 x a).put o.dst v ∧ I (fun j => j == i || D j) (fun j => if j = i then v else x j) w'') [o] (fillFrom 0 l0 x a) w')
    (post : ∀ x w', I (fun j => decide (j < l0.length)) x w' → wpList P l.toArray Q tl (fillFrom 0 l0 x a) w') :
    (Code.region id l.toArray true).wp P Q a w := by
  rw [dstsOk, Bool.and_eq_true, decide_eq_true_eq] at hd
  obtain ⟨hds, hnd⟩ := hd
  have hln : l.length = l0.length + tl.length := by rw [hl]; simp
  have htn : 0 < tl.length := List.length_pos_iff.2 htl
  have hfst : ∀ i, i < l0.length → l[i]? = l0[i]? := fun i hi => by rw [hl, List.getElem?_append_left hi]
  have hlt0 : l0.length < l.toArray.size := by simp; omega
  have key : ∀ (fuel : Nat) (listed : Array Bool) (x : Nat → Value) (w' : World), HeadInv .any l.toArray l0.length listed → listed.toList.count false = fuel → I (fun j => listed.getD j false) x w' →
      Closed l (fun j => listed.getD j false) → wpAny P .any l.toArray Q fuel listed (fillFrom 0 l0 x a) w' := by
    intro fuel
    induction fuel with
    | zero =>
      intro listed x w' inv hct _ _
      exfalso
      have h1 := inv.tail l0.length (Nat.le_refl _) hlt0
      have hjs : l0.length < listed.size := by rw [inv.size]; exact hlt0
      simp only [Array.getD, hjs, dif_pos] at h1
      have : 0 < listed.toList.count false := by rw [List.count_pos_iff, ← h1]; simp
      omega
    | succ fuel ih =>
      intro listed x w' inv hct hb hcl
      by_cases hall : ∀ j, j < l0.length → listed.getD j false = true
      · have hdn := doneTo_eq (m := l.length) (n := l0.length) (by have := inv.size; simpa using this) hall (fun t h1 h2 => inv.tail t h1 (by simpa using h2))
        have hfu : fuel + 1 = tl.length := by
          have h := count_doneTo l.length l0.length (by omega)
          rw [← hdn] at h
          omega
        have hfun : (fun j => listed.getD j false) = (fun j => decide (j < l0.length)) := by
          funext j
          by_cases hj : j < l0.length
          · rw [hall j hj, decide_eq_true hj]
          · rw [decide_eq_false hj]
            rcases Nat.lt_or_ge j l.toArray.size with h | h
            · have h2 := inv.tail j (by omega) h
              have hjs : j < listed.size := by rw [inv.size]; exact h
              simp only [Array.getD, hjs, dif_pos] at h2 ⊢
              exact h2
            · have hjs : ¬ j < listed.size := by rw [inv.size]; omega
              simp [Array.getD, hjs]
        rw [hfu]
        refine wpAny_of_seq tl l0.length listed _ w' (fun j => ?_) ?_ (post x w' (by rw [← hfun]; exact hb))
        · rw [List.getElem?_toArray, hl, List.getElem?_append_right (by omega)]; congr 1; omega
        · rw [hdn]; simpa using hq
      · obtain ⟨j0, hj0, hu0⟩ : ∃ j, j < l0.length ∧ listed.getD j false = false := by
          simp only [Classical.not_forall] at hall
          obtain ⟨j, hj, h⟩ := hall
          exact ⟨j, hj, by simpa using h⟩
        have hu1 : listed.getD j0 true = false := getD_in (by rw [inv.size]; omega) hu0
        have hwait := tail_waits hs hc hlt0 inv _ j0 rfl hj0 hu1
        refine ⟨fun hr => ?_, fun i hi => ?_⟩
        · exfalso
          have all : ∀ j, j < l0.length → listed.getD j false = true := by
            intro j
            induction j using Nat.strongRecOn with
            | _ j ihj =>
              intro hj
              cases hlj : listed.getD j false with
              | true => rfl
              | false =>
                exfalso
                have hmem : j ∈ Region.ready .any l.toArray listed := by
                  rw [mem_ready]
                  refine ⟨getD_in (by rw [inv.size]; omega) hlj, l[j]'(by omega), by simp [show j < l.length by omega], fun e hmem hb' => ?_⟩
                  have hlt := edgesOk_lt l 0 he j (l[j]'(by omega)) (List.getElem?_eq_getElem (by omega)) e (by simpa using hmem) hb'
                  exact ihj e.on (by omega) (by omega)
                rw [hr] at hmem
                cases hmem
          exact hall all
        obtain ⟨h1, o, ho, hdep⟩ := mem_ready.1 hi
        have hol : l[i]? = some o := by simpa using ho
        have hi0 : i < l0.length := by
          rcases Nat.lt_or_ge i l0.length with h | h
          · exact h
          · exact absurd hi (hwait i h)
        have hol0 : l0[i]? = some o := by rw [← hfst i hi0]; exact hol
        have his : i < listed.size := by rw [inv.size]; omega
        have h1f : listed.getD i false = false := by
          simp only [Array.getD, his, dif_pos] at h1 ⊢; exact h1
        have hst := step i o hol0 (fun j => listed.getD j false) x w' h1f hb (fun e hmem hb' => by
          have hlt := edgesOk_lt l 0 he i o hol e hmem hb'
          exact hdep e (by simpa using hmem) hb') hcl
        have hnext : ∀ a' w'', (∃ v, a' = (fillFrom 0 l0 x a).put o.dst v ∧ I (fun j => j == i || listed.getD j false) (fun j => if j = i then v else x j) w'') →
            wpAny P .any l.toArray Q fuel (listed.setIfInBounds i true) a' w'' := by
          rintro a' w'' ⟨v, rfl, hb2⟩
          have hso : o.dst.isSome = true := List.all_eq_true.1 hds o (List.mem_of_getElem? hol0)
          rw [fillFrom_set l0 0 x a i o v hol0 hso hnd, Nat.zero_add]
          have hfun : (fun j => (listed.setIfInBounds i true).getD j false) = (fun j => j == i || listed.getD j false) := by
            funext j
            by_cases hji : j = i
            · subst hji; simp [Array.getD, his]
            · rw [Array.getD_eq_getD_getElem?, Array.getElem?_setIfInBounds_ne (Ne.symm hji), ← Array.getD_eq_getD_getElem?]; simp [hji]
          refine ih _ _ w'' (inv.set hi hi0) ?_ (by rw [hfun]; exact hb2) ?_
          · have : (listed.setIfInBounds i true).toList.count false + 1 = listed.toList.count false := by
              rw [Array.toList_setIfInBounds]
              have hg : listed.toList[i]? = some false := by
                simp only [Array.getD, his, dif_pos] at h1
                rw [List.getElem?_eq_getElem (by simpa using his)]
                simpa using h1
              have hil' : i < listed.toList.length := by simpa using his
              have hgi : listed.toList[i] = false := (List.getElem?_eq_some_iff.1 hg).2
              rw [List.count_set hil', hgi]
              have hpos : 0 < listed.toList.count false := by
                rw [List.count_pos_iff, ← hgi]; exact List.getElem_mem _
              have e1 : (false == false) = true := rfl
              have e2 : (true == false) = false := rfl
              rw [e1, e2]
              simp only [if_true, Bool.false_eq_true, if_false]
              omega
            omega
          · rw [hfun]
            intro j o' ho' hj e hmem hbd
            by_cases hji : j = i
            · subst hji
              obtain rfl : o = o' := by rw [hol] at ho'; exact Option.some.inj ho'
              have := hdep e (by simpa using hmem) hbd
              simp [this]
            · have hj' : listed.getD j false = true := by simpa [hji] using hj
              have := hcl j o' ho' hj' e hmem hbd
              simp only at this
              simp [this]
        unfold wpOp
        simp only [ho]
        unfold wpList at hst
        split
        · rename_i hw
          rw [if_pos hw] at hst
          rcases hst with hst | ⟨_, a'', w'', e, _⟩
          · exact .inl (wp_other (R := fun e a' w'' => e = .normal ∧ ∃ v, a' = (fillFrom 0 l0 x a).put o.dst v ∧ I (fun j => j == i || listed.getD j false) (fun j => if j = i then v else x j) w'') (fun a' w'' h => hnext a' w'' h.2) (fun e _ _ h => h.1) hst)
          · cases e
        · rename_i hw
          rw [if_neg hw] at hst
          exact hnext _ _ hst.2
  obtain ⟨x0, hx0⟩ := fillFrom_id l0 0 a hnd
  refine wp_region_any hm ?_
  have inv0 : HeadInv .any l.toArray l0.length (Array.replicate l.toArray.size false) :=
    ⟨by simp, fun j oj _ hl => (by rw [getD_replicate_false] at hl; cases hl), fun t _ ht => getD_in (by simpa using ht) (getD_replicate_false _ _)⟩
  have hf0 : (fun j => (Array.replicate l.toArray.size false).getD j false) = (fun _ => false) := by
    funext j; exact getD_replicate_false _ _
  have := key l.toArray.size (Array.replicate l.toArray.size false) x0 { w with drawn := w.drawn + 1 } inv0 (by simp) (by rw [hf0]; exact base x0) (by rw [hf0]; intro j o ho hj; cases hj)
  rw [hx0] at this
  simpa using this
end
/-- Behind one operation: nothing is deferred, the state with the value in its slot. -/
def StPost (ds : List Deferred) (d : Nat) (R : Value → World → Prop) (e : Exit) (a' : Act) (w'' : World) : Prop :=
  e = .normal ∧ a'.defers = ds ∧ R (a'.tmps.getD d undef) w''
theorem stPost_mk {ds : List Deferred} {d : Nat} {R : Value → World → Prop} {a' : Act} {w'' : World} {v : Value} (h1 : a'.defers = ds) (h2 : a'.tmps.getD d undef = v) (h3 : R v w'') : StPost ds d R .normal a' w'' := ⟨rfl, h1, by rw [h2]; exact h3⟩
def StStep (P : Program) (l : List Oper) (fr : (Nat → Value) → Act) (I : (Nat → Bool) → (Nat → Value) → World → Prop) (i : Nat) (o : Oper) : Prop :=
  ∀ (D : Nat → Bool) (x : Nat → Value) (w' : World), D i = false → I D x w' → (∀ j, waits o j = true → D j = true) → Closed l D →
    wpList P l.toArray (StPost (fr x).defers (o.dst.getD 0) (fun v => I (fun j => j == i || D j) (fun j => if j = i then v else x j))) [o] (fr x) w'
def StSteps (P : Program) (l : List Oper) (fr : (Nat → Value) → Act) (I : (Nat → Bool) → (Nat → Value) → World → Prop) : Nat → List Oper → Prop
  | _, [] => True
  | k, o :: rest => StStep P l fr I k o ∧ StSteps P l fr I (k + 1) rest
theorem stSteps_all {P : Program} {l : List Oper} {fr : (Nat → Value) → Act} {I : (Nat → Bool) → (Nat → Value) → World → Prop} : ∀ (m : List Oper) (k : Nat), StSteps P l fr I k m → ∀ i o, m[i]? = some o → StStep P l fr I (k + i) o := by
  intro m
  induction m with
  | nil => intro k _ i o h; simp at h
  | cons p m ih =>
    intro k h i o hi
    cases i with
    | zero =>
      simp only [List.getElem?_cons_zero, Option.some.injEq] at hi
      subst hi; exact h.1
    | succ i =>
      have := ih (k + 1) h.2 i o (by simpa using hi)
      rwa [show k + 1 + i = k + (i + 1) by omega] at this
/-- The region, told by a state that goes by what is done and by the values so far, its frame written out, one step an operation; the rest in its order. -/
theorem wp_region_state_chain {P : Program} {id : Nat} {Q : Exit → Act → World → Prop} {a : Act} {w : World} {l : List Oper} {fr : (Nat → Value) → Act} (n : Nat) (hn : n < l.length) (I : (Nat → Bool) → (Nat → Value) → World → Prop) (hm : P.follows .mixedOrders = true)
    (hd : dstsOk (l.take n) = true) (he : edgesOk 0 l = true) (hs : Region.sinkB .any l.toArray n = true) (hc : Region.chainB .any l.toArray n = true) (hq : Region.seqB .any l.toArray (l.length - n) n (doneTo l.length n) = true) (hf : inFrame a.tmps.size (l.take n) = true) (hfr : ∀ x, fillFrom 0 (l.take n) x a = fr x)
    (base : ∀ x, I (fun _ => false) x { w with drawn := w.drawn + 1 }) (steps : StSteps P l fr I 0 (l.take n))
    (post : ∀ w' (x : Nat → Value), I (fun j => decide (j < (l.take n).length)) x w' → wpList P l.toArray Q (l.drop n) (fr x) w') : (Code.region id l.toArray true).wp P Q a w := by
  have htn : (l.take n).length = n := by rw [List.length_take]; omega
  have htd : (l.drop n).length = l.length - n := List.length_drop ..
  refine wp_region_st_chain (List.take_append_drop n l).symm (fun h => by rw [h] at htd; simp at htd; omega) I hm hd he (by rw [htn]; exact hs) (by rw [htn]; exact hc) (by rw [htn, htd]; exact hq) base (fun i o ho D x w' hD hI hdep hcl => ?_)
    (fun x w' hI => by rw [hfr]; exact post w' x hI)
  have hst := by simpa using stSteps_all (l.take n) 0 steps i o ho
  have h1 := hst D x w' hD hI (fun j hj => by
    simp only [waits, List.any_eq_true, Bool.and_eq_true, beq_iff_eq] at hj
    obtain ⟨e, he1, he2, he3⟩ := hj
    rw [← he2]; exact hdep e he1 he3) hcl
  rw [hfr]
  have hlt : ∀ d, o.dst = some d → d < (fr x).tmps.size := fun d hdo => by
    rw [← hfr, fillFrom_size]
    have := List.all_eq_true.1 hf o (List.mem_of_getElem? ho)
    rw [hdo] at this
    simpa using this
  have hsome : ∃ d, o.dst = some d := by
    have := List.all_eq_true.1 hf o (List.mem_of_getElem? ho)
    cases hdo : o.dst with
    | none => rw [hdo] at this; cases this
    | some d => exact ⟨d, rfl⟩
  obtain ⟨d, hdo⟩ := hsome
  have hget : ∀ v, ((fr x).put o.dst v).tmps.getD (o.dst.getD 0) undef = v := fun v => by
    rw [hdo]
    simp only [Act.put, Option.getD_some]
    rw [Array.getD_eq_getD_getElem?, Array.getElem?_setIfInBounds_self_of_lt (hlt d hdo)]; rfl
  unfold wpList at h1 ⊢
  split
  · rename_i hw
    rw [if_pos hw] at h1
    rcases h1 with h1 | ⟨_, a'', w'', e, _⟩
    · refine .inl (wp_put (R := StPost (fr x).defers (o.dst.getD 0) (fun v => I (fun j => j == i || D j) (fun j => if j = i then v else x j))) (fun e _ _ h => h.1) (fun _ _ h => h.2.1) (fun v w'' h => ⟨rfl, v, rfl, ?_⟩) h1)
      have := h.2.2
      rw [hget] at this
      exact this
    · cases e
  · rename_i hw
    rw [if_neg hw] at h1
    obtain ⟨_, _, h2⟩ := h1
    rw [hget] at h2
    exact ⟨rfl, undef, rfl, h2⟩
end Go.Proofs.Ythipnkbfdkmhaaa
