/- A region that draws its order, told by facts that stay true as memory grows, with one operation behind all others (a store). -/
import Derived.Test.YtpledhipdiephaaDoorPhi
namespace Go.Proofs.YtpledhipdiephaaDoor
open Go.RowKit
section
variable {P : Program}
/-- Does operation o wait for each of the n before it? -/
def waitsAll (o : Oper) (n : Nat) : Bool := (List.range n).all fun j => waits o j
theorem wp_region_phi_tail {id : Nat} {Q : Exit → Act → World → Prop} {a : Act} {w : World} {l l0 : List Oper} {last : Oper} (hl : l = l0 ++ [last]) (Φ : Nat → Value → World → Prop) (hm : P.follows .mixedOrders = true)
    (hd : dstsOk l0 = true) (he : edgesOk 0 l = true) (hwt : waitsAll last l0.length = true)
    (up : ∀ i v x y, Φ i v x → Below x.heap.size x y → Φ i v y)
    (step : ∀ i o, l0[i]? = some o → ∀ (x : Nat → Value) (w' : World), Below w.heap.size w w' → (∀ e ∈ o.after.toList, Region.binds .any e = true → Φ e.on (x e.on) w') →
      wpList P l.toArray (fun e a' w'' => e = .normal ∧ ∃ v, a' = (fillFrom 0 l0 x a).put o.dst v ∧ Below w'.heap.size w' w'' ∧ Φ i v w'') [o] (fillFrom 0 l0 x a) w')
    (post : ∀ x w', Below w.heap.size w w' → (∀ i, i < l0.length → Φ i (x i) w') → wpList P l.toArray Q [last] (fillFrom 0 l0 x a) w') :
    (Code.region id l.toArray true).wp P Q a w := by
  rw [dstsOk, Bool.and_eq_true, decide_eq_true_eq] at hd
  obtain ⟨hds, hnd⟩ := hd
  have hln : l.length = l0.length + 1 := by rw [hl]; simp
  have hlast : l[l0.length]? = some last := by rw [hl]; simp
  have hfst : ∀ i, i < l0.length → l[i]? = l0[i]? := fun i hi => by rw [hl, List.getElem?_append_left hi]
  have allset : ∀ (listed : Array Bool), listed.size = l.length → (∀ j, j < l.length → listed.getD j false = true) → Region.ready .any l.toArray listed = [] := by
    intro listed hsz h
    rw [List.eq_nil_iff_forall_not_mem]
    intro j hj
    obtain ⟨h1, o, ho, _⟩ := mem_ready.1 hj
    have hjl : j < l.length := by
      have := (Array.getElem?_eq_some_iff.1 ho).1
      simpa using this
    have h2 := h j hjl
    have hjs : j < listed.size := by omega
    simp only [Array.getD, hjs, dif_pos] at h1 h2
    rw [show listed.getInternal j hjs = true from h2] at h1
    cases h1
  have key : ∀ (fuel : Nat) (listed : Array Bool) (x : Nat → Value) (w' : World), listed.size = l.length → listed.toList.count false ≤ fuel → listed.getD l0.length false = false → Below w.heap.size w w' →
      (∀ j, j < l0.length → listed.getD j false = true → Φ j (x j) w') → wpAny P .any l.toArray Q fuel listed (fillFrom 0 l0 x a) w' := by
    intro fuel
    have some_ready : ∀ (listed : Array Bool), listed.size = l.length → listed.getD l0.length false = false → Region.ready .any l.toArray listed ≠ [] := by
      intro listed hsz hn hr
      have all : ∀ j, j < l.length → listed.getD j false = true := by
        intro j
        induction j using Nat.strongRecOn with
        | _ j ihj =>
          intro hj
          cases hlj : listed.getD j false with
          | true => rfl
          | false =>
            exfalso
            have hmem : j ∈ Region.ready .any l.toArray listed := by
              rw [mem_ready]
              refine ⟨?_, l[j], by simp [hj], fun e hmem hb' => ?_⟩
              · have hjs : j < listed.size := by omega
                simp only [Array.getD, hjs, dif_pos] at hlj ⊢
                exact hlj
              · have hlt := edgesOk_lt l 0 he j l[j] (List.getElem?_eq_getElem hj) e (by simpa using hmem) hb'
                exact ihj e.on (by omega) (by omega)
            rw [hr] at hmem
            cases hmem
      rw [all l0.length (by omega)] at hn
      cases hn
    induction fuel with
    | zero =>
      intro listed x w' hsz hc hn _ _
      exfalso
      have hjs : l0.length < listed.size := by omega
      have hcount : 0 < listed.toList.count false := by
        rw [List.count_pos_iff]
        simp only [Array.getD, hjs, dif_pos] at hn
        rw [← hn]
        simp
      omega
    | succ fuel ih =>
      intro listed x w' hsz hc hn hb hΦ
      refine ⟨fun hr => absurd hr (some_ready listed hsz hn), fun i hi => ?_⟩
      obtain ⟨h1, o, ho, hdep⟩ := mem_ready.1 hi
      have hol : l[i]? = some o := by simpa using ho
      have hil : i < l.length := (List.getElem?_eq_some_iff.1 hol).1
      have his : i < listed.size := by omega
      by_cases hin : i = l0.length
      · subst hin
        obtain rfl : last = o := Option.some.inj (hlast.symm.trans hol)
        have hall : ∀ j, j < l0.length → listed.getD j false = true := fun j hj => by
          have h2 := List.all_eq_true.1 hwt j (List.mem_range.2 hj)
          simp only [waits, List.any_eq_true, Bool.and_eq_true, beq_iff_eq] at h2
          obtain ⟨e, he1, he2, he3⟩ := h2
          rw [← he2]; exact hdep e (by simpa using he1) he3
        have hp := post x w' hb (fun j hj => hΦ j hj (hall j hj))
        have hw : wpOp P l.toArray Q l0.length (wpList P l.toArray Q []) (fillFrom 0 l0 x a) w' := by unfold wpOp; simp only [ho]; exact hp
        refine wpOp_mono (fun a' w'' h' => ?_) hw
        have hr : Region.ready .any l.toArray (listed.setIfInBounds l0.length true) = [] := allset _ (by simpa using hsz) (fun j hj => by
          by_cases hji : j = l0.length
          · subst hji; simp [Array.getD, his]
          · rw [Array.getD_eq_getD_getElem?, Array.getElem?_setIfInBounds_ne (Ne.symm hji), ← Array.getD_eq_getD_getElem?]; exact hall j (by omega))
        cases fuel with
        | zero => exact ⟨hr, h'⟩
        | succ f => exact ⟨fun _ => h', fun k hk => by rw [hr] at hk; cases hk⟩
      have hi0 : i < l0.length := by omega
      have hol0 : l0[i]? = some o := by rw [← hfst i hi0]; exact hol
      have hst := step i o hol0 x w' hb (fun e hmem hb' => by
        have hlt := edgesOk_lt l 0 he i o hol e hmem hb'
        exact hΦ e.on (by omega) (hdep e (by simpa using hmem) hb'))
      have hnext : ∀ a' w'', (∃ v, a' = (fillFrom 0 l0 x a).put o.dst v ∧ Below w'.heap.size w' w'' ∧ Φ i v w'') →
          wpAny P .any l.toArray Q fuel (listed.setIfInBounds i true) a' w'' := by
        rintro a' w'' ⟨v, rfl, hb2, hv⟩
        have hs : o.dst.isSome = true := List.all_eq_true.1 hds o (List.mem_of_getElem? hol0)
        rw [fillFrom_set l0 0 x a i o v hol0 hs hnd]
        refine ih _ _ w'' (by simpa using hsz) ?_ ?_ (hb.trans (hb2.mono hb.size)) ?_
        · have : (listed.setIfInBounds i true).toList.count false + 1 = listed.toList.count false := by
            rw [Array.toList_setIfInBounds]
            have hg : listed.toList[i]? = some false := by
              simp only [Array.getD, his, dif_pos] at h1
              rw [List.getElem?_eq_getElem (by simpa using his)]
              simpa using h1
            have hil' : i < listed.toList.length := by simpa using his
            have hgi : listed.toList[i] = false := (List.getElem?_eq_some_iff.1 hg).2
            rw [List.count_set hil', hgi]
            have hpos : 0 < listed.toList.count false := by
              rw [List.count_pos_iff, ← hgi]; exact List.getElem_mem _
            have e1 : (false == false) = true := rfl
            have e2 : (true == false) = false := rfl
            rw [e1, e2]
            simp only [if_true, Bool.false_eq_true, if_false]
            omega
          omega
        · rw [Array.getD_eq_getD_getElem?, Array.getElem?_setIfInBounds_ne hin, ← Array.getD_eq_getD_getElem?]; exact hn
        · intro j hj0 hj
          by_cases hji : j = i
          · subst hji; simpa using hv
          · have hj' : listed.getD j false = true := by
              rw [Array.getD_eq_getD_getElem?, Array.getElem?_setIfInBounds_ne (Ne.symm hji), ← Array.getD_eq_getD_getElem?] at hj
              exact hj
            have := up j _ _ _ (hΦ j hj0 hj') hb2
            simpa [hji] using this
      unfold wpOp
      simp only [ho]
      unfold wpList at hst
      split
      · rename_i hw
        rw [if_pos hw] at hst
        rcases hst with hst | ⟨_, a'', w'', e, _⟩
        · exact .inl (wp_other (R := fun e a' w'' => e = .normal ∧ ∃ v, a' = (fillFrom 0 l0 x a).put o.dst v ∧ Below w'.heap.size w' w'' ∧ Φ i v w'') (fun a' w'' h => hnext a' w'' h.2) (fun e _ _ h => h.1) hst)
        · cases e
      · rename_i hw
        rw [if_neg hw] at hst
        exact hnext _ _ hst.2
  obtain ⟨x0, hx0⟩ := fillFrom_id l0 0 a hnd
  refine wp_region_any hm ?_
  have := key l.length (Array.replicate l.length false) x0 { w with drawn := w.drawn + 1 } (by simp) (by simp) (by simp [Array.getD, hln]) ((Below.refl w.heap.size w).drew) (fun j _ hj => by
    exfalso
    rcases Nat.lt_or_ge j l.length with h | h
    · simp [Array.getD, h] at hj
    · simp [Array.getD, Nat.not_lt.2 h] at hj)
  rw [hx0] at this
  simpa using this
end
theorem wp_region_facts_tail {P : Program} {id : Nat} {Q : Exit → Act → World → Prop} {a : Act} {w : World} {l : List Oper} {fr : (Nat → Value) → Act} {last : Oper} (n : Nat) (hl : l = l.take n ++ [last]) (F : List Fact) (hm : P.follows .mixedOrders = true)
    (hd : dstsOk (l.take n) = true) (he : edgesOk 0 l = true) (hwt : waitsAll last (l.take n).length = true) (hf : inFrame a.tmps.size (l.take n) = true) (hfr : ∀ x, fillFrom 0 (l.take n) x a = fr x) (steps : FrSteps P l F fr w 0 (l.take n))
    (post : ∀ x w', Below w.heap.size w w' → (∀ i, i < (l.take n).length → factAt F i (x i) w') → wpList P l.toArray Q (l.drop n) (fr x) w') : (Code.region id l.toArray true).wp P Q a w := by
  have hdrop : l.drop n = [last] := by
    have h1 : l.take n ++ l.drop n = l.take n ++ [last] := by rw [List.take_append_drop]; exact hl
    exact List.append_cancel_left h1
  refine wp_region_phi_tail hl (factAt F) hm hd he hwt (fun i v x y h hb => (F.getD i Fact.any).up v x y h hb) (fun i o ho x w' hb hdep => ?_)
    (fun x w' hb h => by rw [hfr, ← hdrop]; exact post x w' hb h)
  have hst := by simpa using frSteps_all (l.take n) 0 steps i o ho
  have h1 := hst x w' hb (fun j hj => by
    simp only [waits, List.any_eq_true, Bool.and_eq_true, beq_iff_eq] at hj
    obtain ⟨e, he1, he2, he3⟩ := hj
    rw [← he2]; exact hdep e he1 he3)
  rw [hfr]
  have hlt : ∀ d, o.dst = some d → d < (fr x).tmps.size := fun d hdo => by
    rw [← hfr, fillFrom_size]
    have := List.all_eq_true.1 hf o (List.mem_of_getElem? ho)
    rw [hdo] at this
    simpa using this
  have hsome : ∃ d, o.dst = some d := by
    have := List.all_eq_true.1 hf o (List.mem_of_getElem? ho)
    cases hdo : o.dst with
    | none => rw [hdo] at this; cases this
    | some d => exact ⟨d, rfl⟩
  obtain ⟨d, hdo⟩ := hsome
  have hget : ∀ v, ((fr x).put o.dst v).tmps.getD (o.dst.getD 0) undef = v := fun v => by
    rw [hdo]
    simp only [Act.put, Option.getD_some]
    rw [Array.getD_eq_getD_getElem?, Array.getElem?_setIfInBounds_self_of_lt (hlt d hdo)]; rfl
  unfold wpList at h1 ⊢
  split
  · rename_i hw
    rw [if_pos hw] at h1
    rcases h1 with h1 | ⟨_, a'', w'', e, _⟩
    · refine .inl (wp_put (R := FrPost (fr x).defers w' (factAt F i) (o.dst.getD 0)) (fun e _ _ h => h.1) (fun _ _ h => h.2.1) (fun v w'' h => ⟨rfl, v, rfl, h.2.2.1, ?_⟩) h1)
      have := h.2.2.2
      rwa [hget] at this
    · cases e
  · rename_i hw
    rw [if_neg hw] at h1
    obtain ⟨_, _, h2, h3⟩ := h1
    rw [hget] at h3
    exact ⟨rfl, undef, rfl, h2, h3⟩
end Go.Proofs.YtpledhipdiephaaDoor
