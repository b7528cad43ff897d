/- A region that draws its order, told by facts that stay true as memory grows, with several operations behind all others, in one order (an append and what takes its value). -/
import Derived.Test.YtpledhipdiephaaDoorPhiT
import Derived.StillTail
namespace Go.Proofs.YtpledhipdiephaaDoor
open Go.RowKit
section
variable {P : Program}
/-- The first n of m are done. -/
def doneTo (m n : Nat) : Array Bool := Array.ofFn (n := m) fun i => decide (i.val < n)
theorem doneTo_eq {m n : Nat} {listed : Array Bool} (hsz : listed.size = m) (h1 : ∀ j, j < n → listed.getD j false = true) (h2 : ∀ t, n ≤ t → t < m → listed.getD t true = false) : listed = doneTo m n := by
  apply Array.ext
  · simp [doneTo, hsz]
  · intro j hj hj2
    have hjm : j < m := by omega
    rcases Nat.lt_or_ge j n with h | h
    · have := h1 j h
      simp only [Array.getD, hj, dif_pos] at this
      simp only [doneTo, Array.getElem_ofFn, h, decide_true]
      exact this
    · have := h2 j h hjm
      simp only [Array.getD, hj, dif_pos] at this
      simp only [doneTo, Array.getElem_ofFn, show ¬ j < n by omega, decide_false]
      exact this
theorem count_doneTo (m n : Nat) (h : n ≤ m) : (doneTo m n).toList.count false = m - n := by
  unfold doneTo
  rw [Array.toList_ofFn]
  induction m generalizing n with
  | zero => simp
  | succ m ih =>
    rw [List.ofFn_succ, List.count_cons]
    cases n with
    | zero =>
      have := ih 0 (Nat.zero_le _)
      simp at this ⊢
      rw [this]
    | succ n =>
      have := ih n (by omega)
      simp at this ⊢
      rw [this]
theorem wp_region_phi_chain {id : Nat} {Q : Exit → Act → World → Prop} {a : Act} {w : World} {l l0 tl : List Oper} (hl : l = l0 ++ tl) (htl : tl ≠ []) (Φ : Nat → Value → World → Prop) (hm : P.follows .mixedOrders = true)
    (hd : dstsOk l0 = true) (he : edgesOk 0 l = true) (hs : Region.sinkB .any l.toArray l0.length = true) (hc : Region.chainB .any l.toArray l0.length = true) (hq : Region.seqB .any l.toArray tl.length l0.length (doneTo l.length l0.length) = true)
    (up : ∀ i v x y, Φ i v x → Below x.heap.size x y → Φ i v y)
    (step : ∀ i o, l0[i]? = some o → ∀ (x : Nat → Value) (w' : World), Below w.heap.size w w' → (∀ e ∈ o.after.toList, Region.binds .any e = true → Φ e.on (x e.on) w') →
      wpList P l.toArray (fun e a' w'' => e = .normal ∧ ∃ v, a' = (fillFrom 0 l0 x a).put o.dst v ∧ Below w'.heap.size w' w'' ∧ Φ i v w'') [o] (fillFrom 0 l0 x a) w')
    (post : ∀ x w', Below w.heap.size w w' → (∀ i, i < l0.length → Φ i (x i) w') → wpList P l.toArray Q tl (fillFrom 0 l0 x a) w') :
    (Code.region id l.toArray true).wp P Q a w := by
  rw [dstsOk, Bool.and_eq_true, decide_eq_true_eq] at hd
  obtain ⟨hds, hnd⟩ := hd
  have hln : l.length = l0.length + tl.length := by rw [hl]; simp
  have htn : 0 < tl.length := List.length_pos_iff.2 htl
  have hfst : ∀ i, i < l0.length → l[i]? = l0[i]? := fun i hi => by rw [hl, List.getElem?_append_left hi]
  have hlt0 : l0.length < l.toArray.size := by simp; omega
  have key : ∀ (fuel : Nat) (listed : Array Bool) (x : Nat → Value) (w' : World), HeadInv .any l.toArray l0.length listed → listed.toList.count false = fuel → Below w.heap.size w w' →
      (∀ j, j < l0.length → listed.getD j false = true → Φ j (x j) w') → wpAny P .any l.toArray Q fuel listed (fillFrom 0 l0 x a) w' := by
    intro fuel
    induction fuel with
    | zero =>
      intro listed x w' inv hct _ _
      exfalso
      have h1 := inv.tail l0.length (Nat.le_refl _) hlt0
      have hjs : l0.length < listed.size := by rw [inv.size]; exact hlt0
      simp only [Array.getD, hjs, dif_pos] at h1
      have : 0 < listed.toList.count false := by rw [List.count_pos_iff, ← h1]; simp
      omega
    | succ fuel ih =>
      intro listed x w' inv hct hb hΦ
      by_cases hall : ∀ j, j < l0.length → listed.getD j false = true
      · have hdn := doneTo_eq (m := l.length) (n := l0.length) (by have := inv.size; simpa using this) hall (fun t h1 h2 => inv.tail t h1 (by simpa using h2))
        have hfu : fuel + 1 = tl.length := by
          have h := count_doneTo l.length l0.length (by omega)
          rw [← hdn] at h
          omega
        rw [hfu]
        refine wpAny_of_seq tl l0.length listed _ w' (fun j => ?_) ?_ (post x w' hb (fun j hj => hΦ j hj (hall j hj)))
        · rw [List.getElem?_toArray, hl, List.getElem?_append_right (by omega)]; congr 1; omega
        · rw [hdn]; simpa using hq
      · obtain ⟨j0, hj0, hu0⟩ : ∃ j, j < l0.length ∧ listed.getD j false = false := by
          simp only [Classical.not_forall] at hall
          obtain ⟨j, hj, h⟩ := hall
          exact ⟨j, hj, by simpa using h⟩
        have hu1 : listed.getD j0 true = false := getD_in (by rw [inv.size]; omega) hu0
        have hwait := tail_waits hs hc hlt0 inv _ j0 rfl hj0 hu1
        refine ⟨fun hr => ?_, fun i hi => ?_⟩
        · exfalso
          have all : ∀ j, j < l0.length → listed.getD j false = true := by
            intro j
            induction j using Nat.strongRecOn with
            | _ j ihj =>
              intro hj
              cases hlj : listed.getD j false with
              | true => rfl
              | false =>
                exfalso
                have hmem : j ∈ Region.ready .any l.toArray listed := by
                  rw [mem_ready]
                  refine ⟨getD_in (by rw [inv.size]; omega) hlj, l[j]'(by omega), by simp [show j < l.length by omega], fun e hmem hb' => ?_⟩
                  have hlt := edgesOk_lt l 0 he j (l[j]'(by omega)) (List.getElem?_eq_getElem (by omega)) e (by simpa using hmem) hb'
                  exact ihj e.on (by omega) (by omega)
                rw [hr] at hmem
                cases hmem
          exact hall all
        obtain ⟨h1, o, ho, hdep⟩ := mem_ready.1 hi
        have hol : l[i]? = some o := by simpa using ho
        have hi0 : i < l0.length := by
          rcases Nat.lt_or_ge i l0.length with h | h
          · exact h
          · exact absurd hi (hwait i h)
        have hol0 : l0[i]? = some o := by rw [← hfst i hi0]; exact hol
        have his : i < listed.size := by rw [inv.size]; omega
        have hst := step i o hol0 x w' hb (fun e hmem hb' => by
          have hlt := edgesOk_lt l 0 he i o hol e hmem hb'
          exact hΦ e.on (by omega) (hdep e (by simpa using hmem) hb'))
        have hnext : ∀ a' w'', (∃ v, a' = (fillFrom 0 l0 x a).put o.dst v ∧ Below w'.heap.size w' w'' ∧ Φ i v w'') →
            wpAny P .any l.toArray Q fuel (listed.setIfInBounds i true) a' w'' := by
          rintro a' w'' ⟨v, rfl, hb2, hv⟩
          have hso : o.dst.isSome = true := List.all_eq_true.1 hds o (List.mem_of_getElem? hol0)
          rw [fillFrom_set l0 0 x a i o v hol0 hso hnd]
          refine ih _ _ w'' (inv.set hi hi0) ?_ (hb.trans (hb2.mono hb.size)) ?_
          · have : (listed.setIfInBounds i true).toList.count false + 1 = listed.toList.count false := by
              rw [Array.toList_setIfInBounds]
              have hg : listed.toList[i]? = some false := by
                simp only [Array.getD, his, dif_pos] at h1
                rw [List.getElem?_eq_getElem (by simpa using his)]
                simpa using h1
              have hil' : i < listed.toList.length := by simpa using his
              have hgi : listed.toList[i] = false := (List.getElem?_eq_some_iff.1 hg).2
              rw [List.count_set hil', hgi]
              have hpos : 0 < listed.toList.count false := by
                rw [List.count_pos_iff, ← hgi]; exact List.getElem_mem _
              have e1 : (false == false) = true := rfl
              have e2 : (true == false) = false := rfl
              rw [e1, e2]
              simp only [if_true, Bool.false_eq_true, if_false]
              omega
            omega
          · intro j hj0 hj
            by_cases hji : j = i
            · subst hji; simpa using hv
            · have hj' : listed.getD j false = true := by
                rw [Array.getD_eq_getD_getElem?, Array.getElem?_setIfInBounds_ne (Ne.symm hji), ← Array.getD_eq_getD_getElem?] at hj
                exact hj
              have := up j _ _ _ (hΦ j hj0 hj') hb2
              simpa [hji] using this
        unfold wpOp
        simp only [ho]
        unfold wpList at hst
        split
        · rename_i hw
          rw [if_pos hw] at hst
          rcases hst with hst | ⟨_, a'', w'', e, _⟩
          · exact .inl (wp_other (R := fun e a' w'' => e = .normal ∧ ∃ v, a' = (fillFrom 0 l0 x a).put o.dst v ∧ Below w'.heap.size w' w'' ∧ Φ i v w'') (fun a' w'' h => hnext a' w'' h.2) (fun e _ _ h => h.1) hst)
          · cases e
        · rename_i hw
          rw [if_neg hw] at hst
          exact hnext _ _ hst.2
  obtain ⟨x0, hx0⟩ := fillFrom_id l0 0 a hnd
  refine wp_region_any hm ?_
  have inv0 : HeadInv .any l.toArray l0.length (Array.replicate l.toArray.size false) :=
    ⟨by simp, fun j oj _ hl => (by rw [getD_replicate_false] at hl; cases hl), fun t _ ht => getD_in (by simpa using ht) (getD_replicate_false _ _)⟩
  have := key l.toArray.size (Array.replicate l.toArray.size false) x0 { w with drawn := w.drawn + 1 } inv0 (by simp) ((Below.refl w.heap.size w).drew) (fun j _ hj => by
    exfalso
    rw [getD_replicate_false] at hj
    cases hj)
  rw [hx0] at this
  simpa using this
end
theorem wp_region_facts_chain {P : Program} {id : Nat} {Q : Exit → Act → World → Prop} {a : Act} {w : World} {l : List Oper} {fr : (Nat → Value) → Act} (n : Nat) (hn : n < l.length) (F : List Fact) (hm : P.follows .mixedOrders = true)
    (hd : dstsOk (l.take n) = true) (he : edgesOk 0 l = true) (hs : Region.sinkB .any l.toArray n = true) (hc : Region.chainB .any l.toArray n = true) (hq : Region.seqB .any l.toArray (l.length - n) n (doneTo l.length n) = true) (hf : inFrame a.tmps.size (l.take n) = true) (hfr : ∀ x, fillFrom 0 (l.take n) x a = fr x) (steps : FrSteps P l F fr w 0 (l.take n))
    (post : ∀ x w', Below w.heap.size w w' → (∀ i, i < (l.take n).length → factAt F i (x i) w') → wpList P l.toArray Q (l.drop n) (fr x) w') : (Code.region id l.toArray true).wp P Q a w := by
  have htn : (l.take n).length = n := by rw [List.length_take]; omega
  have htd : (l.drop n).length = l.length - n := List.length_drop ..
  refine wp_region_phi_chain (List.take_append_drop n l).symm (fun h => by rw [h] at htd; simp at htd; omega) (factAt F) hm hd he (by rw [htn]; exact hs) (by rw [htn]; exact hc) (by rw [htn, htd]; exact hq) (fun i v x y h hb => (F.getD i Fact.any).up v x y h hb) (fun i o ho x w' hb hdep => ?_)
    (fun x w' hb h => by rw [hfr]; exact post x w' hb h)
  have hst := by simpa using frSteps_all (l.take n) 0 steps i o ho
  have h1 := hst x w' hb (fun j hj => by
    simp only [waits, List.any_eq_true, Bool.and_eq_true, beq_iff_eq] at hj
    obtain ⟨e, he1, he2, he3⟩ := hj
    rw [← he2]; exact hdep e he1 he3)
  rw [hfr]
  have hlt : ∀ d, o.dst = some d → d < (fr x).tmps.size := fun d hdo => by
    rw [← hfr, fillFrom_size]
    have := List.all_eq_true.1 hf o (List.mem_of_getElem? ho)
    rw [hdo] at this
    simpa using this
  have hsome : ∃ d, o.dst = some d := by
    have := List.all_eq_true.1 hf o (List.mem_of_getElem? ho)
    cases hdo : o.dst with
    | none => rw [hdo] at this; cases this
    | some d => exact ⟨d, rfl⟩
  obtain ⟨d, hdo⟩ := hsome
  have hget : ∀ v, ((fr x).put o.dst v).tmps.getD (o.dst.getD 0) undef = v := fun v => by
    rw [hdo]
    simp only [Act.put, Option.getD_some]
    rw [Array.getD_eq_getD_getElem?, Array.getElem?_setIfInBounds_self_of_lt (hlt d hdo)]; rfl
  unfold wpList at h1 ⊢
  split
  · rename_i hw
    rw [if_pos hw] at h1
    rcases h1 with h1 | ⟨_, a'', w'', e, _⟩
    · refine .inl (wp_put (R := FrPost (fr x).defers w' (factAt F i) (o.dst.getD 0)) (fun e _ _ h => h.1) (fun _ _ h => h.2.1) (fun v w'' h => ⟨rfl, v, rfl, h.2.2.1, ?_⟩) h1)
      have := h.2.2.2
      rwa [hget] at this
    · cases e
  · rename_i hw
    rw [if_neg hw] at h1
    obtain ⟨_, _, h2, h3⟩ := h1
    rw [hget] at h3
    exact ⟨rfl, undef, rfl, h2, h3⟩
end Go.Proofs.YtpledhipdiephaaDoor
