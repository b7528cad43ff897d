/- What Make makes of a good list shows what stands in the list. Pairs set one after the other: a list that rises. What the proofs of a good list show. The document's place of a key; a pair that may be. An append of a slice whose address may be none. The document's Set of a pair. Pairs set one after the other (ligkeep.Rise). -/
import Derived.Test.YtfikbaoiialfeaaDoorVal4
import Derived.Test.YtfikbaoiialfeaaDoorPt3
import Derived.Test.YtfikbaoiialfeaaDoorGY
import Derived.WalkKit
import Derived.ProofKit
import Derived.Handy
import Derived.Below
import Derived.Lib.Hide
import Derived.IntWalk
import Derived.Outline
import Derived.WalkLawsBesides
import Derived.WalkSpells
import Derived.Test.YtfikbaoiialfeaaDoorPt1
import Derived.BigRegion
import Derived.RegionTactic
import Derived.BigQuiet
import Derived.Deep.QuietTactic
import Derived.LoopTactic
import Derived.BigFrame
import Derived.Laws.OwnMore
import Derived.OwnWalk
import Derived.Deep.MidRow
namespace Go.Proofs.YtfikbaoiialfeaaDoor
open Go.RowKit
set_option linter.unusedVariables false
theorem map_none {xs : List LeafV} (h : xs.map LeafV.d = []) : xs = [] := by
  match xs, h with
  | [], _ => rfl
  | _ :: _, h => simp at h
theorem map_one {xs : List LeafV} {a : LeafD} (h : xs.map LeafV.d = [a]) : ∃ x, xs = [x] ∧ x.d = a := by
  match xs, h with
  | [], h => simp at h
  | [x], h => exact ⟨x, rfl, by simpa using h⟩
  | _ :: _ :: _, h => simp at h
theorem map_two {xs : List LeafV} {a b : LeafD} (h : xs.map LeafV.d = [a, b]) : ∃ x y, xs = [x, y] ∧ x.d = a ∧ y.d = b := by
  match xs, h with
  | [], h => simp at h
  | [x], h => simp at h
  | [x, y], h => exact ⟨x, y, rfl, by simpa using h⟩
  | _ :: _ :: _ :: _, h => simp at h
theorem mkD_some {l : List Pr} {i : Nat} (hi : i < l.length) : mkD l i = ⟨l[i].k, l[i].v, (i : Int), wayH (l.map leafH) i⟩ := by
  unfold mkD; rw [List.getElem?_eq_getElem hi]
theorem come_mk {l : List Pr} {i : Nat} (hi : i < l.length) : comeD (l.length : Int) (mkD l i) = rootF (l.length : Int) (topH (l.map leafH)).1 := by
  rw [mkD_some hi]
  unfold comeD
  simp only [Int.toNat_natCast]
  have hl : (l.map leafH).length = l.length := List.length_map ..
  have h1 : leafD ⟨l[i].k, l[i].v, (i : Int), wayH (l.map leafH) i⟩ = (l.map leafH)[i]'(by rw [hl]; exact hi) := by rw [List.getElem_map]; rfl
  rw [h1, fold_way l.length (l.map leafH) i _ hl hi, List.set_getElem_self]
theorem fits_of {l : List Pr} (h : goodL l = true) {i : Nat} (hi : i < l.length) : fitsB l[i].k l[i].v = true := by
  obtain ⟨⟨h1, h2⟩, h3, h4⟩ := goodL_fits h (List.getElem_mem hi)
  unfold fitsB
  rw [decide_eq_true h1, decide_eq_true h2, decide_eq_true h3, decide_eq_true h4]; rfl
theorem may_mk {l : List Pr} (h : goodL l = true) (hn : l.length ≤ 1000000) {i : Nat} (hi : i < l.length) {x : LeafV} (hx : x.d = mkD l i) : mayLeafB (l.length : Int) x = true := by
  rw [mkD_some hi] at hx
  unfold LeafV.d at hx
  rw [LeafD.mk.injEq] at hx
  obtain ⟨e1, e2, e3, e4⟩ := hx
  have hl : (l.map leafH).length = l.length := List.length_map ..
  have hd : ((wayH (l.map leafH) i).length : Int) = deepI (l.length : Int) (i : Int) := by
    unfold deepI
    rw [insB_iff.2 ⟨by omega, by omega, by omega⟩, way_len l.length (l.map leafH) i hl hi]
    simp
  unfold mayLeafB
  rw [e1, e2, e3, e4, fits_of h hi, decide_eq_true hd, decide_eq_true (by omega : (0 : Int) ≤ (i : Int)), decide_eq_true (by omega : (i : Int) < (l.length : Int))]
  rfl
theorem stand_mk {l : List Pr} {i : Nat} (hi : i < l.length) {x : LeafV} (hx : x.d = mkD l i) : standB (rootF (l.length : Int) (topH (l.map leafH)).1) (l.length : Int) x = true := by
  unfold standB
  rw [hx, come_mk hi, beq_self_eq_true]
/-- Each leaf that Make makes is a pair of the list. -/
theorem make_mem {l : List Pr} {key : ByteArray} (h : goodL l = true) {xs : List LeafV} (hx : xs.map LeafV.d = makeD l key) {x : LeafV} (hm : x ∈ xs) : ∃ i, i < l.length ∧ x.d = mkD l i := by
  have h1 : x.d ∈ xs.map LeafV.d := List.mem_map_of_mem hm
  rw [hx] at h1
  unfold makeD at h1
  rw [if_pos h] at h1
  obtain ⟨i, hi, e⟩ := List.mem_map.1 h1
  exact ⟨i, witL_lt hi, e.symm⟩
theorem wit_two (n pl : Nat) (f : Bool) : (witL n pl f).length ≤ 2 := by
  unfold witL
  split
  · simp
  · rw [List.length_append]; split <;> split <;> simp
theorem make_may {l : List Pr} {key : ByteArray} (h : goodL l = true) (hn : l.length ≤ 1000000) {xs : List LeafV} (hx : xs.map LeafV.d = makeD l key) : mayPfB (l.length : Int) xs = true := by
  have hl : xs.length ≤ 2 := by
    have h1 := congrArg List.length hx
    rw [List.length_map] at h1
    unfold makeD at h1
    rw [if_pos h, List.length_map] at h1
    rw [h1]; exact wit_two _ _ _
  unfold mayPfB
  rw [decide_eq_true (by omega : (0 : Int) ≤ (l.length : Int)), decide_eq_true (by omega : (l.length : Int) ≤ 1073741824), decide_eq_true hl, List.all_eq_true.2 (fun x hm => by obtain ⟨i, hi, e⟩ := make_mem h hx hm; exact may_mk h hn hi e)]
  rfl
theorem make_stand {l : List Pr} {key : ByteArray} (h : goodL l = true) {xs : List LeafV} (hx : xs.map LeafV.d = makeD l key) : xs.all (standB (rootF (l.length : Int) (topH (l.map leafH)).1) (l.length : Int)) = true :=
  List.all_eq_true.2 (fun x hm => by obtain ⟨i, hi, e⟩ := make_mem h hx hm; exact stand_mk hi e)
/-- Where a key is found. -/
theorem found_at {l : List Pr} {key : ByteArray} (hf : foundL l key = true) : ∃ (hi : placeL l key < l.length), l[placeL l key].k = key := by
  unfold foundL at hf
  rcases Nat.lt_or_ge (placeL l key) l.length with hi | hi
  · rw [List.getElem?_eq_getElem hi] at hf
    exact ⟨hi, by simpa using hf⟩
  · rw [List.getElem?_eq_none hi] at hf; cases hf
theorem make_found {l : List Pr} {key : ByteArray} (h : goodL l = true) (hf : foundL l key = true) {xs : List LeafV} (hx : xs.map LeafV.d = makeD l key) : ∃ x, xs = [x] ∧ x.d = mkD l (placeL l key) := by
  unfold makeD witL at hx
  rw [if_pos h, if_pos hf] at hx
  exact map_one hx
theorem lessK_irr (x : ByteArray) : lessK x x = false := less_irr _
theorem place_less {l : List Pr} {key : ByteArray} {i : Nat} (hi : i < placeL l key) : ∃ (h : i < l.length), lessK l[i].k key = true := by
  have hp : placeL l key ≤ l.length := List.findIdx_le_length
  have h : i < l.length := by omega
  refine ⟨h, ?_⟩
  have h1 := List.not_of_lt_findIdx (p := fun p : Pr => !lessK p.k key) hi
  simpa using h1
theorem place_not {l : List Pr} {key : ByteArray} (h : placeL l key < l.length) : lessK l[placeL l key].k key = false := by
  have h1 : (!lessK l[placeL l key].k key) = true := List.findIdx_getElem (p := fun p : Pr => !lessK p.k key) (w := h)
  simpa using h1
/-- A key that is in a good list is found. -/
theorem found_of {l : List Pr} {key : ByteArray} (h : goodL l = true) {i : Nat} (hi : i < l.length) (hk : l[i].k = key) : foundL l key = true := by
  have hp : placeL l key = i := placeL_stop (p := l[i]) (goodL_sorted h) hi (fun t q ht hq => by rw [← hk]; exact goodL_sorted h t i q l[i] ht hq (List.getElem?_eq_getElem hi)) (List.getElem?_eq_getElem hi) (by rw [hk]; exact lessK_irr key)
  unfold foundL
  rw [hp, List.getElem?_eq_getElem hi]
  simpa using hk
theorem key_ne {l : List Pr} {key : ByteArray} (h : goodL l = true) (hf : foundL l key = false) {i : Nat} (hi : i < l.length) : (l[i].k.toList == key.toList) = false := by
  cases h9 : (l[i].k.toList == key.toList) with
  | false => rfl
  | true => rw [found_of h hi (tl_eq.1 h9)] at hf; cases hf
theorem make_val {l : List Pr} {key : ByteArray} (h : goodL l = true) {xs : List LeafV} (hx : xs.map LeafV.d = makeD l key) : valB (rootF (l.length : Int) (topH (l.map leafH)).1) (l.length : Int) xs key = foundL l key := by
  cases hf : foundL l key with
  | true =>
    obtain ⟨x, rfl, hd⟩ := make_found h hf hx
    obtain ⟨hi, hk⟩ := found_at hf
    show ((x.key.toList == key.toList) && standB _ _ x) = true
    rw [stand_mk hi hd]
    rw [mkD_some hi] at hd
    have hxk : x.key = l[placeL l key].k := congrArg LeafD.key hd
    rw [hxk, hk, tl_eq.2 rfl]; rfl
  | false =>
    match xs, hx with
    | [], _ => rfl
    | [x], hx =>
      obtain ⟨i, hi, hd⟩ := make_mem h hx (List.mem_singleton.2 rfl)
      rw [mkD_some hi] at hd
      have hxk : x.key = l[i].k := congrArg LeafD.key hd
      show ((x.key.toList == key.toList) && _) = false
      rw [hxk, key_ne h hf hi]; rfl
    | _ :: _ :: _, _ => rfl
theorem make_first {l : List Pr} {key : ByteArray} (h : goodL l = true) (hf : foundL l key = true) {xs : List LeafV} (hx : xs.map LeafV.d = makeD l key) : ∃ x, xs = [x] ∧ ∃ (hi : placeL l key < l.length), x.val = l[placeL l key].v ∧ x.key = key := by
  obtain ⟨x, rfl, hd⟩ := make_found h hf hx
  obtain ⟨hi, hk⟩ := found_at hf
  rw [mkD_some hi] at hd
  exact ⟨x, rfl, hi, congrArg LeafD.val hd, by rw [← hk]; exact congrArg LeafD.key hd⟩
theorem make_gap {l : List Pr} {key : ByteArray} (h : goodL l = true) {xs : List LeafV} (hx : xs.map LeafV.d = makeD l key) : gapB (rootF (l.length : Int) (topH (l.map leafH)).1) (l.length : Int) xs key = !foundL l key := by
  cases hf : foundL l key with
  | true =>
    obtain ⟨x, rfl, hi, hv, hk⟩ := make_first h hf hx
    show (((x.idx == 0) && lessK key x.key) || ((x.idx == _) && lessK x.key key)) = false
    rw [hk, lessK_irr, Bool.and_false, Bool.and_false]; rfl
  | false =>
    have hp : placeL l key ≤ l.length := List.findIdx_le_length
    have hgt : ∀ (hi : placeL l key < l.length), lessK key l[placeL l key].k = true := fun hi => by
      rw [lessK_gtr, place_not hi, key_ne h hf hi]; rfl
    unfold makeD witL at hx
    rw [if_pos h, hf, if_neg (by decide)] at hx
    rcases Nat.eq_zero_or_pos (placeL l key) with h0 | h0
    · rw [if_neg (by omega)] at hx
      rcases Nat.eq_zero_or_pos l.length with hn | hn
      · rw [if_neg (by omega)] at hx
        have hl : l = [] := List.eq_nil_of_length_eq_zero hn
        subst hl
        obtain rfl := map_none hx
        · show (((0 : Nat) : Int) == 0 && (rootF ((0 : Nat) : Int) (topH []).1 == rootF 0 z32)) = true
          rw [topH_nil]
          show (true && (rootF 0 z32 == rootF 0 z32)) = true
          rw [beq_self_eq_true]; rfl
      · have hi : placeL l key < l.length := by omega
        rw [if_pos hi] at hx
        obtain ⟨x, rfl, hd⟩ := map_one hx
        · skip
          rw [mkD_some hi] at hd
          have e1 : x.key = l[placeL l key].k := congrArg LeafD.key hd
          have e2 : x.idx = (placeL l key : Nat) := congrArg LeafD.idx hd
          show (((x.idx == 0) && lessK key x.key) || _) = true
          rw [e1, hgt hi, e2, beq_iff_eq.2 (by omega : ((placeL l key : Nat) : Int) = 0)]; rfl
    · obtain ⟨hj, hl⟩ := place_less (l := l) (key := key) (i := placeL l key - 1) (by omega)
      rw [if_pos h0] at hx
      rcases Nat.lt_or_ge (placeL l key) l.length with hi | hi
      · rw [if_pos hi] at hx
        obtain ⟨x, y, rfl, d1, d2⟩ := map_two hx
        · skip
          rw [mkD_some hj] at d1
          rw [mkD_some hi] at d2
          have e1 : x.key = l[placeL l key - 1].k := congrArg LeafD.key d1
          have e2 : x.idx = ((placeL l key - 1 : Nat) : Int) := congrArg LeafD.idx d1
          have e3 : y.key = l[placeL l key].k := congrArg LeafD.key d2
          have e4 : y.idx = (placeL l key : Nat) := congrArg LeafD.idx d2
          show (((y.idx == x.idx + 1) && lessK x.key key) && lessK key y.key) = true
          rw [e1, e3, hl, hgt hi, e2, e4, beq_iff_eq.2 (by omega : ((placeL l key : Nat) : Int) = ((placeL l key - 1 : Nat) : Int) + 1)]; rfl
      · rw [if_neg (by omega)] at hx
        obtain ⟨x, rfl, hd⟩ := map_one hx
        · skip
          rw [mkD_some hj] at hd
          have e1 : x.key = l[placeL l key - 1].k := congrArg LeafD.key hd
          have e2 : x.idx = ((placeL l key - 1 : Nat) : Int) := congrArg LeafD.idx hd
          show (_ || ((x.idx == (l.length : Int) - 1) && lessK x.key key)) = true
          rw [e1, hl, e2, beq_iff_eq.2 (by omega : ((placeL l key - 1 : Nat) : Int) = (l.length : Int) - 1), Bool.and_true, Bool.or_true]
end Go.Proofs.YtfikbaoiialfeaaDoor
namespace Go.Proofs.YtfikbaoiialfeaaDoor
open Go.RowKit
set_option linter.unusedVariables false

/-- The list with a key's pair set. -/
def setL (l : List Pr) (k v : ByteArray) : List Pr := l.take (placeL l k) ++ [⟨k, v⟩] ++ l.drop (placeL l k + (if foundL l k = true then 1 else 0))
def riseStep (acc : List Pr) (p : Pr) : List Pr := if fitsB p.k p.v = true then setL acc p.k p.v else acc
def riseL (l : List Pr) : List Pr := l.foldl riseStep []
theorem good_fit {l : List Pr} (h : goodL l = true) {p : Pr} (hp : p ∈ l) : fitsB p.k p.v = true := by
  obtain ⟨i, hi, rfl⟩ := List.getElem_of_mem hp
  have h1 := goodL_at h hi
  unfold goodAt at h1
  rw [List.getElem?_eq_getElem hi] at h1
  simp only [] at h1
  rw [Bool.and_eq_true] at h1
  exact h1.1
theorem good_iff {l : List Pr} : goodL l = true ↔ (∀ p ∈ l, fitsB p.k p.v = true) ∧ l.Pairwise (fun p q => lessK p.k q.k = true) := by
  constructor
  · exact fun h => ⟨fun p hp => good_fit h hp, List.pairwise_iff_getElem.2 (fun i j hi hj hij => goodL_sorted h i j _ _ hij (List.getElem?_eq_getElem hi) (List.getElem?_eq_getElem hj))⟩
  · rintro ⟨h1, h2⟩
    refine goodL_all (fun i hi => ?_)
    unfold goodAt
    rw [List.getElem?_eq_getElem hi]
    simp only []
    rw [h1 _ (List.getElem_mem hi), Bool.true_and]
    cases i with
    | zero => rfl
    | succ i =>
      rw [Nat.add_sub_cancel, List.getElem?_eq_getElem (by omega)]
      simp only []
      rw [List.pairwise_iff_getElem.1 h2 i (i + 1) (by omega) hi (by omega), Bool.or_true]
theorem good_nil : goodL [] = true := rfl
theorem setL_good {l : List Pr} {k v : ByteArray} (h : goodL l = true) (hf : fitsB k v = true) : goodL (setL l k v) = true := by
  obtain ⟨h1, h2⟩ := good_iff.1 h
  have hp : placeL l k ≤ l.length := List.findIdx_le_length
  have ht : ∀ p ∈ l.take (placeL l k), lessK p.k k = true := fun p hm => by
    obtain ⟨i, hi, rfl⟩ := List.getElem_of_mem hm
    rw [List.length_take] at hi
    obtain ⟨h3, h4⟩ := place_less (l := l) (key := k) (i := i) (by omega)
    rw [List.getElem_take]; exact h4
  have hgt : ∀ (j : Nat) (hj : j < l.length), placeL l k ≤ j → (foundL l k = true → placeL l k < j) → lessK k l[j].k = true := fun j hj hle hlt => by
    have h3 : placeL l k < l.length := by omega
    cases hfd : foundL l k with
    | true =>
      obtain ⟨_, h4⟩ := found_at hfd
      have := goodL_sorted h (placeL l k) j _ _ (hlt hfd) (List.getElem?_eq_getElem h3) (List.getElem?_eq_getElem hj)
      rw [h4] at this; exact this
    | false =>
      have h5 : lessK k l[placeL l k].k = true := by rw [lessK_gtr, place_not h3, key_ne h hfd h3]; rfl
      rcases Nat.eq_or_lt_of_le hle with h0 | h0
      · subst h0; exact h5
      · exact lessK_trans h5 (goodL_sorted h (placeL l k) j _ _ h0 (List.getElem?_eq_getElem h3) (List.getElem?_eq_getElem hj))
  have hd : ∀ p ∈ l.drop (placeL l k + (if foundL l k = true then 1 else 0)), lessK k p.k = true := fun p hm => by
    obtain ⟨i, hi, rfl⟩ := List.getElem_of_mem hm
    rw [List.length_drop] at hi
    rw [List.getElem_drop]
    refine hgt _ _ (by omega) (fun hfd => ?_)
    rw [if_pos hfd]; omega
  refine good_iff.2 ⟨fun p hm => ?_, ?_⟩
  · unfold setL at hm
    rw [List.append_assoc, List.mem_append, List.singleton_append, List.mem_cons] at hm
    rcases hm with hm | hm | hm
    · exact h1 p (List.mem_of_mem_take hm)
    · rw [hm]; exact hf
    · exact h1 p (List.mem_of_mem_drop hm)
  · unfold setL
    rw [List.append_assoc, List.singleton_append, List.pairwise_append, List.pairwise_cons]
    refine ⟨h2.sublist (List.take_sublist _ _), ⟨hd, h2.sublist (List.drop_sublist _ _)⟩, fun p hpm q hqm => ?_⟩
    rcases List.mem_cons.1 hqm with rfl | hqm
    · exact ht p hpm
    · exact lessK_trans (ht p hpm) (hd q hqm)
theorem setL_len (l : List Pr) (k v : ByteArray) : (setL l k v).length ≤ l.length + 1 := by
  have hp : placeL l k ≤ l.length := List.findIdx_le_length
  unfold setL
  simp only [List.length_append, List.length_take, List.length_drop, List.length_cons, List.length_nil]
  omega
theorem riseStep_good {l : List Pr} (h : goodL l = true) (p : Pr) : goodL (riseStep l p) = true := by
  unfold riseStep
  split
  · exact setL_good h (by assumption)
  · exact h
theorem riseStep_len (l : List Pr) (p : Pr) : (riseStep l p).length ≤ l.length + 1 := by
  unfold riseStep
  split
  · exact setL_len _ _ _
  · omega
theorem rise_from (l : List Pr) : ∀ acc : List Pr, goodL acc = true → goodL (l.foldl riseStep acc) = true ∧ (l.foldl riseStep acc).length ≤ acc.length + l.length := by
  induction l with
  | nil => exact fun acc h => ⟨h, Nat.le_refl _⟩
  | cons p l ih =>
    intro acc h
    obtain ⟨h1, h2⟩ := ih (riseStep acc p) (riseStep_good h p)
    have := riseStep_len acc p
    exact ⟨h1, by rw [List.foldl_cons, List.length_cons]; omega⟩
theorem rise_good (l : List Pr) : goodL (riseL l) = true := (rise_from l [] good_nil).1
theorem rise_len (l : List Pr) : (riseL l).length ≤ l.length := by have h := (rise_from l [] good_nil).2; rw [List.length_nil, Nat.zero_add] at h; exact h
theorem rise_take {l : List Pr} {i : Nat} (hi : i < l.length) : riseL (l.take (i + 1)) = riseStep (riseL (l.take i)) l[i] := by
  unfold riseL
  rw [List.take_succ_eq_append_getElem hi, List.foldl_append]; rfl
end Go.Proofs.YtfikbaoiialfeaaDoor
namespace Go.Proofs.YtfikbaoiialfeaaDoor
open Go.RowKit
attribute [local go_sem] strV
set_option linter.unusedVariables false
theorem ps_may {R : List Pr} {key : ByteArray} (h : goodL R = true) (hn : R.length ≤ 1000000) {us : List LeafV} (hx : us.map LeafV.d = makeD R key) : mayPfB (R.length : Int) us = true := make_may h hn hx
theorem ps_val {R : List Pr} {key : ByteArray} (h : goodL R = true) (hn : R.length ≤ 1000000) {us : List LeafV} (hx : us.map LeafV.d = makeD R key) : (valF (rootF (R.length : Int) (topH (R.map leafH)).1) (R.length : Int) us key).2 = foundL R key := by
  unfold valF
  rw [make_may h hn hx, make_val h hx, Bool.true_and]
  cases foundL R key <;> rfl
theorem ps_place {l : List Pr} (h : goodL l = true) {i : Nat} (hi : i < l.length) : placeL l l[i].k = i :=
  placeL_stop (p := l[i]) (goodL_sorted h) hi (fun t q ht hq => goodL_sorted h t i q l[i] ht hq (List.getElem?_eq_getElem hi)) (List.getElem?_eq_getElem hi) (lessK_irr _)
theorem ps_at {R : List Pr} (h : goodL R = true) (hn : R.length ≤ 1000000) {i : Nat} (hi : i < R.length) {us : List LeafV} (hx : us.map LeafV.d = makeD R R[i].k) : valF (rootF (R.length : Int) (topH (R.map leafH)).1) (R.length : Int) us R[i].k = (R[i].v, true) := by
  have hf := found_of h hi rfl
  unfold valF
  rw [make_may h hn hx, make_val h hx, hf]
  obtain ⟨x, rfl, hi9, hv, _⟩ := make_first h hf hx
  simp only [Bool.and_self, if_true]
  rw [hv]
  simp only [ps_place h hi]
theorem ps_lacks {R : List Pr} {key : ByteArray} (h : goodL R = true) (hn : R.length ≤ 1000000) {us : List LeafV} (hx : us.map LeafV.d = makeD R key) : lacksF (rootF (R.length : Int) (topH (R.map leafH)).1) (R.length : Int) us key = !foundL R key := by
  unfold lacksF
  rw [make_may h hn hx, make_stand h hx, make_gap h hx]
  rfl
theorem ps_x (v : ByteArray) : (v.toList == (v ++ (⟨#[120]⟩ : ByteArray)).toList) = false := by
  rw [beq_eq_false_iff_ne]
  intro h
  have h1 := congrArg List.length h
  rw [ByteArray.toList_eq, ByteArray.toList_eq] at h1
  simp [ByteArray.data_append] at h1
/-- Does the key stand among the first k? -/
def amongB (R : List Pr) (k : Nat) (key : ByteArray) : Bool := (R.take k).any (fun p => p.k.toList == key.toList)
theorem among_zero (R : List Pr) (key : ByteArray) : amongB R 0 key = false := rfl
theorem among_step {R : List Pr} {k : Nat} (hk : k < R.length) (key : ByteArray) : amongB R (k + 1) key = (amongB R k key || (R[k].k.toList == key.toList)) := by
  unfold amongB
  rw [List.take_succ_eq_append_getElem hk, List.any_append]
  simp
theorem among_all {R : List Pr} (h : goodL R = true) (key : ByteArray) : amongB R R.length key = foundL R key := by
  unfold amongB
  rw [List.take_length]
  cases hf : foundL R key with
  | true =>
    obtain ⟨hi, hk⟩ := found_at hf
    exact List.any_eq_true.2 ⟨R[placeL R key], List.getElem_mem hi, tl_eq.2 hk⟩
  | false =>
    rw [List.any_eq_false]
    intro p hp
    obtain ⟨i, hi, rfl⟩ := List.getElem_of_mem hp
    rw [key_ne h hf hi]
    exact Bool.false_ne_true
end Go.Proofs.YtfikbaoiialfeaaDoor
namespace Go.Proofs.YtfikbaoiialfeaaDoor
open Go.RowKit
attribute [local go_sem] strV
set_option linter.unusedVariables false
set_option maxRecDepth 100000 in
set_option maxHeartbeats 3200000 in
theorem mayPair_any (key val : ByteArray) (w : World) :
    Calls Tryd.prog 72 #[.string key, .string val] w fun e w' => e = .returned (.bool (fitsB key val)) ∧ Below w.heap.size w w' := by
  by_cases h0 : 1 ≤ key.size
  rotate_left
  · rw [show fitsB key val = false by unfold fitsB; rw [decide_eq_false (show ¬ 0 < key.size by omega)]; simp]
    have e0 : decide (1 ≤ (key.size : Int)) = false := decide_eq_false (by omega)
    have e0n : decide (1 ≤ key.size) = false := decide_eq_false (by omega)
    clear h0
    go_enter Tryd.func72, Tryd.ntmps72
    go_wp2
    go_ret
    exact ⟨by first | rfl | simp, Below.refl _ _⟩
  by_cases h1 : key.size ≤ 160
  rotate_left
  · rw [show fitsB key val = false by unfold fitsB; rw [decide_eq_false (show ¬ key.size ≤ 160 by omega)]; simp]
    have e0 : decide (1 ≤ (key.size : Int)) = true := decide_eq_true (by omega)
    have e0n : decide (1 ≤ key.size) = true := decide_eq_true (by omega)
    have e1 : decide ((key.size : Int) ≤ 160) = false := decide_eq_false (by omega)
    have e1n : decide (key.size ≤ 160) = false := decide_eq_false (by omega)
    clear h0 h1
    go_enter Tryd.func72, Tryd.ntmps72
    go_wp2
    go_ret
    exact ⟨by first | rfl | simp, Below.refl _ _⟩
  by_cases h2 : 1 ≤ val.size
  rotate_left
  · rw [show fitsB key val = false by unfold fitsB; rw [decide_eq_false (show ¬ 0 < val.size by omega)]; simp]
    have e0 : decide (1 ≤ (key.size : Int)) = true := decide_eq_true (by omega)
    have e0n : decide (1 ≤ key.size) = true := decide_eq_true (by omega)
    have e1 : decide ((key.size : Int) ≤ 160) = true := decide_eq_true (by omega)
    have e1n : decide (key.size ≤ 160) = true := decide_eq_true (by omega)
    have e2 : decide (1 ≤ (val.size : Int)) = false := decide_eq_false (by omega)
    have e2n : decide (1 ≤ val.size) = false := decide_eq_false (by omega)
    clear h0 h1 h2
    go_enter Tryd.func72, Tryd.ntmps72
    go_wp2
    go_ret
    exact ⟨by first | rfl | simp, Below.refl _ _⟩
  by_cases h3 : val.size ≤ 64
  rotate_left
  · rw [show fitsB key val = false by unfold fitsB; rw [decide_eq_false (show ¬ val.size ≤ 64 by omega)]; simp]
    have e0 : decide (1 ≤ (key.size : Int)) = true := decide_eq_true (by omega)
    have e0n : decide (1 ≤ key.size) = true := decide_eq_true (by omega)
    have e1 : decide ((key.size : Int) ≤ 160) = true := decide_eq_true (by omega)
    have e1n : decide (key.size ≤ 160) = true := decide_eq_true (by omega)
    have e2 : decide (1 ≤ (val.size : Int)) = true := decide_eq_true (by omega)
    have e2n : decide (1 ≤ val.size) = true := decide_eq_true (by omega)
    have e3 : decide ((val.size : Int) ≤ 64) = false := decide_eq_false (by omega)
    have e3n : decide (val.size ≤ 64) = false := decide_eq_false (by omega)
    clear h0 h1 h2 h3
    go_enter Tryd.func72, Tryd.ntmps72
    go_wp2
    go_ret
    exact ⟨by first | rfl | simp, Below.refl _ _⟩
  rw [show fitsB key val = true by unfold fitsB; rw [decide_eq_true (show 0 < key.size by omega), decide_eq_true h1, decide_eq_true (show 0 < val.size by omega), decide_eq_true h3]; rfl]
  have e0 : decide (1 ≤ (key.size : Int)) = true := decide_eq_true (by omega)
  have e0n : decide (1 ≤ key.size) = true := decide_eq_true (by omega)
  have e1 : decide ((key.size : Int) ≤ 160) = true := decide_eq_true (by omega)
  have e1n : decide (key.size ≤ 160) = true := decide_eq_true (by omega)
  have e2 : decide (1 ≤ (val.size : Int)) = true := decide_eq_true (by omega)
  have e2n : decide (1 ≤ val.size) = true := decide_eq_true (by omega)
  have e3 : decide ((val.size : Int) ≤ 64) = true := decide_eq_true (by omega)
  have e3n : decide (val.size ≤ 64) = true := decide_eq_true (by omega)
  clear h0 h1 h2 h3
  go_enter Tryd.func72, Tryd.ntmps72
  go_wp2
  go_ret
  exact ⟨by first | rfl | simp, Below.refl _ _⟩
theorem place_stop {l : List Pr} {key : ByteArray} {k : Nat} {p : Pr} (hso : sortedL l) (hk : k < l.length) (h1 : ∀ (t : Nat) q, t < k → l[t]? = some q → lessK q.k key = true) (hp : l[k]? = some p) (h2 : lessK p.k key = false) : placeL l key = k :=
  placeL_at (by omega) h1 (fun t q ht hq => by
    rcases Nat.lt_or_ge k t with h | h
    · cases h9 : lessK q.k key with
      | false => rfl
      | true => rw [lessK_trans (hso k t p q h hp hq) h9] at h2; cases h2
    · obtain rfl : t = k := by omega
      rw [hp] at hq; cases hq; exact h2)
set_option maxRecDepth 100000 in
set_option maxHeartbeats 6400000 in
theorem place_any (a : Option Addr) (n cap : Nat) (l : List Pr) (key : ByteArray) (w : World) (hr : RowAt w a (l.flatMap Pr.cells)) (hn : l.length = n) (hcap : n ≤ cap) (hcm : cap ≤ maxLen) (hso : sortedL l) :
    Calls Tryd.prog 104 #[.slice a n cap, .string key] w fun e w' => e = .returned (.tuple #[.int .i64 (placeL l key : Nat), .bool (foundL l key)]) ∧ Below w.heap.size w w' := by
  unfold maxLen at hcm
  have HN := Lib.hid hn
  have HSO := Lib.hid hso
  clear hn hso
  go_enter Tryd.func104, Tryd.ntmps104
  go_upto_region 2 with fail
  go_loopw [6] (fun i wr => ∃ k : Nat, k ≤ n ∧ i = .int .i64 k ∧ Hid (∀ (t : Nat) p, t < k → l[t]? = some p → lessK p.k key = true) ∧ Below w.heap.size w wr) (fun i _ => n - (intOf i).toNat)
  case atStart => exact ⟨0, Nat.zero_le _, rfl, Lib.hid (fun t p h => by omega), Below.refl _ _⟩
  case round =>
    obtain ⟨k, hk, rfl, HA, hbel⟩ := hrel
    by_cases hlt : k < n
    rotate_left
    · obtain rfl : k = n := by omega
      have d9 : decide ((k : Int) < (k : Int)) = false := decide_eq_false (by omega)
      have d9n : decide (k < k) = false := decide_eq_false (by omega)
      have HPL : Hid (placeL l key = k) := Lib.hid (placeL_at (by rw [HN.out]; exact Nat.le_refl _) HA.out (fun t q ht hq => by have := (List.getElem?_eq_some_iff.1 hq).1; rw [HN.out] at this; omega))
      have HFD : Hid (foundL l key = false) := Lib.hid (by unfold foundL; rw [HPL.out, List.getElem?_eq_none (by rw [HN.out]; exact Nat.le_refl _)])
      go_upto_region 4 with fail
      go_quiet (fail)
      go_wp2
      refine bodyPost_ret (v := .tuple #[.int .i64 (k : Nat), .bool false]) (by simp [results, Tryd.results104, go_sem]; try rfl) rfl ?_
      exact ⟨by rw [HPL.out, HFD.out], hbel.trans ((drewN_below _ _).mono hbel.size)⟩
    have d1 : decide ((k : Int) < (n : Int)) = true := decide_eq_true (by omega)
    have d1n : decide (k < n) = true := decide_eq_true hlt
    have hkl : k < l.length := by rw [HN.out]; exact hlt
    obtain ⟨b1, o1, rfl, hb1, hg1⟩ := pr_range (hr.below hbel) hkl
    have hkm := List.getElem?_eq_getElem hkl
    obtain ⟨p, hp9⟩ : ∃ p, l[k] = p := ⟨_, rfl⟩
    rw [hp9] at hg1 hkm
    have HKM := Lib.hid hkm
    have n0 : (0 : Int) ≤ (k : Int) := by omega
    have n1 : (k : Int) < (n : Int) := by omega
    have n2 : ((k : Nat) : Int).toNat = k := by omega
    obtain ⟨ls, hls⟩ : ∃ b, lessK p.k key = b := ⟨_, rfl⟩
    have hle : Op.bytesLess p.k.toList key.toList = ls := by rw [ByteArray.toList_eq, ByteArray.toList_eq]; exact hls
    have HLS := Lib.hid hls
    have q0 : wr.cell? ⟨b1, o1 + k * 2, none⟩ = some (.string p.k) := hg1 0 _ rfl
    clear hls hp9 hkm hg1
    cases ls
    rotate_left
    · go_wp2
      go_roundw
      case rel => exact ⟨k + 1, by omega, by go_num, Lib.hid (fun t q ht hq => by
          rcases Nat.lt_or_ge t k with h9 | h9
          · exact HA.out t q h9 hq
          · obtain rfl : t = k := by omega
            rw [HKM.out] at hq
            cases hq
            exact HLS.out), hbel⟩
      case measure => (simp [intOf]) <;> omega
    have HPL : Hid (placeL l key = k) := Lib.hid (place_stop HSO.out hkl HA.out HKM.out HLS.out)
    obtain ⟨fd, hfd⟩ : ∃ b, (p.k.toList == key.toList) = b := ⟨_, rfl⟩
    have HFD : Hid (foundL l key = fd) := Lib.hid (by
      unfold foundL
      rw [HPL.out, HKM.out, ← hfd]
      simp only []
      rw [Bool.eq_iff_iff, decide_eq_true_eq, tl_eq])
    cases fd
    · go_upto_region 4 with fail
      go_quiet (fail)
      go_wp2
      refine bodyPost_ret (v := .tuple #[.int .i64 (k : Nat), .bool false]) (by simp [results, Tryd.results104, go_sem]; try rfl) rfl ?_
      exact ⟨by rw [HPL.out, HFD.out], hbel.trans ((drewN_below _ _).mono hbel.size)⟩
    · go_upto_region 4 with fail
      go_quiet (fail)
      go_wp2
      refine bodyPost_ret (v := .tuple #[.int .i64 (k : Nat), .bool true]) (by simp [results, Tryd.results104, go_sem]; try rfl) rfl ?_
      exact ⟨by rw [HPL.out, HFD.out], hbel.trans ((drewN_below _ _).mono hbel.size)⟩
end Go.Proofs.YtfikbaoiialfeaaDoor
namespace Go.Proofs.YtfikbaoiialfeaaDoor
open Go.RowKit
set_option linter.unusedVariables false
theorem wpList_append_ownA {P : Program} (w : World) {ops : Array Oper} {rest : List Oper} {o : Oper} {a : Act} {Q : Exit → Act → World → Prop} (hgd : o.guard = none) (s x : Operand) (t : TypeId)
    (ho : o.op = .call { callee := .builtin .append, args := #[s, x], argTypes := #[t, t] })
    (base : Nat) (e : TypeId) (i : TypeInfo) (z : Value) (size bytes : Nat) (ht : P.underlying t = some (.slice e)) (hi : P.info? e = some i) (hz : i.zero = some z)
    (hsize : i.size = size) (hby : i.bytes = bytes) (hzs : z.cells.size = size) (hsz : 0 < size)
    (v : Value) (n : Nat) (xs : List Value) (hs : a.eval s = v) (hown : w.ownsRow base e size v n xs)
    (ao : Option Addr) (m c : Nat) (news : List Value) (hx : a.eval x = .slice ao m c) (hnone : ao = none → m = 0 ∧ c = 0) (hl : news.length = m * size) (hnews : ∀ ad, ao = some ad → ∀ j u, news[j]? = some u → w.cell? (ad.add j) = some u) (h1 : ∀ u ∈ news, u.oneCell' = true)
    (h63 : n + m ≤ maxLen) (hbytes : (n + m) * bytes ≤ 140737488355328) (hbase : base ≤ w.heap.size)
    (h : ∀ v' w', w'.ownsRow base e size v' (n + m) (xs ++ news) → w.grownBy w' v.ownBlock → wpList P ops Q rest (a.put o.dst v') w') : wpList P ops Q (o :: rest) a w := by
  cases ao with
  | some ad => exact wpList_append_own w hgd s x t ho base e i z size bytes ht hi hz hsize hby hzs hsz v n xs hs hown ad m c news hx hl (hnews ad rfl) h1 h63 hbytes hbase (fun v' w' q1 q2 _ => h v' w' q1 q2)
  | none =>
    obtain ⟨rfl, rfl⟩ := hnone rfl
    have hn9 : news = [] := List.eq_nil_of_length_eq_zero (by simpa using hl)
    subst hn9
    refine wpList_plain hgd fun K hK' => ?_
    have hrun := run_append_owned_none (P := P) w base t o.type e i size ht hi _ n xs hown
    unfold Oper.wp
    simp [execOp, ho, resolve, invoke, builtin, hs, hx, hrun, Result.andThen]
    exact hK' _ _ (by simpa using h v w (by simpa using hown) (World.grownBy.refl _ _))
end Go.Proofs.YtfikbaoiialfeaaDoor
namespace Go.Proofs.YtfikbaoiialfeaaDoor
open Go.RowKit
attribute [local go_sem] strV
set_option linter.unusedVariables false
theorem Tryd.infoQr : (Tryd.prog.info? 49).map (fun i => (i.zero, i.size, i.bytes)) = some (some (.agg #[.string ⟨#[]⟩, .string ⟨#[]⟩]), 2, 32) := by kernel_rfl
theorem pr_cells_one (l : List Pr) : ∀ u ∈ l.flatMap Pr.cells, u.oneCell' = true := by
  intro u hu
  obtain ⟨p, _, hp⟩ := List.mem_flatMap.1 hu
  have h1 := pr_one p
  rw [List.all_toArray, List.all_eq_true] at h1
  exact h1 u hp
theorem pr_flat_len (l : List Pr) : (l.flatMap Pr.cells).length = l.length * 2 := flat_length Pr.cells 2 Pr.cells_len l
theorem pr_take {l : List Pr} (k : Nat) : ∀ (j : Nat) (u : Value), ((l.take k).flatMap Pr.cells)[j]? = some u → (l.flatMap Pr.cells)[j]? = some u := by
  intro j u h
  conv => lhs; rw [← List.take_append_drop k l, List.flatMap_append]
  rw [List.getElem?_append_left (List.getElem?_eq_some_iff.1 h).1]; exact h
theorem pr_drop {l : List Pr} {k : Nat} (hk : k ≤ l.length) : ∀ (j : Nat) (u : Value), ((l.drop k).flatMap Pr.cells)[j]? = some u → (l.flatMap Pr.cells)[k * 2 + j]? = some u := by
  intro j u h
  conv => lhs; rw [← List.take_append_drop k l, List.flatMap_append]
  have e : ((l.take k).flatMap Pr.cells).length = k * 2 := by rw [pr_flat_len, List.length_take, Nat.min_eq_left hk]
  rw [List.getElem?_append_right (by omega), e, show k * 2 + j - k * 2 = j by omega]; exact h
theorem row_get {w : World} {b off : Nat} {vs : List Value} (h : RowAt w (some ⟨b, off, none⟩) vs) {j : Nat} {u : Value} (hu : vs[j]? = some u) : w.cell? ⟨b, off + j, none⟩ = some u := by
  have hj := (List.getElem?_eq_some_iff.1 hu).1
  rcases h with rfl | ⟨b1, o1, e, _, hc⟩
  · simp at hj
  · simp only [Option.some.injEq, Addr.mk.injEq, and_true] at e
    obtain ⟨rfl, rfl⟩ := e
    rw [hc j hj]; exact hu
theorem pr_take_at {w : World} {b off : Nat} {l : List Pr} (h : RowAt w (some ⟨b, off, none⟩) (l.flatMap Pr.cells)) (k : Nat) : ∀ ad, some (⟨b, off, none⟩ : Addr) = some ad → ∀ j u, ((l.take k).flatMap Pr.cells)[j]? = some u → w.cell? (ad.add j) = some u := by
  intro ad e j u hu
  obtain rfl := Option.some.inj e
  rw [Addr.add_lit]; exact row_get h (pr_take k j u hu)
theorem pr_drop_at {w : World} {b off : Nat} {l : List Pr} (h : RowAt w (some ⟨b, off, none⟩) (l.flatMap Pr.cells)) {k : Nat} (hk : k ≤ l.length) {ao : Option Addr} (hao : k < l.length → ao = some ⟨b, off + k * 2, none⟩) : ∀ ad, ao = some ad → ∀ j u, ((l.drop k).flatMap Pr.cells)[j]? = some u → w.cell? (ad.add j) = some u := by
  intro ad e j u hu
  have hj := (List.getElem?_eq_some_iff.1 hu).1
  rw [pr_flat_len, List.length_drop] at hj
  rw [hao (by omega)] at e
  obtain rfl := Option.some.inj e
  rw [Addr.add_lit, Nat.add_assoc]; exact row_get h (pr_drop hk j u hu)
theorem new_at (w5 : World) (key val : ByteArray) : ∀ ad, some (⟨w5.heap.size, 0, none⟩ : Addr) = some ad → ∀ j u, ([(⟨key, val⟩ : Pr)].flatMap Pr.cells)[j]? = some u → (w5.alloc (.cells #[.string key, .string val] 49)).cell? (ad.add j) = some u := by
  intro ad e j u hu
  obtain rfl := Option.some.inj e
  rw [Addr.add_lit, Nat.zero_add]
  rw [cell_heap (heap_push w5 #[.string key, .string val] 49) j]
  simpa [Pr.cells] using hu
set_option maxRecDepth 100000 in
set_option maxHeartbeats 6400000 in
theorem set_any (a : Option Addr) (n cap : Nat) (l : List Pr) (key val : ByteArray) (w : World) (hr : RowAt w a (l.flatMap Pr.cells)) (hn : l.length = n) (hcap : n ≤ cap) (hcm : cap ≤ maxLen) (hn6 : n ≤ 1000000) (hso : sortedL l) (ha : (a = none ∧ n = 0 ∧ cap = 0) ∨ ∃ b off, a = some ⟨b, off, none⟩) :
    Calls Tryd.prog 73 #[.slice a n cap, .string key, .string val] w fun e w' => ∃ v, e = .returned v ∧ w'.ownsRow w.heap.size 49 2 v (setL l key val).length ((setL l key val).flatMap Pr.cells) ∧ Below w.heap.size w w' := by
  have CP := fun W (hb : Below w.heap.size w W) => place_any a n cap l key W (hr.below hb) hn hcap hcm hso
  have hpl : placeL l key ≤ l.length := List.findIdx_le_length
  have hfl : foundL l key = true → placeL l key < l.length := fun h => (found_at h).1
  have HS : setL l key val = l.take (placeL l key) ++ [⟨key, val⟩] ++ l.drop (placeL l key + (if foundL l key = true then 1 else 0)) := rfl
  obtain ⟨R, hR⟩ : ∃ R, setL l key val = R := ⟨_, rfl⟩
  rw [hR] at HS
  simp only [hR]
  clear hR
  obtain ⟨k, hk⟩ : ∃ k, placeL l key = k := ⟨_, rfl⟩
  obtain ⟨fd, hfd⟩ : ∃ f, foundL l key = f := ⟨_, rfl⟩
  rw [hk, hfd] at HS
  rw [hk] at hpl
  rw [hk, hfd] at hfl
  simp only [hk, hfd] at CP
  obtain ⟨q, hq⟩ : ∃ q, k + (if fd = true then 1 else 0) = q := ⟨_, rfl⟩
  rw [hq] at HS
  have hqn : q ≤ n := by
    rw [← hq]
    cases fd with
    | false => simp; omega
    | true => have := hfl rfl; simp; omega
  have hkn : k ≤ n := by omega
  have HE : Hid (R.length = k + 1 + (n - q) ∧ R.flatMap Pr.cells = (l.take k).flatMap Pr.cells ++ [(⟨key, val⟩ : Pr)].flatMap Pr.cells ++ (l.drop q).flatMap Pr.cells) := Lib.hid ⟨by
    rw [HS]; simp only [List.length_append, List.length_take, List.length_drop, List.length_cons, List.length_nil]; omega, by
    rw [HS, List.flatMap_append, List.flatMap_append]⟩
  have HT : Hid (((l.take k).flatMap Pr.cells).length = k * 2) := Lib.hid (by rw [pr_flat_len, List.length_take, Nat.min_eq_left (by omega)])
  have HDr : Hid (((l.drop q).flatMap Pr.cells).length = (n - q) * 2) := Lib.hid (by rw [pr_flat_len, List.length_drop, hn])
  obtain ⟨i0, hi, hz0, hz1, hz2⟩ := info_parts Tryd.infoQr
  have hbel := Below.refl w.heap.size w
  have hnil : ∀ W : World, W.ownsRow w.heap.size 49 2 (.slice none 0 0) 0 [] := fun W => World.ownsRow_nil _ _ _ _
  unfold maxLen at hcm
  have HN := Lib.hid hn
  clear hk hfd hn hso HS
  rcases ha with ⟨rfl, rfl, rfl⟩ | ⟨b, off, rfl⟩
  · obtain rfl : k = 0 := by omega
    obtain rfl : q = 0 := by omega
    cases fd
    rotate_left
    · simp at hq
    clear hq hpl hfl hqn hkn
    have HL0 : Hid (l = []) := Lib.hid (List.eq_nil_of_length_eq_zero HN.out)
    go_enter Tryd.func73, Tryd.ntmps73
    go_upto_region 2 with (go_at_call 104; refine (CP _ hbel).mono ?_; rintro e w2 ⟨rfl, hb⟩; have hbel := hbel.trans (hb.mono hbel.size); clear hb)
    go_upto_region 3 with (at_builtin; refine wpList_append_ownA _ rfl (.const (.slice none 0 0)) (.tmp 18) 38 rfl w.heap.size 49 i0 (.agg #[.string ⟨#[]⟩, .string ⟨#[]⟩]) 2 32 Tryd.underlying38 hi hz0 hz1 hz2 rfl (by decide) _ _ _ rfl (hnil _) none 0 0 [] rfl (fun _ => ⟨rfl, rfl⟩) rfl (fun ad e => by cases e) (fun u hu => by cases hu) (by unfold maxLen; omega) (by omega) hbel.size ?_; intro v5 w5 hown5 hgr5)
    have hb5 := hbel.trans (grown_low hgr5 (fun k h => by cases h) hbel.size)
    go_upto_region 4 with (at_builtin; refine wpList_append_ownA _ rfl (.tmp 20) (.tmp 24) 38 rfl w.heap.size 49 i0 (.agg #[.string ⟨#[]⟩, .string ⟨#[]⟩]) 2 32 Tryd.underlying38 hi hz0 hz1 hz2 rfl (by decide) _ _ _ rfl (hown5.alloc _) (some ⟨w5.heap.size, 0, none⟩) 1 1 ([(⟨key, val⟩ : Pr)].flatMap Pr.cells) rfl (fun h => by cases h) rfl (show ∀ ad, some (⟨w5.heap.size, 0, none⟩ : Addr) = some ad → ∀ j u, ([(⟨key, val⟩ : Pr)].flatMap Pr.cells)[j]? = some u → (w5.alloc (.cells #[.string key, .string val] 49)).cell? (ad.add j) = some u from new_at w5 key val) (pr_cells_one _) (by unfold maxLen; omega) (by omega) (hb5.alloc hb5.size _).size ?_; intro v7 w7 hown7 hgr7)
    have hb7 := (hb5.alloc hb5.size _).trans (below_grown (hown5.alloc _) hgr7 (hb5.alloc hb5.size _).size)
    go_wp2_with (at_builtin; refine wpList_append_ownA _ rfl (.tmp 29) (.tmp 32) 38 rfl w.heap.size 49 i0 (.agg #[.string ⟨#[]⟩, .string ⟨#[]⟩]) 2 32 Tryd.underlying38 hi hz0 hz1 hz2 rfl (by decide) _ _ _ rfl hown7 none 0 0 [] rfl (fun _ => ⟨rfl, rfl⟩) rfl (fun ad e => by cases e) (fun u hu => by cases hu) (by unfold maxLen; omega) (by omega) hb7.size ?_; intro v8 w8 hown8 hgr8)
    have hb8 := hb7.trans (below_grown hown7 hgr8 hb7.size)
    go_ret
    refine ⟨_, rfl, ?_, hb8⟩
    have e1 := HE.out.1
    have e2 := HE.out.2
    rw [HL0.out] at e2
    rw [e1, e2]
    simpa using hown8
  · have n1 : (0 : Int) ≤ (k : Int) := by omega
    have n2 : (k : Int) ≤ (cap : Int) := by omega
    have n3 : (k : Int) ≤ (n : Int) := by omega
    have n5 : ((k : Nat) : Int).toNat = k := by omega
    go_enter Tryd.func73, Tryd.ntmps73
    go_upto_region 2 with (go_at_call 104; refine (CP _ hbel).mono ?_; rintro e w2 ⟨rfl, hb⟩; have hbel := hbel.trans (hb.mono hbel.size); clear hb)
    go_upto_region 3 with (at_builtin; refine wpList_append_ownA _ rfl (.const (.slice none 0 0)) (.tmp 18) 38 rfl w.heap.size 49 i0 (.agg #[.string ⟨#[]⟩, .string ⟨#[]⟩]) 2 32 Tryd.underlying38 hi hz0 hz1 hz2 rfl (by decide) _ _ _ rfl (hnil _) (some ⟨b, off, none⟩) k cap ((l.take k).flatMap Pr.cells) rfl (fun h => by cases h) HT.out (pr_take_at (hr.below hbel) k) (pr_cells_one _) (by unfold maxLen; omega) (by omega) hbel.size ?_; intro v5 w5 hown5 hgr5)
    have hb5 := hbel.trans (grown_low hgr5 (fun k h => by cases h) hbel.size)
    simp only [Nat.zero_add, List.nil_append] at hown5
    go_upto_region 4 with (at_builtin; refine wpList_append_ownA _ rfl (.tmp 20) (.tmp 24) 38 rfl w.heap.size 49 i0 (.agg #[.string ⟨#[]⟩, .string ⟨#[]⟩]) 2 32 Tryd.underlying38 hi hz0 hz1 hz2 rfl (by decide) _ _ _ rfl (hown5.alloc _) (some ⟨w5.heap.size, 0, none⟩) 1 1 ([(⟨key, val⟩ : Pr)].flatMap Pr.cells) rfl (fun h => by cases h) rfl (show ∀ ad, some (⟨w5.heap.size, 0, none⟩ : Addr) = some ad → ∀ j u, ([(⟨key, val⟩ : Pr)].flatMap Pr.cells)[j]? = some u → (w5.alloc (.cells #[.string key, .string val] 49)).cell? (ad.add j) = some u from new_at w5 key val) (pr_cells_one _) (by unfold maxLen; omega) (by omega) (hb5.alloc hb5.size _).size ?_; intro v7 w7 hown7 hgr7)
    have hb7 := (hb5.alloc hb5.size _).trans (below_grown (hown5.alloc _) hgr7 (hb5.alloc hb5.size _).size)
    have hr7 := hr.below hb7
    cases fd
    · obtain rfl : k = q := by simpa using hq
      clear hq hfl
      by_cases hc : cap = k
      · obtain rfl : n = k := by omega
        subst hc
        have HD0 : Hid ((l.drop cap).flatMap Pr.cells = []) := Lib.hid (by rw [List.drop_of_length_le (by rw [HN.out]; omega)]; rfl)
        go_wp2_with (at_builtin; refine wpList_append_ownA _ rfl (.tmp 29) (.tmp 32) 38 rfl w.heap.size 49 i0 (.agg #[.string ⟨#[]⟩, .string ⟨#[]⟩]) 2 32 Tryd.underlying38 hi hz0 hz1 hz2 rfl (by decide) _ _ _ rfl hown7 (some ⟨b, off, none⟩) 0 0 [] rfl (fun h => by cases h) rfl (fun ad e j u hu => by cases hu) (fun u hu => by cases hu) (by unfold maxLen; omega) (by omega) hb7.size ?_; intro v8 w8 hown8 hgr8)
        have hb8 := hb7.trans (below_grown hown7 hgr8 hb7.size)
        go_ret
        refine ⟨_, rfl, ?_, hb8⟩
        rw [HE.out.1, HE.out.2, HD0.out]
        simpa using hown8
      · go_wp2_with (at_builtin; refine wpList_append_ownA _ rfl (.tmp 29) (.tmp 32) 38 rfl w.heap.size 49 i0 (.agg #[.string ⟨#[]⟩, .string ⟨#[]⟩]) 2 32 Tryd.underlying38 hi hz0 hz1 hz2 rfl (by decide) _ _ _ rfl hown7 (some ⟨b, off + k * 2, none⟩) (n - k) (cap - k) ((l.drop k).flatMap Pr.cells) rfl (fun h => by cases h) HDr.out (pr_drop_at hr7 (by rw [HN.out]; omega) (fun _ => rfl)) (pr_cells_one _) (by unfold maxLen; omega) (by omega) hb7.size ?_; intro v8 w8 hown8 hgr8)
        have hb8 := hb7.trans (below_grown hown7 hgr8 hb7.size)
        go_ret
        refine ⟨_, rfl, ?_, hb8⟩
        rw [HE.out.1, HE.out.2]
        exact hown8
    · have m1 : (0 : Int) ≤ (q : Int) := by omega
      have m3 : (q : Int) ≤ (n : Int) := by omega
      have m5 : ((q : Nat) : Int).toNat = q := by omega
      have hq : k + 1 = q := by simpa using hq
      have hadd : (k : Int) + 1 = ((q : Nat) : Int) := by omega
      have HQ := Lib.hid hq
      clear hq hfl
      go_upto_region 6 with fail
      by_cases hc : cap = q
      · obtain rfl : n = q := by omega
        subst hc
        have HD0 : Hid ((l.drop cap).flatMap Pr.cells = []) := Lib.hid (by rw [List.drop_of_length_le (by rw [HN.out]; omega)]; rfl)
        go_wp2_with (at_builtin; refine wpList_append_ownA _ rfl (.tmp 29) (.tmp 32) 38 rfl w.heap.size 49 i0 (.agg #[.string ⟨#[]⟩, .string ⟨#[]⟩]) 2 32 Tryd.underlying38 hi hz0 hz1 hz2 rfl (by decide) _ _ _ rfl hown7 (some ⟨b, off, none⟩) 0 0 [] rfl (fun h => by cases h) rfl (fun ad e j u hu => by cases hu) (fun u hu => by cases hu) (by unfold maxLen; omega) (by omega) hb7.size ?_; intro v8 w8 hown8 hgr8)
        have hb8 := hb7.trans (below_grown hown7 hgr8 hb7.size)
        go_ret
        refine ⟨_, rfl, ?_, hb8⟩
        rw [HE.out.1, HE.out.2, HD0.out]
        simpa using hown8
      · go_wp2_with (at_builtin; refine wpList_append_ownA _ rfl (.tmp 29) (.tmp 32) 38 rfl w.heap.size 49 i0 (.agg #[.string ⟨#[]⟩, .string ⟨#[]⟩]) 2 32 Tryd.underlying38 hi hz0 hz1 hz2 rfl (by decide) _ _ _ rfl hown7 (some ⟨b, off + q * 2, none⟩) (n - q) (cap - q) ((l.drop q).flatMap Pr.cells) rfl (fun h => by cases h) HDr.out (pr_drop_at hr7 (by rw [HN.out]; omega) (fun _ => rfl)) (pr_cells_one _) (by unfold maxLen; omega) (by omega) hb7.size ?_; intro v8 w8 hown8 hgr8)
        have hb8 := hb7.trans (below_grown hown7 hgr8 hb7.size)
        go_ret
        refine ⟨_, rfl, ?_, hb8⟩
        rw [HE.out.1, HE.out.2]
        exact hown8
end Go.Proofs.YtfikbaoiialfeaaDoor
namespace Go.Proofs.YtfikbaoiialfeaaDoor
open Go.RowKit
attribute [local go_sem] strV
set_option linter.unusedVariables false
theorem own_sliceQ {w : World} {base : Nat} {e : TypeId} {size n : Nat} {v : Value} {xs : List Value} (h : w.ownsRow base e size v n xs) :
    ∃ a cap, v = .slice a n cap ∧ RowAt w a xs ∧ n ≤ cap ∧ cap ≤ maxLen ∧ ((a = none ∧ n = 0 ∧ cap = 0) ∨ ∃ b off, a = some ⟨b, off, none⟩) := by
  obtain ⟨a, cap, hv, hr, h1, h2⟩ := own_sliceH h
  refine ⟨a, cap, hv, hr, h1, h2, ?_⟩
  rcases h.2 with ⟨q1, q2⟩ | ⟨g, cap', cur, q1, _⟩
  · rw [q1, Value.slice.injEq] at hv
    exact .inl ⟨hv.1.symm, q2, hv.2.2.symm⟩
  · rw [q1, Value.slice.injEq] at hv
    exact .inr ⟨_, _, hv.1.symm⟩
theorem rise_take0 (l : List Pr) : riseL (l.take 0) = [] := rfl
set_option maxRecDepth 100000 in
set_option maxHeartbeats 6400000 in
theorem rise_any (a : Option Addr) (n cap : Nat) (l : List Pr) (w : World) (hr : RowAt w a (l.flatMap Pr.cells)) (hn : l.length = n) (hn6 : n ≤ 100000) (hcap : n ≤ cap) :
    Calls Tryd.prog 28 #[.slice a n cap] w fun e w' => ∃ v, e = .returned v ∧ w'.ownsRow w.heap.size 49 2 v (riseL l).length ((riseL l).flatMap Pr.cells) ∧ Below w.heap.size w w' := by
  have HN := Lib.hid hn
  clear hn
  go_enter Tryd.func28, Tryd.ntmps28
  go_upto_region 3 with fail
  go_loopw [3, 4] (fun v i wr => ∃ k : Nat, k ≤ n ∧ i = .int .i64 k ∧ wr.ownsRow w.heap.size 49 2 v (riseL (l.take k)).length ((riseL (l.take k)).flatMap Pr.cells) ∧ Below w.heap.size w wr) (fun _ i _ => n - (intOf i).toNat)
  case atStart => exact ⟨0, Nat.zero_le _, rfl, ⟨rfl, .inl ⟨rfl, rfl⟩⟩, Below.refl _ _⟩
  case round =>
    rename_i sv _ _
    obtain ⟨k, hk, rfl, hown, hbel⟩ := hrel
    by_cases hlt : k < n
    rotate_left
    · have d9 : decide ((k : Int) < (n : Int)) = false := decide_eq_false (by omega)
      have d9n : decide (k < n) = false := decide_eq_false hlt
      rw [List.take_of_length_le (by rw [HN.out]; omega)] at hown
      obtain ⟨a9, c9, rfl, _⟩ := own_sliceH hown
      go_wp2
      go_ret
      exact ⟨_, rfl, hown, hbel⟩
    have d1 : decide ((k : Int) < (n : Int)) = true := decide_eq_true (by omega)
    have d1n : decide (k < n) = true := decide_eq_true hlt
    have hkl : k < l.length := by rw [HN.out]; exact hlt
    obtain ⟨b1, o1, rfl, hb1, hg1⟩ := pr_range (hr.below hbel) hkl
    have hstep := rise_take hkl
    have hgk := rise_good (l.take k)
    have hlk := rise_len (l.take k)
    rw [List.length_take, Nat.min_eq_left (by omega)] at hlk
    obtain ⟨p, hp9⟩ : ∃ p, l[k] = p := ⟨_, rfl⟩
    rw [hp9] at hg1 hstep
    obtain ⟨R, hR⟩ : ∃ R, riseL (l.take k) = R := ⟨_, rfl⟩
    rw [hR] at hown hstep hgk hlk
    unfold riseStep at hstep
    have CM := fun W => mayPair_any p.k p.v W
    obtain ⟨fit, hfit⟩ : ∃ b, fitsB p.k p.v = b := ⟨_, rfl⟩
    simp only [hfit] at CM
    rw [hfit] at hstep
    have HST := Lib.hid hstep
    clear hp9 hstep hR hfit
    obtain ⟨a2, c2, rfl, hr2, hc2, hm2, ha2⟩ := own_sliceQ hown
    have CS := fun W (hb : Below wr.heap.size wr W) => set_any a2 R.length c2 R p.k p.v W (hr2.below hb) rfl hc2 hm2 (by omega) (goodL_sorted hgk) ha2
    obtain ⟨m2, hm29⟩ : ∃ m, R.length = m := ⟨_, rfl⟩
    rw [hm29] at hown hlk
    simp only [hm29] at CS ⊢
    have HM2 := Lib.hid hm29
    clear hm29 hr2 ha2 hgk
    have q0 : wr.cell? ⟨b1, o1 + k * 2, none⟩ = some (.string p.k) := hg1 0 _ rfl
    have q1 : wr.cell? ⟨b1, o1 + k * 2 + 1, none⟩ = some (.string p.v) := hg1 1 _ rfl
    clear hg1
    have n0 : (0 : Int) ≤ (k : Int) := by omega
    have n1 : (k : Int) < (n : Int) := by omega
    have n2 : ((k : Nat) : Int).toNat = k := by omega
    go_upto_region 5 with fail
    refine wp_region_facts [Fact.eq (.slice (some ⟨b1, o1, none⟩) n cap), Fact.eq (.int .i64 (k : Int)), Fact.eq (.pointer (some ⟨b1, o1 + k * 2, none⟩)), Fact.eq (.pointer (some ⟨b1, o1 + k * 2, none⟩)), Fact.eq (.string p.k), Fact.eq (.slice (some ⟨b1, o1, none⟩) n cap), Fact.eq (.int .i64 (k : Int)), Fact.eq (.pointer (some ⟨b1, o1 + k * 2, none⟩)), Fact.eq (.pointer (some ⟨b1, o1 + k * 2 + 1, none⟩)), Fact.eq (.string p.v), Fact.eq (.bool fit)] (by kernel_rfl) (by kernel_rfl) (by kernel_rfl) (by kernel_rfl) (fun x => by simp only [fillFrom, Act.put, List.setIfInBounds_toArray, List.set_cons_succ, List.set_cons_zero]; rfl) ?_ ?_
    · refine ⟨?_, ?_, ?_, ?_, ?_, ?_, ?_, ?_, ?_, ?_, ?_, trivial⟩
      · intro x w' hbw hd
        clear hd
        go_wp2_with fail
        exact frPost_mk rfl (by repeat (first | assumption | exact Below.refl _ _ | refine bch ?_ (by assumption) | refine Below.alloc ?_ (by simp) _)) rfl
      · intro x w' hbw hd
        clear hd
        go_wp2_with fail
        exact frPost_mk rfl (by repeat (first | assumption | exact Below.refl _ _ | refine bch ?_ (by assumption) | refine Below.alloc ?_ (by simp) _)) rfl
      · intro x w' hbw hd
        have d0 : x 0 = .slice (some ⟨b1, o1, none⟩) n cap := hd 0 rfl
        have d1 : x 1 = .int .i64 (k : Int) := hd 1 rfl
        clear hd
        go_wp2_with fail
        exact frPost_mk rfl (by repeat (first | assumption | exact Below.refl _ _ | refine bch ?_ (by assumption) | refine Below.alloc ?_ (by simp) _)) (by first | rfl | (show Value.pointer _ = Value.pointer _; simp))
      · intro x w' hbw hd
        have d2 : x 2 = .pointer (some ⟨b1, o1 + k * 2, none⟩) := hd 2 rfl
        clear hd
        go_wp2_with fail
        exact frPost_mk rfl (by repeat (first | assumption | exact Below.refl _ _ | refine bch ?_ (by assumption) | refine Below.alloc ?_ (by simp) _)) rfl
      · intro x w' hbw hd
        have d3 : x 3 = .pointer (some ⟨b1, o1 + k * 2, none⟩) := hd 3 rfl
        clear hd
        have cq : w'.cell? ⟨b1, o1 + k * 2, none⟩ = some (.string p.k) := by rw [hbw.cell (p := ⟨b1, o1 + k * 2, none⟩) hb1]; exact q0
        go_wp2_with (first | fail)
        exact frPost_mk rfl (by repeat (first | assumption | exact Below.refl _ _ | refine bch ?_ (by assumption) | refine Below.alloc ?_ (by simp) _)) rfl
      · intro x w' hbw hd
        clear hd
        go_wp2_with fail
        exact frPost_mk rfl (by repeat (first | assumption | exact Below.refl _ _ | refine bch ?_ (by assumption) | refine Below.alloc ?_ (by simp) _)) rfl
      · intro x w' hbw hd
        clear hd
        go_wp2_with fail
        exact frPost_mk rfl (by repeat (first | assumption | exact Below.refl _ _ | refine bch ?_ (by assumption) | refine Below.alloc ?_ (by simp) _)) rfl
      · intro x w' hbw hd
        have d5 : x 5 = .slice (some ⟨b1, o1, none⟩) n cap := hd 5 rfl
        have d6 : x 6 = .int .i64 (k : Int) := hd 6 rfl
        clear hd
        go_wp2_with fail
        exact frPost_mk rfl (by repeat (first | assumption | exact Below.refl _ _ | refine bch ?_ (by assumption) | refine Below.alloc ?_ (by simp) _)) (by first | rfl | (show Value.pointer _ = Value.pointer _; simp))
      · intro x w' hbw hd
        have d7 : x 7 = .pointer (some ⟨b1, o1 + k * 2, none⟩) := hd 7 rfl
        clear hd
        go_wp2_with fail
        exact frPost_mk rfl (by repeat (first | assumption | exact Below.refl _ _ | refine bch ?_ (by assumption) | refine Below.alloc ?_ (by simp) _)) rfl
      · intro x w' hbw hd
        have d8 : x 8 = .pointer (some ⟨b1, o1 + k * 2 + 1, none⟩) := hd 8 rfl
        clear hd
        have cq : w'.cell? ⟨b1, o1 + k * 2 + 1, none⟩ = some (.string p.v) := by rw [hbw.cell (p := ⟨b1, o1 + k * 2 + 1, none⟩) hb1]; exact q1
        go_wp2_with (first | fail)
        exact frPost_mk rfl (by repeat (first | assumption | exact Below.refl _ _ | refine bch ?_ (by assumption) | refine Below.alloc ?_ (by simp) _)) rfl
      · intro x w' hbw hd
        have d4 : x 4 = .string p.k := hd 4 rfl
        have d9 : x 9 = .string p.v := hd 9 rfl
        clear hd
        have CC := CM w'
        go_wp2_with (first | (go_at_call 72; refine CC.mono ?_; rintro e wx ⟨rfl, hbx⟩))
        exact frPost_mk rfl (by repeat (first | assumption | exact Below.refl _ _ | refine bch ?_ (by assumption) | refine Below.alloc ?_ (by simp) _)) rfl
    intro x w5 hbw5 hall5
    have hx10 : x 10 = .bool fit := hall5 10 (by decide)
    clear hall5 CM
    simp only [hx10]
    have hown := own_keptH hown hbw5
    have hbel := hbel.trans (hbw5.mono hbel.size)
    have q0 : w5.cell? ⟨b1, o1 + k * 2, none⟩ = some (.string p.k) := by rw [hbw5.cell (p := ⟨b1, o1 + k * 2, none⟩) hb1]; exact q0
    have q1 : w5.cell? ⟨b1, o1 + k * 2 + 1, none⟩ = some (.string p.v) := by rw [hbw5.cell (p := ⟨b1, o1 + k * 2 + 1, none⟩) hb1]; exact q1
    have hb1 := Nat.lt_of_lt_of_le hb1 hbw5.size
    cases fit
    · go_wp2
      go_roundw
      case rel => exact ⟨k + 1, by omega, by go_num, by rw [HST.out]; simp only [Bool.false_eq_true, if_false, HM2.out]; exact hown, hbel⟩
      case measure => (simp [intOf]) <;> omega
    · go_upto_region 6 with fail
      refine wp_region_facts_chain 11 (by decide) [Fact.eq (.slice a2 m2 c2), Fact.eq (.slice (some ⟨b1, o1, none⟩) n cap), Fact.eq (.int .i64 (k : Int)), Fact.eq (.pointer (some ⟨b1, o1 + k * 2, none⟩)), Fact.eq (.pointer (some ⟨b1, o1 + k * 2, none⟩)), Fact.eq (.string p.k), Fact.eq (.slice (some ⟨b1, o1, none⟩) n cap), Fact.eq (.int .i64 (k : Int)), Fact.eq (.pointer (some ⟨b1, o1 + k * 2, none⟩)), Fact.eq (.pointer (some ⟨b1, o1 + k * 2 + 1, none⟩)), Fact.eq (.string p.v)] (by kernel_rfl) (by kernel_rfl) (by kernel_rfl) (by kernel_rfl) (by kernel_rfl) (by kernel_rfl) (by kernel_rfl) (fun x => by simp only [List.take_succ_cons, List.take_zero, fillFrom, Act.put, List.setIfInBounds_toArray, List.set_cons_succ, List.set_cons_zero]; rfl) ?_ ?_
      · refine ⟨?_, ?_, ?_, ?_, ?_, ?_, ?_, ?_, ?_, ?_, ?_, trivial⟩
        · intro x w' hbw hd
          clear hd
          go_wp2_with fail
          exact frPost_mk rfl (by repeat (first | assumption | exact Below.refl _ _ | refine bch ?_ (by assumption) | refine Below.alloc ?_ (by simp) _)) rfl
        · intro x w' hbw hd
          clear hd
          go_wp2_with fail
          exact frPost_mk rfl (by repeat (first | assumption | exact Below.refl _ _ | refine bch ?_ (by assumption) | refine Below.alloc ?_ (by simp) _)) rfl
        · intro x w' hbw hd
          clear hd
          go_wp2_with fail
          exact frPost_mk rfl (by repeat (first | assumption | exact Below.refl _ _ | refine bch ?_ (by assumption) | refine Below.alloc ?_ (by simp) _)) rfl
        · intro x w' hbw hd
          have d1 : x 1 = .slice (some ⟨b1, o1, none⟩) n cap := hd 1 rfl
          have d2 : x 2 = .int .i64 (k : Int) := hd 2 rfl
          clear hd
          go_wp2_with fail
          exact frPost_mk rfl (by repeat (first | assumption | exact Below.refl _ _ | refine bch ?_ (by assumption) | refine Below.alloc ?_ (by simp) _)) (by first | rfl | (show Value.pointer _ = Value.pointer _; simp))
        · intro x w' hbw hd
          have d3 : x 3 = .pointer (some ⟨b1, o1 + k * 2, none⟩) := hd 3 rfl
          clear hd
          go_wp2_with fail
          exact frPost_mk rfl (by repeat (first | assumption | exact Below.refl _ _ | refine bch ?_ (by assumption) | refine Below.alloc ?_ (by simp) _)) rfl
        · intro x w' hbw hd
          have d4 : x 4 = .pointer (some ⟨b1, o1 + k * 2, none⟩) := hd 4 rfl
          clear hd
          have cq : w'.cell? ⟨b1, o1 + k * 2, none⟩ = some (.string p.k) := by rw [hbw.cell (p := ⟨b1, o1 + k * 2, none⟩) hb1]; exact q0
          go_wp2_with (first | fail)
          exact frPost_mk rfl (by repeat (first | assumption | exact Below.refl _ _ | refine bch ?_ (by assumption) | refine Below.alloc ?_ (by simp) _)) rfl
        · intro x w' hbw hd
          clear hd
          go_wp2_with fail
          exact frPost_mk rfl (by repeat (first | assumption | exact Below.refl _ _ | refine bch ?_ (by assumption) | refine Below.alloc ?_ (by simp) _)) rfl
        · intro x w' hbw hd
          clear hd
          go_wp2_with fail
          exact frPost_mk rfl (by repeat (first | assumption | exact Below.refl _ _ | refine bch ?_ (by assumption) | refine Below.alloc ?_ (by simp) _)) rfl
        · intro x w' hbw hd
          have d6 : x 6 = .slice (some ⟨b1, o1, none⟩) n cap := hd 6 rfl
          have d7 : x 7 = .int .i64 (k : Int) := hd 7 rfl
          clear hd
          go_wp2_with fail
          exact frPost_mk rfl (by repeat (first | assumption | exact Below.refl _ _ | refine bch ?_ (by assumption) | refine Below.alloc ?_ (by simp) _)) (by first | rfl | (show Value.pointer _ = Value.pointer _; simp))
        · intro x w' hbw hd
          have d8 : x 8 = .pointer (some ⟨b1, o1 + k * 2, none⟩) := hd 8 rfl
          clear hd
          go_wp2_with fail
          exact frPost_mk rfl (by repeat (first | assumption | exact Below.refl _ _ | refine bch ?_ (by assumption) | refine Below.alloc ?_ (by simp) _)) rfl
        · intro x w' hbw hd
          have d9 : x 9 = .pointer (some ⟨b1, o1 + k * 2 + 1, none⟩) := hd 9 rfl
          clear hd
          have cq : w'.cell? ⟨b1, o1 + k * 2 + 1, none⟩ = some (.string p.v) := by rw [hbw.cell (p := ⟨b1, o1 + k * 2 + 1, none⟩) hb1]; exact q1
          go_wp2_with (first | fail)
          exact frPost_mk rfl (by repeat (first | assumption | exact Below.refl _ _ | refine bch ?_ (by assumption) | refine Below.alloc ?_ (by simp) _)) rfl
      · intro x w' hbw hall
        have hx0 : x 0 = .slice a2 m2 c2 := hall 0 (by decide)
        have hx5 : x 5 = .string p.k := hall 5 (by decide)
        have hx10 : x 10 = .string p.v := hall 10 (by decide)
        clear hall
        have hbel := hbel.trans (hbw.mono hbel.size)
        have hbs := hbel.size
        simp only [hx0, hx5, hx10, List.drop_succ_cons, List.drop_zero]
        have CC := CS w' (hbw5.trans (hbw.mono hbw5.size))
        go_wp2_with (go_at_call 73; refine CC.mono ?_; rintro e w8 ⟨v8, rfl, hown8, hb8⟩)
        have hown9 := own_lower hown8 hbs
        go_roundw
        case rel => exact ⟨k + 1, by omega, by go_num, by rw [HST.out]; exact hown9, hbel.trans (hb8.mono hbel.size)⟩
        case measure => (simp [intOf]) <;> omega
end Go.Proofs.YtfikbaoiialfeaaDoor
