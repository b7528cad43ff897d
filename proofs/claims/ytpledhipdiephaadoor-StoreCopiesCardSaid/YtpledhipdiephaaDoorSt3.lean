/- The document's place, MayPair, Set; lists that rise. -/
import Derived.Test.YtpledhipdiephaaDoorSt1
import Derived.BigRegion
import Derived.RegionTactic
import Derived.BigQuiet
import Derived.Deep.QuietTactic
import Derived.Deep.MidRow
import Derived.LoopTactic
import Derived.BigFrame
import Derived.OwnWalk
import Derived.Laws.OwnMore
import Derived.WalkKit
import Derived.ProofKit
import Derived.Handy
import Derived.Below
import Derived.Lib.Hide
import Derived.IntWalk
import Derived.Outline
import Derived.WalkLawsBesides
import Derived.WalkSpells
namespace Go.Proofs.YtpledhipdiephaaDoor
open Go.RowKit
attribute [local go_sem] strV
set_option linter.unusedVariables false
theorem own_sliceH {w : World} {base : Nat} {e : TypeId} {size n : Nat} {v : Value} {xs : List Value} (h : w.ownsRow base e size v n xs) :
    ∃ a cap, v = .slice a n cap ∧ RowAt w a xs ∧ n ≤ cap ∧ cap ≤ maxLen := by
  obtain ⟨a, cap, hv, hr, _⟩ := RowAt.own h
  obtain ⟨h1, h2⟩ := h
  refine ⟨a, cap, hv, hr, ?_⟩
  rcases h2 with ⟨q1, q2⟩ | ⟨g, cap', cur, q1, q4, _, q2, q3, _⟩
  · rw [q1] at hv
    simp only [Value.slice.injEq] at hv
    obtain ⟨r0, r1, r2⟩ := hv
    exact ⟨by omega, by rw [← r2]; exact Nat.zero_le _⟩
  · rw [q1] at hv
    simp only [Value.slice.injEq] at hv
    obtain ⟨r0, _, r2⟩ := hv
    exact ⟨by omega, by omega⟩
theorem own_keptH {w w' : World} {base : Nat} {e : TypeId} {size n : Nat} {v : Value} {xs : List Value} (h : w.ownsRow base e size v n xs) (hb : Below w.heap.size w w') : w'.ownsRow base e size v n xs := by
  obtain ⟨h1, h2⟩ := h
  refine ⟨h1, ?_⟩
  rcases h2 with h | ⟨g, cap, cur, h3, h4, h5, h6⟩
  · exact .inl h
  · exact .inr ⟨g, cap, cur, h3, h4, (hb.block g (Array.getElem?_eq_some_iff.1 h5).1).trans h5, h6⟩
theorem own_lower {w : World} {base B : Nat} {e : TypeId} {size n : Nat} {v : Value} {xs : List Value} (h : w.ownsRow base e size v n xs) (hb : B ≤ base) : w.ownsRow B e size v n xs := by
  obtain ⟨h1, h2⟩ := h
  refine ⟨h1, ?_⟩
  rcases h2 with h | ⟨g, cap, cur, h3, h4, h5⟩
  · exact .inl h
  · exact .inr ⟨g, cap, cur, h3, Nat.le_trans hb h4, h5⟩
theorem goodL_at {l : List Pr} (h : goodL l = true) {i : Nat} (hi : i < l.length) : goodAt l i = true := List.all_eq_true.1 h i (List.mem_range.2 hi)
theorem goodL_next {l : List Pr} (h : goodL l = true) {i : Nat} {p q : Pr} (hp : l[i]? = some p) (hq : l[i + 1]? = some q) : lessK p.k q.k = true := by
  have hl := (List.getElem?_eq_some_iff.1 hq).1
  have h1 := goodL_at h hl
  unfold goodAt at h1
  rw [hq] at h1
  simp only [] at h1
  rw [Bool.and_eq_true] at h1
  have h2 := h1.2
  rw [beq_eq_false_iff_ne.2 (by omega : i + 1 ≠ 0), Nat.add_sub_cancel, hp] at h2
  simpa using h2
theorem goodL_sorted {l : List Pr} (h : goodL l = true) : sortedL l := by
  have key : ∀ (d i : Nat) (p q : Pr), l[i]? = some p → l[i + 1 + d]? = some q → lessK p.k q.k = true := by
    intro d
    induction d with
    | zero => exact fun i p q hp hq => goodL_next h hp hq
    | succ d ih =>
      intro i p q hp hq
      have hl : i + 1 + d < l.length := by have := (List.getElem?_eq_some_iff.1 hq).1; omega
      exact lessK_trans (ih i p _ hp (List.getElem?_eq_getElem hl)) (goodL_next h (List.getElem?_eq_getElem hl) hq)
  intro i j p q hij hp hq
  exact key (j - (i + 1)) i p q hp (by rw [show i + 1 + (j - (i + 1)) = j by omega]; exact hq)
theorem goodL_fits {l : List Pr} (h : goodL l = true) {p : Pr} (hp : p ∈ l) : (0 < p.k.size ∧ p.k.size ≤ 160) ∧ (0 < p.v.size ∧ p.v.size ≤ 64) := by
  obtain ⟨i, hi, rfl⟩ := List.getElem_of_mem hp
  have h1 := goodL_at h hi
  unfold goodAt at h1
  rw [List.getElem?_eq_getElem hi] at h1
  simp only [] at h1
  rw [Bool.and_eq_true] at h1
  have h2 := h1.1
  unfold fitsB at h2
  simp only [Bool.and_eq_true, decide_eq_true_eq] at h2
  omega
theorem ba_data {x y : ByteArray} (h : x.data.toList = y.data.toList) : x = y := by
  cases x; cases y
  simp only [ByteArray.mk.injEq]
  exact Array.toList_inj.1 h
theorem tl_eq {x y : ByteArray} : (x.toList == y.toList) = true ↔ x = y := by
  constructor
  · intro h
    simp only [beq_iff_eq, ByteArray.toList_eq] at h
    apply ByteArray.ext; apply Array.ext'; exact h
  · rintro rfl; simp
theorem lessK_gtr (x y : ByteArray) : lessK x y = (!lessK y x && !(y.toList == x.toList)) := by
  unfold lessK
  cases h : Op.bytesLess x.data.toList y.data.toList
  · cases h2 : Op.bytesLess y.data.toList x.data.toList
    · rw [tl_eq.2 (ba_data (less_tri _ _ h2 h))]; rfl
    · rfl
  · rw [less_asym _ _ h]
    cases h3 : (y.toList == x.toList)
    · rfl
    · rw [tl_eq.1 h3, less_irr] at h; cases h
theorem placeL_stop {l : List Pr} {key : ByteArray} {k : Nat} {p : Pr} (hso : sortedL l) (hk : k < l.length) (h1 : ∀ (t : Nat) q, t < k → l[t]? = some q → lessK q.k key = true) (hp : l[k]? = some p) (h2 : lessK p.k key = false) : placeL l key = k :=
  placeL_at (by omega) h1 (fun t q ht hq => by
    rcases Nat.lt_or_ge k t with h | h
    · cases h9 : lessK q.k key with
      | false => rfl
      | true => rw [lessK_trans (hso k t p q h hp hq) h9] at h2; cases h2
    · obtain rfl : t = k := by omega
      rw [hp] at hq; cases hq; exact h2)
theorem lessK_irr (x : ByteArray) : lessK x x = false := less_irr _
theorem place_less {l : List Pr} {key : ByteArray} {i : Nat} (hi : i < placeL l key) : ∃ (h : i < l.length), lessK l[i].k key = true := by
  have hp : placeL l key ≤ l.length := List.findIdx_le_length
  have h : i < l.length := by omega
  refine ⟨h, ?_⟩
  have h1 := List.not_of_lt_findIdx (p := fun p : Pr => !lessK p.k key) hi
  simpa using h1
theorem place_not {l : List Pr} {key : ByteArray} (h : placeL l key < l.length) : lessK l[placeL l key].k key = false := by
  have h1 : (!lessK l[placeL l key].k key) = true := List.findIdx_getElem (p := fun p : Pr => !lessK p.k key) (w := h)
  simpa using h1
/-- Where a key is found. -/
theorem found_at {l : List Pr} {key : ByteArray} (hf : foundL l key = true) : ∃ (hi : placeL l key < l.length), l[placeL l key].k = key := by
  unfold foundL at hf
  rcases Nat.lt_or_ge (placeL l key) l.length with hi | hi
  · rw [List.getElem?_eq_getElem hi] at hf
    exact ⟨hi, by simpa using hf⟩
  · rw [List.getElem?_eq_none hi] at hf; cases hf
/-- A key that is in a good list is found. -/
theorem found_of {l : List Pr} {key : ByteArray} (h : goodL l = true) {i : Nat} (hi : i < l.length) (hk : l[i].k = key) : foundL l key = true := by
  have hp : placeL l key = i := placeL_stop (p := l[i]) (goodL_sorted h) hi (fun t q ht hq => by rw [← hk]; exact goodL_sorted h t i q l[i] ht hq (List.getElem?_eq_getElem hi)) (List.getElem?_eq_getElem hi) (by rw [hk]; exact lessK_irr key)
  unfold foundL
  rw [hp, List.getElem?_eq_getElem hi]
  simpa using hk
theorem key_ne {l : List Pr} {key : ByteArray} (h : goodL l = true) (hf : foundL l key = false) {i : Nat} (hi : i < l.length) : (l[i].k.toList == key.toList) = false := by
  cases h9 : (l[i].k.toList == key.toList) with
  | false => rfl
  | true => rw [found_of h hi (tl_eq.1 h9)] at hf; cases hf

/-- The list with a key's pair set. -/
def setL (l : List Pr) (k v : ByteArray) : List Pr := l.take (placeL l k) ++ [⟨k, v⟩] ++ l.drop (placeL l k + (if foundL l k = true then 1 else 0))
def riseStep (acc : List Pr) (p : Pr) : List Pr := if fitsB p.k p.v = true then setL acc p.k p.v else acc
def riseL (l : List Pr) : List Pr := l.foldl riseStep []
theorem good_fit {l : List Pr} (h : goodL l = true) {p : Pr} (hp : p ∈ l) : fitsB p.k p.v = true := by
  obtain ⟨i, hi, rfl⟩ := List.getElem_of_mem hp
  have h1 := goodL_at h hi
  unfold goodAt at h1
  rw [List.getElem?_eq_getElem hi] at h1
  simp only [] at h1
  rw [Bool.and_eq_true] at h1
  exact h1.1
theorem good_iff {l : List Pr} : goodL l = true ↔ (∀ p ∈ l, fitsB p.k p.v = true) ∧ l.Pairwise (fun p q => lessK p.k q.k = true) := by
  constructor
  · exact fun h => ⟨fun p hp => good_fit h hp, List.pairwise_iff_getElem.2 (fun i j hi hj hij => goodL_sorted h i j _ _ hij (List.getElem?_eq_getElem hi) (List.getElem?_eq_getElem hj))⟩
  · rintro ⟨h1, h2⟩
    refine goodL_all (fun i hi => ?_)
    unfold goodAt
    rw [List.getElem?_eq_getElem hi]
    simp only []
    rw [h1 _ (List.getElem_mem hi), Bool.true_and]
    cases i with
    | zero => rfl
    | succ i =>
      rw [Nat.add_sub_cancel, List.getElem?_eq_getElem (by omega)]
      simp only []
      rw [List.pairwise_iff_getElem.1 h2 i (i + 1) (by omega) hi (by omega), Bool.or_true]
theorem good_nil : goodL [] = true := rfl
theorem setL_good {l : List Pr} {k v : ByteArray} (h : goodL l = true) (hf : fitsB k v = true) : goodL (setL l k v) = true := by
  obtain ⟨h1, h2⟩ := good_iff.1 h
  have hp : placeL l k ≤ l.length := List.findIdx_le_length
  have ht : ∀ p ∈ l.take (placeL l k), lessK p.k k = true := fun p hm => by
    obtain ⟨i, hi, rfl⟩ := List.getElem_of_mem hm
    rw [List.length_take] at hi
    obtain ⟨h3, h4⟩ := place_less (l := l) (key := k) (i := i) (by omega)
    rw [List.getElem_take]; exact h4
  have hgt : ∀ (j : Nat) (hj : j < l.length), placeL l k ≤ j → (foundL l k = true → placeL l k < j) → lessK k l[j].k = true := fun j hj hle hlt => by
    have h3 : placeL l k < l.length := by omega
    cases hfd : foundL l k with
    | true =>
      obtain ⟨_, h4⟩ := found_at hfd
      have := goodL_sorted h (placeL l k) j _ _ (hlt hfd) (List.getElem?_eq_getElem h3) (List.getElem?_eq_getElem hj)
      rw [h4] at this; exact this
    | false =>
      have h5 : lessK k l[placeL l k].k = true := by rw [lessK_gtr, place_not h3, key_ne h hfd h3]; rfl
      rcases Nat.eq_or_lt_of_le hle with h0 | h0
      · subst h0; exact h5
      · exact lessK_trans h5 (goodL_sorted h (placeL l k) j _ _ h0 (List.getElem?_eq_getElem h3) (List.getElem?_eq_getElem hj))
  have hd : ∀ p ∈ l.drop (placeL l k + (if foundL l k = true then 1 else 0)), lessK k p.k = true := fun p hm => by
    obtain ⟨i, hi, rfl⟩ := List.getElem_of_mem hm
    rw [List.length_drop] at hi
    rw [List.getElem_drop]
    refine hgt _ _ (by omega) (fun hfd => ?_)
    rw [if_pos hfd]; omega
  refine good_iff.2 ⟨fun p hm => ?_, ?_⟩
  · unfold setL at hm
    rw [List.append_assoc, List.mem_append, List.singleton_append, List.mem_cons] at hm
    rcases hm with hm | hm | hm
    · exact h1 p (List.mem_of_mem_take hm)
    · rw [hm]; exact hf
    · exact h1 p (List.mem_of_mem_drop hm)
  · unfold setL
    rw [List.append_assoc, List.singleton_append, List.pairwise_append, List.pairwise_cons]
    refine ⟨h2.sublist (List.take_sublist _ _), ⟨hd, h2.sublist (List.drop_sublist _ _)⟩, fun p hpm q hqm => ?_⟩
    rcases List.mem_cons.1 hqm with rfl | hqm
    · exact ht p hpm
    · exact lessK_trans (ht p hpm) (hd q hqm)
theorem setL_len (l : List Pr) (k v : ByteArray) : (setL l k v).length ≤ l.length + 1 := by
  have hp : placeL l k ≤ l.length := List.findIdx_le_length
  unfold setL
  simp only [List.length_append, List.length_take, List.length_drop, List.length_cons, List.length_nil]
  omega
theorem riseStep_good {l : List Pr} (h : goodL l = true) (p : Pr) : goodL (riseStep l p) = true := by
  unfold riseStep
  split
  · exact setL_good h (by assumption)
  · exact h
theorem riseStep_len (l : List Pr) (p : Pr) : (riseStep l p).length ≤ l.length + 1 := by
  unfold riseStep
  split
  · exact setL_len _ _ _
  · omega
theorem rise_from (l : List Pr) : ∀ acc : List Pr, goodL acc = true → goodL (l.foldl riseStep acc) = true ∧ (l.foldl riseStep acc).length ≤ acc.length + l.length := by
  induction l with
  | nil => exact fun acc h => ⟨h, Nat.le_refl _⟩
  | cons p l ih =>
    intro acc h
    obtain ⟨h1, h2⟩ := ih (riseStep acc p) (riseStep_good h p)
    have := riseStep_len acc p
    exact ⟨h1, by rw [List.foldl_cons, List.length_cons]; omega⟩
theorem rise_good (l : List Pr) : goodL (riseL l) = true := (rise_from l [] good_nil).1
theorem rise_len (l : List Pr) : (riseL l).length ≤ l.length := by have h := (rise_from l [] good_nil).2; rw [List.length_nil, Nat.zero_add] at h; exact h
theorem rise_take {l : List Pr} {i : Nat} (hi : i < l.length) : riseL (l.take (i + 1)) = riseStep (riseL (l.take i)) l[i] := by
  unfold riseL
  rw [List.take_succ_eq_append_getElem hi, List.foldl_append]; rfl
set_option maxRecDepth 100000 in
set_option maxHeartbeats 3200000 in
theorem mayPair_any (key val : ByteArray) (w : World) :
    Calls Tryd.prog 25 #[.string key, .string val] w fun e w' => e = .returned (.bool (fitsB key val)) ∧ Below w.heap.size w w' := by
  by_cases h0 : 1 ≤ key.size
  rotate_left
  · rw [show fitsB key val = false by unfold fitsB; rw [decide_eq_false (show ¬ 0 < key.size by omega)]; simp]
    have e0 : decide (1 ≤ (key.size : Int)) = false := decide_eq_false (by omega)
    have e0n : decide (1 ≤ key.size) = false := decide_eq_false (by omega)
    clear h0
    go_enter Tryd.func25, Tryd.ntmps25
    go_wp2
    go_ret
    exact ⟨by first | rfl | simp, Below.refl _ _⟩
  by_cases h1 : key.size ≤ 160
  rotate_left
  · rw [show fitsB key val = false by unfold fitsB; rw [decide_eq_false (show ¬ key.size ≤ 160 by omega)]; simp]
    have e0 : decide (1 ≤ (key.size : Int)) = true := decide_eq_true (by omega)
    have e0n : decide (1 ≤ key.size) = true := decide_eq_true (by omega)
    have e1 : decide ((key.size : Int) ≤ 160) = false := decide_eq_false (by omega)
    have e1n : decide (key.size ≤ 160) = false := decide_eq_false (by omega)
    clear h0 h1
    go_enter Tryd.func25, Tryd.ntmps25
    go_wp2
    go_ret
    exact ⟨by first | rfl | simp, Below.refl _ _⟩
  by_cases h2 : 1 ≤ val.size
  rotate_left
  · rw [show fitsB key val = false by unfold fitsB; rw [decide_eq_false (show ¬ 0 < val.size by omega)]; simp]
    have e0 : decide (1 ≤ (key.size : Int)) = true := decide_eq_true (by omega)
    have e0n : decide (1 ≤ key.size) = true := decide_eq_true (by omega)
    have e1 : decide ((key.size : Int) ≤ 160) = true := decide_eq_true (by omega)
    have e1n : decide (key.size ≤ 160) = true := decide_eq_true (by omega)
    have e2 : decide (1 ≤ (val.size : Int)) = false := decide_eq_false (by omega)
    have e2n : decide (1 ≤ val.size) = false := decide_eq_false (by omega)
    clear h0 h1 h2
    go_enter Tryd.func25, Tryd.ntmps25
    go_wp2
    go_ret
    exact ⟨by first | rfl | simp, Below.refl _ _⟩
  by_cases h3 : val.size ≤ 64
  rotate_left
  · rw [show fitsB key val = false by unfold fitsB; rw [decide_eq_false (show ¬ val.size ≤ 64 by omega)]; simp]
    have e0 : decide (1 ≤ (key.size : Int)) = true := decide_eq_true (by omega)
    have e0n : decide (1 ≤ key.size) = true := decide_eq_true (by omega)
    have e1 : decide ((key.size : Int) ≤ 160) = true := decide_eq_true (by omega)
    have e1n : decide (key.size ≤ 160) = true := decide_eq_true (by omega)
    have e2 : decide (1 ≤ (val.size : Int)) = true := decide_eq_true (by omega)
    have e2n : decide (1 ≤ val.size) = true := decide_eq_true (by omega)
    have e3 : decide ((val.size : Int) ≤ 64) = false := decide_eq_false (by omega)
    have e3n : decide (val.size ≤ 64) = false := decide_eq_false (by omega)
    clear h0 h1 h2 h3
    go_enter Tryd.func25, Tryd.ntmps25
    go_wp2
    go_ret
    exact ⟨by first | rfl | simp, Below.refl _ _⟩
  rw [show fitsB key val = true by unfold fitsB; rw [decide_eq_true (show 0 < key.size by omega), decide_eq_true h1, decide_eq_true (show 0 < val.size by omega), decide_eq_true h3]; rfl]
  have e0 : decide (1 ≤ (key.size : Int)) = true := decide_eq_true (by omega)
  have e0n : decide (1 ≤ key.size) = true := decide_eq_true (by omega)
  have e1 : decide ((key.size : Int) ≤ 160) = true := decide_eq_true (by omega)
  have e1n : decide (key.size ≤ 160) = true := decide_eq_true (by omega)
  have e2 : decide (1 ≤ (val.size : Int)) = true := decide_eq_true (by omega)
  have e2n : decide (1 ≤ val.size) = true := decide_eq_true (by omega)
  have e3 : decide ((val.size : Int) ≤ 64) = true := decide_eq_true (by omega)
  have e3n : decide (val.size ≤ 64) = true := decide_eq_true (by omega)
  clear h0 h1 h2 h3
  go_enter Tryd.func25, Tryd.ntmps25
  go_wp2
  go_ret
  exact ⟨by first | rfl | simp, Below.refl _ _⟩
theorem place_stop {l : List Pr} {key : ByteArray} {k : Nat} {p : Pr} (hso : sortedL l) (hk : k < l.length) (h1 : ∀ (t : Nat) q, t < k → l[t]? = some q → lessK q.k key = true) (hp : l[k]? = some p) (h2 : lessK p.k key = false) : placeL l key = k :=
  placeL_at (by omega) h1 (fun t q ht hq => by
    rcases Nat.lt_or_ge k t with h | h
    · cases h9 : lessK q.k key with
      | false => rfl
      | true => rw [lessK_trans (hso k t p q h hp hq) h9] at h2; cases h2
    · obtain rfl : t = k := by omega
      rw [hp] at hq; cases hq; exact h2)
set_option maxRecDepth 100000 in
set_option maxHeartbeats 6400000 in
theorem place_any (a : Option Addr) (n cap : Nat) (l : List Pr) (key : ByteArray) (w : World) (hr : RowAt w a (l.flatMap Pr.cells)) (hn : l.length = n) (hcap : n ≤ cap) (hcm : cap ≤ maxLen) (hso : sortedL l) :
    Calls Tryd.prog 59 #[.slice a n cap, .string key] w fun e w' => e = .returned (.tuple #[.int .i64 (placeL l key : Nat), .bool (foundL l key)]) ∧ Below w.heap.size w w' := by
  unfold maxLen at hcm
  have HN := Lib.hid hn
  have HSO := Lib.hid hso
  clear hn hso
  go_enter Tryd.func59, Tryd.ntmps59
  go_upto_region 2 with fail
  go_loopw [6] (fun i wr => ∃ k : Nat, k ≤ n ∧ i = .int .i64 k ∧ Hid (∀ (t : Nat) p, t < k → l[t]? = some p → lessK p.k key = true) ∧ Below w.heap.size w wr) (fun i _ => n - (intOf i).toNat)
  case atStart => exact ⟨0, Nat.zero_le _, rfl, Lib.hid (fun t p h => by omega), Below.refl _ _⟩
  case round =>
    obtain ⟨k, hk, rfl, HA, hbel⟩ := hrel
    by_cases hlt : k < n
    rotate_left
    · obtain rfl : k = n := by omega
      have d9 : decide ((k : Int) < (k : Int)) = false := decide_eq_false (by omega)
      have d9n : decide (k < k) = false := decide_eq_false (by omega)
      have HPL : Hid (placeL l key = k) := Lib.hid (placeL_at (by rw [HN.out]; exact Nat.le_refl _) HA.out (fun t q ht hq => by have := (List.getElem?_eq_some_iff.1 hq).1; rw [HN.out] at this; omega))
      have HFD : Hid (foundL l key = false) := Lib.hid (by unfold foundL; rw [HPL.out, List.getElem?_eq_none (by rw [HN.out]; exact Nat.le_refl _)])
      go_upto_region 4 with fail
      go_quiet (fail)
      go_wp2
      refine bodyPost_ret (v := .tuple #[.int .i64 (k : Nat), .bool false]) (by simp [results, Tryd.results59, go_sem]; try rfl) rfl ?_
      exact ⟨by rw [HPL.out, HFD.out], hbel.trans ((drewN_below _ _).mono hbel.size)⟩
    have d1 : decide ((k : Int) < (n : Int)) = true := decide_eq_true (by omega)
    have d1n : decide (k < n) = true := decide_eq_true hlt
    have hkl : k < l.length := by rw [HN.out]; exact hlt
    obtain ⟨b1, o1, rfl, hb1, hg1⟩ := pr_range (hr.below hbel) hkl
    have hkm := List.getElem?_eq_getElem hkl
    obtain ⟨p, hp9⟩ : ∃ p, l[k] = p := ⟨_, rfl⟩
    rw [hp9] at hg1 hkm
    have HKM := Lib.hid hkm
    have n0 : (0 : Int) ≤ (k : Int) := by omega
    have n1 : (k : Int) < (n : Int) := by omega
    have n2 : ((k : Nat) : Int).toNat = k := by omega
    obtain ⟨ls, hls⟩ : ∃ b, lessK p.k key = b := ⟨_, rfl⟩
    have hle : Op.bytesLess p.k.toList key.toList = ls := by rw [ByteArray.toList_eq, ByteArray.toList_eq]; exact hls
    have HLS := Lib.hid hls
    have q0 : wr.cell? ⟨b1, o1 + k * 2, none⟩ = some (.string p.k) := hg1 0 _ rfl
    clear hls hp9 hkm hg1
    cases ls
    rotate_left
    · go_wp2
      go_roundw
      case rel => exact ⟨k + 1, by omega, by go_num, Lib.hid (fun t q ht hq => by
          rcases Nat.lt_or_ge t k with h9 | h9
          · exact HA.out t q h9 hq
          · obtain rfl : t = k := by omega
            rw [HKM.out] at hq
            cases hq
            exact HLS.out), hbel⟩
      case measure => (simp [intOf]) <;> omega
    have HPL : Hid (placeL l key = k) := Lib.hid (place_stop HSO.out hkl HA.out HKM.out HLS.out)
    obtain ⟨fd, hfd⟩ : ∃ b, (p.k.toList == key.toList) = b := ⟨_, rfl⟩
    have HFD : Hid (foundL l key = fd) := Lib.hid (by
      unfold foundL
      rw [HPL.out, HKM.out, ← hfd]
      simp only []
      rw [Bool.eq_iff_iff, decide_eq_true_eq, tl_eq])
    cases fd
    · go_upto_region 4 with fail
      go_quiet (fail)
      go_wp2
      refine bodyPost_ret (v := .tuple #[.int .i64 (k : Nat), .bool false]) (by simp [results, Tryd.results59, go_sem]; try rfl) rfl ?_
      exact ⟨by rw [HPL.out, HFD.out], hbel.trans ((drewN_below _ _).mono hbel.size)⟩
    · go_upto_region 4 with fail
      go_quiet (fail)
      go_wp2
      refine bodyPost_ret (v := .tuple #[.int .i64 (k : Nat), .bool true]) (by simp [results, Tryd.results59, go_sem]; try rfl) rfl ?_
      exact ⟨by rw [HPL.out, HFD.out], hbel.trans ((drewN_below _ _).mono hbel.size)⟩
theorem Tryd.infoQr : (Tryd.prog.info? 30).map (fun i => (i.zero, i.size, i.bytes)) = some (some (.agg #[.string ⟨#[]⟩, .string ⟨#[]⟩]), 2, 32) := by kernel_rfl
theorem pr_cells_one (l : List Pr) : ∀ u ∈ l.flatMap Pr.cells, u.oneCell' = true := by
  intro u hu
  obtain ⟨p, _, hp⟩ := List.mem_flatMap.1 hu
  have h1 := pr_one p
  rw [List.all_toArray, List.all_eq_true] at h1
  exact h1 u hp
theorem pr_flat_len (l : List Pr) : (l.flatMap Pr.cells).length = l.length * 2 := flat_length Pr.cells 2 Pr.cells_len l
theorem pr_take {l : List Pr} (k : Nat) : ∀ (j : Nat) (u : Value), ((l.take k).flatMap Pr.cells)[j]? = some u → (l.flatMap Pr.cells)[j]? = some u := by
  intro j u h
  conv => lhs; rw [← List.take_append_drop k l, List.flatMap_append]
  rw [List.getElem?_append_left (List.getElem?_eq_some_iff.1 h).1]; exact h
theorem pr_drop {l : List Pr} {k : Nat} (hk : k ≤ l.length) : ∀ (j : Nat) (u : Value), ((l.drop k).flatMap Pr.cells)[j]? = some u → (l.flatMap Pr.cells)[k * 2 + j]? = some u := by
  intro j u h
  conv => lhs; rw [← List.take_append_drop k l, List.flatMap_append]
  have e : ((l.take k).flatMap Pr.cells).length = k * 2 := by rw [pr_flat_len, List.length_take, Nat.min_eq_left hk]
  rw [List.getElem?_append_right (by omega), e, show k * 2 + j - k * 2 = j by omega]; exact h
theorem row_getP {w : World} {b off : Nat} {vs : List Value} (h : RowAt w (some ⟨b, off, none⟩) vs) {j : Nat} {u : Value} (hu : vs[j]? = some u) : w.cell? ⟨b, off + j, none⟩ = some u := by
  have hj := (List.getElem?_eq_some_iff.1 hu).1
  rcases h with rfl | ⟨b1, o1, e, _, hc⟩
  · simp at hj
  · simp only [Option.some.injEq, Addr.mk.injEq, and_true] at e
    obtain ⟨rfl, rfl⟩ := e
    rw [hc j hj]; exact hu
theorem pr_take_at {w : World} {b off : Nat} {l : List Pr} (h : RowAt w (some ⟨b, off, none⟩) (l.flatMap Pr.cells)) (k : Nat) : ∀ ad, some (⟨b, off, none⟩ : Addr) = some ad → ∀ j u, ((l.take k).flatMap Pr.cells)[j]? = some u → w.cell? (ad.add j) = some u := by
  intro ad e j u hu
  obtain rfl := Option.some.inj e
  rw [Addr.add_lit]; exact row_getP h (pr_take k j u hu)
theorem pr_drop_at {w : World} {b off : Nat} {l : List Pr} (h : RowAt w (some ⟨b, off, none⟩) (l.flatMap Pr.cells)) {k : Nat} (hk : k ≤ l.length) {ao : Option Addr} (hao : k < l.length → ao = some ⟨b, off + k * 2, none⟩) : ∀ ad, ao = some ad → ∀ j u, ((l.drop k).flatMap Pr.cells)[j]? = some u → w.cell? (ad.add j) = some u := by
  intro ad e j u hu
  have hj := (List.getElem?_eq_some_iff.1 hu).1
  rw [pr_flat_len, List.length_drop] at hj
  rw [hao (by omega)] at e
  obtain rfl := Option.some.inj e
  rw [Addr.add_lit, Nat.add_assoc]; exact row_getP h (pr_drop hk j u hu)
theorem new_at (w5 : World) (key val : ByteArray) : ∀ ad, some (⟨w5.heap.size, 0, none⟩ : Addr) = some ad → ∀ j u, ([(⟨key, val⟩ : Pr)].flatMap Pr.cells)[j]? = some u → (w5.alloc (.cells #[.string key, .string val] 30)).cell? (ad.add j) = some u := by
  intro ad e j u hu
  obtain rfl := Option.some.inj e
  rw [Addr.add_lit, Nat.zero_add]
  rw [cell_heap (heap_push w5 #[.string key, .string val] 30) j]
  simpa [Pr.cells] using hu
set_option maxRecDepth 100000 in
set_option maxHeartbeats 6400000 in
theorem set_any (a : Option Addr) (n cap : Nat) (l : List Pr) (key val : ByteArray) (w : World) (hr : RowAt w a (l.flatMap Pr.cells)) (hn : l.length = n) (hcap : n ≤ cap) (hcm : cap ≤ maxLen) (hn6 : n ≤ 1000000) (hso : sortedL l) (ha : (a = none ∧ n = 0 ∧ cap = 0) ∨ ∃ b off, a = some ⟨b, off, none⟩) :
    Calls Tryd.prog 26 #[.slice a n cap, .string key, .string val] w fun e w' => ∃ v, e = .returned v ∧ w'.ownsRow w.heap.size 30 2 v (setL l key val).length ((setL l key val).flatMap Pr.cells) ∧ Below w.heap.size w w' := by
  have CP := fun W (hb : Below w.heap.size w W) => place_any a n cap l key W (hr.below hb) hn hcap hcm hso
  have hpl : placeL l key ≤ l.length := List.findIdx_le_length
  have hfl : foundL l key = true → placeL l key < l.length := fun h => (found_at h).1
  have HS : setL l key val = l.take (placeL l key) ++ [⟨key, val⟩] ++ l.drop (placeL l key + (if foundL l key = true then 1 else 0)) := rfl
  obtain ⟨R, hR⟩ : ∃ R, setL l key val = R := ⟨_, rfl⟩
  rw [hR] at HS
  simp only [hR]
  clear hR
  obtain ⟨k, hk⟩ : ∃ k, placeL l key = k := ⟨_, rfl⟩
  obtain ⟨fd, hfd⟩ : ∃ f, foundL l key = f := ⟨_, rfl⟩
  rw [hk, hfd] at HS
  rw [hk] at hpl
  rw [hk, hfd] at hfl
  simp only [hk, hfd] at CP
  obtain ⟨q, hq⟩ : ∃ q, k + (if fd = true then 1 else 0) = q := ⟨_, rfl⟩
  rw [hq] at HS
  have hqn : q ≤ n := by
    rw [← hq]
    cases fd with
    | false => simp; omega
    | true => have := hfl rfl; simp; omega
  have hkn : k ≤ n := by omega
  have HE : Hid (R.length = k + 1 + (n - q) ∧ R.flatMap Pr.cells = (l.take k).flatMap Pr.cells ++ [(⟨key, val⟩ : Pr)].flatMap Pr.cells ++ (l.drop q).flatMap Pr.cells) := Lib.hid ⟨by
    rw [HS]; simp only [List.length_append, List.length_take, List.length_drop, List.length_cons, List.length_nil]; omega, by
    rw [HS, List.flatMap_append, List.flatMap_append]⟩
  have HT : Hid (((l.take k).flatMap Pr.cells).length = k * 2) := Lib.hid (by rw [pr_flat_len, List.length_take, Nat.min_eq_left (by omega)])
  have HDr : Hid (((l.drop q).flatMap Pr.cells).length = (n - q) * 2) := Lib.hid (by rw [pr_flat_len, List.length_drop, hn])
  obtain ⟨i0, hi, hz0, hz1, hz2⟩ := info_parts Tryd.infoQr
  have hbel := Below.refl w.heap.size w
  have hnil : ∀ W : World, W.ownsRow w.heap.size 30 2 (.slice none 0 0) 0 [] := fun W => World.ownsRow_nil _ _ _ _
  unfold maxLen at hcm
  have HN := Lib.hid hn
  clear hk hfd hn hso HS
  rcases ha with ⟨rfl, rfl, rfl⟩ | ⟨b, off, rfl⟩
  · obtain rfl : k = 0 := by omega
    obtain rfl : q = 0 := by omega
    cases fd
    rotate_left
    · simp at hq
    clear hq hpl hfl hqn hkn
    have HL0 : Hid (l = []) := Lib.hid (List.eq_nil_of_length_eq_zero HN.out)
    go_enter Tryd.func26, Tryd.ntmps26
    go_upto_region 2 with (go_at_call 59; refine (CP _ hbel).mono ?_; rintro e w2 ⟨rfl, hb⟩; have hbel := hbel.trans (hb.mono hbel.size); clear hb)
    go_upto_region 3 with (at_builtin; refine wpList_append_ownA _ rfl (.const (.slice none 0 0)) (.tmp 18) 22 rfl w.heap.size 30 i0 (.agg #[.string ⟨#[]⟩, .string ⟨#[]⟩]) 2 32 Tryd.underlying22 hi hz0 hz1 hz2 rfl (by decide) _ _ _ rfl (hnil _) none 0 0 [] rfl (fun _ => ⟨rfl, rfl⟩) rfl (fun ad e => by cases e) (fun u hu => by cases hu) (by unfold maxLen; omega) (by omega) hbel.size ?_; intro v5 w5 hown5 hgr5)
    have hb5 := hbel.trans (grown_lowM hgr5 (fun k h => by cases h) hbel.size)
    go_upto_region 4 with (at_builtin; refine wpList_append_ownA _ rfl (.tmp 20) (.tmp 24) 22 rfl w.heap.size 30 i0 (.agg #[.string ⟨#[]⟩, .string ⟨#[]⟩]) 2 32 Tryd.underlying22 hi hz0 hz1 hz2 rfl (by decide) _ _ _ rfl (hown5.alloc _) (some ⟨w5.heap.size, 0, none⟩) 1 1 ([(⟨key, val⟩ : Pr)].flatMap Pr.cells) rfl (fun h => by cases h) rfl (show ∀ ad, some (⟨w5.heap.size, 0, none⟩ : Addr) = some ad → ∀ j u, ([(⟨key, val⟩ : Pr)].flatMap Pr.cells)[j]? = some u → (w5.alloc (.cells #[.string key, .string val] 30)).cell? (ad.add j) = some u from new_at w5 key val) (pr_cells_one _) (by unfold maxLen; omega) (by omega) (hb5.alloc hb5.size _).size ?_; intro v7 w7 hown7 hgr7)
    have hb7 := (hb5.alloc hb5.size _).trans (below_grown (hown5.alloc _) hgr7 (hb5.alloc hb5.size _).size)
    go_wp2_with (at_builtin; refine wpList_append_ownA _ rfl (.tmp 29) (.tmp 32) 22 rfl w.heap.size 30 i0 (.agg #[.string ⟨#[]⟩, .string ⟨#[]⟩]) 2 32 Tryd.underlying22 hi hz0 hz1 hz2 rfl (by decide) _ _ _ rfl hown7 none 0 0 [] rfl (fun _ => ⟨rfl, rfl⟩) rfl (fun ad e => by cases e) (fun u hu => by cases hu) (by unfold maxLen; omega) (by omega) hb7.size ?_; intro v8 w8 hown8 hgr8)
    have hb8 := hb7.trans (below_grown hown7 hgr8 hb7.size)
    go_ret
    refine ⟨_, rfl, ?_, hb8⟩
    have e1 := HE.out.1
    have e2 := HE.out.2
    rw [HL0.out] at e2
    rw [e1, e2]
    simpa using hown8
  · have n1 : (0 : Int) ≤ (k : Int) := by omega
    have n2 : (k : Int) ≤ (cap : Int) := by omega
    have n3 : (k : Int) ≤ (n : Int) := by omega
    have n5 : ((k : Nat) : Int).toNat = k := by omega
    go_enter Tryd.func26, Tryd.ntmps26
    go_upto_region 2 with (go_at_call 59; refine (CP _ hbel).mono ?_; rintro e w2 ⟨rfl, hb⟩; have hbel := hbel.trans (hb.mono hbel.size); clear hb)
    go_upto_region 3 with (at_builtin; refine wpList_append_ownA _ rfl (.const (.slice none 0 0)) (.tmp 18) 22 rfl w.heap.size 30 i0 (.agg #[.string ⟨#[]⟩, .string ⟨#[]⟩]) 2 32 Tryd.underlying22 hi hz0 hz1 hz2 rfl (by decide) _ _ _ rfl (hnil _) (some ⟨b, off, none⟩) k cap ((l.take k).flatMap Pr.cells) rfl (fun h => by cases h) HT.out (pr_take_at (hr.below hbel) k) (pr_cells_one _) (by unfold maxLen; omega) (by omega) hbel.size ?_; intro v5 w5 hown5 hgr5)
    have hb5 := hbel.trans (grown_lowM hgr5 (fun k h => by cases h) hbel.size)
    simp only [Nat.zero_add, List.nil_append] at hown5
    go_upto_region 4 with (at_builtin; refine wpList_append_ownA _ rfl (.tmp 20) (.tmp 24) 22 rfl w.heap.size 30 i0 (.agg #[.string ⟨#[]⟩, .string ⟨#[]⟩]) 2 32 Tryd.underlying22 hi hz0 hz1 hz2 rfl (by decide) _ _ _ rfl (hown5.alloc _) (some ⟨w5.heap.size, 0, none⟩) 1 1 ([(⟨key, val⟩ : Pr)].flatMap Pr.cells) rfl (fun h => by cases h) rfl (show ∀ ad, some (⟨w5.heap.size, 0, none⟩ : Addr) = some ad → ∀ j u, ([(⟨key, val⟩ : Pr)].flatMap Pr.cells)[j]? = some u → (w5.alloc (.cells #[.string key, .string val] 30)).cell? (ad.add j) = some u from new_at w5 key val) (pr_cells_one _) (by unfold maxLen; omega) (by omega) (hb5.alloc hb5.size _).size ?_; intro v7 w7 hown7 hgr7)
    have hb7 := (hb5.alloc hb5.size _).trans (below_grown (hown5.alloc _) hgr7 (hb5.alloc hb5.size _).size)
    have hr7 := hr.below hb7
    cases fd
    · obtain rfl : k = q := by simpa using hq
      clear hq hfl
      by_cases hc : cap = k
      · obtain rfl : n = k := by omega
        subst hc
        have HD0 : Hid ((l.drop cap).flatMap Pr.cells = []) := Lib.hid (by rw [List.drop_of_length_le (by rw [HN.out]; omega)]; rfl)
        go_wp2_with (at_builtin; refine wpList_append_ownA _ rfl (.tmp 29) (.tmp 32) 22 rfl w.heap.size 30 i0 (.agg #[.string ⟨#[]⟩, .string ⟨#[]⟩]) 2 32 Tryd.underlying22 hi hz0 hz1 hz2 rfl (by decide) _ _ _ rfl hown7 (some ⟨b, off, none⟩) 0 0 [] rfl (fun h => by cases h) rfl (fun ad e j u hu => by cases hu) (fun u hu => by cases hu) (by unfold maxLen; omega) (by omega) hb7.size ?_; intro v8 w8 hown8 hgr8)
        have hb8 := hb7.trans (below_grown hown7 hgr8 hb7.size)
        go_ret
        refine ⟨_, rfl, ?_, hb8⟩
        rw [HE.out.1, HE.out.2, HD0.out]
        simpa using hown8
      · go_wp2_with (at_builtin; refine wpList_append_ownA _ rfl (.tmp 29) (.tmp 32) 22 rfl w.heap.size 30 i0 (.agg #[.string ⟨#[]⟩, .string ⟨#[]⟩]) 2 32 Tryd.underlying22 hi hz0 hz1 hz2 rfl (by decide) _ _ _ rfl hown7 (some ⟨b, off + k * 2, none⟩) (n - k) (cap - k) ((l.drop k).flatMap Pr.cells) rfl (fun h => by cases h) HDr.out (pr_drop_at hr7 (by rw [HN.out]; omega) (fun _ => rfl)) (pr_cells_one _) (by unfold maxLen; omega) (by omega) hb7.size ?_; intro v8 w8 hown8 hgr8)
        have hb8 := hb7.trans (below_grown hown7 hgr8 hb7.size)
        go_ret
        refine ⟨_, rfl, ?_, hb8⟩
        rw [HE.out.1, HE.out.2]
        exact hown8
    · have m1 : (0 : Int) ≤ (q : Int) := by omega
      have m3 : (q : Int) ≤ (n : Int) := by omega
      have m5 : ((q : Nat) : Int).toNat = q := by omega
      have hq : k + 1 = q := by simpa using hq
      have hadd : (k : Int) + 1 = ((q : Nat) : Int) := by omega
      have HQ := Lib.hid hq
      clear hq hfl
      go_upto_region 6 with fail
      by_cases hc : cap = q
      · obtain rfl : n = q := by omega
        subst hc
        have HD0 : Hid ((l.drop cap).flatMap Pr.cells = []) := Lib.hid (by rw [List.drop_of_length_le (by rw [HN.out]; omega)]; rfl)
        go_wp2_with (at_builtin; refine wpList_append_ownA _ rfl (.tmp 29) (.tmp 32) 22 rfl w.heap.size 30 i0 (.agg #[.string ⟨#[]⟩, .string ⟨#[]⟩]) 2 32 Tryd.underlying22 hi hz0 hz1 hz2 rfl (by decide) _ _ _ rfl hown7 (some ⟨b, off, none⟩) 0 0 [] rfl (fun h => by cases h) rfl (fun ad e j u hu => by cases hu) (fun u hu => by cases hu) (by unfold maxLen; omega) (by omega) hb7.size ?_; intro v8 w8 hown8 hgr8)
        have hb8 := hb7.trans (below_grown hown7 hgr8 hb7.size)
        go_ret
        refine ⟨_, rfl, ?_, hb8⟩
        rw [HE.out.1, HE.out.2, HD0.out]
        simpa using hown8
      · go_wp2_with (at_builtin; refine wpList_append_ownA _ rfl (.tmp 29) (.tmp 32) 22 rfl w.heap.size 30 i0 (.agg #[.string ⟨#[]⟩, .string ⟨#[]⟩]) 2 32 Tryd.underlying22 hi hz0 hz1 hz2 rfl (by decide) _ _ _ rfl hown7 (some ⟨b, off + q * 2, none⟩) (n - q) (cap - q) ((l.drop q).flatMap Pr.cells) rfl (fun h => by cases h) HDr.out (pr_drop_at hr7 (by rw [HN.out]; omega) (fun _ => rfl)) (pr_cells_one _) (by unfold maxLen; omega) (by omega) hb7.size ?_; intro v8 w8 hown8 hgr8)
        have hb8 := hb7.trans (below_grown hown7 hgr8 hb7.size)
        go_ret
        refine ⟨_, rfl, ?_, hb8⟩
        rw [HE.out.1, HE.out.2]
        exact hown8
end Go.Proofs.YtpledhipdiephaaDoor
