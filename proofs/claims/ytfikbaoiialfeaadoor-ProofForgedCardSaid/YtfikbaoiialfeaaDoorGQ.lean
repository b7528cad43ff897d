/- The texts whose sums are taken: of a top, along a way; two unlike texts of one sum. Two ways to one top: either they agree or two texts have one sum. -/
import Derived.Test.YtfikbaoiialfeaaDoorGY
import Derived.Test.YtfikbaoiialfeaaDoorLebEight2
import Derived.WalkKit
import Derived.ProofKit
import Derived.Handy
import Derived.Below
import Derived.Test.YtfikbaoiialfeaaDoorGZ
namespace Go.Proofs.YtfikbaoiialfeaaDoor
open Go.RowKit
set_option linter.unusedVariables false
theorem be_same : ∀ (n a b : Nat), be n a = be n b → a % 256 ^ n = b % 256 ^ n := by
  intro n
  induction n with
  | zero => intro a b _; rw [Nat.pow_zero, Nat.mod_one, Nat.mod_one]
  | succ n ih =>
    intro a b h
    rw [be_cons, be_cons, List.cons.injEq] at h
    obtain ⟨h1, h2⟩ := h
    have h3 := congrArg UInt8.toNat h1
    rw [UInt8.toNat_ofNat', UInt8.toNat_ofNat'] at h3
    have h4 : a / 256 ^ n % 256 = b / 256 ^ n % 256 := by omega
    rw [Nat.mod_pow_succ, Nat.mod_pow_succ, ih a b h2, h4]
theorem eightL_same {a b : Nat} (ha : a ≤ 1073741824) (hb : b ≤ 1073741824) (h : eightL (a : Int) = eightL (b : Int)) : a = b := by
  have e : ∀ c : Nat, c ≤ 1073741824 → eightL (c : Int) = be 8 c := fun c hc => by
    unfold eightL
    rw [if_pos (by unfold encB; simp; omega)]; rfl
  rw [e a ha, e b hb] at h
  have := be_same 8 a b h
  rwa [Nat.mod_eq_of_lt (by omega), Nat.mod_eq_of_lt (by omega)] at this
theorem eightL_8 {a : Nat} (ha : a ≤ 1073741824) : (eightL (a : Int)).length = 8 := by
  unfold eightL
  rw [if_pos (by unfold encB; simp; omega)]
  exact be_length 8 _
/-- No two unlike texts of the list have one sum. -/
def NC (L : List (List UInt8)) : Prop := ∀ a, a ∈ L → ∀ b, b ∈ L → shaF a = shaF b → a = b
def leafT (k v : ByteArray) : List UInt8 := [0] ++ eightL k.size ++ k.data.toList ++ v.data.toList
def nodeT (q r : H32) : List UInt8 := [1] ++ q.1 ++ r.1
def rootT (n : Int) (q : H32) : List UInt8 := [2] ++ eightL n ++ q.1
/-- The texts whose sums are taken for a top. -/
def topT (l : List H32) : List (List UInt8) :=
  if h : 2 ≤ l.length then topT (l.take (halfN l.length)) ++ topT (l.drop (halfN l.length)) ++ [nodeT (topH (l.take (halfN l.length))) (topH (l.drop (halfN l.length)))] else []
termination_by l.length
decreasing_by
  · rw [List.length_take]; have := halfN_lt h; omega
  · rw [List.length_drop]; have := halfN_pos l.length; omega
theorem topT_two {l : List H32} (h : 2 ≤ l.length) : topT l = topT (l.take (halfN l.length)) ++ topT (l.drop (halfN l.length)) ++ [nodeT (topH (l.take (halfN l.length))) (topH (l.drop (halfN l.length)))] := by
  conv => lhs; rw [topT]
  rw [dif_pos h]
/-- The texts whose sums are taken along a way. -/
def wayT (n i : Nat) (x : H32) (w : List H32) : List (List UInt8) :=
  if h : 2 ≤ n then (if i < halfN n then wayT (halfN n) i x w.dropLast ++ [nodeT (foldH (halfN n) i x w.dropLast) (w.getLastD zeroH)] else wayT (n - halfN n) (i - halfN n) x w.dropLast ++ [nodeT (w.getLastD zeroH) (foldH (n - halfN n) (i - halfN n) x w.dropLast)]) else []
termination_by n
decreasing_by
  · exact halfN_lt h
  · have := halfN_pos n; omega
theorem wayT_left {n i : Nat} (h : 2 ≤ n) (hi : i < halfN n) (x : H32) (w : List H32) : wayT n i x w = wayT (halfN n) i x w.dropLast ++ [nodeT (foldH (halfN n) i x w.dropLast) (w.getLastD zeroH)] := by
  conv => lhs; rw [wayT]
  rw [dif_pos h, if_pos hi]
theorem wayT_right {n i : Nat} (h : 2 ≤ n) (hi : ¬ i < halfN n) (x : H32) (w : List H32) : wayT n i x w = wayT (n - halfN n) (i - halfN n) x w.dropLast ++ [nodeT (w.getLastD zeroH) (foldH (n - halfN n) (i - halfN n) x w.dropLast)] := by
  conv => lhs; rw [wayT]
  rw [dif_pos h, if_neg hi]
/-- Two unlike strings of one sum, the earlier at k, the later at i. -/
def clashAt (S : List ByteArray) (i k : Nat) : Bool := match S[i]?, S[k]? with
  | some a, some b => (shaF b.data.toList == shaF a.data.toList) && (b.toList != a.toList)
  | _, _ => false
def clashB (S : List ByteArray) : Bool := (List.range S.length).any fun i => (List.range i).any fun k => clashAt S i k
end Go.Proofs.YtfikbaoiialfeaaDoor
namespace Go.Proofs.YtfikbaoiialfeaaDoor
open Go.RowKit
set_option linter.unusedVariables false
theorem node_same {L : List (List UInt8)} (hL : NC L) {a b c d : H32} (h1 : nodeT a b ∈ L) (h2 : nodeT c d ∈ L) (h : nodeH a b = nodeH c d) : a = c ∧ b = d := by
  have h3 : nodeF a.1 b.1 = nodeF c.1 d.1 := congrArg Subtype.val h
  have h4 := hL _ h1 _ h2 h3
  unfold nodeT at h4
  rw [List.append_assoc, List.append_assoc, List.append_cancel_left_eq] at h4
  have := List.append_inj h4 (by rw [a.2, c.2])
  exact ⟨Subtype.ext this.1, Subtype.ext this.2⟩
theorem two_ways {L : List (List UInt8)} (hL : NC L) : ∀ (n : Nat) (hs : List H32) (i : Nat) (z : H32) (w : List H32), hs.length = n → (hi : i < hs.length) → w.length = deepN n i → (∀ t ∈ topT hs, t ∈ L) → (∀ t ∈ wayT n i z w, t ∈ L) → foldH n i z w = topH hs → hs[i] = z ∧ w = wayH hs i := by
  intro n
  induction n using Nat.strongRecOn with
  | _ n ih =>
  intro hs i z w hn hi hw hT hW hf
  rcases Nat.lt_or_ge n 2 with h2 | h2
  · match hs, hn, hi with
    | [q], hn, hi =>
      obtain rfl : i = 0 := by simp at hi; omega
      rw [deepN_small h2] at hw
      rw [foldH_one h2, topH_one] at hf
      exact ⟨hf.symm, by rw [wayH_none (by simp), List.eq_nil_of_length_eq_zero hw]⟩
    | [], _, hi => simp at hi
    | _ :: _ :: _, hn, _ => simp at hn; omega
  have hlt := halfN_lt h2
  have hpos := halfN_pos n
  have hs2 : 2 ≤ hs.length := by omega
  rw [topT_two hs2, hn] at hT
  rw [topH_two hs2, hn] at hf
  have hT1 : ∀ t ∈ topT (hs.take (halfN n)), t ∈ L := fun t ht => hT t (by simp [ht])
  have hT2 : ∀ t ∈ topT (hs.drop (halfN n)), t ∈ L := fun t ht => hT t (by simp [ht])
  have hT3 : nodeT (topH (hs.take (halfN n))) (topH (hs.drop (halfN n))) ∈ L := hT _ (by simp)
  by_cases hh : i < halfN n
  · rw [deepN_left h2 hh] at hw
    obtain ⟨wp, q, rfl⟩ : ∃ wp q, w = wp ++ [q] := by
      rcases List.eq_nil_or_concat w with h | ⟨l, b, h⟩
      · rw [h] at hw; simp at hw; omega
      · exact ⟨l, b, by rw [h, List.concat_eq_append]⟩
    rw [List.length_append, List.length_singleton] at hw
    rw [wayT_left h2 hh, List.dropLast_concat, List.getLastD_concat] at hW
    rw [foldH_left h2 hh, List.dropLast_concat, List.getLastD_concat] at hf
    obtain ⟨e1, e2⟩ := node_same hL (hW _ (by simp)) hT3 hf
    obtain ⟨r1, r2⟩ := ih (halfN n) hlt (hs.take (halfN n)) i z wp (by rw [List.length_take]; omega) (by rw [List.length_take]; omega) (by omega) hT1 (fun t ht => hW t (by simp [ht])) e1
    rw [List.getElem_take] at r1
    exact ⟨r1, by rw [wayH_left hs2 (by rw [hn]; exact hh), hn, ← r2, e2]⟩
  · rw [deepN_right h2 hh] at hw
    obtain ⟨wp, q, rfl⟩ : ∃ wp q, w = wp ++ [q] := by
      rcases List.eq_nil_or_concat w with h | ⟨l, b, h⟩
      · rw [h] at hw; simp at hw; omega
      · exact ⟨l, b, by rw [h, List.concat_eq_append]⟩
    rw [List.length_append, List.length_singleton] at hw
    rw [wayT_right h2 hh, List.dropLast_concat, List.getLastD_concat] at hW
    rw [foldH_right h2 hh, List.dropLast_concat, List.getLastD_concat] at hf
    obtain ⟨e1, e2⟩ := node_same hL (hW _ (by simp)) hT3 hf
    obtain ⟨r1, r2⟩ := ih (n - halfN n) (by omega) (hs.drop (halfN n)) (i - halfN n) z wp (by rw [List.length_drop]; omega) (by rw [List.length_drop]; omega) (by omega) hT2 (fun t ht => hW t (by simp [ht])) e2
    rw [List.getElem_drop] at r1
    have h9 : halfN n + (i - halfN n) = i := by omega
    exact ⟨by simpa [h9] using r1, by rw [wayH_right hs2 hi (by rw [hn]; exact hh), hn, ← r2, e1]⟩
theorem root_same {L : List (List UInt8)} (hL : NC L) {a b : Nat} {q r : H32} (ha : a ≤ 1073741824) (hb : b ≤ 1073741824) (h1 : rootT (a : Int) q ∈ L) (h2 : rootT (b : Int) r ∈ L) (h : rootF (a : Int) q.1 = rootF (b : Int) r.1) : a = b ∧ q = r := by
  unfold rootF at h
  rw [if_neg (by omega), if_neg (by omega)] at h
  have h4 := hL _ h1 _ h2 h
  unfold rootT at h4
  rw [List.append_assoc, List.append_assoc, List.append_cancel_left_eq] at h4
  have := List.append_inj h4 (by rw [eightL_8 ha, eightL_8 hb])
  exact ⟨eightL_same ha hb this.1, Subtype.ext this.2⟩
theorem leaf_same {L : List (List UInt8)} (hL : NC L) {k v k2 v2 : ByteArray} (hk : k.size ≤ 1000000) (hk2 : k2.size ≤ 1000000) (h1 : leafT k v ∈ L) (h2 : leafT k2 v2 ∈ L) (h : leafF k v = leafF k2 v2) : k = k2 ∧ v = v2 := by
  have h4 := hL _ h1 _ h2 h
  unfold leafT at h4
  simp only [List.append_assoc, List.append_cancel_left_eq] at h4
  have h5 := List.append_inj h4 (by rw [eightL_8 (by omega), eightL_8 (by omega)])
  have h6 := eightL_same (by omega) (by omega) h5.1
  have h7 := List.append_inj h5.2 (by rw [Array.length_toList, Array.length_toList]; exact h6)
  exact ⟨ba_data h7.1, ba_data h7.2⟩
/-- The texts whose sums are taken for the root of a list. -/
def inputsT (l : List Pr) : List (List UInt8) := l.map (fun p => leafT p.k p.v) ++ topT (l.map leafH) ++ [rootT (l.length : Int) (topH (l.map leafH))]
/-- The texts whose sums are taken for a leaf of a proof. -/
def leafShown (ct : Int) (x : LeafV) : List (List UInt8) := [leafT x.key x.val] ++ wayT ct.toNat x.idx.toNat (leafD x.d) x.path ++ [rootT ct (foldH ct.toNat x.idx.toNat (leafD x.d) x.path)]
def shownT (ct : Int) (xs : List LeafV) : List (List UInt8) := [rootT 0 zeroH] ++ xs.flatMap (leafShown ct)
theorem lessK_asym {x y : ByteArray} (h : lessK x y = true) : lessK y x = false := less_asym _ _ h
theorem leaf_true {l : List Pr} (h : goodL l = true) (hn : l.length ≤ 1000000) {ct : Int} {xs : List LeafV} (hM : mayPfB ct xs = true) {x : LeafV} (hx : x ∈ xs) (hst : standB (rootF (l.length : Int) (topH (l.map leafH)).1) ct x = true)
    {L : List (List UInt8)} (hL : NC L) (hI : ∀ t ∈ inputsT l, t ∈ L) (hSh : ∀ t ∈ shownT ct xs, t ∈ L) : ct = l.length ∧ ∃ i, i < l.length ∧ x.idx = (i : Nat) ∧ x.d = mkD l i := by
  obtain ⟨m1, m2, _, _, m5, m6, m7⟩ := may_leaf hM hx
  obtain ⟨c1, c2, _⟩ := may_few hM
  obtain ⟨N, rfl⟩ : ∃ m : Nat, ct = m := ⟨ct.toNat, by omega⟩
  obtain ⟨I, hIx⟩ : ∃ m : Nat, x.idx = m := ⟨x.idx.toNat, by omega⟩
  have hpd : x.path.length = deepN N I := by
    unfold deepI at m7
    rw [hIx, insB_iff.2 ⟨by omega, by omega, by omega⟩] at m7
    have h8 : (x.path.length : Int) = (deepN N I : Nat) := by simpa using m7
    omega
  have hS1 : ∀ t ∈ leafShown (N : Int) x, t ∈ L := fun t ht => hSh t (by
    unfold shownT
    exact List.mem_append_right _ (List.mem_flatMap.2 ⟨x, hx, ht⟩))
  unfold leafShown at hS1
  simp only [Int.toNat_natCast, hIx] at hS1
  unfold standB comeD at hst
  have hidx : x.d.idx = (I : Nat) := hIx
  rw [hidx] at hst
  simp only [Int.toNat_natCast] at hst
  have hst : rootF (N : Int) (foldH N I (leafD x.d) x.path).1 = rootF (l.length : Int) (topH (l.map leafH)).1 := beq_iff_eq.1 hst
  have hlm : (l.map leafH).length = l.length := List.length_map ..
  obtain ⟨e1, e2⟩ := root_same hL (by omega) (by omega) (hS1 _ (by simp)) (hI _ (by unfold inputsT; simp)) hst
  subst e1
  have hIl : I < l.length := by omega
  obtain ⟨e3, e4⟩ := two_ways hL l.length (l.map leafH) I (leafD x.d) x.path hlm (by rw [hlm]; exact hIl) hpd (fun t ht => hI t (by unfold inputsT; simp [ht])) (fun t ht => hS1 t (by simp [ht])) e2
  rw [List.getElem_map] at e3
  have e5 : leafF l[I].k l[I].v = leafF x.key x.val := congrArg Subtype.val e3
  obtain ⟨f1, f2⟩ := goodL_fits h (List.getElem_mem hIl)
  obtain ⟨e6, e7⟩ := leaf_same hL (by omega) (by omega) (hI _ (by unfold inputsT; rw [List.append_assoc]; exact List.mem_append_left _ (List.mem_map.2 ⟨l[I], List.getElem_mem hIl, rfl⟩))) (hS1 _ (by simp)) e5
  refine ⟨rfl, I, hIl, hIx, ?_⟩
  rw [mkD_some hIl]
  unfold LeafV.d
  rw [← e6, ← e7, hIx, ← e4]
theorem place_at {l : List Pr} {key : ByteArray} (h : goodL l = true) {i : Nat} (hi : i < l.length) (hk : l[i].k = key) : placeL l key = i :=
  placeL_stop (p := l[i]) (goodL_sorted h) hi (fun t q ht hq => by rw [← hk]; exact goodL_sorted h t i q l[i] ht hq (List.getElem?_eq_getElem hi)) (List.getElem?_eq_getElem hi) (by rw [hk]; exact lessK_irr key)
theorem not_found {l : List Pr} {key : ByteArray} {i : Nat} (hp : placeL l key = i) (hi : i < l.length) (hk : lessK key l[i].k = true) : foundL l key = false := by
  unfold foundL
  rw [hp, List.getElem?_eq_getElem hi]
  simp only [decide_eq_false_iff_not]
  intro h9
  rw [h9, lessK_irr] at hk
  cases hk
theorem upto_less {l : List Pr} {key : ByteArray} (h : goodL l = true) {i : Nat} (hi : i < l.length) (hk : lessK l[i].k key = true) : ∀ (t : Nat) q, t < i + 1 → l[t]? = some q → lessK q.k key = true := fun t q ht hq => by
  rcases Nat.lt_or_ge t i with h1 | h1
  · exact lessK_trans (goodL_sorted h t i q l[i] h1 hq (List.getElem?_eq_getElem hi)) hk
  · obtain rfl : t = i := by omega
    rw [List.getElem?_eq_getElem hi] at hq
    cases hq; exact hk
/-- A proof that shows something at a list's root is the one that Make makes, if no two texts have one sum. -/
theorem forged {l : List Pr} (h : goodL l = true) (hn : l.length ≤ 1000000) {ct : Int} {xs : List LeafV} {key : ByteArray} (hM : mayPfB ct xs = true) (hS : xs.all (standB (rootF (l.length : Int) (topH (l.map leafH)).1) ct) = true)
    (hv : valB (rootF (l.length : Int) (topH (l.map leafH)).1) ct xs key = true ∨ gapB (rootF (l.length : Int) (topH (l.map leafH)).1) ct xs key = true)
    {L : List (List UInt8)} (hL : NC L) (hI : ∀ t ∈ inputsT l, t ∈ L) (hSh : ∀ t ∈ shownT ct xs, t ∈ L) : ct = makeC l ∧ xs.map LeafV.d = makeD l key := by
  have hT := fun x (hx : x ∈ xs) => leaf_true h hn hM hx (List.all_eq_true.1 hS x hx) hL hI hSh
  obtain ⟨c1, c2, c3⟩ := may_few hM
  unfold makeC makeD
  rw [if_pos h, if_pos h]
  match xs, hT, hv, c3, hSh with
  | [], hT, hv, _, hSh =>
    rcases hv with hv | hv
    · cases hv
    · have hv : ((ct == 0) && (rootF (l.length : Int) (topH (l.map leafH)).1 == rootF 0 z32)) = true := hv
      rw [Bool.and_eq_true, beq_iff_eq, beq_iff_eq] at hv
      obtain ⟨e1, e2⟩ := root_same (b := 0) (r := zeroH) hL (by omega) (by omega) (hI _ (by unfold inputsT; simp)) (hSh _ (by unfold shownT; simp)) hv.2
      have hl : l = [] := List.eq_nil_of_length_eq_zero e1
      subst hl
      exact ⟨hv.1, rfl⟩
  | [x], hT, hv, _, _ =>
    obtain ⟨rfl, i, hi, hix, hd⟩ := hT x (by simp)
    have hd9 := hd
    rw [mkD_some hi] at hd9
    have e1 : x.key = l[i].k := congrArg LeafD.key hd9
    refine ⟨rfl, ?_⟩
    have key9 : witL l.length (placeL l key) (foundL l key) = [i] := by
      rcases hv with hv | hv
      · have hv : ((x.key.toList == key.toList) && _) = true := hv
        rw [Bool.and_eq_true] at hv
        have hk : l[i].k = key := by rw [← e1]; exact tl_eq.1 hv.1
        unfold witL
        rw [if_pos (found_of h hi hk), place_at h hi hk]
      · have hv : (((x.idx == 0) && lessK key x.key) || ((x.idx == (l.length : Int) - 1) && lessK x.key key)) = true := hv
        rw [Bool.or_eq_true, Bool.and_eq_true, Bool.and_eq_true, beq_iff_eq, beq_iff_eq, e1] at hv
        rcases hv with ⟨h0, hk⟩ | ⟨h0, hk⟩
        · obtain rfl : i = 0 := by omega
          have hp : placeL l key = 0 := placeL_stop (goodL_sorted h) hi (fun t q ht => by omega) (List.getElem?_eq_getElem hi) (lessK_asym hk)
          unfold witL
          rw [not_found hp hi hk, hp, if_neg (by decide), if_neg (by omega), if_pos hi]; rfl
        · have hp : placeL l key = l.length := placeL_end (fun t q ht hq => upto_less h hi hk t q (by omega) hq)
          have hf : foundL l key = false := by unfold foundL; rw [hp, List.getElem?_eq_none (Nat.le_refl _)]
          unfold witL
          rw [hf, hp, if_neg (by decide), if_pos (by omega), if_neg (by omega), List.append_nil, show l.length - 1 = i by omega]
    rw [key9]
    simp [hd]
  | [x, y], hT, hv, _, _ =>
    obtain ⟨rfl, i, hi, hix, hd⟩ := hT x (by simp)
    obtain ⟨_, j, hj, hjy, hd2⟩ := hT y (by simp)
    have hd9 := hd
    have hd8 := hd2
    rw [mkD_some hi] at hd9
    rw [mkD_some hj] at hd8
    have e1 : x.key = l[i].k := congrArg LeafD.key hd9
    have e2 : y.key = l[j].k := congrArg LeafD.key hd8
    refine ⟨rfl, ?_⟩
    have key9 : witL l.length (placeL l key) (foundL l key) = [i, j] := by
      rcases hv with hv | hv
      · cases hv
      · have hv : (((y.idx == x.idx + 1) && lessK x.key key) && lessK key y.key) = true := hv
        rw [Bool.and_eq_true, Bool.and_eq_true, beq_iff_eq, e1, e2] at hv
        obtain ⟨⟨h0, hk⟩, hk2⟩ := hv
        obtain rfl : j = i + 1 := by omega
        have hp : placeL l key = i + 1 := placeL_stop (goodL_sorted h) hj (upto_less h hi hk) (List.getElem?_eq_getElem hj) (lessK_asym hk2)
        unfold witL
        rw [not_found hp hj hk2, hp, if_neg (by decide), if_pos (by omega), if_pos hj]; rfl
    rw [key9]
    simp [hd, hd2]
  | _ :: _ :: _ :: _, _, _, c3, _ => simp at c3
theorem nc_of {S : List ByteArray} (h : clashB S = false) : NC (S.map (·.data.toList)) := by
  have hc : ∀ (i k : Nat) (hi : i < S.length) (hk : k < i), shaF (S[k]'(by omega)).data.toList = shaF S[i].data.toList → S[k]'(by omega) = S[i] := fun i k hi hk he => by
    unfold clashB at h
    rw [List.any_eq_false] at h
    have h1 := h i (List.mem_range.2 hi)
    rw [Bool.not_eq_true, List.any_eq_false] at h1
    have h2 := h1 k (List.mem_range.2 hk)
    unfold clashAt at h2
    rw [List.getElem?_eq_getElem hi, List.getElem?_eq_getElem (by omega : k < S.length)] at h2
    simp only [] at h2
    rw [he, beq_self_eq_true, Bool.true_and, bne, Bool.not_eq_true', Bool.not_eq_false] at h2
    exact tl_eq.1 h2
  intro a ha b hb he
  obtain ⟨x, hx, rfl⟩ := List.mem_map.1 ha
  obtain ⟨y, hy, rfl⟩ := List.mem_map.1 hb
  obtain ⟨i, hi, rfl⟩ := List.getElem_of_mem hx
  obtain ⟨j, hj, rfl⟩ := List.getElem_of_mem hy
  rcases Nat.lt_trichotomy i j with h1 | h1 | h1
  · rw [hc j i hj h1 he]
  · subst h1; rfl
  · rw [hc i j hi h1 he.symm]
end Go.Proofs.YtfikbaoiialfeaaDoor
