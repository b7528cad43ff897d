/- ProofShows walked. -/
import Derived.Test.YtfikbaoiialfeaaDoorGZ
import Derived.Test.YtfikbaoiialfeaaDoorPt3
import Derived.Test.YtfikbaoiialfeaaDoorVal4
import Derived.Test.YtfikbaoiialfeaaDoorGY
import Derived.Test.YtfikbaoiialfeaaDoorGP
import Derived.BigRegion
import Derived.Deep.MidRow
import Derived.LoopTactic
import Derived.BigFrame
import Derived.WalkKit
import Derived.ProofKit
import Derived.Handy
import Derived.Below
import Derived.Lib.Hide
import Derived.IntWalk
import Derived.Outline
import Derived.WalkLawsBesides
import Derived.WalkSpells
namespace Go.Proofs.YtfikbaoiialfeaaDoor
open Go.RowKit
attribute [local go_sem] strV
set_option linter.unusedVariables false
set_option maxRecDepth 100000 in
set_option maxHeartbeats 25600000 in
theorem walkProofShows (a : Option Addr) (n cap : Nat) (l : List Pr) (key : ByteArray) (w : World) (hS : SW w) (hr : RowAt w a (l.flatMap Pr.cells)) (hn : l.length = n) (hcap : n ≤ cap) (hcm : cap ≤ maxLen) (hsz : ∀ p ∈ l, p.k.size ≤ maxLen ∧ p.v.size ≤ maxLen) (hks : key.size ≤ maxLen) :
    Calls Tryd.prog 5 #[.slice a n cap, .string key] w fun e w' => e = .returned (.bool true) ∧ Below w.heap.size w w' := by
  clear hsz
  obtain ⟨M, hM, hM2⟩ : ∃ M : Nat, min (n : Int) 41 = (M : Int) ∧ M ≤ n ∧ M ≤ 41 := by
    by_cases h : (41 : Int) < (n : Int)
    · exact ⟨41, by omega, by omega, by omega⟩
    · exact ⟨n, by omega, by omega, by omega⟩
  have hmn := hM2.1
  have hm41 := hM2.2
  have hrT : RowAt w a ((l.take M).flatMap Pr.cells) := by
    rcases hr with h | ⟨b, off, ha, hlt, hc⟩
    · left
      have h2 := pr_flat_len l
      rw [h, List.length_nil] at h2
      obtain rfl : l = [] := List.eq_nil_of_length_eq_zero (by omega)
      rw [List.take_nil]; rfl
    · refine .inr ⟨b, off, ha, hlt, fun j hj => ?_⟩
      have h9 : ((l.take M).flatMap Pr.cells)[j]? = some ((l.take M).flatMap Pr.cells)[j] := List.getElem?_eq_getElem hj
      have h8 := pr_take M j _ h9
      rw [hc j (List.getElem?_eq_some_iff.1 h8).1, h8, h9]
  have hlT : (l.take M).length = M := by rw [List.length_take]; omega
  have hgR := rise_good (l.take M)
  have hlR := rise_len (l.take M)
  have CRi := fun W (hb : Below w.heap.size w W) => rise_any a M cap (l.take M) W (hrT.below hb) hlT (by omega) (by omega)
  obtain ⟨R, hR⟩ : ∃ R, riseL (l.take M) = R := ⟨_, rfl⟩
  rw [hR] at hgR hlR
  simp only [hR] at CRi
  rw [hlT] at hlR
  clear hR hrT hlT hM2 hr
  have hm0 : (0 : Int) ≤ (M : Int) := by omega
  have hm1 : (M : Int) ≤ (cap : Int) := by omega
  have hm2 : ((M : Nat) : Int).toNat = M := by omega
  obtain ⟨m, hmR9⟩ : ∃ m, R.length = m := ⟨_, rfl⟩
  have hm6 : m ≤ 41 := by omega
  simp only [hmR9] at CRi
  have HML := Lib.hid hmR9
  have HGD := Lib.hid hgR
  have HN := Lib.hid hn
  clear hn hmn hlR hmR9 hgR
  have hbel := Below.refl w.heap.size w
  have hcm2 : cap ≤ 9223372036854775807 := by unfold maxLen at hcm; exact hcm
  go_enter Tryd.func5, Tryd.ntmps5
  go_upto_region 4 with (first | (go_at_call 27; refine (first7_any _ (hS.below hbel)).mono ?_; rintro e w2 ⟨rfl, hb⟩; have hbel := hbel.trans (hb.mono hbel.size); clear hb) | (go_at_call 28; refine (CRi _ hbel).mono ?_; rintro e w2 ⟨vR, rfl, hoR, hb⟩; have hbel := hbel.trans (hb.mono hbel.size); obtain ⟨aR, cR, rfl, hrR, hcR, hmR, haR⟩ := own_sliceQ hoR; clear hoR; clear hb))
  obtain ⟨W4, hW4⟩ : ∃ W, w2 = W := ⟨_, rfl⟩
  subst hW4
  have hb4 := hbel
  clear CRi hm0 hm1 hm2 hM hm41 hcm hcm2 hcap
  have hbW := Below.refl w2.heap.size w2
  have CLp := fun W (hb : Below w2.heap.size w2 W) => lightPrs_any aR m cR R W (hrR.below hb) HML.out hcR hmR
  obtain ⟨kl, el⟩ : ∃ b, lightPrs R = b := ⟨_, rfl⟩
  simp only [el] at CLp
  clear el
  cases kl
  · go_wp2_with (first | (go_at_call 29; refine (CLp _ hbW).mono ?_; rintro e w3 ⟨rfl, hb⟩; have hbW := hbW.trans (hb.mono hbW.size); clear hb) | (go_at_call 27; refine (first7_any _ (hS.below (hb4.trans (hbW.mono hb4.size)))).mono ?_; rintro e w3 ⟨rfl, hb⟩; have hbW := hbW.trans (hb.mono hbW.size); clear hb))
    go_ret
    exact ⟨by first | rfl | simp, hb4.trans (hbW.mono hb4.size)⟩
  by_cases c1 : key.size < 1
  · have d1 : decide ((key.size : Int) < 1) = true := decide_eq_true (by omega)
    have d1n : decide (key.size < 1) = true := decide_eq_true c1
    clear c1 hks
    go_wp2_with (first | (go_at_call 29; refine (CLp _ hbW).mono ?_; rintro e w3 ⟨rfl, hb⟩; have hbW := hbW.trans (hb.mono hbW.size); clear hb) | (go_at_call 27; refine (first7_any _ (hS.below (hb4.trans (hbW.mono hb4.size)))).mono ?_; rintro e w3 ⟨rfl, hb⟩; have hbW := hbW.trans (hb.mono hbW.size); clear hb))
    go_ret
    exact ⟨by first | rfl | simp, hb4.trans (hbW.mono hb4.size)⟩
  by_cases c2 : 160 < key.size
  · have d1 : decide ((key.size : Int) < 1) = false := decide_eq_false (by omega)
    have d1n : decide (key.size < 1) = false := decide_eq_false c1
    have d2 : decide (160 < (key.size : Int)) = true := decide_eq_true (by omega)
    have d2n : decide (160 < key.size) = true := decide_eq_true c2
    clear c1 c2 hks
    go_wp2_with (first | (go_at_call 29; refine (CLp _ hbW).mono ?_; rintro e w3 ⟨rfl, hb⟩; have hbW := hbW.trans (hb.mono hbW.size); clear hb) | (go_at_call 27; refine (first7_any _ (hS.below (hb4.trans (hbW.mono hb4.size)))).mono ?_; rintro e w3 ⟨rfl, hb⟩; have hbW := hbW.trans (hb.mono hbW.size); clear hb))
    go_ret
    exact ⟨by first | rfl | simp, hb4.trans (hbW.mono hb4.size)⟩
  have d1 : decide ((key.size : Int) < 1) = false := decide_eq_false (by omega)
  have d1n : decide (key.size < 1) = false := decide_eq_false c1
  have d2 : decide (160 < (key.size : Int)) = false := decide_eq_false (by omega)
  have d2n : decide (160 < key.size) = false := decide_eq_false c2
  clear c1 c2 hks
  have CO := fun W (hb : Below w2.heap.size w2 W) => own_any aR m cR R W (hrR.below hb) HML.out (by omega) hcR
  have hs6 : ∀ p ∈ R, p.k.size ≤ 1000000 ∧ p.v.size ≤ 1000000 := fun p hp => by have := goodL_fits HGD.out hp; omega
  obtain ⟨Q, hQ⟩ : ∃ t : H32, rootF (m : Int) (topH (R.map leafH)).1 = t.1 := ⟨⟨_, rootF_len _ _⟩, rfl⟩
  have CR1 := fun W am cm (hb : Below w2.heap.size w2 W) (hrm : RowAt W am (R.flatMap Pr.cells)) (h1 : m ≤ cm) => proofRoot_any am m cm R W (hS.below (hb4.trans (hb.mono hb4.size))) hrm HML.out (by omega) h1 hs6
  simp only [hQ] at CR1
  have HQ := Lib.hid hQ
  have hQs : (hrow Q.1).size = 32 := by rw [hrow_size]; exact Q.2
  have hQo := hrow_one Q.1
  clear hQ hs6
  go_upto_region 8 with (first | (go_at_call 29; refine (CLp _ hbW).mono ?_; rintro e w3 ⟨rfl, hb⟩; have hbW := hbW.trans (hb.mono hbW.size); clear hb) | (go_at_call 30; refine (CO _ hbW).mono ?_; rintro e w3 ⟨vm, rfl, hom, hb⟩; have hbW := hbW.trans (hb.mono hbW.size); obtain ⟨am, cm, rfl, hrm, hm1, hm2⟩ := own_sliceH hom; clear hom; clear hb) | (go_at_call 31; refine (CR1 _ am cm hbW hrm hm1).mono ?_; rintro e w3 ⟨rfl, hb⟩; have hbW := hbW.trans (hb.mono hbW.size); have hrm := hrm.below hb; clear hb) | (refine wpList_storeRowTo (Z := hrow Q.1) rfl (.tmp 6) (.tmp 40) 25 rfl (by rw [hQs]; kernel_rfl) rfl (by rfl) (heap_push _ _ _) (by rw [hQs]; rfl) hQo ?_))
  refine wp_nameE _ (fun W8 hX => ?_)
  have hbA : Below w3.heap.size w3 W8 := by rw [hX]; exact below_setRow (Below.alloc (Below.refl _ _) (Nat.le_refl _) _) (Nat.le_refl _) _
  have hQ8 : W8.heap[w3.heap.size]? = some (.cells (hrow Q.1) 25 (0, 0)) := by rw [hX]; exact setRow_heap _ _ _ _ _ _ (heap_push _ _ _)
  have hrm := hrm.below hbA
  have hrR := hrR.below (hbW.trans (hbA.mono hbW.size))
  have hb8 := (hb4.trans (hbW.mono hb4.size)).trans (hbA.mono (hb4.trans (hbW.mono hb4.size)).size)
  obtain ⟨g6, hg6⟩ : ∃ g, w3.heap.size = g := ⟨_, rfl⟩
  rw [hg6] at hQ8
  simp only [hg6]
  clear hX hbA hbW CO CR1 CLp hg6 hbel hb4 d1 d1n d2 d2n
  have hg6l := (Array.getElem?_eq_some_iff.1 hQ8).1
  have CMk0 := fun (pk : ByteArray) W (hb : Below W8.heap.size W8 W) => make_any am m cm R pk W (hS.below (hb8.trans (hb.mono hb8.size))) (hrm.below hb) HML.out hm1 hm2 (by omega)
  unfold MakePost at CMk0
  have hMC : makeC R = (m : Int) := by unfold makeC; rw [if_pos HGD.out, HML.out]
  simp only [hMC] at CMk0
  clear hMC
  go_upto_region 10 with fail
  go_loopw [7, 8] (fun th i wr => ∃ k : Nat, k ≤ m ∧ i = .int .i64 k ∧ th = .bool (amongB R k key) ∧ Below W8.heap.size W8 wr) (fun _ i _ => m - (intOf i).toNat)
  case atStart => exact ⟨0, Nat.zero_le _, rfl, rfl, Below.refl _ _⟩
  case round =>
    obtain ⟨k, hk, rfl, rfl, hbW⟩ := hrel
    obtain ⟨tb, htb⟩ : ∃ b, amongB R k key = b := ⟨_, rfl⟩
    simp only [htb]
    by_cases hlt : k < m
    · have d1 : decide ((k : Int) < (m : Int)) = true := decide_eq_true (by omega)
      have d1n : decide (k < m) = true := decide_eq_true hlt
      have hkl : k < R.length := by rw [HML.out]; exact hlt
      obtain ⟨b1, o1, rfl, hb1, hg1⟩ := pr_range (hrR.below hbW) hkl
      have hbW0 := hbW
      have hb1' : b1 < W8.heap.size := by
        rcases hrR with h | ⟨b2, o2, e2, h2, _⟩
        · have h2 := pr_flat_len R; rw [h, List.length_nil] at h2; omega
        · simp only [Option.some.injEq, Addr.mk.injEq] at e2
          rw [e2.1]; exact h2
      have hat := fun us hx => ps_at (us := us) HGD.out (by rw [HML.out]; omega) hkl hx
      have hlk := fun us (hx : us.map LeafV.d = makeD R R[k].k) => ps_lacks (us := us) HGD.out (by rw [HML.out]; omega) hx
      have hfk : foundL R R[k].k = true := found_of HGD.out hkl rfl
      have hmy := fun us (hx : us.map LeafV.d = makeD R R[k].k) => ps_may (us := us) HGD.out (by rw [HML.out]; omega) hx
      have hft := goodL_fits HGD.out (List.getElem_mem hkl)
      have hst := among_step hkl key
      rw [htb] at hst
      rw [HML.out, HQ.out] at hat hlk
      rw [HML.out] at hmy
      obtain ⟨p, hp9⟩ : ∃ p, R[k] = p := ⟨_, rfl⟩
      rw [hp9] at hg1 hat hlk hfk hmy hft hst
      simp only [hfk, Bool.not_true] at hlk
      have HST := Lib.hid hst
      have HAT := Lib.hid hat
      have HLK := Lib.hid hlk
      have HMY := Lib.hid hmy
      have q0 : wr.cell? ⟨b1, o1 + k * 2, none⟩ = some (.string p.k) := hg1 0 _ rfl
      have q1 : wr.cell? ⟨b1, o1 + k * 2 + 1, none⟩ = some (.string p.v) := hg1 1 _ rfl
      have n0 : (0 : Int) ≤ (k : Int) := by omega
      have n1 : (k : Int) < (m : Int) := by omega
      have n2 : ((k : Nat) : Int).toNat = k := by omega
      have hvs : p.v.size ≤ 64 := hft.2.2
      clear hat hlk hfk hmy hst hp9 hg1 htb hft
      have CMk := CMk0 p.k
      go_upto_region 13 with (first | (go_at_call 32; refine (CMk _ hbW).mono ?_; rintro e w3 ⟨a3, k3, c3, us, rfl, hL3, hl3, hc3, hm3, hd3, hb⟩; have hbW := hbW.trans (hb.mono hbW.size); clear hb) | (refine wpList_storeRowTo (Z := #[.int .i64 (m : Int), .slice a3 k3 c3]) rfl (.tmp 9) (.tmp 53) 46 rfl (by kernel_rfl) rfl (by rfl) (heap_push _ _ _) rfl (pf_oneM _ _ _ _) ?_))
      refine wp_nameE _ (fun W12 hX => ?_)
      have hbA : Below w3.heap.size w3 W12 := by rw [hX]; exact below_setRow (Below.alloc (Below.refl _ _) (Nat.le_refl _) _) (Nat.le_refl _) _
      have hP12 : W12.heap[w3.heap.size]? = some (.cells #[.int .i64 (m : Int), .slice a3 k3 c3] 46 (0, 0)) := by rw [hX]; exact setRow_heap _ _ _ _ _ _ (heap_push _ _ _)
      have hL3 := hL3.below hbA
      have hbW := hbW.trans (hbA.mono hbW.size)
      have hQ12 := cells_of hQ8 hbW hg6l
      have hQl := (Array.getElem?_eq_some_iff.1 hQ12).1
      have hPl := (Array.getElem?_eq_some_iff.1 hP12).1
      obtain ⟨g9, hg9⟩ : ∃ g, w3.heap.size = g := ⟨_, rfl⟩
      rw [hg9] at hP12 hPl
      simp only [hg9]
      clear hX hbA hg9
      have hc0 : ∀ ad v, ad.block < W8.heap.size → wr.cell? ad = some v → W12.cell? ad = some v := fun ad v h1 h2 => by rw [← h2, hbW.cell (p := ad) h1, ← hbW0.cell (p := ad) h1]
      have q0 : W12.cell? ⟨b1, o1 + k * 2, none⟩ = some (.string p.k) := hc0 _ _ hb1' q0
      have q1 : W12.cell? ⟨b1, o1 + k * 2 + 1, none⟩ = some (.string p.v) := hc0 _ _ hb1' q1
      have hb1 : b1 < W12.heap.size := Nat.lt_of_lt_of_le hb1' hbW.size
      have hknc : k3 ≤ c3 ∧ c3 ≤ maxLen := ⟨hc3, hm3⟩
      have hS12 := hS.below (hb8.trans (hbW.mono hb8.size))
      have eV := HAT.out us hd3
      have eK := HLK.out us hd3
      have eM := HMY.out us hd3
      have CV := fun W (hb : Below W12.heap.size W12 W) => value_any Q.1 Q.2 (m : Int) a3 k3 c3 us p.k W (hS12.below hb) (hL3.below hb) hl3 hknc
      simp only [eV] at CV
      have CH1 := fun W (hb : Below W12.heap.size W12 W) => has_any Q.1 Q.2 (m : Int) a3 k3 c3 us p.k p.v W (hS12.below hb) (hL3.below hb) hl3 hknc
      have CH2 := fun W (hb : Below W12.heap.size W12 W) => has_any Q.1 Q.2 (m : Int) a3 k3 c3 us p.k (p.v ++ ⟨#[120]⟩) W (hS12.below hb) (hL3.below hb) hl3 hknc
      unfold hasF at CH1 CH2
      simp only [eV, beq_self_eq_true, Bool.and_self, ps_x, Bool.and_false] at CH1 CH2
      have CK := fun W (hb : Below W12.heap.size W12 W) => lacks_any Q.1 Q.2 (m : Int) a3 k3 c3 us p.k W (hS12.below hb) (hL3.below hb) hl3 hknc
      simp only [eK] at CK
      have CY := fun W (hb : Below W12.heap.size W12 W) => mayPf_any (m : Int) a3 k3 c3 us W (hL3.below hb) hl3 (Nat.le_trans hc3 hm3)
      simp only [eM] at CY
      clear eV eK eM hc0 CMk hl3
      refine wp_region_facts [Fact.eq (.agg (hrow Q.1)), Fact.eq (.agg #[.int .i64 (m : Int), .slice a3 k3 c3]), Fact.eq (.slice (some ⟨b1, o1, none⟩) m cR), Fact.eq (.int .i64 (k : Int)), Fact.eq (.pointer (some ⟨b1, o1 + k * 2, none⟩)), Fact.eq (.pointer (some ⟨b1, o1 + k * 2, none⟩)), Fact.eq (.string p.k), Fact.eq (.tuple #[.string p.v, .bool true]), Fact.eq (.tuple #[.string p.v, .bool true]), Fact.eq (.string p.v), Fact.eq (.bool true), Fact.eq (.string p.v), Fact.eq (.bool true)] (by kernel_rfl) (by kernel_rfl) (by kernel_rfl) (by kernel_rfl) (fun x => by simp only [fillFrom, Act.put, List.setIfInBounds_toArray, List.set_cons_succ, List.set_cons_zero]; rfl) ?_ ?_
      · refine ⟨?_, ?_, ?_, ?_, ?_, ?_, ?_, ?_, ?_, ?_, ?_, ?_, ?_, trivial⟩
        · intro x w' hbw hd
          clear hd
          have hrQ := cells_of hQ12 hbw hQl
          go_wp2_with (first | (refine wpList_load_midG 25 (.tmp 6) rfl g6 0 rfl Q.cells _ (hrow_range hrQ) Tryd.underlying25 rfl (hash_info Q) (by first | rfl | (simp [Region.wanted, yielded, *]; done)) ?_; rw [H32.row]))
          exact frPost_mk rfl (by repeat (first | assumption | exact Below.refl _ _ | refine bch ?_ (by assumption) | refine Below.alloc ?_ (by simp) _)) rfl
        · intro x w' hbw hd
          clear hd
          have hrP := cells_of hP12 hbw hPl
          go_wp2_with (first | (refine wpList_load_midG 46 (.tmp 9) rfl g9 0 rfl (#[.int .i64 (m : Int), .slice a3 k3 c3] : Array Value).toList _ (rangeAt_row5 hrP) Tryd.underlying46 rfl (by kernel_rfl) (by first | rfl | (simp [Region.wanted, yielded, *]; done)) ?_; rw [Array.toArray_toList]))
          exact frPost_mk rfl (by repeat (first | assumption | exact Below.refl _ _ | refine bch ?_ (by assumption) | refine Below.alloc ?_ (by simp) _)) rfl
        · intro x w' hbw hd
          clear hd
          go_wp2_with fail
          exact frPost_mk rfl (by repeat (first | assumption | exact Below.refl _ _ | refine bch ?_ (by assumption) | refine Below.alloc ?_ (by simp) _)) rfl
        · intro x w' hbw hd
          clear hd
          go_wp2_with fail
          exact frPost_mk rfl (by repeat (first | assumption | exact Below.refl _ _ | refine bch ?_ (by assumption) | refine Below.alloc ?_ (by simp) _)) rfl
        · intro x w' hbw hd
          have d2 : x 2 = .slice (some ⟨b1, o1, none⟩) m cR := hd 2 rfl
          have d3 : x 3 = .int .i64 (k : Int) := hd 3 rfl
          clear hd
          go_wp2_with fail
          exact frPost_mk rfl (by repeat (first | assumption | exact Below.refl _ _ | refine bch ?_ (by assumption) | refine Below.alloc ?_ (by simp) _)) (by first | rfl | (show Value.pointer _ = Value.pointer _; simp))
        · intro x w' hbw hd
          have d4 : x 4 = .pointer (some ⟨b1, o1 + k * 2, none⟩) := hd 4 rfl
          clear hd
          go_wp2_with fail
          exact frPost_mk rfl (by repeat (first | assumption | exact Below.refl _ _ | refine bch ?_ (by assumption) | refine Below.alloc ?_ (by simp) _)) rfl
        · intro x w' hbw hd
          have d5 : x 5 = .pointer (some ⟨b1, o1 + k * 2, none⟩) := hd 5 rfl
          clear hd
          have cq : w'.cell? ⟨b1, o1 + k * 2, none⟩ = some (.string p.k) := by rw [hbw.cell (p := ⟨b1, o1 + k * 2, none⟩) hb1]; exact q0
          go_wp2_with (first | fail)
          exact frPost_mk rfl (by repeat (first | assumption | exact Below.refl _ _ | refine bch ?_ (by assumption) | refine Below.alloc ?_ (by simp) _)) rfl
        · intro x w' hbw hd
          have d0 : x 0 = .agg (hrow Q.1) := hd 0 rfl
          have d1 : x 1 = .agg #[.int .i64 (m : Int), .slice a3 k3 c3] := hd 1 rfl
          have d6 : x 6 = .string p.k := hd 6 rfl
          clear hd
          have CC := CV w' hbw
          go_wp2_with (first | (go_at_call 33; refine (CC).mono ?_; rintro e wx ⟨rfl, hbx⟩))
          exact frPost_mk rfl (by repeat (first | assumption | exact Below.refl _ _ | refine bch ?_ (by assumption) | refine Below.alloc ?_ (by simp) _)) rfl
        · intro x w' hbw hd
          have d7 : x 7 = .tuple #[.string p.v, .bool true] := hd 7 rfl
          clear hd
          go_wp2_with fail
          exact frPost_mk rfl (by repeat (first | assumption | exact Below.refl _ _ | refine bch ?_ (by assumption) | refine Below.alloc ?_ (by simp) _)) rfl
        · intro x w' hbw hd
          have d8 : x 8 = .tuple #[.string p.v, .bool true] := hd 8 rfl
          clear hd
          go_wp2_with fail
          exact frPost_mk rfl (by repeat (first | assumption | exact Below.refl _ _ | refine bch ?_ (by assumption) | refine Below.alloc ?_ (by simp) _)) rfl
        · intro x w' hbw hd
          have d8 : x 8 = .tuple #[.string p.v, .bool true] := hd 8 rfl
          clear hd
          go_wp2_with fail
          exact frPost_mk rfl (by repeat (first | assumption | exact Below.refl _ _ | refine bch ?_ (by assumption) | refine Below.alloc ?_ (by simp) _)) rfl
        · intro x w' hbw hd
          have d9 : x 9 = .string p.v := hd 9 rfl
          clear hd
          go_wp2_with fail
          exact frPost_mk rfl (by repeat (first | assumption | exact Below.refl _ _ | refine bch ?_ (by assumption) | refine Below.alloc ?_ (by simp) _)) rfl
        · intro x w' hbw hd
          have d10 : x 10 = .bool true := hd 10 rfl
          clear hd
          go_wp2_with fail
          exact frPost_mk rfl (by repeat (first | assumption | exact Below.refl _ _ | refine bch ?_ (by assumption) | refine Below.alloc ?_ (by simp) _)) rfl
      intro x w13 hbw hall
      have h9a : x 11 = .string p.v := hall 11 (by decide)
      have h9b : x 12 = .bool true := hall 12 (by decide)
      clear hall
      simp only [h9a, h9b]
      have hbW := hbW.trans (hbw.mono hbW.size)
      have hQ12 := cells_of hQ12 hbw hQl
      have hP12 := cells_of hP12 hbw hPl
      have hQl := Nat.lt_of_lt_of_le hQl hbw.size
      have hPl := Nat.lt_of_lt_of_le hPl hbw.size
      have q0 : w13.cell? ⟨b1, o1 + k * 2, none⟩ = some (.string p.k) := by rw [hbw.cell (p := ⟨b1, o1 + k * 2, none⟩) hb1]; exact q0
      have q1 : w13.cell? ⟨b1, o1 + k * 2 + 1, none⟩ = some (.string p.v) := by rw [hbw.cell (p := ⟨b1, o1 + k * 2 + 1, none⟩) hb1]; exact q1
      have hb1 := Nat.lt_of_lt_of_le hb1 hbw.size
      have CH1 := fun W (hb : Below w13.heap.size w13 W) => CH1 W (hbw.trans (hb.mono hbw.size))
      have CH2 := fun W (hb : Below w13.heap.size w13 W) => CH2 W (hbw.trans (hb.mono hbw.size))
      have CK := fun W (hb : Below w13.heap.size w13 W) => CK W (hbw.trans (hb.mono hbw.size))
      have CY := fun W (hb : Below w13.heap.size w13 W) => CY W (hbw.trans (hb.mono hbw.size))
      clear CV hbw
      go_upto_region 14 with fail
      refine wp_region_facts [Fact.eq (.bool true), Fact.eq (.bool false), Fact.eq (.bool false), Fact.eq (.string p.v), Fact.eq (.slice (some ⟨b1, o1, none⟩) m cR), Fact.eq (.int .i64 (k : Int)), Fact.eq (.pointer (some ⟨b1, o1 + k * 2, none⟩)), Fact.eq (.pointer (some ⟨b1, o1 + k * 2 + 1, none⟩)), Fact.eq (.string p.v), Fact.eq (.bool false), Fact.eq (.bool false), Fact.eq (.bool false), Fact.eq (.agg (hrow Q.1)), Fact.eq (.agg #[.int .i64 (m : Int), .slice a3 k3 c3]), Fact.eq (.slice (some ⟨b1, o1, none⟩) m cR), Fact.eq (.int .i64 (k : Int)), Fact.eq (.pointer (some ⟨b1, o1 + k * 2, none⟩)), Fact.eq (.pointer (some ⟨b1, o1 + k * 2, none⟩)), Fact.eq (.string p.k), Fact.eq (.string p.v), Fact.eq (.bool true), Fact.eq (.bool false), Fact.eq (.bool false), Fact.eq (.bool false), Fact.eq (.agg (hrow Q.1)), Fact.eq (.agg #[.int .i64 (m : Int), .slice a3 k3 c3]), Fact.eq (.slice (some ⟨b1, o1, none⟩) m cR), Fact.eq (.int .i64 (k : Int)), Fact.eq (.pointer (some ⟨b1, o1 + k * 2, none⟩)), Fact.eq (.pointer (some ⟨b1, o1 + k * 2, none⟩)), Fact.eq (.string p.k), Fact.eq (.string p.v), Fact.eq (.string (p.v ++ ⟨#[120]⟩)), Fact.eq (.bool false), Fact.eq (.bool false), Fact.eq (.bool false), Fact.eq (.agg (hrow Q.1)), Fact.eq (.agg #[.int .i64 (m : Int), .slice a3 k3 c3]), Fact.eq (.slice (some ⟨b1, o1, none⟩) m cR), Fact.eq (.int .i64 (k : Int)), Fact.eq (.pointer (some ⟨b1, o1 + k * 2, none⟩)), Fact.eq (.pointer (some ⟨b1, o1 + k * 2, none⟩)), Fact.eq (.string p.k), Fact.eq (.bool false), Fact.eq (.bool false), Fact.eq (.bool false), Fact.eq (.agg #[.int .i64 (m : Int), .slice a3 k3 c3]), Fact.eq (.bool true), Fact.eq (.bool false), Fact.eq (.bool false)] (by kernel_rfl) (by kernel_rfl) (by kernel_rfl) (by kernel_rfl) (fun x => by simp only [fillFrom, Act.put, List.setIfInBounds_toArray, List.set_cons_succ, List.set_cons_zero]; rfl) ?_ ?_
      · refine ⟨?_, ?_, ?_, ?_, ?_, ?_, ?_, ?_, ?_, ?_, ?_, ?_, ?_, ?_, ?_, ?_, ?_, ?_, ?_, ?_, ?_, ?_, ?_, ?_, ?_, ?_, ?_, ?_, ?_, ?_, ?_, ?_, ?_, ?_, ?_, ?_, ?_, ?_, ?_, ?_, ?_, ?_, ?_, ?_, ?_, ?_, ?_, ?_, ?_, ?_, trivial⟩
        · intro x w' hbw hd
          clear hd
          go_wp2_with fail
          exact frPost_mk rfl (by repeat (first | assumption | exact Below.refl _ _ | refine bch ?_ (by assumption) | refine Below.alloc ?_ (by simp) _)) rfl
        · intro x w' hbw hd
          have d0 : x 0 = .bool true := hd 0 rfl
          clear hd
          go_wp2_with fail
          exact frPost_mk rfl (by repeat (first | assumption | exact Below.refl _ _ | refine bch ?_ (by assumption) | refine Below.alloc ?_ (by simp) _)) rfl
        · intro x w' hbw hd
          have d1 : x 1 = .bool false := hd 1 rfl
          clear hd
          go_wp2_with fail
          exact frPost_mk rfl (by repeat (first | assumption | exact Below.refl _ _ | refine bch ?_ (by assumption) | refine Below.alloc ?_ (by simp) _)) rfl
        · intro x w' hbw hd
          have d2 : x 2 = .bool false := hd 2 rfl
          clear hd
          go_wp2_with fail
          exact frPost_mk rfl (by repeat (first | assumption | exact Below.refl _ _ | refine bch ?_ (by assumption) | refine Below.alloc ?_ (by simp) _)) rfl
        · intro x w' hbw hd
          have d2 : x 2 = .bool false := hd 2 rfl
          clear hd
          go_wp2_with fail
          exact frPost_mk rfl (by repeat (first | assumption | exact Below.refl _ _ | refine bch ?_ (by assumption) | refine Below.alloc ?_ (by simp) _)) rfl
        · intro x w' hbw hd
          have d2 : x 2 = .bool false := hd 2 rfl
          clear hd
          go_wp2_with fail
          exact frPost_mk rfl (by repeat (first | assumption | exact Below.refl _ _ | refine bch ?_ (by assumption) | refine Below.alloc ?_ (by simp) _)) rfl
        · intro x w' hbw hd
          have d2 : x 2 = .bool false := hd 2 rfl
          have d4 : x 4 = .slice (some ⟨b1, o1, none⟩) m cR := hd 4 rfl
          have d5 : x 5 = .int .i64 (k : Int) := hd 5 rfl
          clear hd
          go_wp2_with fail
          exact frPost_mk rfl (by repeat (first | assumption | exact Below.refl _ _ | refine bch ?_ (by assumption) | refine Below.alloc ?_ (by simp) _)) (by first | rfl | (show Value.pointer _ = Value.pointer _; simp))
        · intro x w' hbw hd
          have d2 : x 2 = .bool false := hd 2 rfl
          have d6 : x 6 = .pointer (some ⟨b1, o1 + k * 2, none⟩) := hd 6 rfl
          clear hd
          go_wp2_with fail
          exact frPost_mk rfl (by repeat (first | assumption | exact Below.refl _ _ | refine bch ?_ (by assumption) | refine Below.alloc ?_ (by simp) _)) rfl
        · intro x w' hbw hd
          have d2 : x 2 = .bool false := hd 2 rfl
          have d7 : x 7 = .pointer (some ⟨b1, o1 + k * 2 + 1, none⟩) := hd 7 rfl
          clear hd
          have cq : w'.cell? ⟨b1, o1 + k * 2 + 1, none⟩ = some (.string p.v) := by rw [hbw.cell (p := ⟨b1, o1 + k * 2 + 1, none⟩) hb1]; exact q1
          go_wp2_with (first | fail)
          exact frPost_mk rfl (by repeat (first | assumption | exact Below.refl _ _ | refine bch ?_ (by assumption) | refine Below.alloc ?_ (by simp) _)) rfl
        · intro x w' hbw hd
          have d2 : x 2 = .bool false := hd 2 rfl
          have d3 : x 3 = .string p.v := hd 3 rfl
          have d8 : x 8 = .string p.v := hd 8 rfl
          clear hd
          go_wp2_with fail
          exact frPost_mk rfl (by repeat (first | assumption | exact Below.refl _ _ | refine bch ?_ (by assumption) | refine Below.alloc ?_ (by simp) _)) rfl
        · intro x w' hbw hd
          have d2 : x 2 = .bool false := hd 2 rfl
          have d9 : x 9 = .bool false := hd 9 rfl
          clear hd
          go_wp2_with fail
          exact frPost_mk rfl (by repeat (first | assumption | exact Below.refl _ _ | refine bch ?_ (by assumption) | refine Below.alloc ?_ (by simp) _)) rfl
        · intro x w' hbw hd
          have d10 : x 10 = .bool false := hd 10 rfl
          clear hd
          go_wp2_with fail
          exact frPost_mk rfl (by repeat (first | assumption | exact Below.refl _ _ | refine bch ?_ (by assumption) | refine Below.alloc ?_ (by simp) _)) rfl
        · intro x w' hbw hd
          have d11 : x 11 = .bool false := hd 11 rfl
          clear hd
          have hrQ := cells_of hQ12 hbw hQl
          go_wp2_with (first | (refine wpList_load_midG 25 (.tmp 6) rfl g6 0 rfl Q.cells _ (hrow_range hrQ) Tryd.underlying25 rfl (hash_info Q) (by first | rfl | (simp [Region.wanted, yielded, *]; done)) ?_; rw [H32.row]))
          exact frPost_mk rfl (by repeat (first | assumption | exact Below.refl _ _ | refine bch ?_ (by assumption) | refine Below.alloc ?_ (by simp) _)) rfl
        · intro x w' hbw hd
          have d11 : x 11 = .bool false := hd 11 rfl
          clear hd
          have hrP := cells_of hP12 hbw hPl
          go_wp2_with (first | (refine wpList_load_midG 46 (.tmp 9) rfl g9 0 rfl (#[.int .i64 (m : Int), .slice a3 k3 c3] : Array Value).toList _ (rangeAt_row5 hrP) Tryd.underlying46 rfl (by kernel_rfl) (by first | rfl | (simp [Region.wanted, yielded, *]; done)) ?_; rw [Array.toArray_toList]))
          exact frPost_mk rfl (by repeat (first | assumption | exact Below.refl _ _ | refine bch ?_ (by assumption) | refine Below.alloc ?_ (by simp) _)) rfl
        · intro x w' hbw hd
          have d11 : x 11 = .bool false := hd 11 rfl
          clear hd
          go_wp2_with fail
          exact frPost_mk rfl (by repeat (first | assumption | exact Below.refl _ _ | refine bch ?_ (by assumption) | refine Below.alloc ?_ (by simp) _)) rfl
        · intro x w' hbw hd
          have d11 : x 11 = .bool false := hd 11 rfl
          clear hd
          go_wp2_with fail
          exact frPost_mk rfl (by repeat (first | assumption | exact Below.refl _ _ | refine bch ?_ (by assumption) | refine Below.alloc ?_ (by simp) _)) rfl
        · intro x w' hbw hd
          have d11 : x 11 = .bool false := hd 11 rfl
          have d14 : x 14 = .slice (some ⟨b1, o1, none⟩) m cR := hd 14 rfl
          have d15 : x 15 = .int .i64 (k : Int) := hd 15 rfl
          clear hd
          go_wp2_with fail
          exact frPost_mk rfl (by repeat (first | assumption | exact Below.refl _ _ | refine bch ?_ (by assumption) | refine Below.alloc ?_ (by simp) _)) (by first | rfl | (show Value.pointer _ = Value.pointer _; simp))
        · intro x w' hbw hd
          have d11 : x 11 = .bool false := hd 11 rfl
          have d16 : x 16 = .pointer (some ⟨b1, o1 + k * 2, none⟩) := hd 16 rfl
          clear hd
          go_wp2_with fail
          exact frPost_mk rfl (by repeat (first | assumption | exact Below.refl _ _ | refine bch ?_ (by assumption) | refine Below.alloc ?_ (by simp) _)) rfl
        · intro x w' hbw hd
          have d11 : x 11 = .bool false := hd 11 rfl
          have d17 : x 17 = .pointer (some ⟨b1, o1 + k * 2, none⟩) := hd 17 rfl
          clear hd
          have cq : w'.cell? ⟨b1, o1 + k * 2, none⟩ = some (.string p.k) := by rw [hbw.cell (p := ⟨b1, o1 + k * 2, none⟩) hb1]; exact q0
          go_wp2_with (first | fail)
          exact frPost_mk rfl (by repeat (first | assumption | exact Below.refl _ _ | refine bch ?_ (by assumption) | refine Below.alloc ?_ (by simp) _)) rfl
        · intro x w' hbw hd
          have d11 : x 11 = .bool false := hd 11 rfl
          clear hd
          go_wp2_with fail
          exact frPost_mk rfl (by repeat (first | assumption | exact Below.refl _ _ | refine bch ?_ (by assumption) | refine Below.alloc ?_ (by simp) _)) rfl
        · intro x w' hbw hd
          have d11 : x 11 = .bool false := hd 11 rfl
          have d12 : x 12 = .agg (hrow Q.1) := hd 12 rfl
          have d13 : x 13 = .agg #[.int .i64 (m : Int), .slice a3 k3 c3] := hd 13 rfl
          have d18 : x 18 = .string p.k := hd 18 rfl
          have d19 : x 19 = .string p.v := hd 19 rfl
          clear hd
          have CC := CH1 w' hbw
          go_wp2_with (first | (go_at_call 34; refine (CC).mono ?_; rintro e wx ⟨rfl, hbx⟩))
          exact frPost_mk rfl (by repeat (first | assumption | exact Below.refl _ _ | refine bch ?_ (by assumption) | refine Below.alloc ?_ (by simp) _)) rfl
        · intro x w' hbw hd
          have d11 : x 11 = .bool false := hd 11 rfl
          have d20 : x 20 = .bool true := hd 20 rfl
          clear hd
          go_wp2_with fail
          exact frPost_mk rfl (by repeat (first | assumption | exact Below.refl _ _ | refine bch ?_ (by assumption) | refine Below.alloc ?_ (by simp) _)) rfl
        · intro x w' hbw hd
          have d11 : x 11 = .bool false := hd 11 rfl
          have d21 : x 21 = .bool false := hd 21 rfl
          clear hd
          go_wp2_with fail
          exact frPost_mk rfl (by repeat (first | assumption | exact Below.refl _ _ | refine bch ?_ (by assumption) | refine Below.alloc ?_ (by simp) _)) rfl
        · intro x w' hbw hd
          have d22 : x 22 = .bool false := hd 22 rfl
          clear hd
          go_wp2_with fail
          exact frPost_mk rfl (by repeat (first | assumption | exact Below.refl _ _ | refine bch ?_ (by assumption) | refine Below.alloc ?_ (by simp) _)) rfl
        · intro x w' hbw hd
          have d23 : x 23 = .bool false := hd 23 rfl
          clear hd
          have hrQ := cells_of hQ12 hbw hQl
          go_wp2_with (first | (refine wpList_load_midG 25 (.tmp 6) rfl g6 0 rfl Q.cells _ (hrow_range hrQ) Tryd.underlying25 rfl (hash_info Q) (by first | rfl | (simp [Region.wanted, yielded, *]; done)) ?_; rw [H32.row]))
          exact frPost_mk rfl (by repeat (first | assumption | exact Below.refl _ _ | refine bch ?_ (by assumption) | refine Below.alloc ?_ (by simp) _)) rfl
        · intro x w' hbw hd
          have d23 : x 23 = .bool false := hd 23 rfl
          clear hd
          have hrP := cells_of hP12 hbw hPl
          go_wp2_with (first | (refine wpList_load_midG 46 (.tmp 9) rfl g9 0 rfl (#[.int .i64 (m : Int), .slice a3 k3 c3] : Array Value).toList _ (rangeAt_row5 hrP) Tryd.underlying46 rfl (by kernel_rfl) (by first | rfl | (simp [Region.wanted, yielded, *]; done)) ?_; rw [Array.toArray_toList]))
          exact frPost_mk rfl (by repeat (first | assumption | exact Below.refl _ _ | refine bch ?_ (by assumption) | refine Below.alloc ?_ (by simp) _)) rfl
        · intro x w' hbw hd
          have d23 : x 23 = .bool false := hd 23 rfl
          clear hd
          go_wp2_with fail
          exact frPost_mk rfl (by repeat (first | assumption | exact Below.refl _ _ | refine bch ?_ (by assumption) | refine Below.alloc ?_ (by simp) _)) rfl
        · intro x w' hbw hd
          have d23 : x 23 = .bool false := hd 23 rfl
          clear hd
          go_wp2_with fail
          exact frPost_mk rfl (by repeat (first | assumption | exact Below.refl _ _ | refine bch ?_ (by assumption) | refine Below.alloc ?_ (by simp) _)) rfl
        · intro x w' hbw hd
          have d23 : x 23 = .bool false := hd 23 rfl
          have d26 : x 26 = .slice (some ⟨b1, o1, none⟩) m cR := hd 26 rfl
          have d27 : x 27 = .int .i64 (k : Int) := hd 27 rfl
          clear hd
          go_wp2_with fail
          exact frPost_mk rfl (by repeat (first | assumption | exact Below.refl _ _ | refine bch ?_ (by assumption) | refine Below.alloc ?_ (by simp) _)) (by first | rfl | (show Value.pointer _ = Value.pointer _; simp))
        · intro x w' hbw hd
          have d23 : x 23 = .bool false := hd 23 rfl
          have d28 : x 28 = .pointer (some ⟨b1, o1 + k * 2, none⟩) := hd 28 rfl
          clear hd
          go_wp2_with fail
          exact frPost_mk rfl (by repeat (first | assumption | exact Below.refl _ _ | refine bch ?_ (by assumption) | refine Below.alloc ?_ (by simp) _)) rfl
        · intro x w' hbw hd
          have d23 : x 23 = .bool false := hd 23 rfl
          have d29 : x 29 = .pointer (some ⟨b1, o1 + k * 2, none⟩) := hd 29 rfl
          clear hd
          have cq : w'.cell? ⟨b1, o1 + k * 2, none⟩ = some (.string p.k) := by rw [hbw.cell (p := ⟨b1, o1 + k * 2, none⟩) hb1]; exact q0
          go_wp2_with (first | fail)
          exact frPost_mk rfl (by repeat (first | assumption | exact Below.refl _ _ | refine bch ?_ (by assumption) | refine Below.alloc ?_ (by simp) _)) rfl
        · intro x w' hbw hd
          have d23 : x 23 = .bool false := hd 23 rfl
          clear hd
          go_wp2_with fail
          exact frPost_mk rfl (by repeat (first | assumption | exact Below.refl _ _ | refine bch ?_ (by assumption) | refine Below.alloc ?_ (by simp) _)) rfl
        · intro x w' hbw hd
          have d23 : x 23 = .bool false := hd 23 rfl
          have d31 : x 31 = .string p.v := hd 31 rfl
          clear hd
          go_wp2_with fail
          exact frPost_mk rfl (by repeat (first | assumption | exact Below.refl _ _ | refine bch ?_ (by assumption) | refine Below.alloc ?_ (by simp) _)) rfl
        · intro x w' hbw hd
          have d23 : x 23 = .bool false := hd 23 rfl
          have d24 : x 24 = .agg (hrow Q.1) := hd 24 rfl
          have d25 : x 25 = .agg #[.int .i64 (m : Int), .slice a3 k3 c3] := hd 25 rfl
          have d30 : x 30 = .string p.k := hd 30 rfl
          have d32 : x 32 = .string (p.v ++ ⟨#[120]⟩) := hd 32 rfl
          clear hd
          have CC := CH2 w' hbw
          go_wp2_with (first | (go_at_call 34; refine (CC).mono ?_; rintro e wx ⟨rfl, hbx⟩))
          exact frPost_mk rfl (by repeat (first | assumption | exact Below.refl _ _ | refine bch ?_ (by assumption) | refine Below.alloc ?_ (by simp) _)) rfl
        · intro x w' hbw hd
          have d23 : x 23 = .bool false := hd 23 rfl
          have d33 : x 33 = .bool false := hd 33 rfl
          clear hd
          go_wp2_with fail
          exact frPost_mk rfl (by repeat (first | assumption | exact Below.refl _ _ | refine bch ?_ (by assumption) | refine Below.alloc ?_ (by simp) _)) rfl
        · intro x w' hbw hd
          have d34 : x 34 = .bool false := hd 34 rfl
          clear hd
          go_wp2_with fail
          exact frPost_mk rfl (by repeat (first | assumption | exact Below.refl _ _ | refine bch ?_ (by assumption) | refine Below.alloc ?_ (by simp) _)) rfl
        · intro x w' hbw hd
          have d35 : x 35 = .bool false := hd 35 rfl
          clear hd
          have hrQ := cells_of hQ12 hbw hQl
          go_wp2_with (first | (refine wpList_load_midG 25 (.tmp 6) rfl g6 0 rfl Q.cells _ (hrow_range hrQ) Tryd.underlying25 rfl (hash_info Q) (by first | rfl | (simp [Region.wanted, yielded, *]; done)) ?_; rw [H32.row]))
          exact frPost_mk rfl (by repeat (first | assumption | exact Below.refl _ _ | refine bch ?_ (by assumption) | refine Below.alloc ?_ (by simp) _)) rfl
        · intro x w' hbw hd
          have d35 : x 35 = .bool false := hd 35 rfl
          clear hd
          have hrP := cells_of hP12 hbw hPl
          go_wp2_with (first | (refine wpList_load_midG 46 (.tmp 9) rfl g9 0 rfl (#[.int .i64 (m : Int), .slice a3 k3 c3] : Array Value).toList _ (rangeAt_row5 hrP) Tryd.underlying46 rfl (by kernel_rfl) (by first | rfl | (simp [Region.wanted, yielded, *]; done)) ?_; rw [Array.toArray_toList]))
          exact frPost_mk rfl (by repeat (first | assumption | exact Below.refl _ _ | refine bch ?_ (by assumption) | refine Below.alloc ?_ (by simp) _)) rfl
        · intro x w' hbw hd
          have d35 : x 35 = .bool false := hd 35 rfl
          clear hd
          go_wp2_with fail
          exact frPost_mk rfl (by repeat (first | assumption | exact Below.refl _ _ | refine bch ?_ (by assumption) | refine Below.alloc ?_ (by simp) _)) rfl
        · intro x w' hbw hd
          have d35 : x 35 = .bool false := hd 35 rfl
          clear hd
          go_wp2_with fail
          exact frPost_mk rfl (by repeat (first | assumption | exact Below.refl _ _ | refine bch ?_ (by assumption) | refine Below.alloc ?_ (by simp) _)) rfl
        · intro x w' hbw hd
          have d35 : x 35 = .bool false := hd 35 rfl
          have d38 : x 38 = .slice (some ⟨b1, o1, none⟩) m cR := hd 38 rfl
          have d39 : x 39 = .int .i64 (k : Int) := hd 39 rfl
          clear hd
          go_wp2_with fail
          exact frPost_mk rfl (by repeat (first | assumption | exact Below.refl _ _ | refine bch ?_ (by assumption) | refine Below.alloc ?_ (by simp) _)) (by first | rfl | (show Value.pointer _ = Value.pointer _; simp))
        · intro x w' hbw hd
          have d35 : x 35 = .bool false := hd 35 rfl
          have d40 : x 40 = .pointer (some ⟨b1, o1 + k * 2, none⟩) := hd 40 rfl
          clear hd
          go_wp2_with fail
          exact frPost_mk rfl (by repeat (first | assumption | exact Below.refl _ _ | refine bch ?_ (by assumption) | refine Below.alloc ?_ (by simp) _)) rfl
        · intro x w' hbw hd
          have d35 : x 35 = .bool false := hd 35 rfl
          have d41 : x 41 = .pointer (some ⟨b1, o1 + k * 2, none⟩) := hd 41 rfl
          clear hd
          have cq : w'.cell? ⟨b1, o1 + k * 2, none⟩ = some (.string p.k) := by rw [hbw.cell (p := ⟨b1, o1 + k * 2, none⟩) hb1]; exact q0
          go_wp2_with (first | fail)
          exact frPost_mk rfl (by repeat (first | assumption | exact Below.refl _ _ | refine bch ?_ (by assumption) | refine Below.alloc ?_ (by simp) _)) rfl
        · intro x w' hbw hd
          have d35 : x 35 = .bool false := hd 35 rfl
          have d36 : x 36 = .agg (hrow Q.1) := hd 36 rfl
          have d37 : x 37 = .agg #[.int .i64 (m : Int), .slice a3 k3 c3] := hd 37 rfl
          have d42 : x 42 = .string p.k := hd 42 rfl
          clear hd
          have CC := CK w' hbw
          go_wp2_with (first | (go_at_call 35; refine (CC).mono ?_; rintro e wx ⟨rfl, hbx⟩))
          exact frPost_mk rfl (by repeat (first | assumption | exact Below.refl _ _ | refine bch ?_ (by assumption) | refine Below.alloc ?_ (by simp) _)) rfl
        · intro x w' hbw hd
          have d35 : x 35 = .bool false := hd 35 rfl
          have d43 : x 43 = .bool false := hd 43 rfl
          clear hd
          go_wp2_with fail
          exact frPost_mk rfl (by repeat (first | assumption | exact Below.refl _ _ | refine bch ?_ (by assumption) | refine Below.alloc ?_ (by simp) _)) rfl
        · intro x w' hbw hd
          have d44 : x 44 = .bool false := hd 44 rfl
          clear hd
          go_wp2_with fail
          exact frPost_mk rfl (by repeat (first | assumption | exact Below.refl _ _ | refine bch ?_ (by assumption) | refine Below.alloc ?_ (by simp) _)) rfl
        · intro x w' hbw hd
          have d45 : x 45 = .bool false := hd 45 rfl
          clear hd
          have hrP := cells_of hP12 hbw hPl
          go_wp2_with (first | (refine wpList_load_midG 46 (.tmp 9) rfl g9 0 rfl (#[.int .i64 (m : Int), .slice a3 k3 c3] : Array Value).toList _ (rangeAt_row5 hrP) Tryd.underlying46 rfl (by kernel_rfl) (by first | rfl | (simp [Region.wanted, yielded, *]; done)) ?_; rw [Array.toArray_toList]))
          exact frPost_mk rfl (by repeat (first | assumption | exact Below.refl _ _ | refine bch ?_ (by assumption) | refine Below.alloc ?_ (by simp) _)) rfl
        · intro x w' hbw hd
          have d45 : x 45 = .bool false := hd 45 rfl
          have d46 : x 46 = .agg #[.int .i64 (m : Int), .slice a3 k3 c3] := hd 46 rfl
          clear hd
          have CC := CY w' hbw
          go_wp2_with (first | (go_at_call 36; refine (CC).mono ?_; rintro e wx ⟨rfl, hbx⟩))
          exact frPost_mk rfl (by repeat (first | assumption | exact Below.refl _ _ | refine bch ?_ (by assumption) | refine Below.alloc ?_ (by simp) _)) rfl
        · intro x w' hbw hd
          have d45 : x 45 = .bool false := hd 45 rfl
          have d47 : x 47 = .bool true := hd 47 rfl
          clear hd
          go_wp2_with fail
          exact frPost_mk rfl (by repeat (first | assumption | exact Below.refl _ _ | refine bch ?_ (by assumption) | refine Below.alloc ?_ (by simp) _)) rfl
        · intro x w' hbw hd
          have d45 : x 45 = .bool false := hd 45 rfl
          have d48 : x 48 = .bool false := hd 48 rfl
          clear hd
          go_wp2_with fail
          exact frPost_mk rfl (by repeat (first | assumption | exact Below.refl _ _ | refine bch ?_ (by assumption) | refine Below.alloc ?_ (by simp) _)) rfl
      intro x w14 hbw hall
      have h9 : x 49 = .bool false := hall 49 (by decide)
      clear hall
      simp only [h9]
      have hbW := hbW.trans (hbw.mono hbW.size)
      have q0 : w14.cell? ⟨b1, o1 + k * 2, none⟩ = some (.string p.k) := by rw [hbw.cell (p := ⟨b1, o1 + k * 2, none⟩) hb1]; exact q0
      obtain ⟨kb, hkb⟩ : ∃ b, (p.k.toList == key.toList) = b := ⟨_, rfl⟩
      have HKB := Lib.hid hkb
      clear CH1 CH2 CK CY hQ12 hP12 q1 hbw
      cases tb
      · go_wp2
        go_roundw
        case rel => exact ⟨k + 1, by omega, by go_num, by rw [HST.out, HKB.out]; first | rfl | simp, hbW⟩
        case measure => (simp [intOf]) <;> omega
      · go_wp2
        go_roundw
        case rel => exact ⟨k + 1, by omega, by go_num, by rw [HST.out]; first | rfl | simp, hbW⟩
        case measure => (simp [intOf]) <;> omega
    · obtain rfl : k = m := by omega
      have d9 : decide ((k : Int) < (k : Int)) = false := decide_eq_false (by omega)
      have d9n : decide (k < k) = false := decide_eq_false (by omega)
      have hfd := among_all HGD.out key
      rw [HML.out, htb] at hfd
      have HFD := Lib.hid hfd
      clear hfd htb
      have CMk := CMk0 key
      go_upto_region 18 with (first | (go_at_call 32; refine (CMk _ hbW).mono ?_; rintro e w3 ⟨a3, k3, c3, us, rfl, hL3, hl3, hc3, hm3, hd3, hb⟩; have hbW := hbW.trans (hb.mono hbW.size); clear hb) | (refine wpList_storeRowTo (Z := #[.int .i64 (k : Int), .slice a3 k3 c3]) rfl (.tmp 12) (.tmp 127) 46 rfl (by kernel_rfl) rfl (by rfl) (heap_push _ _ _) rfl (pf_oneM _ _ _ _) ?_))
      refine wp_nameE _ (fun W12 hX => ?_)
      have hbA : Below w3.heap.size w3 W12 := by rw [hX]; exact below_setRow (Below.alloc (Below.refl _ _) (Nat.le_refl _) _) (Nat.le_refl _) _
      have hP12 : W12.heap[w3.heap.size]? = some (.cells #[.int .i64 (k : Int), .slice a3 k3 c3] 46 (0, 0)) := by rw [hX]; exact setRow_heap _ _ _ _ _ _ (heap_push _ _ _)
      have hL3 := hL3.below hbA
      have hbW := hbW.trans (hbA.mono hbW.size)
      have hQ12 := cells_of hQ8 hbW hg6l
      have hQl := (Array.getElem?_eq_some_iff.1 hQ12).1
      have hPl := (Array.getElem?_eq_some_iff.1 hP12).1
      obtain ⟨g9, hg9⟩ : ∃ g, w3.heap.size = g := ⟨_, rfl⟩
      rw [hg9] at hP12 hPl
      simp only [hg9]
      clear hX hbA hg9
      have hknc : k3 ≤ c3 ∧ c3 ≤ maxLen := ⟨hc3, hm3⟩
      have hS12 := hS.below (hb8.trans (hbW.mono hb8.size))
      have eV := ps_val HGD.out (by rw [HML.out]; omega) hd3
      have eK := ps_lacks HGD.out (by rw [HML.out]; omega) hd3
      have eM := ps_may HGD.out (by rw [HML.out]; omega) hd3
      rw [HML.out, HQ.out, ← HFD.out] at eV eK
      rw [HML.out] at eM
      have CV := fun W (hb : Below W12.heap.size W12 W) => value_any Q.1 Q.2 (k : Int) a3 k3 c3 us key W (hS12.below hb) (hL3.below hb) hl3 hknc
      obtain ⟨⟨rv, rb⟩, hvf⟩ : ∃ t, valF Q.1 (k : Int) us key = t := ⟨_, rfl⟩
      rw [hvf] at eV
      simp only [hvf] at CV
      obtain rfl : rb = tb := eV
      have CK := fun W (hb : Below W12.heap.size W12 W) => lacks_any Q.1 Q.2 (k : Int) a3 k3 c3 us key W (hS12.below hb) (hL3.below hb) hl3 hknc
      simp only [eK] at CK
      have CY := fun W (hb : Below W12.heap.size W12 W) => mayPf_any (k : Int) a3 k3 c3 us W (hL3.below hb) hl3 (Nat.le_trans hc3 hm3)
      simp only [eM] at CY
      clear hvf eK eM CMk hl3
      have p0 := cell_heap hP12 0
      have p1 := cell_heap hP12 1
      have hbK := Below.refl W12.heap.size W12
      cases rb
      · go_wp2_with (first | (go_at_call 33; refine (CV _ hbK).mono ?_; rintro e w5 ⟨rfl, hb⟩; have hQ12 := cells_of hQ12 hb (Array.getElem?_eq_some_iff.1 hQ12).1; have hP12 := cells_of hP12 hb (Array.getElem?_eq_some_iff.1 hP12).1; have p0 := cell_heap hP12 0; have p1 := cell_heap hP12 1; have hbK := hbK.trans (hb.mono hbK.size); clear hb) | (go_at_call 35; refine (CK _ hbK).mono ?_; rintro e w5 ⟨rfl, hb⟩; have hQ12 := cells_of hQ12 hb (Array.getElem?_eq_some_iff.1 hQ12).1; have hP12 := cells_of hP12 hb (Array.getElem?_eq_some_iff.1 hP12).1; have p0 := cell_heap hP12 0; have p1 := cell_heap hP12 1; have hbK := hbK.trans (hb.mono hbK.size); clear hb) | (go_at_call 36; refine (CY _ hbK).mono ?_; rintro e w5 ⟨rfl, hb⟩; have hQ12 := cells_of hQ12 hb (Array.getElem?_eq_some_iff.1 hQ12).1; have hP12 := cells_of hP12 hb (Array.getElem?_eq_some_iff.1 hP12).1; have p0 := cell_heap hP12 0; have p1 := cell_heap hP12 1; have hbK := hbK.trans (hb.mono hbK.size); clear hb) | (refine wpList_load_midG 25 (.tmp 6) rfl g6 0 rfl Q.cells _ (hrow_range hQ12) Tryd.underlying25 rfl (hash_info Q) (by first | rfl | (simp [Region.wanted, yielded, *]; done)) ?_; rw [H32.row]) | (refine wpList_load_midG 46 (.tmp 12) rfl g9 0 rfl (#[.int .i64 (k : Int), .slice a3 k3 c3] : Array Value).toList _ (rangeAt_row5 hP12) Tryd.underlying46 rfl (by kernel_rfl) (by first | rfl | (simp [Region.wanted, yielded, *]; done)) ?_; rw [Array.toArray_toList]))
        go_ret
        exact ⟨by first | rfl | simp, hb8.trans ((hbW.trans (hbK.mono hbW.size)).mono hb8.size)⟩
      · go_wp2_with (first | (go_at_call 33; refine (CV _ hbK).mono ?_; rintro e w5 ⟨rfl, hb⟩; have hQ12 := cells_of hQ12 hb (Array.getElem?_eq_some_iff.1 hQ12).1; have hP12 := cells_of hP12 hb (Array.getElem?_eq_some_iff.1 hP12).1; have p0 := cell_heap hP12 0; have p1 := cell_heap hP12 1; have hbK := hbK.trans (hb.mono hbK.size); clear hb) | (go_at_call 35; refine (CK _ hbK).mono ?_; rintro e w5 ⟨rfl, hb⟩; have hQ12 := cells_of hQ12 hb (Array.getElem?_eq_some_iff.1 hQ12).1; have hP12 := cells_of hP12 hb (Array.getElem?_eq_some_iff.1 hP12).1; have p0 := cell_heap hP12 0; have p1 := cell_heap hP12 1; have hbK := hbK.trans (hb.mono hbK.size); clear hb) | (go_at_call 36; refine (CY _ hbK).mono ?_; rintro e w5 ⟨rfl, hb⟩; have hQ12 := cells_of hQ12 hb (Array.getElem?_eq_some_iff.1 hQ12).1; have hP12 := cells_of hP12 hb (Array.getElem?_eq_some_iff.1 hP12).1; have p0 := cell_heap hP12 0; have p1 := cell_heap hP12 1; have hbK := hbK.trans (hb.mono hbK.size); clear hb) | (refine wpList_load_midG 25 (.tmp 6) rfl g6 0 rfl Q.cells _ (hrow_range hQ12) Tryd.underlying25 rfl (hash_info Q) (by first | rfl | (simp [Region.wanted, yielded, *]; done)) ?_; rw [H32.row]) | (refine wpList_load_midG 46 (.tmp 12) rfl g9 0 rfl (#[.int .i64 (k : Int), .slice a3 k3 c3] : Array Value).toList _ (rangeAt_row5 hP12) Tryd.underlying46 rfl (by kernel_rfl) (by first | rfl | (simp [Region.wanted, yielded, *]; done)) ?_; rw [Array.toArray_toList]))
        go_ret
        exact ⟨by first | rfl | simp, hb8.trans ((hbW.trans (hbK.mono hbW.size)).mono hb8.size)⟩
end Go.Proofs.YtfikbaoiialfeaaDoor
