/- ProofTells walked. -/
import Derived.Test.YtfikbaoiialfeaaDoorPt3
import Derived.Test.YtfikbaoiialfeaaDoorVal4
import Derived.Test.YtfikbaoiialfeaaDoorGY
import Derived.Test.YtfikbaoiialfeaaDoorGP
import Derived.BigRegion
import Derived.Deep.MidRow
import Derived.WalkKit
import Derived.ProofKit
import Derived.Handy
import Derived.Below
import Derived.Lib.Hide
import Derived.IntWalk
import Derived.Outline
import Derived.WalkLawsBesides
import Derived.WalkSpells
namespace Go.Proofs.YtfikbaoiialfeaaDoor
open Go.RowKit
attribute [local go_sem] strV
set_option linter.unusedVariables false
theorem run_equal_two (W : World) (a b : H32) : (Op.equalIn 10000 25 (.agg (hrow a.1)) (.agg (hrow b.1))).run Tryd.prog W = .ok (a.1 == b.1) W := run_equal_hash W 25 a.1 b.1 a.2 b.2 Tryd.underlying25 Tryd.underlying5 (by kernel_rfl)
theorem pfB_of4 {c d : Int} {xs ys : List LeafV} (hc : c = d) (h : xs.map LeafV.d = ys.map LeafV.d) : pfB c d xs ys = true := by
  unfold pfB; rw [(lvsB_iff xs ys).2 h, hc, beq_self_eq_true]; rfl
set_option maxRecDepth 100000 in
set_option maxHeartbeats 12800000 in
theorem walkProofTells (a : Option Addr) (n cap : Nat) (l : List Pr) (key val : ByteArray) (q0 : List UInt8) (ct : Int) (ap : Option Addr) (np cp : Nat) (xs : List LeafV) (own : Bool) (w : World) (hS : SW w) (hr : RowAt w a (l.flatMap Pr.cells)) (hn : l.length = n) (hcap : n ≤ cap) (hcm : cap ≤ maxLen) (hsz : ∀ p ∈ l, p.k.size ≤ maxLen ∧ p.v.size ≤ maxLen) (hks : key.size ≤ maxLen) (hvs : val.size ≤ maxLen) (hq0 : q0.length = 32) (hx : LvsAt w ap xs) (hxn : xs.length = np) (hxk : np ≤ cp) (hxm : cp ≤ maxLen) :
    Calls Tryd.prog 6 #[.slice a n cap, .string key, .string val, .agg (hrow q0), .agg #[.int .i64 ct, .slice ap np cp], .bool own] w fun e w' => e = .returned (.bool true) ∧ Below w.heap.size w w' := by
  obtain ⟨Q0, rfl⟩ : ∃ Q : H32, q0 = Q.1 := ⟨⟨q0, hq0⟩, rfl⟩
  have hxM : np ≤ maxLen := Nat.le_trans hxk hxm
  have CLp := fun W (hb : Below w.heap.size w W) => lightPrs_any a n cap l W (hr.below hb) hn hcap hcm
  have CLq := fun W (hb : Below w.heap.size w W) => lightPf_any ct ap np cp xs W (hx.below hb) hxn hxM
  obtain ⟨kl, el⟩ : ∃ b, lightPrs l = b := ⟨_, rfl⟩
  obtain ⟨kn, en⟩ : ∃ b, lightPf xs = b := ⟨_, rfl⟩
  simp only [el] at CLp
  simp only [en] at CLq
  have HEL := Lib.hid el
  clear el en hsz
  have HXN := Lib.hid hxn
  have HN := Lib.hid hn
  have HXC := Lib.hid (And.intro hxk hxm)
  have HCC := Lib.hid (And.intro hcap hcm)
  clear hxn hn hxk hxm hq0
  have hz0 := al2_0 w (.cells (hrow Q0.1) 25) (.cells #[.int .i64 ct, .slice ap np cp] 46)
  have hz1 := al2_1 w (.cells (hrow Q0.1) 25) (.cells #[.int .i64 ct, .slice ap np cp] 46)
  have hbA := al2_below w (.cells (hrow Q0.1) 25) (.cells #[.int .i64 ct, .slice ap np cp] 46)
  go_enter Tryd.func6, Tryd.ntmps6
  go_upto_region 1 with fail
  refine wp_nameE _ (fun W1 hX => ?_)
  have hQ : W1.heap[w.heap.size]? = some (.cells (hrow Q0.1) 25 (0, 0)) := by rw [hX]; exact hz0
  have hP : W1.heap[w.heap.size + 1]? = some (.cells #[.int .i64 ct, .slice ap np cp] 46 (0, 0)) := by rw [hX]; exact hz1
  have hbel : Below w.heap.size w W1 := by rw [hX]; exact hbA
  clear hX hz0 hz1 hbA
  have p0 : W1.cell? ⟨w.heap.size + 1, 0, none⟩ = some (.int .i64 ct) := cell_heap hP 0
  have p1 : W1.cell? ⟨w.heap.size + 1, 1, none⟩ = some (.slice ap np cp) := cell_heap hP 1
  go_upto_region 3 with (go_at_call 27; refine (first7_any _ (hS.below hbel)).mono ?_; rintro e w2 ⟨rfl, hb⟩; have hQ := cells_of hQ hb (Array.getElem?_eq_some_iff.1 hQ).1; have hP := cells_of hP hb (Array.getElem?_eq_some_iff.1 hP).1; have p0 := cell_heap hP 0; have p1 := cell_heap hP 1; have hbel := hbel.trans (hb.mono hbel.size); clear hb)
  cases kl
  · go_wp2_with (first | (go_at_call 29; (with_reducible refine (CLp _ hbel).mono ?_); rintro e w2 ⟨rfl, hb⟩; have hQ := cells_of hQ hb (Array.getElem?_eq_some_iff.1 hQ).1; have hP := cells_of hP hb (Array.getElem?_eq_some_iff.1 hP).1; have p0 := cell_heap hP 0; have p1 := cell_heap hP 1; have hbel := hbel.trans (hb.mono hbel.size); clear hb) | (go_at_call 27; refine (first7_any _ (hS.below hbel)).mono ?_; rintro e w2 ⟨rfl, hb⟩; have hQ := cells_of hQ hb (Array.getElem?_eq_some_iff.1 hQ).1; have hP := cells_of hP hb (Array.getElem?_eq_some_iff.1 hP).1; have p0 := cell_heap hP 0; have p1 := cell_heap hP 1; have hbel := hbel.trans (hb.mono hbel.size); clear hb) | (go_at_call 37; (with_reducible refine (CLq _ hbel).mono ?_); rintro e w2 ⟨rfl, hb⟩; have hQ := cells_of hQ hb (Array.getElem?_eq_some_iff.1 hQ).1; have hP := cells_of hP hb (Array.getElem?_eq_some_iff.1 hP).1; have p0 := cell_heap hP 0; have p1 := cell_heap hP 1; have hbel := hbel.trans (hb.mono hbel.size); clear hb))
    go_ret
    exact ⟨by first | rfl | simp, hbel⟩
  cases kn
  · go_wp2_with (first | (go_at_call 29; (with_reducible refine (CLp _ hbel).mono ?_); rintro e w2 ⟨rfl, hb⟩; have hQ := cells_of hQ hb (Array.getElem?_eq_some_iff.1 hQ).1; have hP := cells_of hP hb (Array.getElem?_eq_some_iff.1 hP).1; have p0 := cell_heap hP 0; have p1 := cell_heap hP 1; have hbel := hbel.trans (hb.mono hbel.size); clear hb) | (go_at_call 37; (with_reducible refine (CLq _ hbel).mono ?_); rintro e w2 ⟨rfl, hb⟩; have hQ := cells_of hQ hb (Array.getElem?_eq_some_iff.1 hQ).1; have hP := cells_of hP hb (Array.getElem?_eq_some_iff.1 hP).1; have p0 := cell_heap hP 0; have p1 := cell_heap hP 1; have hbel := hbel.trans (hb.mono hbel.size); clear hb) | (go_at_call 27; refine (first7_any _ (hS.below hbel)).mono ?_; rintro e w2 ⟨rfl, hb⟩; have hQ := cells_of hQ hb (Array.getElem?_eq_some_iff.1 hQ).1; have hP := cells_of hP hb (Array.getElem?_eq_some_iff.1 hP).1; have p0 := cell_heap hP 0; have p1 := cell_heap hP 1; have hbel := hbel.trans (hb.mono hbel.size); clear hb))
    go_ret
    exact ⟨by first | rfl | simp, hbel⟩
  by_cases c3 : 300 < key.size
  · have d3 : decide (300 < (key.size : Int)) = true := decide_eq_true (by omega)
    have d3n : decide (300 < key.size) = true := decide_eq_true (by omega)
    clear c3
    go_wp2_with (first | (go_at_call 29; (with_reducible refine (CLp _ hbel).mono ?_); rintro e w2 ⟨rfl, hb⟩; have hQ := cells_of hQ hb (Array.getElem?_eq_some_iff.1 hQ).1; have hP := cells_of hP hb (Array.getElem?_eq_some_iff.1 hP).1; have p0 := cell_heap hP 0; have p1 := cell_heap hP 1; have hbel := hbel.trans (hb.mono hbel.size); clear hb) | (go_at_call 37; (with_reducible refine (CLq _ hbel).mono ?_); rintro e w2 ⟨rfl, hb⟩; have hQ := cells_of hQ hb (Array.getElem?_eq_some_iff.1 hQ).1; have hP := cells_of hP hb (Array.getElem?_eq_some_iff.1 hP).1; have p0 := cell_heap hP 0; have p1 := cell_heap hP 1; have hbel := hbel.trans (hb.mono hbel.size); clear hb) | (go_at_call 27; refine (first7_any _ (hS.below hbel)).mono ?_; rintro e w2 ⟨rfl, hb⟩; have hQ := cells_of hQ hb (Array.getElem?_eq_some_iff.1 hQ).1; have hP := cells_of hP hb (Array.getElem?_eq_some_iff.1 hP).1; have p0 := cell_heap hP 0; have p1 := cell_heap hP 1; have hbel := hbel.trans (hb.mono hbel.size); clear hb))
    go_ret
    exact ⟨by first | rfl | simp, hbel⟩
  have d3 : decide (300 < (key.size : Int)) = false := decide_eq_false (by omega)
  have d3n : decide (300 < key.size) = false := decide_eq_false (by omega)
  by_cases c4 : 200 < val.size
  · have d4 : decide (200 < (val.size : Int)) = true := decide_eq_true (by omega)
    have d4n : decide (200 < val.size) = true := decide_eq_true (by omega)
    clear c3 c4
    go_wp2_with (first | (go_at_call 29; (with_reducible refine (CLp _ hbel).mono ?_); rintro e w2 ⟨rfl, hb⟩; have hQ := cells_of hQ hb (Array.getElem?_eq_some_iff.1 hQ).1; have hP := cells_of hP hb (Array.getElem?_eq_some_iff.1 hP).1; have p0 := cell_heap hP 0; have p1 := cell_heap hP 1; have hbel := hbel.trans (hb.mono hbel.size); clear hb) | (go_at_call 37; (with_reducible refine (CLq _ hbel).mono ?_); rintro e w2 ⟨rfl, hb⟩; have hQ := cells_of hQ hb (Array.getElem?_eq_some_iff.1 hQ).1; have hP := cells_of hP hb (Array.getElem?_eq_some_iff.1 hP).1; have p0 := cell_heap hP 0; have p1 := cell_heap hP 1; have hbel := hbel.trans (hb.mono hbel.size); clear hb) | (go_at_call 27; refine (first7_any _ (hS.below hbel)).mono ?_; rintro e w2 ⟨rfl, hb⟩; have hQ := cells_of hQ hb (Array.getElem?_eq_some_iff.1 hQ).1; have hP := cells_of hP hb (Array.getElem?_eq_some_iff.1 hP).1; have p0 := cell_heap hP 0; have p1 := cell_heap hP 1; have hbel := hbel.trans (hb.mono hbel.size); clear hb))
    go_ret
    exact ⟨by first | rfl | simp, hbel⟩
  have d4 : decide (200 < (val.size : Int)) = false := decide_eq_false (by omega)
  have d4n : decide (200 < val.size) = false := decide_eq_false (by omega)
  clear c3 c4 hks hvs
  obtain ⟨hl40, hlz⟩ := light_prs HEL.out
  have hn40 : n ≤ 40 := by rw [← HN.out]; exact hl40
  have hlz3 : ∀ p ∈ l, p.k.size ≤ 300000 ∧ p.v.size ≤ 300000 := fun p hp => by have := hlz p hp; omega
  have hlz6 : ∀ p ∈ l, p.k.size ≤ 1000000 ∧ p.v.size ≤ 1000000 := fun p hp => by have := hlz p hp; omega
  have CO := fun W (hb : Below w.heap.size w W) => own_any a n cap l W (hr.below hb) HN.out (by omega) HCC.out.1
  have CG := fun W (hb : Below w.heap.size w W) => refGood_any a n cap l W (hr.below hb) HN.out HCC.out.1 HCC.out.2
  obtain ⟨gd, hgd⟩ : ∃ b, goodL l = b := ⟨_, rfl⟩
  simp only [hgd] at CG
  have HGD := Lib.hid hgd
  clear hgd
  go_upto_region 7 with (first | (go_at_call 29; (with_reducible refine (CLp _ hbel).mono ?_); rintro e w2 ⟨rfl, hb⟩; have hQ := cells_of hQ hb (Array.getElem?_eq_some_iff.1 hQ).1; have hP := cells_of hP hb (Array.getElem?_eq_some_iff.1 hP).1; have p0 := cell_heap hP 0; have p1 := cell_heap hP 1; have hbel := hbel.trans (hb.mono hbel.size); clear hb) | (go_at_call 37; (with_reducible refine (CLq _ hbel).mono ?_); rintro e w2 ⟨rfl, hb⟩; have hQ := cells_of hQ hb (Array.getElem?_eq_some_iff.1 hQ).1; have hP := cells_of hP hb (Array.getElem?_eq_some_iff.1 hP).1; have p0 := cell_heap hP 0; have p1 := cell_heap hP 1; have hbel := hbel.trans (hb.mono hbel.size); clear hb) | (go_at_call 30; refine (CO _ hbel).mono ?_; rintro e w2 ⟨vm, rfl, hom, hb⟩; have hQ := cells_of hQ hb (Array.getElem?_eq_some_iff.1 hQ).1; have hP := cells_of hP hb (Array.getElem?_eq_some_iff.1 hP).1; have p0 := cell_heap hP 0; have p1 := cell_heap hP 1; have hbel := hbel.trans (hb.mono hbel.size); obtain ⟨am, cm, rfl, hrm, hm1, hm2⟩ := own_sliceH hom; have hwm := hb.size; clear hb) | (go_at_call 38; (with_reducible refine (CG _ hbel).mono ?_); rintro e w2 ⟨rfl, hb⟩; have hQ := cells_of hQ hb (Array.getElem?_eq_some_iff.1 hQ).1; have hP := cells_of hP hb (Array.getElem?_eq_some_iff.1 hP).1; have p0 := cell_heap hP 0; have p1 := cell_heap hP 1; have hbel := hbel.trans (hb.mono hbel.size); have hrm := hrm.below hb; clear hb))
  refine wp_nameE _ (fun W7 hX => ?_)
  rw [← hX] at hQ hP hbel hrm p0 p1
  clear hX CO CG CLp CLq d3 d3n d4 d4n hom
  have hb7 := hbel
  have CGm := fun W (hb : Below W7.heap.size W7 W) => good_any am n cm l W (hrm.below hb) HN.out hm1 hm2
  simp only [HGD.out] at CGm
  have CMk := fun W (hb : Below W7.heap.size W7 W) => make_any am n cm l key W (hS.below (hb7.trans (hb.mono hb7.size))) (hrm.below hb) HN.out hm1 hm2 (by omega)
  have CMr := fun W (hb : Below W7.heap.size W7 W) => refMake_any a n cap l key W (hr.below (hb7.trans (hb.mono hb7.size))) HN.out HCC.out.1 HCC.out.2 (by omega)
  unfold MakePost at CMk CMr
  obtain ⟨R, hR⟩ : ∃ t : H32, rootF (n : Int) (topH (l.map leafH)).1 = t.1 := ⟨⟨_, rootF_len _ _⟩, rfl⟩
  have CR1 := fun W (hb : Below W7.heap.size W7 W) => proofRoot_any am n cm l W (hS.below (hb7.trans (hb.mono hb7.size))) (hrm.below hb) HN.out (by omega) hm1 hlz6
  have CR2 := fun W (hb : Below w.heap.size w W) => refRootOf_any a n cap l W (hr.below hb) HN.out (by omega) HCC.out.1 hlz3
  simp only [hR] at CR1 CR2
  clear hR
  have hEQ := fun V : World => run_equal_two V R R
  simp only [beq_self_eq_true] at hEQ
  have CSP := fun (a3 : Option Addr) (k3 c3 : Nat) (us : List LeafV) (a4 : Option Addr) (k4 c4 : Nat) (vs : List LeafV) (W : World) (h3 : LvsAt W a3 us) (h4 : LvsAt W a4 vs) (hk3 : us.length = k3) (hk4 : vs.length = k4) (h3m : k3 ≤ maxLen) (h4m : k4 ≤ maxLen) (hus : us.map LeafV.d = makeD l key) (hvs : vs.map LeafV.d = makeD l key) =>
    (show Calls Tryd.prog 41 #[.agg #[.int .i64 (makeC l), .slice a3 k3 c3], .agg #[.int .i64 (makeC l), .slice a4 k4 c4]] W fun e w' => e = .returned (.bool true) ∧ Below W.heap.size W w' from by
      have := Go.Proofs.YtfikbaoiialfeaaDoor.Go.Proofs.YtfikbaoiialfeaaDoor.refSamePf_any (makeC l) a3 k3 c3 us (makeC l) a4 k4 c4 vs W h3 h4 hk3 hk4 h3m h4m
      rwa [pfB_of4 rfl (by rw [hus, hvs])] at this)
  obtain ⟨MC, hMC⟩ : ∃ z, makeC l = z := ⟨_, rfl⟩
  simp only [hMC] at CMk CMr CSP
  clear hMC
  have hbW := Below.refl W7.heap.size W7
  cases gd
  · cases own
    · go_upto_region 11 with (first | (go_at_call 39; (with_reducible refine (CGm _ hbW).mono ?_); rintro e w2 ⟨rfl, hb⟩; have hQ := cells_of hQ hb (Array.getElem?_eq_some_iff.1 hQ).1; have hP := cells_of hP hb (Array.getElem?_eq_some_iff.1 hP).1; have p0 := cell_heap hP 0; have p1 := cell_heap hP 1; have hbel := hbel.trans (hb.mono hbel.size); have hbW := hbW.trans (hb.mono hbW.size); clear hb) | (go_at_call 31; (with_reducible refine (CR1 _ hbW).mono ?_); rintro e w2 ⟨rfl, hb⟩; have hQ := cells_of hQ hb (Array.getElem?_eq_some_iff.1 hQ).1; have hP := cells_of hP hb (Array.getElem?_eq_some_iff.1 hP).1; have p0 := cell_heap hP 0; have p1 := cell_heap hP 1; have hbel := hbel.trans (hb.mono hbel.size); have hbW := hbW.trans (hb.mono hbW.size); clear hb) | (go_at_call 40; (with_reducible refine (CR2 _ hbel).mono ?_); rintro e w2 ⟨rfl, hb⟩; have hQ := cells_of hQ hb (Array.getElem?_eq_some_iff.1 hQ).1; have hP := cells_of hP hb (Array.getElem?_eq_some_iff.1 hP).1; have p0 := cell_heap hP 0; have p1 := cell_heap hP 1; have hbel := hbel.trans (hb.mono hbel.size); have hbW := hbW.trans (hb.mono hbW.size); clear hb) | (go_at_call 32; refine (CMk _ hbW).mono ?_; rintro e w2 ⟨a3, k3, c3, us, rfl, hL3, hk3, hc3, hm3, hd3, hb⟩; have hQ := cells_of hQ hb (Array.getElem?_eq_some_iff.1 hQ).1; have hP := cells_of hP hb (Array.getElem?_eq_some_iff.1 hP).1; have p0 := cell_heap hP 0; have p1 := cell_heap hP 1; have hbel := hbel.trans (hb.mono hbel.size); have hbW := hbW.trans (hb.mono hbW.size); clear hb) | (go_at_call 42; refine (CMr _ hbW).mono ?_; rintro e w2 ⟨a4, k4, c4, vs, rfl, hL4, hk4, hc4, hm4, hd4, hb⟩; have hQ := cells_of hQ hb (Array.getElem?_eq_some_iff.1 hQ).1; have hP := cells_of hP hb (Array.getElem?_eq_some_iff.1 hP).1; have p0 := cell_heap hP 0; have p1 := cell_heap hP 1; have hbel := hbel.trans (hb.mono hbel.size); have hbW := hbW.trans (hb.mono hbW.size); have hL3 := hL3.below hb; clear hb) | (go_at_call 41; refine (CSP a3 k3 c3 us a4 k4 c4 vs _ hL3 hL4 hk3 hk4 (Nat.le_trans hc3 hm3) (Nat.le_trans hc4 hm4) hd3 hd4).mono ?_; rintro e w2 ⟨rfl, hb⟩; have hQ := cells_of hQ hb (Array.getElem?_eq_some_iff.1 hQ).1; have hP := cells_of hP hb (Array.getElem?_eq_some_iff.1 hP).1; have p0 := cell_heap hP 0; have p1 := cell_heap hP 1; have hbel := hbel.trans (hb.mono hbel.size); have hbW := hbW.trans (hb.mono hbW.size); clear hb))
      refine wp_nameE _ (fun W11 hX => ?_)
      have hQ9 : W11.heap[w.heap.size]? = some (.cells (hrow Q0.1) 25 (0, 0)) := by rw [hX]; exact hQ
      have hP9 : W11.heap[w.heap.size + 1]? = some (.cells #[.int .i64 ct, .slice ap np cp] 46 (0, 0)) := by rw [hX]; exact hP
      have hb11 : Below w.heap.size w W11 := by rw [hX]; exact hbel
      clear hX hQ hP hbel p0 p1 hbW CGm CR1 CR2 CMk CMr CSP hEQ
      have CV1 := fun W (hb : Below w.heap.size w W) => value_any Q0.1 Q0.2 ct ap np cp xs key W (hS.below hb) (hx.below hb) HXN.out HXC.out
      have CV2 := fun W (hb : Below w.heap.size w W) => refValue_any Q0.1 Q0.2 ct ap np cp xs key W (hx.below hb) HXN.out HXC.out
      obtain ⟨⟨rv, rb⟩, hvf⟩ : ∃ t, valF Q0.1 ct xs key = t := ⟨_, rfl⟩
      simp only [hvf] at CV1 CV2
      clear hvf
      have p0 : W11.cell? ⟨w.heap.size + 1, 0, none⟩ = some (.int .i64 ct) := cell_heap hP9 0
      have p1 : W11.cell? ⟨w.heap.size + 1, 1, none⟩ = some (.slice ap np cp) := cell_heap hP9 1
      go_upto_region 13 with (first | (go_at_call 33; (with_reducible refine (CV1 _ hb11).mono ?_); rintro e w2 ⟨rfl, hb⟩; have hQ9 := cells_of hQ9 hb (Array.getElem?_eq_some_iff.1 hQ9).1; have hP9 := cells_of hP9 hb (Array.getElem?_eq_some_iff.1 hP9).1; have p0 := cell_heap hP9 0; have p1 := cell_heap hP9 1; have hb11 := hb11.trans (hb.mono hb11.size); clear hb) | (go_at_call 43; (with_reducible refine (CV2 _ hb11).mono ?_); rintro e w2 ⟨rfl, hb⟩; have hQ9 := cells_of hQ9 hb (Array.getElem?_eq_some_iff.1 hQ9).1; have hP9 := cells_of hP9 hb (Array.getElem?_eq_some_iff.1 hP9).1; have p0 := cell_heap hP9 0; have p1 := cell_heap hP9 1; have hb11 := hb11.trans (hb.mono hb11.size); clear hb) | (refine wpList_load_mid rfl 25 (.tmp 9) rfl w.heap.size 0 rfl Q0.cells _ (hrow_range hQ9) Tryd.underlying25 rfl (hash_info Q0) ?_; rw [H32.row]))
      refine wp_nameE _ (fun W13 hX => ?_)
      have hQc : W13.heap[w.heap.size]? = some (.cells (hrow Q0.1) 25 (0, 0)) := by rw [hX]; exact hQ9
      have hPc : W13.heap[w.heap.size + 1]? = some (.cells #[.int .i64 ct, .slice ap np cp] 46 (0, 0)) := by rw [hX]; exact hP9
      have hb13 : Below w.heap.size w W13 := by rw [hX]; exact hb11
      clear hX hQ9 hP9 hb11 p0 p1 CV1 CV2
      have hQcl := (Array.getElem?_eq_some_iff.1 hQc).1
      have hPcl := (Array.getElem?_eq_some_iff.1 hPc).1
      have CH1 := fun W (hb : Below W13.heap.size W13 W) => has_any Q0.1 Q0.2 ct ap np cp xs key val W (hS.below (hb13.trans (hb.mono hb13.size))) (hx.below (hb13.trans (hb.mono hb13.size))) HXN.out HXC.out
      have CH2 := fun W (hb : Below W13.heap.size W13 W) => refHas_any Q0.1 Q0.2 ct ap np cp xs key val W (hx.below (hb13.trans (hb.mono hb13.size))) HXN.out HXC.out
      have CK1 := fun W (hb : Below W13.heap.size W13 W) => lacks_any Q0.1 Q0.2 ct ap np cp xs key W (hS.below (hb13.trans (hb.mono hb13.size))) (hx.below (hb13.trans (hb.mono hb13.size))) HXN.out HXC.out
      have CK2 := fun W (hb : Below W13.heap.size W13 W) => refLacks_any Q0.1 Q0.2 ct ap np cp xs key W (hx.below (hb13.trans (hb.mono hb13.size))) HXN.out HXC.out
      obtain ⟨hb9, h1⟩ : ∃ t, hasF Q0.1 ct xs key val = t := ⟨_, rfl⟩
      obtain ⟨lb9, h2⟩ : ∃ t, lacksF Q0.1 ct xs key = t := ⟨_, rfl⟩
      simp only [h1] at CH1 CH2
      simp only [h2] at CK1 CK2
      clear h1 h2
      refine wp_region_facts [Fact.eq (.string rv), Fact.eq (.string rv), Fact.eq (.bool true), Fact.eq (.bool true), Fact.eq (.bool rb), Fact.eq (.bool rb), Fact.eq (.bool true), Fact.eq (.bool true), Fact.eq (.bool true), Fact.eq (.agg (hrow Q0.1)), Fact.eq (.agg #[.int .i64 ct, .slice ap np cp]), Fact.eq (.string key), Fact.eq (.string val), Fact.eq (.bool hb9), Fact.eq (.agg (hrow Q0.1)), Fact.eq (.agg #[.int .i64 ct, .slice ap np cp]), Fact.eq (.string key), Fact.eq (.string val), Fact.eq (.bool hb9), Fact.eq (.bool true), Fact.eq (.bool true), Fact.eq (.bool true), Fact.eq (.agg (hrow Q0.1)), Fact.eq (.agg #[.int .i64 ct, .slice ap np cp]), Fact.eq (.string key), Fact.eq (.bool lb9), Fact.eq (.agg (hrow Q0.1)), Fact.eq (.agg #[.int .i64 ct, .slice ap np cp]), Fact.eq (.string key), Fact.eq (.bool lb9), Fact.eq (.bool true), Fact.eq (.bool true), Fact.eq (.bool true)] (by kernel_rfl) (by kernel_rfl) (by kernel_rfl) (by kernel_rfl) (fun x => by simp only [fillFrom, Act.put, List.setIfInBounds_toArray, List.set_cons_succ, List.set_cons_zero]; rfl) ?_ ?_
      · refine ⟨?_, ?_, ?_, ?_, ?_, ?_, ?_, ?_, ?_, ?_, ?_, ?_, ?_, ?_, ?_, ?_, ?_, ?_, ?_, ?_, ?_, ?_, ?_, ?_, ?_, ?_, ?_, ?_, ?_, ?_, ?_, ?_, ?_, trivial⟩
        · intro x w' hbw hd
          clear hd
          go_wp2_with fail
          exact frPost_mk rfl (by repeat (first | assumption | exact Below.refl _ _ | refine bch ?_ (by assumption) | refine Below.alloc ?_ (by simp) _)) rfl
        · intro x w' hbw hd
          clear hd
          go_wp2_with fail
          exact frPost_mk rfl (by repeat (first | assumption | exact Below.refl _ _ | refine bch ?_ (by assumption) | refine Below.alloc ?_ (by simp) _)) rfl
        · intro x w' hbw hd
          have d0 : x 0 = .string rv := hd 0 rfl
          have d1 : x 1 = .string rv := hd 1 rfl
          clear hd
          go_wp2_with fail
          exact frPost_mk rfl (by repeat (first | assumption | exact Below.refl _ _ | refine bch ?_ (by assumption) | refine Below.alloc ?_ (by simp) _)) rfl
        · intro x w' hbw hd
          have d2 : x 2 = .bool true := hd 2 rfl
          clear hd
          go_wp2_with fail
          exact frPost_mk rfl (by repeat (first | assumption | exact Below.refl _ _ | refine bch ?_ (by assumption) | refine Below.alloc ?_ (by simp) _)) rfl
        · intro x w' hbw hd
          have d3 : x 3 = .bool true := hd 3 rfl
          clear hd
          go_wp2_with fail
          exact frPost_mk rfl (by repeat (first | assumption | exact Below.refl _ _ | refine bch ?_ (by assumption) | refine Below.alloc ?_ (by simp) _)) rfl
        · intro x w' hbw hd
          have d3 : x 3 = .bool true := hd 3 rfl
          clear hd
          go_wp2_with fail
          exact frPost_mk rfl (by repeat (first | assumption | exact Below.refl _ _ | refine bch ?_ (by assumption) | refine Below.alloc ?_ (by simp) _)) rfl
        · intro x w' hbw hd
          have d3 : x 3 = .bool true := hd 3 rfl
          have d4 : x 4 = .bool rb := hd 4 rfl
          have d5 : x 5 = .bool rb := hd 5 rfl
          clear hd
          go_wp2_with fail
          exact frPost_mk rfl (by repeat (first | assumption | exact Below.refl _ _ | refine bch ?_ (by assumption) | refine Below.alloc ?_ (by simp) _)) rfl
        · intro x w' hbw hd
          have d3 : x 3 = .bool true := hd 3 rfl
          have d6 : x 6 = .bool true := hd 6 rfl
          clear hd
          go_wp2_with fail
          exact frPost_mk rfl (by repeat (first | assumption | exact Below.refl _ _ | refine bch ?_ (by assumption) | refine Below.alloc ?_ (by simp) _)) rfl
        · intro x w' hbw hd
          have d7 : x 7 = .bool true := hd 7 rfl
          clear hd
          go_wp2_with fail
          exact frPost_mk rfl (by repeat (first | assumption | exact Below.refl _ _ | refine bch ?_ (by assumption) | refine Below.alloc ?_ (by simp) _)) rfl
        · intro x w' hbw hd
          have d8 : x 8 = .bool true := hd 8 rfl
          clear hd
          have hrQ := cells_of hQc hbw hQcl
          go_wp2_with (first | (refine wpList_load_midG 25 (.tmp 9) rfl w.heap.size 0 rfl Q0.cells _ (hrow_range hrQ) Tryd.underlying25 rfl (hash_info Q0) (by first | rfl | (simp [Region.wanted, yielded, *]; done)) ?_; rw [H32.row]))
          exact frPost_mk rfl (by repeat (first | assumption | exact Below.refl _ _ | refine bch ?_ (by assumption) | refine Below.alloc ?_ (by simp) _)) rfl
        · intro x w' hbw hd
          have d8 : x 8 = .bool true := hd 8 rfl
          clear hd
          have hrP := cells_of hPc hbw hPcl
          go_wp2_with (first | (refine wpList_load_midG 46 (.tmp 10) rfl (w.heap.size + 1) 0 rfl (#[.int .i64 ct, .slice ap np cp] : Array Value).toList _ (rangeAt_row5 hrP) Tryd.underlying46 rfl (by kernel_rfl) (by first | rfl | (simp [Region.wanted, yielded, *]; done)) ?_; rw [Array.toArray_toList]))
          exact frPost_mk rfl (by repeat (first | assumption | exact Below.refl _ _ | refine bch ?_ (by assumption) | refine Below.alloc ?_ (by simp) _)) rfl
        · intro x w' hbw hd
          have d8 : x 8 = .bool true := hd 8 rfl
          clear hd
          go_wp2_with fail
          exact frPost_mk rfl (by repeat (first | assumption | exact Below.refl _ _ | refine bch ?_ (by assumption) | refine Below.alloc ?_ (by simp) _)) rfl
        · intro x w' hbw hd
          have d8 : x 8 = .bool true := hd 8 rfl
          clear hd
          go_wp2_with fail
          exact frPost_mk rfl (by repeat (first | assumption | exact Below.refl _ _ | refine bch ?_ (by assumption) | refine Below.alloc ?_ (by simp) _)) rfl
        · intro x w' hbw hd
          have d8 : x 8 = .bool true := hd 8 rfl
          have d9 : x 9 = .agg (hrow Q0.1) := hd 9 rfl
          have d10 : x 10 = .agg #[.int .i64 ct, .slice ap np cp] := hd 10 rfl
          have d11 : x 11 = .string key := hd 11 rfl
          have d12 : x 12 = .string val := hd 12 rfl
          clear hd
          have CC := CH1 w' hbw
          go_wp2_with (first | (go_at_call 34; refine (CC).mono ?_; rintro e wx ⟨rfl, hbx⟩))
          exact frPost_mk rfl (by repeat (first | assumption | exact Below.refl _ _ | refine bch ?_ (by assumption) | refine Below.alloc ?_ (by simp) _)) rfl
        · intro x w' hbw hd
          have d8 : x 8 = .bool true := hd 8 rfl
          clear hd
          have hrQ := cells_of hQc hbw hQcl
          go_wp2_with (first | (refine wpList_load_midG 25 (.tmp 9) rfl w.heap.size 0 rfl Q0.cells _ (hrow_range hrQ) Tryd.underlying25 rfl (hash_info Q0) (by first | rfl | (simp [Region.wanted, yielded, *]; done)) ?_; rw [H32.row]))
          exact frPost_mk rfl (by repeat (first | assumption | exact Below.refl _ _ | refine bch ?_ (by assumption) | refine Below.alloc ?_ (by simp) _)) rfl
        · intro x w' hbw hd
          have d8 : x 8 = .bool true := hd 8 rfl
          clear hd
          have hrP := cells_of hPc hbw hPcl
          go_wp2_with (first | (refine wpList_load_midG 46 (.tmp 10) rfl (w.heap.size + 1) 0 rfl (#[.int .i64 ct, .slice ap np cp] : Array Value).toList _ (rangeAt_row5 hrP) Tryd.underlying46 rfl (by kernel_rfl) (by first | rfl | (simp [Region.wanted, yielded, *]; done)) ?_; rw [Array.toArray_toList]))
          exact frPost_mk rfl (by repeat (first | assumption | exact Below.refl _ _ | refine bch ?_ (by assumption) | refine Below.alloc ?_ (by simp) _)) rfl
        · intro x w' hbw hd
          have d8 : x 8 = .bool true := hd 8 rfl
          clear hd
          go_wp2_with fail
          exact frPost_mk rfl (by repeat (first | assumption | exact Below.refl _ _ | refine bch ?_ (by assumption) | refine Below.alloc ?_ (by simp) _)) rfl
        · intro x w' hbw hd
          have d8 : x 8 = .bool true := hd 8 rfl
          clear hd
          go_wp2_with fail
          exact frPost_mk rfl (by repeat (first | assumption | exact Below.refl _ _ | refine bch ?_ (by assumption) | refine Below.alloc ?_ (by simp) _)) rfl
        · intro x w' hbw hd
          have d8 : x 8 = .bool true := hd 8 rfl
          have d14 : x 14 = .agg (hrow Q0.1) := hd 14 rfl
          have d15 : x 15 = .agg #[.int .i64 ct, .slice ap np cp] := hd 15 rfl
          have d16 : x 16 = .string key := hd 16 rfl
          have d17 : x 17 = .string val := hd 17 rfl
          clear hd
          have CC := CH2 w' hbw
          go_wp2_with (first | (go_at_call 44; refine (CC).mono ?_; rintro e wx ⟨rfl, hbx⟩))
          exact frPost_mk rfl (by repeat (first | assumption | exact Below.refl _ _ | refine bch ?_ (by assumption) | refine Below.alloc ?_ (by simp) _)) rfl
        · intro x w' hbw hd
          have d8 : x 8 = .bool true := hd 8 rfl
          have d13 : x 13 = .bool hb9 := hd 13 rfl
          have d18 : x 18 = .bool hb9 := hd 18 rfl
          clear hd
          go_wp2_with fail
          exact frPost_mk rfl (by repeat (first | assumption | exact Below.refl _ _ | refine bch ?_ (by assumption) | refine Below.alloc ?_ (by simp) _)) rfl
        · intro x w' hbw hd
          have d8 : x 8 = .bool true := hd 8 rfl
          have d19 : x 19 = .bool true := hd 19 rfl
          clear hd
          go_wp2_with fail
          exact frPost_mk rfl (by repeat (first | assumption | exact Below.refl _ _ | refine bch ?_ (by assumption) | refine Below.alloc ?_ (by simp) _)) rfl
        · intro x w' hbw hd
          have d20 : x 20 = .bool true := hd 20 rfl
          clear hd
          go_wp2_with fail
          exact frPost_mk rfl (by repeat (first | assumption | exact Below.refl _ _ | refine bch ?_ (by assumption) | refine Below.alloc ?_ (by simp) _)) rfl
        · intro x w' hbw hd
          have d21 : x 21 = .bool true := hd 21 rfl
          clear hd
          have hrQ := cells_of hQc hbw hQcl
          go_wp2_with (first | (refine wpList_load_midG 25 (.tmp 9) rfl w.heap.size 0 rfl Q0.cells _ (hrow_range hrQ) Tryd.underlying25 rfl (hash_info Q0) (by first | rfl | (simp [Region.wanted, yielded, *]; done)) ?_; rw [H32.row]))
          exact frPost_mk rfl (by repeat (first | assumption | exact Below.refl _ _ | refine bch ?_ (by assumption) | refine Below.alloc ?_ (by simp) _)) rfl
        · intro x w' hbw hd
          have d21 : x 21 = .bool true := hd 21 rfl
          clear hd
          have hrP := cells_of hPc hbw hPcl
          go_wp2_with (first | (refine wpList_load_midG 46 (.tmp 10) rfl (w.heap.size + 1) 0 rfl (#[.int .i64 ct, .slice ap np cp] : Array Value).toList _ (rangeAt_row5 hrP) Tryd.underlying46 rfl (by kernel_rfl) (by first | rfl | (simp [Region.wanted, yielded, *]; done)) ?_; rw [Array.toArray_toList]))
          exact frPost_mk rfl (by repeat (first | assumption | exact Below.refl _ _ | refine bch ?_ (by assumption) | refine Below.alloc ?_ (by simp) _)) rfl
        · intro x w' hbw hd
          have d21 : x 21 = .bool true := hd 21 rfl
          clear hd
          go_wp2_with fail
          exact frPost_mk rfl (by repeat (first | assumption | exact Below.refl _ _ | refine bch ?_ (by assumption) | refine Below.alloc ?_ (by simp) _)) rfl
        · intro x w' hbw hd
          have d21 : x 21 = .bool true := hd 21 rfl
          have d22 : x 22 = .agg (hrow Q0.1) := hd 22 rfl
          have d23 : x 23 = .agg #[.int .i64 ct, .slice ap np cp] := hd 23 rfl
          have d24 : x 24 = .string key := hd 24 rfl
          clear hd
          have CC := CK1 w' hbw
          go_wp2_with (first | (go_at_call 35; refine (CC).mono ?_; rintro e wx ⟨rfl, hbx⟩))
          exact frPost_mk rfl (by repeat (first | assumption | exact Below.refl _ _ | refine bch ?_ (by assumption) | refine Below.alloc ?_ (by simp) _)) rfl
        · intro x w' hbw hd
          have d21 : x 21 = .bool true := hd 21 rfl
          clear hd
          have hrQ := cells_of hQc hbw hQcl
          go_wp2_with (first | (refine wpList_load_midG 25 (.tmp 9) rfl w.heap.size 0 rfl Q0.cells _ (hrow_range hrQ) Tryd.underlying25 rfl (hash_info Q0) (by first | rfl | (simp [Region.wanted, yielded, *]; done)) ?_; rw [H32.row]))
          exact frPost_mk rfl (by repeat (first | assumption | exact Below.refl _ _ | refine bch ?_ (by assumption) | refine Below.alloc ?_ (by simp) _)) rfl
        · intro x w' hbw hd
          have d21 : x 21 = .bool true := hd 21 rfl
          clear hd
          have hrP := cells_of hPc hbw hPcl
          go_wp2_with (first | (refine wpList_load_midG 46 (.tmp 10) rfl (w.heap.size + 1) 0 rfl (#[.int .i64 ct, .slice ap np cp] : Array Value).toList _ (rangeAt_row5 hrP) Tryd.underlying46 rfl (by kernel_rfl) (by first | rfl | (simp [Region.wanted, yielded, *]; done)) ?_; rw [Array.toArray_toList]))
          exact frPost_mk rfl (by repeat (first | assumption | exact Below.refl _ _ | refine bch ?_ (by assumption) | refine Below.alloc ?_ (by simp) _)) rfl
        · intro x w' hbw hd
          have d21 : x 21 = .bool true := hd 21 rfl
          clear hd
          go_wp2_with fail
          exact frPost_mk rfl (by repeat (first | assumption | exact Below.refl _ _ | refine bch ?_ (by assumption) | refine Below.alloc ?_ (by simp) _)) rfl
        · intro x w' hbw hd
          have d21 : x 21 = .bool true := hd 21 rfl
          have d26 : x 26 = .agg (hrow Q0.1) := hd 26 rfl
          have d27 : x 27 = .agg #[.int .i64 ct, .slice ap np cp] := hd 27 rfl
          have d28 : x 28 = .string key := hd 28 rfl
          clear hd
          have CC := CK2 w' hbw
          go_wp2_with (first | (go_at_call 45; refine (CC).mono ?_; rintro e wx ⟨rfl, hbx⟩))
          exact frPost_mk rfl (by repeat (first | assumption | exact Below.refl _ _ | refine bch ?_ (by assumption) | refine Below.alloc ?_ (by simp) _)) rfl
        · intro x w' hbw hd
          have d21 : x 21 = .bool true := hd 21 rfl
          have d25 : x 25 = .bool lb9 := hd 25 rfl
          have d29 : x 29 = .bool lb9 := hd 29 rfl
          clear hd
          go_wp2_with fail
          exact frPost_mk rfl (by repeat (first | assumption | exact Below.refl _ _ | refine bch ?_ (by assumption) | refine Below.alloc ?_ (by simp) _)) rfl
        · intro x w' hbw hd
          have d21 : x 21 = .bool true := hd 21 rfl
          have d30 : x 30 = .bool true := hd 30 rfl
          clear hd
          go_wp2_with fail
          exact frPost_mk rfl (by repeat (first | assumption | exact Below.refl _ _ | refine bch ?_ (by assumption) | refine Below.alloc ?_ (by simp) _)) rfl
        · intro x w' hbw hd
          have d31 : x 31 = .bool true := hd 31 rfl
          clear hd
          go_wp2_with fail
          exact frPost_mk rfl (by repeat (first | assumption | exact Below.refl _ _ | refine bch ?_ (by assumption) | refine Below.alloc ?_ (by simp) _)) rfl
      intro x wf hbw hd
      have d32 : x 32 = .bool true := hd 32 (by decide)
      clear hd
      simp only [Nat.zero_add, Nat.reduceAdd, d32]
      go_wp2
      go_ret
      exact ⟨by first | rfl | simp, hb13.trans (hbw.mono hb13.size)⟩
    · go_upto_region 11 with (first | (go_at_call 39; (with_reducible refine (CGm _ hbW).mono ?_); rintro e w2 ⟨rfl, hb⟩; have hQ := cells_of hQ hb (Array.getElem?_eq_some_iff.1 hQ).1; have hP := cells_of hP hb (Array.getElem?_eq_some_iff.1 hP).1; have p0 := cell_heap hP 0; have p1 := cell_heap hP 1; have hbel := hbel.trans (hb.mono hbel.size); have hbW := hbW.trans (hb.mono hbW.size); clear hb) | (go_at_call 31; (with_reducible refine (CR1 _ hbW).mono ?_); rintro e w2 ⟨rfl, hb⟩; have hQ := cells_of hQ hb (Array.getElem?_eq_some_iff.1 hQ).1; have hP := cells_of hP hb (Array.getElem?_eq_some_iff.1 hP).1; have p0 := cell_heap hP 0; have p1 := cell_heap hP 1; have hbel := hbel.trans (hb.mono hbel.size); have hbW := hbW.trans (hb.mono hbW.size); clear hb) | (go_at_call 40; (with_reducible refine (CR2 _ hbel).mono ?_); rintro e w2 ⟨rfl, hb⟩; have hQ := cells_of hQ hb (Array.getElem?_eq_some_iff.1 hQ).1; have hP := cells_of hP hb (Array.getElem?_eq_some_iff.1 hP).1; have p0 := cell_heap hP 0; have p1 := cell_heap hP 1; have hbel := hbel.trans (hb.mono hbel.size); have hbW := hbW.trans (hb.mono hbW.size); clear hb) | (go_at_call 32; refine (CMk _ hbW).mono ?_; rintro e w2 ⟨a3, k3, c3, us, rfl, hL3, hk3, hc3, hm3, hd3, hb⟩; have hQ := cells_of hQ hb (Array.getElem?_eq_some_iff.1 hQ).1; have hP := cells_of hP hb (Array.getElem?_eq_some_iff.1 hP).1; have p0 := cell_heap hP 0; have p1 := cell_heap hP 1; have hbel := hbel.trans (hb.mono hbel.size); have hbW := hbW.trans (hb.mono hbW.size); clear hb) | (go_at_call 42; refine (CMr _ hbW).mono ?_; rintro e w2 ⟨a4, k4, c4, vs, rfl, hL4, hk4, hc4, hm4, hd4, hb⟩; have hQ := cells_of hQ hb (Array.getElem?_eq_some_iff.1 hQ).1; have hP := cells_of hP hb (Array.getElem?_eq_some_iff.1 hP).1; have p0 := cell_heap hP 0; have p1 := cell_heap hP 1; have hbel := hbel.trans (hb.mono hbel.size); have hbW := hbW.trans (hb.mono hbW.size); have hL3 := hL3.below hb; clear hb) | (go_at_call 41; refine (CSP a3 k3 c3 us a4 k4 c4 vs _ hL3 hL4 hk3 hk4 (Nat.le_trans hc3 hm3) (Nat.le_trans hc4 hm4) hd3 hd4).mono ?_; rintro e w2 ⟨rfl, hb⟩; have hQ := cells_of hQ hb (Array.getElem?_eq_some_iff.1 hQ).1; have hP := cells_of hP hb (Array.getElem?_eq_some_iff.1 hP).1; have p0 := cell_heap hP 0; have p1 := cell_heap hP 1; have hbel := hbel.trans (hb.mono hbel.size); have hbW := hbW.trans (hb.mono hbW.size); clear hb))
      refine wp_nameE _ (fun W11 hX => ?_)
      have hQ9 : W11.heap[w.heap.size]? = some (.cells (hrow Q0.1) 25 (0, 0)) := by rw [hX]; exact hQ
      have hP9 : W11.heap[w.heap.size + 1]? = some (.cells #[.int .i64 ct, .slice ap np cp] 46 (0, 0)) := by rw [hX]; exact hP
      have hb11 : Below w.heap.size w W11 := by rw [hX]; exact hbel
      clear hX hQ hP hbel p0 p1 hbW CGm CR1 CR2 CMk CMr CSP hEQ
      have CV1 := fun W (hb : Below w.heap.size w W) => value_any Q0.1 Q0.2 ct ap np cp xs key W (hS.below hb) (hx.below hb) HXN.out HXC.out
      have CV2 := fun W (hb : Below w.heap.size w W) => refValue_any Q0.1 Q0.2 ct ap np cp xs key W (hx.below hb) HXN.out HXC.out
      obtain ⟨⟨rv, rb⟩, hvf⟩ : ∃ t, valF Q0.1 ct xs key = t := ⟨_, rfl⟩
      simp only [hvf] at CV1 CV2
      clear hvf
      have p0 : W11.cell? ⟨w.heap.size + 1, 0, none⟩ = some (.int .i64 ct) := cell_heap hP9 0
      have p1 : W11.cell? ⟨w.heap.size + 1, 1, none⟩ = some (.slice ap np cp) := cell_heap hP9 1
      go_upto_region 13 with (first | (go_at_call 33; (with_reducible refine (CV1 _ hb11).mono ?_); rintro e w2 ⟨rfl, hb⟩; have hQ9 := cells_of hQ9 hb (Array.getElem?_eq_some_iff.1 hQ9).1; have hP9 := cells_of hP9 hb (Array.getElem?_eq_some_iff.1 hP9).1; have p0 := cell_heap hP9 0; have p1 := cell_heap hP9 1; have hb11 := hb11.trans (hb.mono hb11.size); clear hb) | (go_at_call 43; (with_reducible refine (CV2 _ hb11).mono ?_); rintro e w2 ⟨rfl, hb⟩; have hQ9 := cells_of hQ9 hb (Array.getElem?_eq_some_iff.1 hQ9).1; have hP9 := cells_of hP9 hb (Array.getElem?_eq_some_iff.1 hP9).1; have p0 := cell_heap hP9 0; have p1 := cell_heap hP9 1; have hb11 := hb11.trans (hb.mono hb11.size); clear hb) | (refine wpList_load_mid rfl 25 (.tmp 9) rfl w.heap.size 0 rfl Q0.cells _ (hrow_range hQ9) Tryd.underlying25 rfl (hash_info Q0) ?_; rw [H32.row]))
      refine wp_nameE _ (fun W13 hX => ?_)
      have hQc : W13.heap[w.heap.size]? = some (.cells (hrow Q0.1) 25 (0, 0)) := by rw [hX]; exact hQ9
      have hPc : W13.heap[w.heap.size + 1]? = some (.cells #[.int .i64 ct, .slice ap np cp] 46 (0, 0)) := by rw [hX]; exact hP9
      have hb13 : Below w.heap.size w W13 := by rw [hX]; exact hb11
      clear hX hQ9 hP9 hb11 p0 p1 CV1 CV2
      have hQcl := (Array.getElem?_eq_some_iff.1 hQc).1
      have hPcl := (Array.getElem?_eq_some_iff.1 hPc).1
      have CH1 := fun W (hb : Below W13.heap.size W13 W) => has_any Q0.1 Q0.2 ct ap np cp xs key val W (hS.below (hb13.trans (hb.mono hb13.size))) (hx.below (hb13.trans (hb.mono hb13.size))) HXN.out HXC.out
      have CH2 := fun W (hb : Below W13.heap.size W13 W) => refHas_any Q0.1 Q0.2 ct ap np cp xs key val W (hx.below (hb13.trans (hb.mono hb13.size))) HXN.out HXC.out
      have CK1 := fun W (hb : Below W13.heap.size W13 W) => lacks_any Q0.1 Q0.2 ct ap np cp xs key W (hS.below (hb13.trans (hb.mono hb13.size))) (hx.below (hb13.trans (hb.mono hb13.size))) HXN.out HXC.out
      have CK2 := fun W (hb : Below W13.heap.size W13 W) => refLacks_any Q0.1 Q0.2 ct ap np cp xs key W (hx.below (hb13.trans (hb.mono hb13.size))) HXN.out HXC.out
      obtain ⟨hb9, h1⟩ : ∃ t, hasF Q0.1 ct xs key val = t := ⟨_, rfl⟩
      obtain ⟨lb9, h2⟩ : ∃ t, lacksF Q0.1 ct xs key = t := ⟨_, rfl⟩
      simp only [h1] at CH1 CH2
      simp only [h2] at CK1 CK2
      clear h1 h2
      refine wp_region_facts [Fact.eq (.string rv), Fact.eq (.string rv), Fact.eq (.bool true), Fact.eq (.bool true), Fact.eq (.bool rb), Fact.eq (.bool rb), Fact.eq (.bool true), Fact.eq (.bool true), Fact.eq (.bool true), Fact.eq (.agg (hrow Q0.1)), Fact.eq (.agg #[.int .i64 ct, .slice ap np cp]), Fact.eq (.string key), Fact.eq (.string val), Fact.eq (.bool hb9), Fact.eq (.agg (hrow Q0.1)), Fact.eq (.agg #[.int .i64 ct, .slice ap np cp]), Fact.eq (.string key), Fact.eq (.string val), Fact.eq (.bool hb9), Fact.eq (.bool true), Fact.eq (.bool true), Fact.eq (.bool true), Fact.eq (.agg (hrow Q0.1)), Fact.eq (.agg #[.int .i64 ct, .slice ap np cp]), Fact.eq (.string key), Fact.eq (.bool lb9), Fact.eq (.agg (hrow Q0.1)), Fact.eq (.agg #[.int .i64 ct, .slice ap np cp]), Fact.eq (.string key), Fact.eq (.bool lb9), Fact.eq (.bool true), Fact.eq (.bool true), Fact.eq (.bool true)] (by kernel_rfl) (by kernel_rfl) (by kernel_rfl) (by kernel_rfl) (fun x => by simp only [fillFrom, Act.put, List.setIfInBounds_toArray, List.set_cons_succ, List.set_cons_zero]; rfl) ?_ ?_
      · refine ⟨?_, ?_, ?_, ?_, ?_, ?_, ?_, ?_, ?_, ?_, ?_, ?_, ?_, ?_, ?_, ?_, ?_, ?_, ?_, ?_, ?_, ?_, ?_, ?_, ?_, ?_, ?_, ?_, ?_, ?_, ?_, ?_, ?_, trivial⟩
        · intro x w' hbw hd
          clear hd
          go_wp2_with fail
          exact frPost_mk rfl (by repeat (first | assumption | exact Below.refl _ _ | refine bch ?_ (by assumption) | refine Below.alloc ?_ (by simp) _)) rfl
        · intro x w' hbw hd
          clear hd
          go_wp2_with fail
          exact frPost_mk rfl (by repeat (first | assumption | exact Below.refl _ _ | refine bch ?_ (by assumption) | refine Below.alloc ?_ (by simp) _)) rfl
        · intro x w' hbw hd
          have d0 : x 0 = .string rv := hd 0 rfl
          have d1 : x 1 = .string rv := hd 1 rfl
          clear hd
          go_wp2_with fail
          exact frPost_mk rfl (by repeat (first | assumption | exact Below.refl _ _ | refine bch ?_ (by assumption) | refine Below.alloc ?_ (by simp) _)) rfl
        · intro x w' hbw hd
          have d2 : x 2 = .bool true := hd 2 rfl
          clear hd
          go_wp2_with fail
          exact frPost_mk rfl (by repeat (first | assumption | exact Below.refl _ _ | refine bch ?_ (by assumption) | refine Below.alloc ?_ (by simp) _)) rfl
        · intro x w' hbw hd
          have d3 : x 3 = .bool true := hd 3 rfl
          clear hd
          go_wp2_with fail
          exact frPost_mk rfl (by repeat (first | assumption | exact Below.refl _ _ | refine bch ?_ (by assumption) | refine Below.alloc ?_ (by simp) _)) rfl
        · intro x w' hbw hd
          have d3 : x 3 = .bool true := hd 3 rfl
          clear hd
          go_wp2_with fail
          exact frPost_mk rfl (by repeat (first | assumption | exact Below.refl _ _ | refine bch ?_ (by assumption) | refine Below.alloc ?_ (by simp) _)) rfl
        · intro x w' hbw hd
          have d3 : x 3 = .bool true := hd 3 rfl
          have d4 : x 4 = .bool rb := hd 4 rfl
          have d5 : x 5 = .bool rb := hd 5 rfl
          clear hd
          go_wp2_with fail
          exact frPost_mk rfl (by repeat (first | assumption | exact Below.refl _ _ | refine bch ?_ (by assumption) | refine Below.alloc ?_ (by simp) _)) rfl
        · intro x w' hbw hd
          have d3 : x 3 = .bool true := hd 3 rfl
          have d6 : x 6 = .bool true := hd 6 rfl
          clear hd
          go_wp2_with fail
          exact frPost_mk rfl (by repeat (first | assumption | exact Below.refl _ _ | refine bch ?_ (by assumption) | refine Below.alloc ?_ (by simp) _)) rfl
        · intro x w' hbw hd
          have d7 : x 7 = .bool true := hd 7 rfl
          clear hd
          go_wp2_with fail
          exact frPost_mk rfl (by repeat (first | assumption | exact Below.refl _ _ | refine bch ?_ (by assumption) | refine Below.alloc ?_ (by simp) _)) rfl
        · intro x w' hbw hd
          have d8 : x 8 = .bool true := hd 8 rfl
          clear hd
          have hrQ := cells_of hQc hbw hQcl
          go_wp2_with (first | (refine wpList_load_midG 25 (.tmp 9) rfl w.heap.size 0 rfl Q0.cells _ (hrow_range hrQ) Tryd.underlying25 rfl (hash_info Q0) (by first | rfl | (simp [Region.wanted, yielded, *]; done)) ?_; rw [H32.row]))
          exact frPost_mk rfl (by repeat (first | assumption | exact Below.refl _ _ | refine bch ?_ (by assumption) | refine Below.alloc ?_ (by simp) _)) rfl
        · intro x w' hbw hd
          have d8 : x 8 = .bool true := hd 8 rfl
          clear hd
          have hrP := cells_of hPc hbw hPcl
          go_wp2_with (first | (refine wpList_load_midG 46 (.tmp 10) rfl (w.heap.size + 1) 0 rfl (#[.int .i64 ct, .slice ap np cp] : Array Value).toList _ (rangeAt_row5 hrP) Tryd.underlying46 rfl (by kernel_rfl) (by first | rfl | (simp [Region.wanted, yielded, *]; done)) ?_; rw [Array.toArray_toList]))
          exact frPost_mk rfl (by repeat (first | assumption | exact Below.refl _ _ | refine bch ?_ (by assumption) | refine Below.alloc ?_ (by simp) _)) rfl
        · intro x w' hbw hd
          have d8 : x 8 = .bool true := hd 8 rfl
          clear hd
          go_wp2_with fail
          exact frPost_mk rfl (by repeat (first | assumption | exact Below.refl _ _ | refine bch ?_ (by assumption) | refine Below.alloc ?_ (by simp) _)) rfl
        · intro x w' hbw hd
          have d8 : x 8 = .bool true := hd 8 rfl
          clear hd
          go_wp2_with fail
          exact frPost_mk rfl (by repeat (first | assumption | exact Below.refl _ _ | refine bch ?_ (by assumption) | refine Below.alloc ?_ (by simp) _)) rfl
        · intro x w' hbw hd
          have d8 : x 8 = .bool true := hd 8 rfl
          have d9 : x 9 = .agg (hrow Q0.1) := hd 9 rfl
          have d10 : x 10 = .agg #[.int .i64 ct, .slice ap np cp] := hd 10 rfl
          have d11 : x 11 = .string key := hd 11 rfl
          have d12 : x 12 = .string val := hd 12 rfl
          clear hd
          have CC := CH1 w' hbw
          go_wp2_with (first | (go_at_call 34; refine (CC).mono ?_; rintro e wx ⟨rfl, hbx⟩))
          exact frPost_mk rfl (by repeat (first | assumption | exact Below.refl _ _ | refine bch ?_ (by assumption) | refine Below.alloc ?_ (by simp) _)) rfl
        · intro x w' hbw hd
          have d8 : x 8 = .bool true := hd 8 rfl
          clear hd
          have hrQ := cells_of hQc hbw hQcl
          go_wp2_with (first | (refine wpList_load_midG 25 (.tmp 9) rfl w.heap.size 0 rfl Q0.cells _ (hrow_range hrQ) Tryd.underlying25 rfl (hash_info Q0) (by first | rfl | (simp [Region.wanted, yielded, *]; done)) ?_; rw [H32.row]))
          exact frPost_mk rfl (by repeat (first | assumption | exact Below.refl _ _ | refine bch ?_ (by assumption) | refine Below.alloc ?_ (by simp) _)) rfl
        · intro x w' hbw hd
          have d8 : x 8 = .bool true := hd 8 rfl
          clear hd
          have hrP := cells_of hPc hbw hPcl
          go_wp2_with (first | (refine wpList_load_midG 46 (.tmp 10) rfl (w.heap.size + 1) 0 rfl (#[.int .i64 ct, .slice ap np cp] : Array Value).toList _ (rangeAt_row5 hrP) Tryd.underlying46 rfl (by kernel_rfl) (by first | rfl | (simp [Region.wanted, yielded, *]; done)) ?_; rw [Array.toArray_toList]))
          exact frPost_mk rfl (by repeat (first | assumption | exact Below.refl _ _ | refine bch ?_ (by assumption) | refine Below.alloc ?_ (by simp) _)) rfl
        · intro x w' hbw hd
          have d8 : x 8 = .bool true := hd 8 rfl
          clear hd
          go_wp2_with fail
          exact frPost_mk rfl (by repeat (first | assumption | exact Below.refl _ _ | refine bch ?_ (by assumption) | refine Below.alloc ?_ (by simp) _)) rfl
        · intro x w' hbw hd
          have d8 : x 8 = .bool true := hd 8 rfl
          clear hd
          go_wp2_with fail
          exact frPost_mk rfl (by repeat (first | assumption | exact Below.refl _ _ | refine bch ?_ (by assumption) | refine Below.alloc ?_ (by simp) _)) rfl
        · intro x w' hbw hd
          have d8 : x 8 = .bool true := hd 8 rfl
          have d14 : x 14 = .agg (hrow Q0.1) := hd 14 rfl
          have d15 : x 15 = .agg #[.int .i64 ct, .slice ap np cp] := hd 15 rfl
          have d16 : x 16 = .string key := hd 16 rfl
          have d17 : x 17 = .string val := hd 17 rfl
          clear hd
          have CC := CH2 w' hbw
          go_wp2_with (first | (go_at_call 44; refine (CC).mono ?_; rintro e wx ⟨rfl, hbx⟩))
          exact frPost_mk rfl (by repeat (first | assumption | exact Below.refl _ _ | refine bch ?_ (by assumption) | refine Below.alloc ?_ (by simp) _)) rfl
        · intro x w' hbw hd
          have d8 : x 8 = .bool true := hd 8 rfl
          have d13 : x 13 = .bool hb9 := hd 13 rfl
          have d18 : x 18 = .bool hb9 := hd 18 rfl
          clear hd
          go_wp2_with fail
          exact frPost_mk rfl (by repeat (first | assumption | exact Below.refl _ _ | refine bch ?_ (by assumption) | refine Below.alloc ?_ (by simp) _)) rfl
        · intro x w' hbw hd
          have d8 : x 8 = .bool true := hd 8 rfl
          have d19 : x 19 = .bool true := hd 19 rfl
          clear hd
          go_wp2_with fail
          exact frPost_mk rfl (by repeat (first | assumption | exact Below.refl _ _ | refine bch ?_ (by assumption) | refine Below.alloc ?_ (by simp) _)) rfl
        · intro x w' hbw hd
          have d20 : x 20 = .bool true := hd 20 rfl
          clear hd
          go_wp2_with fail
          exact frPost_mk rfl (by repeat (first | assumption | exact Below.refl _ _ | refine bch ?_ (by assumption) | refine Below.alloc ?_ (by simp) _)) rfl
        · intro x w' hbw hd
          have d21 : x 21 = .bool true := hd 21 rfl
          clear hd
          have hrQ := cells_of hQc hbw hQcl
          go_wp2_with (first | (refine wpList_load_midG 25 (.tmp 9) rfl w.heap.size 0 rfl Q0.cells _ (hrow_range hrQ) Tryd.underlying25 rfl (hash_info Q0) (by first | rfl | (simp [Region.wanted, yielded, *]; done)) ?_; rw [H32.row]))
          exact frPost_mk rfl (by repeat (first | assumption | exact Below.refl _ _ | refine bch ?_ (by assumption) | refine Below.alloc ?_ (by simp) _)) rfl
        · intro x w' hbw hd
          have d21 : x 21 = .bool true := hd 21 rfl
          clear hd
          have hrP := cells_of hPc hbw hPcl
          go_wp2_with (first | (refine wpList_load_midG 46 (.tmp 10) rfl (w.heap.size + 1) 0 rfl (#[.int .i64 ct, .slice ap np cp] : Array Value).toList _ (rangeAt_row5 hrP) Tryd.underlying46 rfl (by kernel_rfl) (by first | rfl | (simp [Region.wanted, yielded, *]; done)) ?_; rw [Array.toArray_toList]))
          exact frPost_mk rfl (by repeat (first | assumption | exact Below.refl _ _ | refine bch ?_ (by assumption) | refine Below.alloc ?_ (by simp) _)) rfl
        · intro x w' hbw hd
          have d21 : x 21 = .bool true := hd 21 rfl
          clear hd
          go_wp2_with fail
          exact frPost_mk rfl (by repeat (first | assumption | exact Below.refl _ _ | refine bch ?_ (by assumption) | refine Below.alloc ?_ (by simp) _)) rfl
        · intro x w' hbw hd
          have d21 : x 21 = .bool true := hd 21 rfl
          have d22 : x 22 = .agg (hrow Q0.1) := hd 22 rfl
          have d23 : x 23 = .agg #[.int .i64 ct, .slice ap np cp] := hd 23 rfl
          have d24 : x 24 = .string key := hd 24 rfl
          clear hd
          have CC := CK1 w' hbw
          go_wp2_with (first | (go_at_call 35; refine (CC).mono ?_; rintro e wx ⟨rfl, hbx⟩))
          exact frPost_mk rfl (by repeat (first | assumption | exact Below.refl _ _ | refine bch ?_ (by assumption) | refine Below.alloc ?_ (by simp) _)) rfl
        · intro x w' hbw hd
          have d21 : x 21 = .bool true := hd 21 rfl
          clear hd
          have hrQ := cells_of hQc hbw hQcl
          go_wp2_with (first | (refine wpList_load_midG 25 (.tmp 9) rfl w.heap.size 0 rfl Q0.cells _ (hrow_range hrQ) Tryd.underlying25 rfl (hash_info Q0) (by first | rfl | (simp [Region.wanted, yielded, *]; done)) ?_; rw [H32.row]))
          exact frPost_mk rfl (by repeat (first | assumption | exact Below.refl _ _ | refine bch ?_ (by assumption) | refine Below.alloc ?_ (by simp) _)) rfl
        · intro x w' hbw hd
          have d21 : x 21 = .bool true := hd 21 rfl
          clear hd
          have hrP := cells_of hPc hbw hPcl
          go_wp2_with (first | (refine wpList_load_midG 46 (.tmp 10) rfl (w.heap.size + 1) 0 rfl (#[.int .i64 ct, .slice ap np cp] : Array Value).toList _ (rangeAt_row5 hrP) Tryd.underlying46 rfl (by kernel_rfl) (by first | rfl | (simp [Region.wanted, yielded, *]; done)) ?_; rw [Array.toArray_toList]))
          exact frPost_mk rfl (by repeat (first | assumption | exact Below.refl _ _ | refine bch ?_ (by assumption) | refine Below.alloc ?_ (by simp) _)) rfl
        · intro x w' hbw hd
          have d21 : x 21 = .bool true := hd 21 rfl
          clear hd
          go_wp2_with fail
          exact frPost_mk rfl (by repeat (first | assumption | exact Below.refl _ _ | refine bch ?_ (by assumption) | refine Below.alloc ?_ (by simp) _)) rfl
        · intro x w' hbw hd
          have d21 : x 21 = .bool true := hd 21 rfl
          have d26 : x 26 = .agg (hrow Q0.1) := hd 26 rfl
          have d27 : x 27 = .agg #[.int .i64 ct, .slice ap np cp] := hd 27 rfl
          have d28 : x 28 = .string key := hd 28 rfl
          clear hd
          have CC := CK2 w' hbw
          go_wp2_with (first | (go_at_call 45; refine (CC).mono ?_; rintro e wx ⟨rfl, hbx⟩))
          exact frPost_mk rfl (by repeat (first | assumption | exact Below.refl _ _ | refine bch ?_ (by assumption) | refine Below.alloc ?_ (by simp) _)) rfl
        · intro x w' hbw hd
          have d21 : x 21 = .bool true := hd 21 rfl
          have d25 : x 25 = .bool lb9 := hd 25 rfl
          have d29 : x 29 = .bool lb9 := hd 29 rfl
          clear hd
          go_wp2_with fail
          exact frPost_mk rfl (by repeat (first | assumption | exact Below.refl _ _ | refine bch ?_ (by assumption) | refine Below.alloc ?_ (by simp) _)) rfl
        · intro x w' hbw hd
          have d21 : x 21 = .bool true := hd 21 rfl
          have d30 : x 30 = .bool true := hd 30 rfl
          clear hd
          go_wp2_with fail
          exact frPost_mk rfl (by repeat (first | assumption | exact Below.refl _ _ | refine bch ?_ (by assumption) | refine Below.alloc ?_ (by simp) _)) rfl
        · intro x w' hbw hd
          have d31 : x 31 = .bool true := hd 31 rfl
          clear hd
          go_wp2_with fail
          exact frPost_mk rfl (by repeat (first | assumption | exact Below.refl _ _ | refine bch ?_ (by assumption) | refine Below.alloc ?_ (by simp) _)) rfl
      intro x wf hbw hd
      have d32 : x 32 = .bool true := hd 32 (by decide)
      clear hd
      simp only [Nat.zero_add, Nat.reduceAdd, d32]
      go_wp2
      go_ret
      exact ⟨by first | rfl | simp, hb13.trans (hbw.mono hb13.size)⟩
  · cases own
    · go_upto_region 11 with (first | (go_at_call 39; (with_reducible refine (CGm _ hbW).mono ?_); rintro e w2 ⟨rfl, hb⟩; have hQ := cells_of hQ hb (Array.getElem?_eq_some_iff.1 hQ).1; have hP := cells_of hP hb (Array.getElem?_eq_some_iff.1 hP).1; have p0 := cell_heap hP 0; have p1 := cell_heap hP 1; have hbel := hbel.trans (hb.mono hbel.size); have hbW := hbW.trans (hb.mono hbW.size); clear hb) | (go_at_call 31; (with_reducible refine (CR1 _ hbW).mono ?_); rintro e w2 ⟨rfl, hb⟩; have hQ := cells_of hQ hb (Array.getElem?_eq_some_iff.1 hQ).1; have hP := cells_of hP hb (Array.getElem?_eq_some_iff.1 hP).1; have p0 := cell_heap hP 0; have p1 := cell_heap hP 1; have hbel := hbel.trans (hb.mono hbel.size); have hbW := hbW.trans (hb.mono hbW.size); clear hb) | (go_at_call 40; (with_reducible refine (CR2 _ hbel).mono ?_); rintro e w2 ⟨rfl, hb⟩; have hQ := cells_of hQ hb (Array.getElem?_eq_some_iff.1 hQ).1; have hP := cells_of hP hb (Array.getElem?_eq_some_iff.1 hP).1; have p0 := cell_heap hP 0; have p1 := cell_heap hP 1; have hbel := hbel.trans (hb.mono hbel.size); have hbW := hbW.trans (hb.mono hbW.size); clear hb) | (go_at_call 32; refine (CMk _ hbW).mono ?_; rintro e w2 ⟨a3, k3, c3, us, rfl, hL3, hk3, hc3, hm3, hd3, hb⟩; have hQ := cells_of hQ hb (Array.getElem?_eq_some_iff.1 hQ).1; have hP := cells_of hP hb (Array.getElem?_eq_some_iff.1 hP).1; have p0 := cell_heap hP 0; have p1 := cell_heap hP 1; have hbel := hbel.trans (hb.mono hbel.size); have hbW := hbW.trans (hb.mono hbW.size); clear hb) | (go_at_call 42; refine (CMr _ hbW).mono ?_; rintro e w2 ⟨a4, k4, c4, vs, rfl, hL4, hk4, hc4, hm4, hd4, hb⟩; have hQ := cells_of hQ hb (Array.getElem?_eq_some_iff.1 hQ).1; have hP := cells_of hP hb (Array.getElem?_eq_some_iff.1 hP).1; have p0 := cell_heap hP 0; have p1 := cell_heap hP 1; have hbel := hbel.trans (hb.mono hbel.size); have hbW := hbW.trans (hb.mono hbW.size); have hL3 := hL3.below hb; clear hb) | (go_at_call 41; refine (CSP a3 k3 c3 us a4 k4 c4 vs _ hL3 hL4 hk3 hk4 (Nat.le_trans hc3 hm3) (Nat.le_trans hc4 hm4) hd3 hd4).mono ?_; rintro e w2 ⟨rfl, hb⟩; have hQ := cells_of hQ hb (Array.getElem?_eq_some_iff.1 hQ).1; have hP := cells_of hP hb (Array.getElem?_eq_some_iff.1 hP).1; have p0 := cell_heap hP 0; have p1 := cell_heap hP 1; have hbel := hbel.trans (hb.mono hbel.size); have hbW := hbW.trans (hb.mono hbW.size); clear hb))
      refine wp_nameE _ (fun W11 hX => ?_)
      have hQ9 : W11.heap[w.heap.size]? = some (.cells (hrow Q0.1) 25 (0, 0)) := by rw [hX]; exact hQ
      have hP9 : W11.heap[w.heap.size + 1]? = some (.cells #[.int .i64 ct, .slice ap np cp] 46 (0, 0)) := by rw [hX]; exact hP
      have hb11 : Below w.heap.size w W11 := by rw [hX]; exact hbel
      clear hX hQ hP hbel p0 p1 hbW CGm CR1 CR2 CMk CMr CSP hEQ
      have CV1 := fun W (hb : Below w.heap.size w W) => value_any Q0.1 Q0.2 ct ap np cp xs key W (hS.below hb) (hx.below hb) HXN.out HXC.out
      have CV2 := fun W (hb : Below w.heap.size w W) => refValue_any Q0.1 Q0.2 ct ap np cp xs key W (hx.below hb) HXN.out HXC.out
      obtain ⟨⟨rv, rb⟩, hvf⟩ : ∃ t, valF Q0.1 ct xs key = t := ⟨_, rfl⟩
      simp only [hvf] at CV1 CV2
      clear hvf
      have p0 : W11.cell? ⟨w.heap.size + 1, 0, none⟩ = some (.int .i64 ct) := cell_heap hP9 0
      have p1 : W11.cell? ⟨w.heap.size + 1, 1, none⟩ = some (.slice ap np cp) := cell_heap hP9 1
      go_upto_region 13 with (first | (go_at_call 33; (with_reducible refine (CV1 _ hb11).mono ?_); rintro e w2 ⟨rfl, hb⟩; have hQ9 := cells_of hQ9 hb (Array.getElem?_eq_some_iff.1 hQ9).1; have hP9 := cells_of hP9 hb (Array.getElem?_eq_some_iff.1 hP9).1; have p0 := cell_heap hP9 0; have p1 := cell_heap hP9 1; have hb11 := hb11.trans (hb.mono hb11.size); clear hb) | (go_at_call 43; (with_reducible refine (CV2 _ hb11).mono ?_); rintro e w2 ⟨rfl, hb⟩; have hQ9 := cells_of hQ9 hb (Array.getElem?_eq_some_iff.1 hQ9).1; have hP9 := cells_of hP9 hb (Array.getElem?_eq_some_iff.1 hP9).1; have p0 := cell_heap hP9 0; have p1 := cell_heap hP9 1; have hb11 := hb11.trans (hb.mono hb11.size); clear hb) | (refine wpList_load_mid rfl 25 (.tmp 9) rfl w.heap.size 0 rfl Q0.cells _ (hrow_range hQ9) Tryd.underlying25 rfl (hash_info Q0) ?_; rw [H32.row]))
      refine wp_nameE _ (fun W13 hX => ?_)
      have hQc : W13.heap[w.heap.size]? = some (.cells (hrow Q0.1) 25 (0, 0)) := by rw [hX]; exact hQ9
      have hPc : W13.heap[w.heap.size + 1]? = some (.cells #[.int .i64 ct, .slice ap np cp] 46 (0, 0)) := by rw [hX]; exact hP9
      have hb13 : Below w.heap.size w W13 := by rw [hX]; exact hb11
      clear hX hQ9 hP9 hb11 p0 p1 CV1 CV2
      have hQcl := (Array.getElem?_eq_some_iff.1 hQc).1
      have hPcl := (Array.getElem?_eq_some_iff.1 hPc).1
      have CH1 := fun W (hb : Below W13.heap.size W13 W) => has_any Q0.1 Q0.2 ct ap np cp xs key val W (hS.below (hb13.trans (hb.mono hb13.size))) (hx.below (hb13.trans (hb.mono hb13.size))) HXN.out HXC.out
      have CH2 := fun W (hb : Below W13.heap.size W13 W) => refHas_any Q0.1 Q0.2 ct ap np cp xs key val W (hx.below (hb13.trans (hb.mono hb13.size))) HXN.out HXC.out
      have CK1 := fun W (hb : Below W13.heap.size W13 W) => lacks_any Q0.1 Q0.2 ct ap np cp xs key W (hS.below (hb13.trans (hb.mono hb13.size))) (hx.below (hb13.trans (hb.mono hb13.size))) HXN.out HXC.out
      have CK2 := fun W (hb : Below W13.heap.size W13 W) => refLacks_any Q0.1 Q0.2 ct ap np cp xs key W (hx.below (hb13.trans (hb.mono hb13.size))) HXN.out HXC.out
      obtain ⟨hb9, h1⟩ : ∃ t, hasF Q0.1 ct xs key val = t := ⟨_, rfl⟩
      obtain ⟨lb9, h2⟩ : ∃ t, lacksF Q0.1 ct xs key = t := ⟨_, rfl⟩
      simp only [h1] at CH1 CH2
      simp only [h2] at CK1 CK2
      clear h1 h2
      refine wp_region_facts [Fact.eq (.string rv), Fact.eq (.string rv), Fact.eq (.bool true), Fact.eq (.bool true), Fact.eq (.bool rb), Fact.eq (.bool rb), Fact.eq (.bool true), Fact.eq (.bool true), Fact.eq (.bool true), Fact.eq (.agg (hrow Q0.1)), Fact.eq (.agg #[.int .i64 ct, .slice ap np cp]), Fact.eq (.string key), Fact.eq (.string val), Fact.eq (.bool hb9), Fact.eq (.agg (hrow Q0.1)), Fact.eq (.agg #[.int .i64 ct, .slice ap np cp]), Fact.eq (.string key), Fact.eq (.string val), Fact.eq (.bool hb9), Fact.eq (.bool true), Fact.eq (.bool true), Fact.eq (.bool true), Fact.eq (.agg (hrow Q0.1)), Fact.eq (.agg #[.int .i64 ct, .slice ap np cp]), Fact.eq (.string key), Fact.eq (.bool lb9), Fact.eq (.agg (hrow Q0.1)), Fact.eq (.agg #[.int .i64 ct, .slice ap np cp]), Fact.eq (.string key), Fact.eq (.bool lb9), Fact.eq (.bool true), Fact.eq (.bool true), Fact.eq (.bool true)] (by kernel_rfl) (by kernel_rfl) (by kernel_rfl) (by kernel_rfl) (fun x => by simp only [fillFrom, Act.put, List.setIfInBounds_toArray, List.set_cons_succ, List.set_cons_zero]; rfl) ?_ ?_
      · refine ⟨?_, ?_, ?_, ?_, ?_, ?_, ?_, ?_, ?_, ?_, ?_, ?_, ?_, ?_, ?_, ?_, ?_, ?_, ?_, ?_, ?_, ?_, ?_, ?_, ?_, ?_, ?_, ?_, ?_, ?_, ?_, ?_, ?_, trivial⟩
        · intro x w' hbw hd
          clear hd
          go_wp2_with fail
          exact frPost_mk rfl (by repeat (first | assumption | exact Below.refl _ _ | refine bch ?_ (by assumption) | refine Below.alloc ?_ (by simp) _)) rfl
        · intro x w' hbw hd
          clear hd
          go_wp2_with fail
          exact frPost_mk rfl (by repeat (first | assumption | exact Below.refl _ _ | refine bch ?_ (by assumption) | refine Below.alloc ?_ (by simp) _)) rfl
        · intro x w' hbw hd
          have d0 : x 0 = .string rv := hd 0 rfl
          have d1 : x 1 = .string rv := hd 1 rfl
          clear hd
          go_wp2_with fail
          exact frPost_mk rfl (by repeat (first | assumption | exact Below.refl _ _ | refine bch ?_ (by assumption) | refine Below.alloc ?_ (by simp) _)) rfl
        · intro x w' hbw hd
          have d2 : x 2 = .bool true := hd 2 rfl
          clear hd
          go_wp2_with fail
          exact frPost_mk rfl (by repeat (first | assumption | exact Below.refl _ _ | refine bch ?_ (by assumption) | refine Below.alloc ?_ (by simp) _)) rfl
        · intro x w' hbw hd
          have d3 : x 3 = .bool true := hd 3 rfl
          clear hd
          go_wp2_with fail
          exact frPost_mk rfl (by repeat (first | assumption | exact Below.refl _ _ | refine bch ?_ (by assumption) | refine Below.alloc ?_ (by simp) _)) rfl
        · intro x w' hbw hd
          have d3 : x 3 = .bool true := hd 3 rfl
          clear hd
          go_wp2_with fail
          exact frPost_mk rfl (by repeat (first | assumption | exact Below.refl _ _ | refine bch ?_ (by assumption) | refine Below.alloc ?_ (by simp) _)) rfl
        · intro x w' hbw hd
          have d3 : x 3 = .bool true := hd 3 rfl
          have d4 : x 4 = .bool rb := hd 4 rfl
          have d5 : x 5 = .bool rb := hd 5 rfl
          clear hd
          go_wp2_with fail
          exact frPost_mk rfl (by repeat (first | assumption | exact Below.refl _ _ | refine bch ?_ (by assumption) | refine Below.alloc ?_ (by simp) _)) rfl
        · intro x w' hbw hd
          have d3 : x 3 = .bool true := hd 3 rfl
          have d6 : x 6 = .bool true := hd 6 rfl
          clear hd
          go_wp2_with fail
          exact frPost_mk rfl (by repeat (first | assumption | exact Below.refl _ _ | refine bch ?_ (by assumption) | refine Below.alloc ?_ (by simp) _)) rfl
        · intro x w' hbw hd
          have d7 : x 7 = .bool true := hd 7 rfl
          clear hd
          go_wp2_with fail
          exact frPost_mk rfl (by repeat (first | assumption | exact Below.refl _ _ | refine bch ?_ (by assumption) | refine Below.alloc ?_ (by simp) _)) rfl
        · intro x w' hbw hd
          have d8 : x 8 = .bool true := hd 8 rfl
          clear hd
          have hrQ := cells_of hQc hbw hQcl
          go_wp2_with (first | (refine wpList_load_midG 25 (.tmp 9) rfl w.heap.size 0 rfl Q0.cells _ (hrow_range hrQ) Tryd.underlying25 rfl (hash_info Q0) (by first | rfl | (simp [Region.wanted, yielded, *]; done)) ?_; rw [H32.row]))
          exact frPost_mk rfl (by repeat (first | assumption | exact Below.refl _ _ | refine bch ?_ (by assumption) | refine Below.alloc ?_ (by simp) _)) rfl
        · intro x w' hbw hd
          have d8 : x 8 = .bool true := hd 8 rfl
          clear hd
          have hrP := cells_of hPc hbw hPcl
          go_wp2_with (first | (refine wpList_load_midG 46 (.tmp 10) rfl (w.heap.size + 1) 0 rfl (#[.int .i64 ct, .slice ap np cp] : Array Value).toList _ (rangeAt_row5 hrP) Tryd.underlying46 rfl (by kernel_rfl) (by first | rfl | (simp [Region.wanted, yielded, *]; done)) ?_; rw [Array.toArray_toList]))
          exact frPost_mk rfl (by repeat (first | assumption | exact Below.refl _ _ | refine bch ?_ (by assumption) | refine Below.alloc ?_ (by simp) _)) rfl
        · intro x w' hbw hd
          have d8 : x 8 = .bool true := hd 8 rfl
          clear hd
          go_wp2_with fail
          exact frPost_mk rfl (by repeat (first | assumption | exact Below.refl _ _ | refine bch ?_ (by assumption) | refine Below.alloc ?_ (by simp) _)) rfl
        · intro x w' hbw hd
          have d8 : x 8 = .bool true := hd 8 rfl
          clear hd
          go_wp2_with fail
          exact frPost_mk rfl (by repeat (first | assumption | exact Below.refl _ _ | refine bch ?_ (by assumption) | refine Below.alloc ?_ (by simp) _)) rfl
        · intro x w' hbw hd
          have d8 : x 8 = .bool true := hd 8 rfl
          have d9 : x 9 = .agg (hrow Q0.1) := hd 9 rfl
          have d10 : x 10 = .agg #[.int .i64 ct, .slice ap np cp] := hd 10 rfl
          have d11 : x 11 = .string key := hd 11 rfl
          have d12 : x 12 = .string val := hd 12 rfl
          clear hd
          have CC := CH1 w' hbw
          go_wp2_with (first | (go_at_call 34; refine (CC).mono ?_; rintro e wx ⟨rfl, hbx⟩))
          exact frPost_mk rfl (by repeat (first | assumption | exact Below.refl _ _ | refine bch ?_ (by assumption) | refine Below.alloc ?_ (by simp) _)) rfl
        · intro x w' hbw hd
          have d8 : x 8 = .bool true := hd 8 rfl
          clear hd
          have hrQ := cells_of hQc hbw hQcl
          go_wp2_with (first | (refine wpList_load_midG 25 (.tmp 9) rfl w.heap.size 0 rfl Q0.cells _ (hrow_range hrQ) Tryd.underlying25 rfl (hash_info Q0) (by first | rfl | (simp [Region.wanted, yielded, *]; done)) ?_; rw [H32.row]))
          exact frPost_mk rfl (by repeat (first | assumption | exact Below.refl _ _ | refine bch ?_ (by assumption) | refine Below.alloc ?_ (by simp) _)) rfl
        · intro x w' hbw hd
          have d8 : x 8 = .bool true := hd 8 rfl
          clear hd
          have hrP := cells_of hPc hbw hPcl
          go_wp2_with (first | (refine wpList_load_midG 46 (.tmp 10) rfl (w.heap.size + 1) 0 rfl (#[.int .i64 ct, .slice ap np cp] : Array Value).toList _ (rangeAt_row5 hrP) Tryd.underlying46 rfl (by kernel_rfl) (by first | rfl | (simp [Region.wanted, yielded, *]; done)) ?_; rw [Array.toArray_toList]))
          exact frPost_mk rfl (by repeat (first | assumption | exact Below.refl _ _ | refine bch ?_ (by assumption) | refine Below.alloc ?_ (by simp) _)) rfl
        · intro x w' hbw hd
          have d8 : x 8 = .bool true := hd 8 rfl
          clear hd
          go_wp2_with fail
          exact frPost_mk rfl (by repeat (first | assumption | exact Below.refl _ _ | refine bch ?_ (by assumption) | refine Below.alloc ?_ (by simp) _)) rfl
        · intro x w' hbw hd
          have d8 : x 8 = .bool true := hd 8 rfl
          clear hd
          go_wp2_with fail
          exact frPost_mk rfl (by repeat (first | assumption | exact Below.refl _ _ | refine bch ?_ (by assumption) | refine Below.alloc ?_ (by simp) _)) rfl
        · intro x w' hbw hd
          have d8 : x 8 = .bool true := hd 8 rfl
          have d14 : x 14 = .agg (hrow Q0.1) := hd 14 rfl
          have d15 : x 15 = .agg #[.int .i64 ct, .slice ap np cp] := hd 15 rfl
          have d16 : x 16 = .string key := hd 16 rfl
          have d17 : x 17 = .string val := hd 17 rfl
          clear hd
          have CC := CH2 w' hbw
          go_wp2_with (first | (go_at_call 44; refine (CC).mono ?_; rintro e wx ⟨rfl, hbx⟩))
          exact frPost_mk rfl (by repeat (first | assumption | exact Below.refl _ _ | refine bch ?_ (by assumption) | refine Below.alloc ?_ (by simp) _)) rfl
        · intro x w' hbw hd
          have d8 : x 8 = .bool true := hd 8 rfl
          have d13 : x 13 = .bool hb9 := hd 13 rfl
          have d18 : x 18 = .bool hb9 := hd 18 rfl
          clear hd
          go_wp2_with fail
          exact frPost_mk rfl (by repeat (first | assumption | exact Below.refl _ _ | refine bch ?_ (by assumption) | refine Below.alloc ?_ (by simp) _)) rfl
        · intro x w' hbw hd
          have d8 : x 8 = .bool true := hd 8 rfl
          have d19 : x 19 = .bool true := hd 19 rfl
          clear hd
          go_wp2_with fail
          exact frPost_mk rfl (by repeat (first | assumption | exact Below.refl _ _ | refine bch ?_ (by assumption) | refine Below.alloc ?_ (by simp) _)) rfl
        · intro x w' hbw hd
          have d20 : x 20 = .bool true := hd 20 rfl
          clear hd
          go_wp2_with fail
          exact frPost_mk rfl (by repeat (first | assumption | exact Below.refl _ _ | refine bch ?_ (by assumption) | refine Below.alloc ?_ (by simp) _)) rfl
        · intro x w' hbw hd
          have d21 : x 21 = .bool true := hd 21 rfl
          clear hd
          have hrQ := cells_of hQc hbw hQcl
          go_wp2_with (first | (refine wpList_load_midG 25 (.tmp 9) rfl w.heap.size 0 rfl Q0.cells _ (hrow_range hrQ) Tryd.underlying25 rfl (hash_info Q0) (by first | rfl | (simp [Region.wanted, yielded, *]; done)) ?_; rw [H32.row]))
          exact frPost_mk rfl (by repeat (first | assumption | exact Below.refl _ _ | refine bch ?_ (by assumption) | refine Below.alloc ?_ (by simp) _)) rfl
        · intro x w' hbw hd
          have d21 : x 21 = .bool true := hd 21 rfl
          clear hd
          have hrP := cells_of hPc hbw hPcl
          go_wp2_with (first | (refine wpList_load_midG 46 (.tmp 10) rfl (w.heap.size + 1) 0 rfl (#[.int .i64 ct, .slice ap np cp] : Array Value).toList _ (rangeAt_row5 hrP) Tryd.underlying46 rfl (by kernel_rfl) (by first | rfl | (simp [Region.wanted, yielded, *]; done)) ?_; rw [Array.toArray_toList]))
          exact frPost_mk rfl (by repeat (first | assumption | exact Below.refl _ _ | refine bch ?_ (by assumption) | refine Below.alloc ?_ (by simp) _)) rfl
        · intro x w' hbw hd
          have d21 : x 21 = .bool true := hd 21 rfl
          clear hd
          go_wp2_with fail
          exact frPost_mk rfl (by repeat (first | assumption | exact Below.refl _ _ | refine bch ?_ (by assumption) | refine Below.alloc ?_ (by simp) _)) rfl
        · intro x w' hbw hd
          have d21 : x 21 = .bool true := hd 21 rfl
          have d22 : x 22 = .agg (hrow Q0.1) := hd 22 rfl
          have d23 : x 23 = .agg #[.int .i64 ct, .slice ap np cp] := hd 23 rfl
          have d24 : x 24 = .string key := hd 24 rfl
          clear hd
          have CC := CK1 w' hbw
          go_wp2_with (first | (go_at_call 35; refine (CC).mono ?_; rintro e wx ⟨rfl, hbx⟩))
          exact frPost_mk rfl (by repeat (first | assumption | exact Below.refl _ _ | refine bch ?_ (by assumption) | refine Below.alloc ?_ (by simp) _)) rfl
        · intro x w' hbw hd
          have d21 : x 21 = .bool true := hd 21 rfl
          clear hd
          have hrQ := cells_of hQc hbw hQcl
          go_wp2_with (first | (refine wpList_load_midG 25 (.tmp 9) rfl w.heap.size 0 rfl Q0.cells _ (hrow_range hrQ) Tryd.underlying25 rfl (hash_info Q0) (by first | rfl | (simp [Region.wanted, yielded, *]; done)) ?_; rw [H32.row]))
          exact frPost_mk rfl (by repeat (first | assumption | exact Below.refl _ _ | refine bch ?_ (by assumption) | refine Below.alloc ?_ (by simp) _)) rfl
        · intro x w' hbw hd
          have d21 : x 21 = .bool true := hd 21 rfl
          clear hd
          have hrP := cells_of hPc hbw hPcl
          go_wp2_with (first | (refine wpList_load_midG 46 (.tmp 10) rfl (w.heap.size + 1) 0 rfl (#[.int .i64 ct, .slice ap np cp] : Array Value).toList _ (rangeAt_row5 hrP) Tryd.underlying46 rfl (by kernel_rfl) (by first | rfl | (simp [Region.wanted, yielded, *]; done)) ?_; rw [Array.toArray_toList]))
          exact frPost_mk rfl (by repeat (first | assumption | exact Below.refl _ _ | refine bch ?_ (by assumption) | refine Below.alloc ?_ (by simp) _)) rfl
        · intro x w' hbw hd
          have d21 : x 21 = .bool true := hd 21 rfl
          clear hd
          go_wp2_with fail
          exact frPost_mk rfl (by repeat (first | assumption | exact Below.refl _ _ | refine bch ?_ (by assumption) | refine Below.alloc ?_ (by simp) _)) rfl
        · intro x w' hbw hd
          have d21 : x 21 = .bool true := hd 21 rfl
          have d26 : x 26 = .agg (hrow Q0.1) := hd 26 rfl
          have d27 : x 27 = .agg #[.int .i64 ct, .slice ap np cp] := hd 27 rfl
          have d28 : x 28 = .string key := hd 28 rfl
          clear hd
          have CC := CK2 w' hbw
          go_wp2_with (first | (go_at_call 45; refine (CC).mono ?_; rintro e wx ⟨rfl, hbx⟩))
          exact frPost_mk rfl (by repeat (first | assumption | exact Below.refl _ _ | refine bch ?_ (by assumption) | refine Below.alloc ?_ (by simp) _)) rfl
        · intro x w' hbw hd
          have d21 : x 21 = .bool true := hd 21 rfl
          have d25 : x 25 = .bool lb9 := hd 25 rfl
          have d29 : x 29 = .bool lb9 := hd 29 rfl
          clear hd
          go_wp2_with fail
          exact frPost_mk rfl (by repeat (first | assumption | exact Below.refl _ _ | refine bch ?_ (by assumption) | refine Below.alloc ?_ (by simp) _)) rfl
        · intro x w' hbw hd
          have d21 : x 21 = .bool true := hd 21 rfl
          have d30 : x 30 = .bool true := hd 30 rfl
          clear hd
          go_wp2_with fail
          exact frPost_mk rfl (by repeat (first | assumption | exact Below.refl _ _ | refine bch ?_ (by assumption) | refine Below.alloc ?_ (by simp) _)) rfl
        · intro x w' hbw hd
          have d31 : x 31 = .bool true := hd 31 rfl
          clear hd
          go_wp2_with fail
          exact frPost_mk rfl (by repeat (first | assumption | exact Below.refl _ _ | refine bch ?_ (by assumption) | refine Below.alloc ?_ (by simp) _)) rfl
      intro x wf hbw hd
      have d32 : x 32 = .bool true := hd 32 (by decide)
      clear hd
      simp only [Nat.zero_add, Nat.reduceAdd, d32]
      go_wp2
      go_ret
      exact ⟨by first | rfl | simp, hb13.trans (hbw.mono hb13.size)⟩
    · have hRs : (hrow R.1).size = 32 := by rw [hrow_size]; exact R.2
      have hRo := hrow_one R.1
      go_upto_region 11 with (first | (go_at_call 39; (with_reducible refine (CGm _ hbW).mono ?_); rintro e w2 ⟨rfl, hb⟩; have hQ := cells_of hQ hb (Array.getElem?_eq_some_iff.1 hQ).1; have hP := cells_of hP hb (Array.getElem?_eq_some_iff.1 hP).1; have p0 := cell_heap hP 0; have p1 := cell_heap hP 1; have hbel := hbel.trans (hb.mono hbel.size); have hbW := hbW.trans (hb.mono hbW.size); clear hb) | (go_at_call 31; (with_reducible refine (CR1 _ hbW).mono ?_); rintro e w2 ⟨rfl, hb⟩; have hQ := cells_of hQ hb (Array.getElem?_eq_some_iff.1 hQ).1; have hP := cells_of hP hb (Array.getElem?_eq_some_iff.1 hP).1; have p0 := cell_heap hP 0; have p1 := cell_heap hP 1; have hbel := hbel.trans (hb.mono hbel.size); have hbW := hbW.trans (hb.mono hbW.size); clear hb) | (go_at_call 40; (with_reducible refine (CR2 _ hbel).mono ?_); rintro e w2 ⟨rfl, hb⟩; have hQ := cells_of hQ hb (Array.getElem?_eq_some_iff.1 hQ).1; have hP := cells_of hP hb (Array.getElem?_eq_some_iff.1 hP).1; have p0 := cell_heap hP 0; have p1 := cell_heap hP 1; have hbel := hbel.trans (hb.mono hbel.size); have hbW := hbW.trans (hb.mono hbW.size); clear hb) | (go_at_call 32; refine (CMk _ hbW).mono ?_; rintro e w2 ⟨a3, k3, c3, us, rfl, hL3, hk3, hc3, hm3, hd3, hb⟩; have hQ := cells_of hQ hb (Array.getElem?_eq_some_iff.1 hQ).1; have hP := cells_of hP hb (Array.getElem?_eq_some_iff.1 hP).1; have p0 := cell_heap hP 0; have p1 := cell_heap hP 1; have hbel := hbel.trans (hb.mono hbel.size); have hbW := hbW.trans (hb.mono hbW.size); clear hb) | (go_at_call 42; refine (CMr _ hbW).mono ?_; rintro e w2 ⟨a4, k4, c4, vs, rfl, hL4, hk4, hc4, hm4, hd4, hb⟩; have hQ := cells_of hQ hb (Array.getElem?_eq_some_iff.1 hQ).1; have hP := cells_of hP hb (Array.getElem?_eq_some_iff.1 hP).1; have p0 := cell_heap hP 0; have p1 := cell_heap hP 1; have hbel := hbel.trans (hb.mono hbel.size); have hbW := hbW.trans (hb.mono hbW.size); have hL3 := hL3.below hb; clear hb) | (go_at_call 41; refine (CSP a3 k3 c3 us a4 k4 c4 vs _ hL3 hL4 hk3 hk4 (Nat.le_trans hc3 hm3) (Nat.le_trans hc4 hm4) hd3 hd4).mono ?_; rintro e w2 ⟨rfl, hb⟩; have hQ := cells_of hQ hb (Array.getElem?_eq_some_iff.1 hQ).1; have hP := cells_of hP hb (Array.getElem?_eq_some_iff.1 hP).1; have p0 := cell_heap hP 0; have p1 := cell_heap hP 1; have hbel := hbel.trans (hb.mono hbel.size); have hbW := hbW.trans (hb.mono hbW.size); clear hb) | (refine wpList_storeRowTo (Z := hrow R.1) rfl (.tmp 9) (.tmp 73) 25 rfl (by rw [hRs]; kernel_rfl) rfl (by rfl) hQ (by rw [hRs, hrow_size, Q0.2]) hRo ?_))
      refine wp_nameE _ (fun W11 hX => ?_)
      have hQ9 : W11.heap[w.heap.size]? = some (.cells (hrow R.1) 25 (0, 0)) := by rw [hX]; exact setRow_heap _ _ _ _ _ _ hQ
      have hP9 : W11.heap[w.heap.size + 1]? = some (.cells #[.int .i64 ct, .slice ap np cp] 46 (0, 0)) := by rw [hX]; exact (setRow_other _ _ _ _ (by omega)).trans hP
      have hb11 : Below w.heap.size w W11 := by rw [hX]; exact below_setRow hbel (Nat.le_refl _) _
      clear hX hQ hP hbel p0 p1 hbW CGm CR1 CR2 CMk CMr CSP hEQ
      have CV1 := fun W (hb : Below w.heap.size w W) => value_any R.1 R.2 ct ap np cp xs key W (hS.below hb) (hx.below hb) HXN.out HXC.out
      have CV2 := fun W (hb : Below w.heap.size w W) => refValue_any R.1 R.2 ct ap np cp xs key W (hx.below hb) HXN.out HXC.out
      obtain ⟨⟨rv, rb⟩, hvf⟩ : ∃ t, valF R.1 ct xs key = t := ⟨_, rfl⟩
      simp only [hvf] at CV1 CV2
      clear hvf
      have p0 : W11.cell? ⟨w.heap.size + 1, 0, none⟩ = some (.int .i64 ct) := cell_heap hP9 0
      have p1 : W11.cell? ⟨w.heap.size + 1, 1, none⟩ = some (.slice ap np cp) := cell_heap hP9 1
      go_upto_region 13 with (first | (go_at_call 33; (with_reducible refine (CV1 _ hb11).mono ?_); rintro e w2 ⟨rfl, hb⟩; have hQ9 := cells_of hQ9 hb (Array.getElem?_eq_some_iff.1 hQ9).1; have hP9 := cells_of hP9 hb (Array.getElem?_eq_some_iff.1 hP9).1; have p0 := cell_heap hP9 0; have p1 := cell_heap hP9 1; have hb11 := hb11.trans (hb.mono hb11.size); clear hb) | (go_at_call 43; (with_reducible refine (CV2 _ hb11).mono ?_); rintro e w2 ⟨rfl, hb⟩; have hQ9 := cells_of hQ9 hb (Array.getElem?_eq_some_iff.1 hQ9).1; have hP9 := cells_of hP9 hb (Array.getElem?_eq_some_iff.1 hP9).1; have p0 := cell_heap hP9 0; have p1 := cell_heap hP9 1; have hb11 := hb11.trans (hb.mono hb11.size); clear hb) | (refine wpList_load_mid rfl 25 (.tmp 9) rfl w.heap.size 0 rfl R.cells _ (hrow_range hQ9) Tryd.underlying25 rfl (hash_info R) ?_; rw [H32.row]))
      refine wp_nameE _ (fun W13 hX => ?_)
      have hQc : W13.heap[w.heap.size]? = some (.cells (hrow R.1) 25 (0, 0)) := by rw [hX]; exact hQ9
      have hPc : W13.heap[w.heap.size + 1]? = some (.cells #[.int .i64 ct, .slice ap np cp] 46 (0, 0)) := by rw [hX]; exact hP9
      have hb13 : Below w.heap.size w W13 := by rw [hX]; exact hb11
      clear hX hQ9 hP9 hb11 p0 p1 CV1 CV2
      have hQcl := (Array.getElem?_eq_some_iff.1 hQc).1
      have hPcl := (Array.getElem?_eq_some_iff.1 hPc).1
      have CH1 := fun W (hb : Below W13.heap.size W13 W) => has_any R.1 R.2 ct ap np cp xs key val W (hS.below (hb13.trans (hb.mono hb13.size))) (hx.below (hb13.trans (hb.mono hb13.size))) HXN.out HXC.out
      have CH2 := fun W (hb : Below W13.heap.size W13 W) => refHas_any R.1 R.2 ct ap np cp xs key val W (hx.below (hb13.trans (hb.mono hb13.size))) HXN.out HXC.out
      have CK1 := fun W (hb : Below W13.heap.size W13 W) => lacks_any R.1 R.2 ct ap np cp xs key W (hS.below (hb13.trans (hb.mono hb13.size))) (hx.below (hb13.trans (hb.mono hb13.size))) HXN.out HXC.out
      have CK2 := fun W (hb : Below W13.heap.size W13 W) => refLacks_any R.1 R.2 ct ap np cp xs key W (hx.below (hb13.trans (hb.mono hb13.size))) HXN.out HXC.out
      obtain ⟨hb9, h1⟩ : ∃ t, hasF R.1 ct xs key val = t := ⟨_, rfl⟩
      obtain ⟨lb9, h2⟩ : ∃ t, lacksF R.1 ct xs key = t := ⟨_, rfl⟩
      simp only [h1] at CH1 CH2
      simp only [h2] at CK1 CK2
      clear h1 h2
      refine wp_region_facts [Fact.eq (.string rv), Fact.eq (.string rv), Fact.eq (.bool true), Fact.eq (.bool true), Fact.eq (.bool rb), Fact.eq (.bool rb), Fact.eq (.bool true), Fact.eq (.bool true), Fact.eq (.bool true), Fact.eq (.agg (hrow R.1)), Fact.eq (.agg #[.int .i64 ct, .slice ap np cp]), Fact.eq (.string key), Fact.eq (.string val), Fact.eq (.bool hb9), Fact.eq (.agg (hrow R.1)), Fact.eq (.agg #[.int .i64 ct, .slice ap np cp]), Fact.eq (.string key), Fact.eq (.string val), Fact.eq (.bool hb9), Fact.eq (.bool true), Fact.eq (.bool true), Fact.eq (.bool true), Fact.eq (.agg (hrow R.1)), Fact.eq (.agg #[.int .i64 ct, .slice ap np cp]), Fact.eq (.string key), Fact.eq (.bool lb9), Fact.eq (.agg (hrow R.1)), Fact.eq (.agg #[.int .i64 ct, .slice ap np cp]), Fact.eq (.string key), Fact.eq (.bool lb9), Fact.eq (.bool true), Fact.eq (.bool true), Fact.eq (.bool true)] (by kernel_rfl) (by kernel_rfl) (by kernel_rfl) (by kernel_rfl) (fun x => by simp only [fillFrom, Act.put, List.setIfInBounds_toArray, List.set_cons_succ, List.set_cons_zero]; rfl) ?_ ?_
      · refine ⟨?_, ?_, ?_, ?_, ?_, ?_, ?_, ?_, ?_, ?_, ?_, ?_, ?_, ?_, ?_, ?_, ?_, ?_, ?_, ?_, ?_, ?_, ?_, ?_, ?_, ?_, ?_, ?_, ?_, ?_, ?_, ?_, ?_, trivial⟩
        · intro x w' hbw hd
          clear hd
          go_wp2_with fail
          exact frPost_mk rfl (by repeat (first | assumption | exact Below.refl _ _ | refine bch ?_ (by assumption) | refine Below.alloc ?_ (by simp) _)) rfl
        · intro x w' hbw hd
          clear hd
          go_wp2_with fail
          exact frPost_mk rfl (by repeat (first | assumption | exact Below.refl _ _ | refine bch ?_ (by assumption) | refine Below.alloc ?_ (by simp) _)) rfl
        · intro x w' hbw hd
          have d0 : x 0 = .string rv := hd 0 rfl
          have d1 : x 1 = .string rv := hd 1 rfl
          clear hd
          go_wp2_with fail
          exact frPost_mk rfl (by repeat (first | assumption | exact Below.refl _ _ | refine bch ?_ (by assumption) | refine Below.alloc ?_ (by simp) _)) rfl
        · intro x w' hbw hd
          have d2 : x 2 = .bool true := hd 2 rfl
          clear hd
          go_wp2_with fail
          exact frPost_mk rfl (by repeat (first | assumption | exact Below.refl _ _ | refine bch ?_ (by assumption) | refine Below.alloc ?_ (by simp) _)) rfl
        · intro x w' hbw hd
          have d3 : x 3 = .bool true := hd 3 rfl
          clear hd
          go_wp2_with fail
          exact frPost_mk rfl (by repeat (first | assumption | exact Below.refl _ _ | refine bch ?_ (by assumption) | refine Below.alloc ?_ (by simp) _)) rfl
        · intro x w' hbw hd
          have d3 : x 3 = .bool true := hd 3 rfl
          clear hd
          go_wp2_with fail
          exact frPost_mk rfl (by repeat (first | assumption | exact Below.refl _ _ | refine bch ?_ (by assumption) | refine Below.alloc ?_ (by simp) _)) rfl
        · intro x w' hbw hd
          have d3 : x 3 = .bool true := hd 3 rfl
          have d4 : x 4 = .bool rb := hd 4 rfl
          have d5 : x 5 = .bool rb := hd 5 rfl
          clear hd
          go_wp2_with fail
          exact frPost_mk rfl (by repeat (first | assumption | exact Below.refl _ _ | refine bch ?_ (by assumption) | refine Below.alloc ?_ (by simp) _)) rfl
        · intro x w' hbw hd
          have d3 : x 3 = .bool true := hd 3 rfl
          have d6 : x 6 = .bool true := hd 6 rfl
          clear hd
          go_wp2_with fail
          exact frPost_mk rfl (by repeat (first | assumption | exact Below.refl _ _ | refine bch ?_ (by assumption) | refine Below.alloc ?_ (by simp) _)) rfl
        · intro x w' hbw hd
          have d7 : x 7 = .bool true := hd 7 rfl
          clear hd
          go_wp2_with fail
          exact frPost_mk rfl (by repeat (first | assumption | exact Below.refl _ _ | refine bch ?_ (by assumption) | refine Below.alloc ?_ (by simp) _)) rfl
        · intro x w' hbw hd
          have d8 : x 8 = .bool true := hd 8 rfl
          clear hd
          have hrQ := cells_of hQc hbw hQcl
          go_wp2_with (first | (refine wpList_load_midG 25 (.tmp 9) rfl w.heap.size 0 rfl R.cells _ (hrow_range hrQ) Tryd.underlying25 rfl (hash_info R) (by first | rfl | (simp [Region.wanted, yielded, *]; done)) ?_; rw [H32.row]))
          exact frPost_mk rfl (by repeat (first | assumption | exact Below.refl _ _ | refine bch ?_ (by assumption) | refine Below.alloc ?_ (by simp) _)) rfl
        · intro x w' hbw hd
          have d8 : x 8 = .bool true := hd 8 rfl
          clear hd
          have hrP := cells_of hPc hbw hPcl
          go_wp2_with (first | (refine wpList_load_midG 46 (.tmp 10) rfl (w.heap.size + 1) 0 rfl (#[.int .i64 ct, .slice ap np cp] : Array Value).toList _ (rangeAt_row5 hrP) Tryd.underlying46 rfl (by kernel_rfl) (by first | rfl | (simp [Region.wanted, yielded, *]; done)) ?_; rw [Array.toArray_toList]))
          exact frPost_mk rfl (by repeat (first | assumption | exact Below.refl _ _ | refine bch ?_ (by assumption) | refine Below.alloc ?_ (by simp) _)) rfl
        · intro x w' hbw hd
          have d8 : x 8 = .bool true := hd 8 rfl
          clear hd
          go_wp2_with fail
          exact frPost_mk rfl (by repeat (first | assumption | exact Below.refl _ _ | refine bch ?_ (by assumption) | refine Below.alloc ?_ (by simp) _)) rfl
        · intro x w' hbw hd
          have d8 : x 8 = .bool true := hd 8 rfl
          clear hd
          go_wp2_with fail
          exact frPost_mk rfl (by repeat (first | assumption | exact Below.refl _ _ | refine bch ?_ (by assumption) | refine Below.alloc ?_ (by simp) _)) rfl
        · intro x w' hbw hd
          have d8 : x 8 = .bool true := hd 8 rfl
          have d9 : x 9 = .agg (hrow R.1) := hd 9 rfl
          have d10 : x 10 = .agg #[.int .i64 ct, .slice ap np cp] := hd 10 rfl
          have d11 : x 11 = .string key := hd 11 rfl
          have d12 : x 12 = .string val := hd 12 rfl
          clear hd
          have CC := CH1 w' hbw
          go_wp2_with (first | (go_at_call 34; refine (CC).mono ?_; rintro e wx ⟨rfl, hbx⟩))
          exact frPost_mk rfl (by repeat (first | assumption | exact Below.refl _ _ | refine bch ?_ (by assumption) | refine Below.alloc ?_ (by simp) _)) rfl
        · intro x w' hbw hd
          have d8 : x 8 = .bool true := hd 8 rfl
          clear hd
          have hrQ := cells_of hQc hbw hQcl
          go_wp2_with (first | (refine wpList_load_midG 25 (.tmp 9) rfl w.heap.size 0 rfl R.cells _ (hrow_range hrQ) Tryd.underlying25 rfl (hash_info R) (by first | rfl | (simp [Region.wanted, yielded, *]; done)) ?_; rw [H32.row]))
          exact frPost_mk rfl (by repeat (first | assumption | exact Below.refl _ _ | refine bch ?_ (by assumption) | refine Below.alloc ?_ (by simp) _)) rfl
        · intro x w' hbw hd
          have d8 : x 8 = .bool true := hd 8 rfl
          clear hd
          have hrP := cells_of hPc hbw hPcl
          go_wp2_with (first | (refine wpList_load_midG 46 (.tmp 10) rfl (w.heap.size + 1) 0 rfl (#[.int .i64 ct, .slice ap np cp] : Array Value).toList _ (rangeAt_row5 hrP) Tryd.underlying46 rfl (by kernel_rfl) (by first | rfl | (simp [Region.wanted, yielded, *]; done)) ?_; rw [Array.toArray_toList]))
          exact frPost_mk rfl (by repeat (first | assumption | exact Below.refl _ _ | refine bch ?_ (by assumption) | refine Below.alloc ?_ (by simp) _)) rfl
        · intro x w' hbw hd
          have d8 : x 8 = .bool true := hd 8 rfl
          clear hd
          go_wp2_with fail
          exact frPost_mk rfl (by repeat (first | assumption | exact Below.refl _ _ | refine bch ?_ (by assumption) | refine Below.alloc ?_ (by simp) _)) rfl
        · intro x w' hbw hd
          have d8 : x 8 = .bool true := hd 8 rfl
          clear hd
          go_wp2_with fail
          exact frPost_mk rfl (by repeat (first | assumption | exact Below.refl _ _ | refine bch ?_ (by assumption) | refine Below.alloc ?_ (by simp) _)) rfl
        · intro x w' hbw hd
          have d8 : x 8 = .bool true := hd 8 rfl
          have d14 : x 14 = .agg (hrow R.1) := hd 14 rfl
          have d15 : x 15 = .agg #[.int .i64 ct, .slice ap np cp] := hd 15 rfl
          have d16 : x 16 = .string key := hd 16 rfl
          have d17 : x 17 = .string val := hd 17 rfl
          clear hd
          have CC := CH2 w' hbw
          go_wp2_with (first | (go_at_call 44; refine (CC).mono ?_; rintro e wx ⟨rfl, hbx⟩))
          exact frPost_mk rfl (by repeat (first | assumption | exact Below.refl _ _ | refine bch ?_ (by assumption) | refine Below.alloc ?_ (by simp) _)) rfl
        · intro x w' hbw hd
          have d8 : x 8 = .bool true := hd 8 rfl
          have d13 : x 13 = .bool hb9 := hd 13 rfl
          have d18 : x 18 = .bool hb9 := hd 18 rfl
          clear hd
          go_wp2_with fail
          exact frPost_mk rfl (by repeat (first | assumption | exact Below.refl _ _ | refine bch ?_ (by assumption) | refine Below.alloc ?_ (by simp) _)) rfl
        · intro x w' hbw hd
          have d8 : x 8 = .bool true := hd 8 rfl
          have d19 : x 19 = .bool true := hd 19 rfl
          clear hd
          go_wp2_with fail
          exact frPost_mk rfl (by repeat (first | assumption | exact Below.refl _ _ | refine bch ?_ (by assumption) | refine Below.alloc ?_ (by simp) _)) rfl
        · intro x w' hbw hd
          have d20 : x 20 = .bool true := hd 20 rfl
          clear hd
          go_wp2_with fail
          exact frPost_mk rfl (by repeat (first | assumption | exact Below.refl _ _ | refine bch ?_ (by assumption) | refine Below.alloc ?_ (by simp) _)) rfl
        · intro x w' hbw hd
          have d21 : x 21 = .bool true := hd 21 rfl
          clear hd
          have hrQ := cells_of hQc hbw hQcl
          go_wp2_with (first | (refine wpList_load_midG 25 (.tmp 9) rfl w.heap.size 0 rfl R.cells _ (hrow_range hrQ) Tryd.underlying25 rfl (hash_info R) (by first | rfl | (simp [Region.wanted, yielded, *]; done)) ?_; rw [H32.row]))
          exact frPost_mk rfl (by repeat (first | assumption | exact Below.refl _ _ | refine bch ?_ (by assumption) | refine Below.alloc ?_ (by simp) _)) rfl
        · intro x w' hbw hd
          have d21 : x 21 = .bool true := hd 21 rfl
          clear hd
          have hrP := cells_of hPc hbw hPcl
          go_wp2_with (first | (refine wpList_load_midG 46 (.tmp 10) rfl (w.heap.size + 1) 0 rfl (#[.int .i64 ct, .slice ap np cp] : Array Value).toList _ (rangeAt_row5 hrP) Tryd.underlying46 rfl (by kernel_rfl) (by first | rfl | (simp [Region.wanted, yielded, *]; done)) ?_; rw [Array.toArray_toList]))
          exact frPost_mk rfl (by repeat (first | assumption | exact Below.refl _ _ | refine bch ?_ (by assumption) | refine Below.alloc ?_ (by simp) _)) rfl
        · intro x w' hbw hd
          have d21 : x 21 = .bool true := hd 21 rfl
          clear hd
          go_wp2_with fail
          exact frPost_mk rfl (by repeat (first | assumption | exact Below.refl _ _ | refine bch ?_ (by assumption) | refine Below.alloc ?_ (by simp) _)) rfl
        · intro x w' hbw hd
          have d21 : x 21 = .bool true := hd 21 rfl
          have d22 : x 22 = .agg (hrow R.1) := hd 22 rfl
          have d23 : x 23 = .agg #[.int .i64 ct, .slice ap np cp] := hd 23 rfl
          have d24 : x 24 = .string key := hd 24 rfl
          clear hd
          have CC := CK1 w' hbw
          go_wp2_with (first | (go_at_call 35; refine (CC).mono ?_; rintro e wx ⟨rfl, hbx⟩))
          exact frPost_mk rfl (by repeat (first | assumption | exact Below.refl _ _ | refine bch ?_ (by assumption) | refine Below.alloc ?_ (by simp) _)) rfl
        · intro x w' hbw hd
          have d21 : x 21 = .bool true := hd 21 rfl
          clear hd
          have hrQ := cells_of hQc hbw hQcl
          go_wp2_with (first | (refine wpList_load_midG 25 (.tmp 9) rfl w.heap.size 0 rfl R.cells _ (hrow_range hrQ) Tryd.underlying25 rfl (hash_info R) (by first | rfl | (simp [Region.wanted, yielded, *]; done)) ?_; rw [H32.row]))
          exact frPost_mk rfl (by repeat (first | assumption | exact Below.refl _ _ | refine bch ?_ (by assumption) | refine Below.alloc ?_ (by simp) _)) rfl
        · intro x w' hbw hd
          have d21 : x 21 = .bool true := hd 21 rfl
          clear hd
          have hrP := cells_of hPc hbw hPcl
          go_wp2_with (first | (refine wpList_load_midG 46 (.tmp 10) rfl (w.heap.size + 1) 0 rfl (#[.int .i64 ct, .slice ap np cp] : Array Value).toList _ (rangeAt_row5 hrP) Tryd.underlying46 rfl (by kernel_rfl) (by first | rfl | (simp [Region.wanted, yielded, *]; done)) ?_; rw [Array.toArray_toList]))
          exact frPost_mk rfl (by repeat (first | assumption | exact Below.refl _ _ | refine bch ?_ (by assumption) | refine Below.alloc ?_ (by simp) _)) rfl
        · intro x w' hbw hd
          have d21 : x 21 = .bool true := hd 21 rfl
          clear hd
          go_wp2_with fail
          exact frPost_mk rfl (by repeat (first | assumption | exact Below.refl _ _ | refine bch ?_ (by assumption) | refine Below.alloc ?_ (by simp) _)) rfl
        · intro x w' hbw hd
          have d21 : x 21 = .bool true := hd 21 rfl
          have d26 : x 26 = .agg (hrow R.1) := hd 26 rfl
          have d27 : x 27 = .agg #[.int .i64 ct, .slice ap np cp] := hd 27 rfl
          have d28 : x 28 = .string key := hd 28 rfl
          clear hd
          have CC := CK2 w' hbw
          go_wp2_with (first | (go_at_call 45; refine (CC).mono ?_; rintro e wx ⟨rfl, hbx⟩))
          exact frPost_mk rfl (by repeat (first | assumption | exact Below.refl _ _ | refine bch ?_ (by assumption) | refine Below.alloc ?_ (by simp) _)) rfl
        · intro x w' hbw hd
          have d21 : x 21 = .bool true := hd 21 rfl
          have d25 : x 25 = .bool lb9 := hd 25 rfl
          have d29 : x 29 = .bool lb9 := hd 29 rfl
          clear hd
          go_wp2_with fail
          exact frPost_mk rfl (by repeat (first | assumption | exact Below.refl _ _ | refine bch ?_ (by assumption) | refine Below.alloc ?_ (by simp) _)) rfl
        · intro x w' hbw hd
          have d21 : x 21 = .bool true := hd 21 rfl
          have d30 : x 30 = .bool true := hd 30 rfl
          clear hd
          go_wp2_with fail
          exact frPost_mk rfl (by repeat (first | assumption | exact Below.refl _ _ | refine bch ?_ (by assumption) | refine Below.alloc ?_ (by simp) _)) rfl
        · intro x w' hbw hd
          have d31 : x 31 = .bool true := hd 31 rfl
          clear hd
          go_wp2_with fail
          exact frPost_mk rfl (by repeat (first | assumption | exact Below.refl _ _ | refine bch ?_ (by assumption) | refine Below.alloc ?_ (by simp) _)) rfl
      intro x wf hbw hd
      have d32 : x 32 = .bool true := hd 32 (by decide)
      clear hd
      simp only [Nat.zero_add, Nat.reduceAdd, d32]
      go_wp2
      go_ret
      exact ⟨by first | rfl | simp, hb13.trans (hbw.mono hb13.size)⟩
end Go.Proofs.YtfikbaoiialfeaaDoor
