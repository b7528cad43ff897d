/- ProofForged walked. -/
import Derived.Test.YtfikbaoiialfeaaDoorGW
import Derived.Test.YtfikbaoiialfeaaDoorGZ
import Derived.Test.YtfikbaoiialfeaaDoorGY
import Derived.Test.YtfikbaoiialfeaaDoorGP
import Derived.BigRegion
import Derived.Deep.MidRow
import Derived.LoopTactic
import Derived.BigFrame
import Derived.OwnWalk
import Derived.WalkKit
import Derived.ProofKit
import Derived.Handy
import Derived.Below
import Derived.Lib.Hide
import Derived.IntWalk
import Derived.Outline
import Derived.WalkLawsBesides
import Derived.WalkSpells
namespace Go.Proofs.YtfikbaoiialfeaaDoor
open Go.RowKit
attribute [local go_sem] strV
set_option linter.unusedVariables false
def Fact.mkP (c : Int) (R : List Pr) (key : ByteArray) : Fact := ⟨fun x w => ∃ (a : Option Addr) (k cap : Nat) (us : List LeafV), x = .agg #[.int .i64 c, .slice a k cap] ∧ LvsAt w a us ∧ us.length = k ∧ k ≤ cap ∧ cap ≤ maxLen ∧ us.map LeafV.d = makeD R key, fun _ _ _ ⟨a, k, cap, us, h1, h2, h3⟩ hb => ⟨a, k, cap, us, h1, h2.below hb, h3⟩⟩
set_option maxRecDepth 100000 in
set_option maxHeartbeats 25600000 in
theorem walkProofForged (a : Option Addr) (n cap : Nat) (l : List Pr) (key : ByteArray) (ct : Int) (ap : Option Addr) (np cp : Nat) (xs : List LeafV) (w : World) (hS : SW w) (hr : RowAt w a (l.flatMap Pr.cells)) (hn : l.length = n) (hcap : n ≤ cap) (hcm : cap ≤ maxLen) (hsz : ∀ p ∈ l, p.k.size ≤ maxLen ∧ p.v.size ≤ maxLen) (hks : key.size ≤ maxLen) (hx : LvsAt w ap xs) (hxn : xs.length = np) (hxk : np ≤ cp) (hxm : cp ≤ maxLen) :
    Calls Tryd.prog 8 #[.slice a n cap, .string key, .agg #[.int .i64 ct, .slice ap np cp]] w fun e w' => e = .returned (.bool true) ∧ Below w.heap.size w w' := by
  clear hsz
  obtain ⟨M, hM, hM2⟩ : ∃ M : Nat, min (n : Int) 20 = (M : Int) ∧ M ≤ n ∧ M ≤ 20 := by
    by_cases h : (20 : Int) < (n : Int)
    · exact ⟨20, by omega, by omega, by omega⟩
    · exact ⟨n, by omega, by omega, by omega⟩
  have hmn := hM2.1
  have hm20 := hM2.2
  have hrT : RowAt w a ((l.take M).flatMap Pr.cells) := by
    rcases hr with h | ⟨b, off, ha, hlt, hc⟩
    · left
      have h2 := pr_flat_len l
      rw [h, List.length_nil] at h2
      obtain rfl : l = [] := List.eq_nil_of_length_eq_zero (by omega)
      rw [List.take_nil]; rfl
    · refine .inr ⟨b, off, ha, hlt, fun j hj => ?_⟩
      have h9 : ((l.take M).flatMap Pr.cells)[j]? = some ((l.take M).flatMap Pr.cells)[j] := List.getElem?_eq_getElem hj
      have h8 := pr_take M j _ h9
      rw [hc j (List.getElem?_eq_some_iff.1 h8).1, h8, h9]
  have hlT : (l.take M).length = M := by rw [List.length_take]; omega
  have hgR := rise_good (l.take M)
  have hlR := rise_len (l.take M)
  have CRi0 := fun W (hb : Below w.heap.size w W) => rise_any a M cap (l.take M) W (hrT.below hb) hlT (by omega) (by omega)
  obtain ⟨R, hR⟩ : ∃ R, riseL (l.take M) = R := ⟨_, rfl⟩
  rw [hR] at hgR hlR
  simp only [hR] at CRi0
  rw [hlT] at hlR
  clear hR hrT hlT hM2 hr
  have hm0 : (0 : Int) ≤ (M : Int) := by omega
  have hm1 : (M : Int) ≤ (cap : Int) := by omega
  have hm2 : ((M : Nat) : Int).toNat = M := by omega
  obtain ⟨m, hmR9⟩ : ∃ m, R.length = m := ⟨_, rfl⟩
  have hm6 : m ≤ 20 := by omega
  simp only [hmR9] at CRi0
  have HML := Lib.hid hmR9
  have HGD := Lib.hid hgR
  have HXN := Lib.hid hxn
  have HXC := Lib.hid (And.intro hxk hxm)
  clear hn hmn hlR hmR9 hgR hxn hxk hxm
  have hcm2 : cap ≤ 9223372036854775807 := by unfold maxLen at hcm; exact hcm
  have g0 := heap_push w #[.int .i64 ct, .slice ap np cp] 46
  have hbA : Below w.heap.size w (w.alloc (.cells #[.int .i64 ct, .slice ap np cp] 46)) := Below.alloc (Below.refl _ _) (Nat.le_refl _) _
  go_enter Tryd.func8, Tryd.ntmps8
  go_upto_region 1 with fail
  refine wp_nameE _ (fun W1 hX => ?_)
  have hP : W1.heap[w.heap.size]? = some (.cells #[.int .i64 ct, .slice ap np cp] 46 (0, 0)) := by rw [hX]; exact g0
  have hb0 : Below w.heap.size w W1 := by rw [hX]; exact hbA
  clear hX g0 hbA
  have p0 := cell_heap hP 0
  have p1 := cell_heap hP 1
  have hbW := Below.refl W1.heap.size W1
  have CRi := fun W (hb : Below W1.heap.size W1 W) => CRi0 W (hb0.trans (hb.mono hb0.size))
  go_upto_region 4 with (first | (go_at_call 27; refine (first7_any _ (hS.below (hb0.trans (hbW.mono hb0.size)))).mono ?_; rintro e w2 ⟨rfl, hb⟩; have hbW := hbW.trans (hb.mono hbW.size); have hP := cells_of hP hb (Array.getElem?_eq_some_iff.1 hP).1; have p0 := cell_heap hP 0; have p1 := cell_heap hP 1; clear hb) | (go_at_call 28; refine (CRi _ hbW).mono ?_; rintro e w2 ⟨vR, rfl, hoR, hb⟩; have hbW := hbW.trans (hb.mono hbW.size); have hP := cells_of hP hb (Array.getElem?_eq_some_iff.1 hP).1; have p0 := cell_heap hP 0; have p1 := cell_heap hP 1; obtain ⟨aR, cR, rfl, hrR, hcR, hmR, haR⟩ := own_sliceQ hoR; clear hoR; clear hb))
  have hb4 := Below.refl w2.heap.size w2
  have hw4 := hb0.trans (hbW.mono hb0.size)
  clear CRi CRi0 hm0 hm1 hm2 hM hm20 hcm hcm2 hcap
  have CLp := fun W (hb : Below w2.heap.size w2 W) => lightPrs_any aR m cR R W (hrR.below hb) HML.out hcR hmR
  have CLq := fun W (hb : Below w2.heap.size w2 W) => lightPf_any ct ap np cp xs W (hx.below (hw4.trans (hb.mono hw4.size))) HXN.out (Nat.le_trans HXC.out.1 HXC.out.2)
  obtain ⟨kl, el⟩ : ∃ b, lightPrs R = b := ⟨_, rfl⟩
  simp only [el] at CLp
  obtain ⟨kn, en⟩ : ∃ b, lightPf xs = b := ⟨_, rfl⟩
  simp only [en] at CLq
  clear el en
  cases kl
  · go_wp2_with (first | (go_at_call 29; refine (CLp _ hb4).mono ?_; rintro e w2 ⟨rfl, hb⟩; have hbW := hbW.trans (hb.mono hbW.size); have hP := cells_of hP hb (Array.getElem?_eq_some_iff.1 hP).1; have p0 := cell_heap hP 0; have p1 := cell_heap hP 1; have hb4 := hb4.trans (hb.mono hb4.size); clear hb) | (go_at_call 37; refine (CLq _ hb4).mono ?_; rintro e w2 ⟨rfl, hb⟩; have hbW := hbW.trans (hb.mono hbW.size); have hP := cells_of hP hb (Array.getElem?_eq_some_iff.1 hP).1; have p0 := cell_heap hP 0; have p1 := cell_heap hP 1; have hb4 := hb4.trans (hb.mono hb4.size); clear hb) | (go_at_call 27; refine (first7_any _ (hS.below (hb0.trans (hbW.mono hb0.size)))).mono ?_; rintro e w2 ⟨rfl, hb⟩; have hbW := hbW.trans (hb.mono hbW.size); have hP := cells_of hP hb (Array.getElem?_eq_some_iff.1 hP).1; have p0 := cell_heap hP 0; have p1 := cell_heap hP 1; have hb4 := hb4.trans (hb.mono hb4.size); clear hb))
    go_ret
    exact ⟨by first | rfl | simp, hb0.trans (hbW.mono hb0.size)⟩
  cases kn
  · go_wp2_with (first | (go_at_call 29; refine (CLp _ hb4).mono ?_; rintro e w2 ⟨rfl, hb⟩; have hbW := hbW.trans (hb.mono hbW.size); have hP := cells_of hP hb (Array.getElem?_eq_some_iff.1 hP).1; have p0 := cell_heap hP 0; have p1 := cell_heap hP 1; have hb4 := hb4.trans (hb.mono hb4.size); clear hb) | (go_at_call 37; refine (CLq _ hb4).mono ?_; rintro e w2 ⟨rfl, hb⟩; have hbW := hbW.trans (hb.mono hbW.size); have hP := cells_of hP hb (Array.getElem?_eq_some_iff.1 hP).1; have p0 := cell_heap hP 0; have p1 := cell_heap hP 1; have hb4 := hb4.trans (hb.mono hb4.size); clear hb) | (go_at_call 27; refine (first7_any _ (hS.below (hb0.trans (hbW.mono hb0.size)))).mono ?_; rintro e w2 ⟨rfl, hb⟩; have hbW := hbW.trans (hb.mono hbW.size); have hP := cells_of hP hb (Array.getElem?_eq_some_iff.1 hP).1; have p0 := cell_heap hP 0; have p1 := cell_heap hP 1; have hb4 := hb4.trans (hb.mono hb4.size); clear hb))
    go_ret
    exact ⟨by first | rfl | simp, hb0.trans (hbW.mono hb0.size)⟩
  by_cases c1 : key.size < 1
  · have d1 : decide ((key.size : Int) < 1) = true := decide_eq_true (by omega)
    have d1n : decide (key.size < 1) = true := decide_eq_true c1
    clear c1 hks
    go_wp2_with (first | (go_at_call 29; refine (CLp _ hb4).mono ?_; rintro e w2 ⟨rfl, hb⟩; have hbW := hbW.trans (hb.mono hbW.size); have hP := cells_of hP hb (Array.getElem?_eq_some_iff.1 hP).1; have p0 := cell_heap hP 0; have p1 := cell_heap hP 1; have hb4 := hb4.trans (hb.mono hb4.size); clear hb) | (go_at_call 37; refine (CLq _ hb4).mono ?_; rintro e w2 ⟨rfl, hb⟩; have hbW := hbW.trans (hb.mono hbW.size); have hP := cells_of hP hb (Array.getElem?_eq_some_iff.1 hP).1; have p0 := cell_heap hP 0; have p1 := cell_heap hP 1; have hb4 := hb4.trans (hb.mono hb4.size); clear hb) | (go_at_call 27; refine (first7_any _ (hS.below (hb0.trans (hbW.mono hb0.size)))).mono ?_; rintro e w2 ⟨rfl, hb⟩; have hbW := hbW.trans (hb.mono hbW.size); have hP := cells_of hP hb (Array.getElem?_eq_some_iff.1 hP).1; have p0 := cell_heap hP 0; have p1 := cell_heap hP 1; have hb4 := hb4.trans (hb.mono hb4.size); clear hb))
    go_ret
    exact ⟨by first | rfl | simp, hb0.trans (hbW.mono hb0.size)⟩
  by_cases c2 : 160 < key.size
  · have d1 : decide ((key.size : Int) < 1) = false := decide_eq_false (by omega)
    have d1n : decide (key.size < 1) = false := decide_eq_false c1
    have d2 : decide (160 < (key.size : Int)) = true := decide_eq_true (by omega)
    have d2n : decide (160 < key.size) = true := decide_eq_true c2
    clear c1 c2 hks
    go_wp2_with (first | (go_at_call 29; refine (CLp _ hb4).mono ?_; rintro e w2 ⟨rfl, hb⟩; have hbW := hbW.trans (hb.mono hbW.size); have hP := cells_of hP hb (Array.getElem?_eq_some_iff.1 hP).1; have p0 := cell_heap hP 0; have p1 := cell_heap hP 1; have hb4 := hb4.trans (hb.mono hb4.size); clear hb) | (go_at_call 37; refine (CLq _ hb4).mono ?_; rintro e w2 ⟨rfl, hb⟩; have hbW := hbW.trans (hb.mono hbW.size); have hP := cells_of hP hb (Array.getElem?_eq_some_iff.1 hP).1; have p0 := cell_heap hP 0; have p1 := cell_heap hP 1; have hb4 := hb4.trans (hb.mono hb4.size); clear hb) | (go_at_call 27; refine (first7_any _ (hS.below (hb0.trans (hbW.mono hb0.size)))).mono ?_; rintro e w2 ⟨rfl, hb⟩; have hbW := hbW.trans (hb.mono hbW.size); have hP := cells_of hP hb (Array.getElem?_eq_some_iff.1 hP).1; have p0 := cell_heap hP 0; have p1 := cell_heap hP 1; have hb4 := hb4.trans (hb.mono hb4.size); clear hb))
    go_ret
    exact ⟨by first | rfl | simp, hb0.trans (hbW.mono hb0.size)⟩
  have d1 : decide ((key.size : Int) < 1) = false := decide_eq_false (by omega)
  have d1n : decide (key.size < 1) = false := decide_eq_false c1
  have d2 : decide (160 < (key.size : Int)) = false := decide_eq_false (by omega)
  have d2n : decide (160 < key.size) = false := decide_eq_false c2
  clear c1 c2 hks
  have CO := fun W (hb : Below w2.heap.size w2 W) => own_any aR m cR R W (hrR.below hb) HML.out (by omega) hcR
  have hs6 : ∀ p ∈ R, p.k.size ≤ 1000000 ∧ p.v.size ≤ 1000000 := fun p hp => by have := goodL_fits HGD.out hp; omega
  have hs3 : ∀ p ∈ R, p.k.size ≤ 300000 ∧ p.v.size ≤ 300000 := fun p hp => by have := goodL_fits HGD.out hp; omega
  obtain ⟨Q, hQ⟩ : ∃ t : H32, rootF (m : Int) (topH (R.map leafH)).1 = t.1 := ⟨⟨_, rootF_len _ _⟩, rfl⟩
  have CR1 := fun W am cm (hb : Below w2.heap.size w2 W) (hrm : RowAt W am (R.flatMap Pr.cells)) (h1 : m ≤ cm) => proofRoot_any am m cm R W (hS.below (hw4.trans (hb.mono hw4.size))) hrm HML.out (by omega) h1 hs6
  simp only [hQ] at CR1
  have HQ := Lib.hid hQ
  have HS3 := Lib.hid hs3
  have hQs : (hrow Q.1).size = 32 := by rw [hrow_size]; exact Q.2
  have hQo := hrow_one Q.1
  clear hQ hs6 hs3
  go_upto_region 8 with (first | (go_at_call 29; refine (CLp _ hb4).mono ?_; rintro e w2 ⟨rfl, hb⟩; have hbW := hbW.trans (hb.mono hbW.size); have hP := cells_of hP hb (Array.getElem?_eq_some_iff.1 hP).1; have p0 := cell_heap hP 0; have p1 := cell_heap hP 1; have hb4 := hb4.trans (hb.mono hb4.size); clear hb) | (go_at_call 37; refine (CLq _ hb4).mono ?_; rintro e w2 ⟨rfl, hb⟩; have hbW := hbW.trans (hb.mono hbW.size); have hP := cells_of hP hb (Array.getElem?_eq_some_iff.1 hP).1; have p0 := cell_heap hP 0; have p1 := cell_heap hP 1; have hb4 := hb4.trans (hb.mono hb4.size); clear hb) | (go_at_call 30; refine (CO _ hb4).mono ?_; rintro e w2 ⟨vm, rfl, hom, hb⟩; have hbW := hbW.trans (hb.mono hbW.size); have hP := cells_of hP hb (Array.getElem?_eq_some_iff.1 hP).1; have p0 := cell_heap hP 0; have p1 := cell_heap hP 1; have hb4 := hb4.trans (hb.mono hb4.size); obtain ⟨am, cm, rfl, hrm, hm1, hm2⟩ := own_sliceH hom; clear hom; clear hb) | (go_at_call 31; refine (CR1 _ am cm hb4 hrm hm1).mono ?_; rintro e w3 ⟨rfl, hb⟩; have hbW := hbW.trans (hb.mono hbW.size); have hP := cells_of hP hb (Array.getElem?_eq_some_iff.1 hP).1; have p0 := cell_heap hP 0; have p1 := cell_heap hP 1; have hb4 := hb4.trans (hb.mono hb4.size); have hrm := hrm.below hb; clear hb) | (refine wpList_storeRowTo (Z := hrow Q.1) rfl (.tmp 8) (.tmp 44) 25 rfl (by rw [hQs]; kernel_rfl) rfl (by rfl) (heap_push _ _ _) (by rw [hQs]; rfl) hQo ?_))
  refine wp_nameE _ (fun W8 hX => ?_)
  have hbA : Below w3.heap.size w3 W8 := by rw [hX]; exact below_setRow (Below.alloc (Below.refl _ _) (Nat.le_refl _) _) (Nat.le_refl _) _
  have hQ8 : W8.heap[w3.heap.size]? = some (.cells (hrow Q.1) 25 (0, 0)) := by rw [hX]; exact setRow_heap _ _ _ _ _ _ (heap_push _ _ _)
  have hrm := hrm.below hbA
  have hrR := hrR.below (hb4.trans (hbA.mono hb4.size))
  have hb8 := (hb0.trans (hbW.mono hb0.size)).trans (hbA.mono (hb0.trans (hbW.mono hb0.size)).size)
  have hP := cells_of hP hbA (Array.getElem?_eq_some_iff.1 hP).1
  have p0 := cell_heap hP 0
  have p1 := cell_heap hP 1
  obtain ⟨g8, hg8⟩ : ∃ g, w3.heap.size = g := ⟨_, rfl⟩
  rw [hg8] at hQ8
  simp only [hg8]
  clear hX hbA hbW CO CR1 CLp CLq hg8 hw4 hb4 d1 d1n d2 d2n hQs hQo
  have CV := fun W (hb : Below W8.heap.size W8 W) => value_any Q.1 Q.2 ct ap np cp xs key W (hS.below (hb8.trans (hb.mono hb8.size))) (hx.below (hb8.trans (hb.mono hb8.size))) HXN.out HXC.out
  have CK := fun W (hb : Below W8.heap.size W8 W) => lacks_any Q.1 Q.2 ct ap np cp xs key W (hS.below (hb8.trans (hb.mono hb8.size))) (hx.below (hb8.trans (hb.mono hb8.size))) HXN.out HXC.out
  obtain ⟨⟨rv, ok⟩, hvf⟩ : ∃ t, valF Q.1 ct xs key = t := ⟨_, rfl⟩
  obtain ⟨lk, hlk⟩ : ∃ t, lacksF Q.1 ct xs key = t := ⟨_, rfl⟩
  simp only [hvf] at CV
  simp only [hlk] at CK
  have HVF := Lib.hid hvf
  have HLK := Lib.hid hlk
  clear hvf hlk
  have hbK := Below.refl W8.heap.size W8
  go_upto_region 10 with (first | (go_at_call 33; refine (CV _ hbK).mono ?_; rintro e w5 ⟨rfl, hb⟩; have hP := cells_of hP hb (Array.getElem?_eq_some_iff.1 hP).1; have hQ8 := cells_of hQ8 hb (Array.getElem?_eq_some_iff.1 hQ8).1; have p0 := cell_heap hP 0; have p1 := cell_heap hP 1; have hbK := hbK.trans (hb.mono hbK.size); clear hb) | (go_at_call 35; refine (CK _ hbK).mono ?_; rintro e w5 ⟨rfl, hb⟩; have hP := cells_of hP hb (Array.getElem?_eq_some_iff.1 hP).1; have hQ8 := cells_of hQ8 hb (Array.getElem?_eq_some_iff.1 hQ8).1; have p0 := cell_heap hP 0; have p1 := cell_heap hP 1; have hbK := hbK.trans (hb.mono hbK.size); clear hb) | (refine wpList_load_mid rfl 25 (.tmp 8) rfl g8 0 rfl Q.cells _ (hrow_range hQ8) Tryd.underlying25 rfl (hash_info Q) ?_; rw [H32.row]))
  cases ok
  · cases lk
    · go_wp2_with (go_at_call 27; refine (first7_any _ (hS.below (hb8.trans (hbK.mono hb8.size)))).mono ?_; rintro e w6 ⟨rfl, hb⟩; have hP := cells_of hP hb (Array.getElem?_eq_some_iff.1 hP).1; have hQ8 := cells_of hQ8 hb (Array.getElem?_eq_some_iff.1 hQ8).1; have p0 := cell_heap hP 0; have p1 := cell_heap hP 1; have hbK := hbK.trans (hb.mono hbK.size); clear hb)
      go_ret
      exact ⟨by first | rfl | simp, hb8.trans (hbK.mono hb8.size)⟩
    · obtain ⟨hMay, hAll, hB⟩ := pg_lk HLK.out
      obtain ⟨sb, hsb1, hsb2, hsb3⟩ := same_mk ct xs R key
      rw [HML.out] at hsb1 hsb2 hsb3
      have hclash : sb = false → clashB (strsB (inputsT R) ++ strsB (shownT ct xs)) = true := fun h => pg_clash HGD.out (by rw [HML.out]; omega) hMay (by rw [HML.out, HQ.out]; exact hAll) (by rw [HML.out, HQ.out]; exact .inr hB) (by rw [HML.out]; exact hsb3 h)
      have his : sb = true → isB R m key rv = false := fun h => by
        have h9 := isB_all (xs := xs) (key := key) HGD.out (by rw [HML.out]; omega) (by rw [HML.out]; exact hsb2 h)
        rw [HML.out, HQ.out, HVF.out] at h9
        exact h9
      have hno : sb = true → ∀ i (hi : i < R.length), (R[i].k.toList == key.toList) = true → true = false := fun h i hi hk => by
        have h9 := pg_no (xs := xs) (key := key) HGD.out (by rw [HML.out]; omega) (by rw [HML.out]; exact hsb2 h) hi hk
        rw [HML.out, HQ.out, HLK.out] at h9
        exact h9
      have HCL := Lib.hid hclash
      have HIS := Lib.hid his
      have HNO := Lib.hid hno
      have HMAY := Lib.hid hMay
      clear hsb2 hsb3 hclash his hno hMay hB hAll
      have CMk := fun W (hb : Below w5.heap.size w5 W) => make_any am m cm R key W (hS.below (hb8.trans ((hbK.trans (hb.mono hbK.size)).mono hb8.size))) (hrm.below (hbK.trans (hb.mono hbK.size))) HML.out hm1 hm2 (by omega)
      unfold MakePost at CMk
      have hMC : makeC R = (m : Int) := by unfold makeC; rw [if_pos HGD.out, HML.out]
      simp only [hMC] at CMk
      have CSm := fun (a3 : Option Addr) (k3 c3 : Nat) (us : List LeafV) (W : World) (hb : Below w5.heap.size w5 W) (hL : LvsAt W a3 us) (hl : us.length = k3) (hk : k3 ≤ maxLen) (hd : us.map LeafV.d = makeD R key) =>
        (show Calls Tryd.prog 47 #[.agg #[.int .i64 ct, .slice ap np cp], .agg #[.int .i64 (m : Int), .slice a3 k3 c3]] W fun e w' => e = .returned (.bool sb) ∧ Below W.heap.size W w' from by
          have := pfSame_any ct ap np cp xs (m : Int) a3 k3 c3 us W (hx.below (hb8.trans ((hbK.trans (hb.mono hbK.size)).mono hb8.size))) hL HXN.out hl (Nat.le_trans HXC.out.1 HXC.out.2) hk
          rwa [hsb1 us hd] at this)
      have hPl := (Array.getElem?_eq_some_iff.1 hP).1
      clear hMC hsb1 p0 p1 hQ8
      go_upto_region 12 with fail
      refine wp_region_facts [Fact.eq (.agg #[.int .i64 ct, .slice ap np cp]), Fact.eq (.slice am m cm), Fact.eq (.string key), (Fact.mkP (m : Int) R key), Fact.eq (.bool sb), Fact.eq (.bool (!sb))] (by kernel_rfl) (by kernel_rfl) (by kernel_rfl) (by kernel_rfl) (fun x => by simp only [fillFrom, Act.put, List.setIfInBounds_toArray, List.set_cons_succ, List.set_cons_zero]; rfl) ?_ ?_
      · refine ⟨?_, ?_, ?_, ?_, ?_, ?_, trivial⟩
        · intro x w' hbw hd
          clear hd
          have hrP := cells_of hP hbw hPl
          go_wp2_with (first | (refine wpList_load_midG 46 (.tmp 5) rfl w.heap.size 0 rfl (#[.int .i64 ct, .slice ap np cp] : Array Value).toList _ (rangeAt_row5 hrP) Tryd.underlying46 rfl (by kernel_rfl) (by first | rfl | (simp [Region.wanted, yielded, *]; done)) ?_; rw [Array.toArray_toList]))
          exact frPost_mk rfl (by repeat (first | assumption | exact Below.refl _ _ | refine bch ?_ (by assumption) | refine Below.alloc ?_ (by simp) _)) rfl
        · intro x w' hbw hd
          clear hd
          go_wp2_with fail
          exact frPost_mk rfl (by repeat (first | assumption | exact Below.refl _ _ | refine bch ?_ (by assumption) | refine Below.alloc ?_ (by simp) _)) rfl
        · intro x w' hbw hd
          clear hd
          go_wp2_with fail
          exact frPost_mk rfl (by repeat (first | assumption | exact Below.refl _ _ | refine bch ?_ (by assumption) | refine Below.alloc ?_ (by simp) _)) rfl
        · intro x w' hbw hd
          have d1 : x 1 = .slice am m cm := hd 1 rfl
          have d2 : x 2 = .string key := hd 2 rfl
          clear hd
          have CC := CMk w' hbw
          go_wp2_with (first | (go_at_call 32; refine (CC).mono ?_; rintro e wx ⟨a9, k9, c9, us9, rfl, hL9, hl9, hc9, hm9, hd9, hbx⟩))
          refine frPost_mk rfl (by repeat (first | assumption | exact Below.refl _ _ | refine bch ?_ (by assumption) | refine Below.alloc ?_ (by simp) _)) ?_; exact ⟨a9, k9, c9, us9, rfl, hL9, hl9, hc9, hm9, hd9⟩
        · intro x w' hbw hd
          have d0 : x 0 = .agg #[.int .i64 ct, .slice ap np cp] := hd 0 rfl
          obtain ⟨a3, k3, c3, us3, d3, hL3, hl3, hc3, hm3, hd3⟩ := (show (Fact.mkP (m : Int) R key).holds (x 3) w' from hd 3 rfl)
          clear hd
          have CC := CSm a3 k3 c3 us3 w' hbw hL3 hl3 (Nat.le_trans hc3 hm3) hd3
          go_wp2_with (first | (go_at_call 47; refine (CC).mono ?_; rintro e wx ⟨rfl, hbx⟩))
          exact frPost_mk rfl (by repeat (first | assumption | exact Below.refl _ _ | refine bch ?_ (by assumption) | refine Below.alloc ?_ (by simp) _)) rfl
        · intro x w' hbw hd
          have d4 : x 4 = .bool sb := hd 4 rfl
          clear hd
          go_wp2_with fail
          exact frPost_mk rfl (by repeat (first | assumption | exact Below.refl _ _ | refine bch ?_ (by assumption) | refine Below.alloc ?_ (by simp) _)) rfl
      intro x w12 hbw12 hall
      have hx5 : x 5 = .bool (!sb) := hall 5 (by decide)
      clear hall CMk CSm
      simp only [hx5]
      obtain ⟨W12, hW12⟩ : ∃ W, w12 = W := ⟨_, rfl⟩
      rw [hW12] at hbw12
      simp only [hW12]
      clear hW12
      have hP := cells_of hP hbw12 hPl
      have hPl12 := (Array.getElem?_eq_some_iff.1 hP).1
      have hbK := hbK.trans (hbw12.mono hbK.size)
      have hw12 := hb8.trans (hbK.mono hb8.size)
      have hrR := hrR.below hbK
      clear hbw12 hx5
      cases sb
      · have CI := fun W (hb : Below W12.heap.size W12 W) => inputs_any aR m cR R W (hrR.below hb) HML.out (by omega) hcR hmR HS3.out
        have CSh := fun W (hb : Below W12.heap.size W12 W) => shown_any ct ap np cp xs W (hx.below (hw12.trans (hb.mono hw12.size))) HXN.out HXC.out.1 HXC.out.2 HMAY.out
        have hf1 := inputs_few HML.out
        have hf2 := shown_few HMAY.out
        have hsh : ∀ s ∈ strsB (inputsT R) ++ strsB (shownT ct xs), s.size ≤ 1000000 := fun s hs => by
          rcases List.mem_append.1 hs with h | h
          · exact inputs_short HS3.out s h
          · exact shown_short HMAY.out s h
        have hcl := HCL.out rfl
        obtain ⟨I1, hI1⟩ : ∃ S, strsB (inputsT R) = S := ⟨_, rfl⟩
        obtain ⟨I2, hI2⟩ : ∃ S, strsB (shownT ct xs) = S := ⟨_, rfl⟩
        simp only [hI1] at CI hf1 hsh hcl
        simp only [hI2] at CSh hf2 hsh hcl
        have HL2 := Lib.hid (sval_flat_len I2)
        have HSH := Lib.hid hsh
        have HCL9 := Lib.hid hcl
        obtain ⟨i0, ii, hz0, hz1, hz2⟩ := info_parts Tryd.infoSt
        clear hI1 hI2 hsh hcl HCL HIS HNO
        go_upto_region 13 with fail
        refine wp_region_facts_chain 4 (by decide) [Fact.eq (.slice aR m cR), (Fact.strs W12.heap.size I1), Fact.eq (.agg #[.int .i64 ct, .slice ap np cp]), (Fact.strs W12.heap.size I2)] (by kernel_rfl) (by kernel_rfl) (by kernel_rfl) (by kernel_rfl) (by kernel_rfl) (by kernel_rfl) (by kernel_rfl) (fun x => by simp only [List.take_succ_cons, List.take_zero, fillFrom, Act.put, List.setIfInBounds_toArray, List.set_cons_succ, List.set_cons_zero]; rfl) ?_ ?_
        · refine ⟨?_, ?_, ?_, ?_, trivial⟩
          · intro x w' hbw hd
            clear hd
            go_wp2_with fail
            exact frPost_mk rfl (by repeat (first | assumption | exact Below.refl _ _ | refine bch ?_ (by assumption) | refine Below.alloc ?_ (by simp) _)) rfl
          · intro x w' hbw hd
            have d0 : x 0 = .slice aR m cR := hd 0 rfl
            clear hd
            have CC := CI w' hbw
            go_wp2_with (first | (go_at_call 60; refine (CC).mono ?_; rintro e wx ⟨vx, rfl, hox, hbx⟩))
            exact frPost_mk rfl (by repeat (first | assumption | exact Below.refl _ _ | refine bch ?_ (by assumption) | refine Below.alloc ?_ (by simp) _)) (own_lower hox hbw.size)
          · intro x w' hbw hd
            clear hd
            have hrP := cells_of hP hbw hPl12
            go_wp2_with (first | (refine wpList_load_midG 46 (.tmp 5) rfl w.heap.size 0 rfl (#[.int .i64 ct, .slice ap np cp] : Array Value).toList _ (rangeAt_row5 hrP) Tryd.underlying46 rfl (by kernel_rfl) (by first | rfl | (simp [Region.wanted, yielded, *]; done)) ?_; rw [Array.toArray_toList]))
            exact frPost_mk rfl (by repeat (first | assumption | exact Below.refl _ _ | refine bch ?_ (by assumption) | refine Below.alloc ?_ (by simp) _)) rfl
          · intro x w' hbw hd
            have d2 : x 2 = .agg #[.int .i64 ct, .slice ap np cp] := hd 2 rfl
            clear hd
            have CC := CSh w' hbw
            go_wp2_with (first | (go_at_call 61; refine (CC).mono ?_; rintro e wx ⟨vx, rfl, hox, hbx⟩))
            exact frPost_mk rfl (by repeat (first | assumption | exact Below.refl _ _ | refine bch ?_ (by assumption) | refine Below.alloc ?_ (by simp) _)) (own_lower hox hbw.size)
        · intro x w' hbw hall
          have hx0 : x 0 = .slice aR m cR := hall 0 (by decide)
          have o1 : w'.ownsRow W12.heap.size 9 1 (x 1) I1.length (I1.flatMap sval) := hall 1 (by decide)
          have o3 : w'.ownsRow W12.heap.size 9 1 (x 3) I2.length (I2.flatMap sval) := hall 3 (by decide)
          clear hall
          obtain ⟨v1, hv1⟩ : ∃ v, x 1 = v := ⟨_, rfl⟩
          rw [hv1] at o1
          obtain ⟨ab, cb, hx3, hrb, _, _, hab⟩ := own_sliceQ o3
          simp only [hx0, hv1, hx3, List.drop_succ_cons, List.drop_zero]
          go_wp2_with (first | (at_builtin; refine wpList_append_ownA _ rfl (.tmp 70) (.tmp 72) 80 rfl W12.heap.size 9 i0 (.string ⟨#[]⟩) 1 16 Tryd.underlying80 ii hz0 hz1 hz2 rfl (by decide) _ _ _ rfl o1 ab I2.length cb (I2.flatMap sval) rfl (none_newsA hab) HL2.out (row_newsA hrb hab) (sval_one _) (by unfold maxLen; omega) (by omega) hbw.size ?_; intro v9 w9 hown9 hgr9; have hown9 : w9.ownsRow W12.heap.size 9 1 v9 (I1.length + I2.length) (I1.flatMap sval ++ I2.flatMap sval) := hown9; obtain ⟨a10, c10, rfl, hr10, hc10, _⟩ := own_sliceH hown9) | (go_at_call 59; refine (clash_any a10 _ c10 (I1 ++ I2) _ (by rw [List.flatMap_append]; exact hr10) (by rw [List.length_append]) (by omega) hc10 HSH.out).mono ?_; rintro e w10 ⟨rfl, hb10⟩))
          go_ret
          have hbF := hbw.trans (below_grown o1 hgr9 hbw.size)
          refine ⟨by rw [HCL9.out]; first | rfl | simp, (hw12.trans (hbF.mono hw12.size)).trans (hb10.mono (Nat.le_trans hw12.size hbF.size))⟩
      · have his := HIS.out rfl
        have hno := HNO.out rfl
        have HIS9 := Lib.hid his
        have HNO9 := Lib.hid hno
        clear his hno HIS HNO HCL
        go_upto_region 16 with fail
        go_loopw [12, 13] (fun is i wr => ∃ k : Nat, k ≤ m ∧ i = .int .i64 k ∧ is = .bool (isB R k key rv) ∧ Below W12.heap.size W12 wr) (fun _ i _ => m - (intOf i).toNat)
        case atStart => exact ⟨0, Nat.zero_le _, rfl, rfl, Below.refl _ _⟩
        case round =>
          obtain ⟨k, hk, rfl, rfl, hbW⟩ := hrel
          obtain ⟨tb, htb⟩ : ∃ b, isB R k key rv = b := ⟨_, rfl⟩
          simp only [htb]
          by_cases hlt : k < m
          rotate_left
          · obtain rfl : k = m := by omega
            have d9 : decide ((k : Int) < (k : Int)) = false := decide_eq_false (by omega)
            have d9n : decide (k < k) = false := decide_eq_false (by omega)
            obtain rfl : tb = false := by rw [← htb]; exact HIS9.out
            clear htb
            go_wp2
            go_ret
            exact ⟨by first | rfl | simp, hw12.trans (hbW.mono hw12.size)⟩
          have d1 : decide ((k : Int) < (m : Int)) = true := decide_eq_true (by omega)
          have d1n : decide (k < m) = true := decide_eq_true hlt
          have hkl : k < R.length := by rw [HML.out]; exact hlt
          have hst := isB_step hkl key rv
          rw [htb] at hst
          have hnk := HNO9.out k hkl
          obtain ⟨b1, o1, he1, hb1, hg1⟩ := pr_range (hrR.below hbW) hkl
          obtain ⟨p, hp9⟩ : ∃ p, R[k] = p := ⟨_, rfl⟩
          rw [hp9] at hg1 hst hnk
          obtain ⟨kb, hkb⟩ : ∃ b, (p.k.toList == key.toList) = b := ⟨_, rfl⟩
          obtain ⟨vb, hvb⟩ : ∃ b, (p.v.toList == rv.toList) = b := ⟨_, rfl⟩
          rw [hkb, hvb] at hst
          rw [hkb] at hnk
          have HST := Lib.hid hst
          have q0 : wr.cell? ⟨b1, o1 + k * 2, none⟩ = some (.string p.k) := hg1 0 _ rfl
          have q1 : wr.cell? ⟨b1, o1 + k * 2 + 1, none⟩ = some (.string p.v) := hg1 1 _ rfl
          have n0 : (0 : Int) ≤ (k : Int) := by omega
          have n1 : (k : Int) < (m : Int) := by omega
          have n2 : ((k : Nat) : Int).toNat = k := by omega
          subst he1
          clear hg1 hst htb hp9 hb1
          cases kb
          rotate_left
          · cases hnk rfl
          cases tb
          · go_wp2
            go_roundw
            case rel => exact ⟨k + 1, by omega, by go_num, by rw [HST.out]; first | rfl | simp, hbW⟩
            case measure => (simp [intOf]) <;> omega
          · go_wp2
            go_roundw
            case rel => exact ⟨k + 1, by omega, by go_num, by rw [HST.out]; first | rfl | simp, hbW⟩
            case measure => (simp [intOf]) <;> omega
  · cases lk
    · obtain ⟨hMay, hB, hAll⟩ := pg_ok (q := Q.1) (ct := ct) (xs := xs) (key := key) (by rw [HVF.out])
      obtain ⟨sb, hsb1, hsb2, hsb3⟩ := same_mk ct xs R key
      rw [HML.out] at hsb1 hsb2 hsb3
      have hclash : sb = false → clashB (strsB (inputsT R) ++ strsB (shownT ct xs)) = true := fun h => pg_clash HGD.out (by rw [HML.out]; omega) hMay (by rw [HML.out, HQ.out]; exact hAll) (by rw [HML.out, HQ.out]; exact .inl hB) (by rw [HML.out]; exact hsb3 h)
      have his : sb = true → isB R m key rv = true := fun h => by
        have h9 := isB_all (xs := xs) (key := key) HGD.out (by rw [HML.out]; omega) (by rw [HML.out]; exact hsb2 h)
        rw [HML.out, HQ.out, HVF.out] at h9
        exact h9
      have hno : sb = true → ∀ i (hi : i < R.length), (R[i].k.toList == key.toList) = true → false = false := fun _ _ _ _ => rfl
      have HCL := Lib.hid hclash
      have HIS := Lib.hid his
      have HNO := Lib.hid hno
      have HMAY := Lib.hid hMay
      clear hsb2 hsb3 hclash his hno hMay hB hAll
      have CMk := fun W (hb : Below w5.heap.size w5 W) => make_any am m cm R key W (hS.below (hb8.trans ((hbK.trans (hb.mono hbK.size)).mono hb8.size))) (hrm.below (hbK.trans (hb.mono hbK.size))) HML.out hm1 hm2 (by omega)
      unfold MakePost at CMk
      have hMC : makeC R = (m : Int) := by unfold makeC; rw [if_pos HGD.out, HML.out]
      simp only [hMC] at CMk
      have CSm := fun (a3 : Option Addr) (k3 c3 : Nat) (us : List LeafV) (W : World) (hb : Below w5.heap.size w5 W) (hL : LvsAt W a3 us) (hl : us.length = k3) (hk : k3 ≤ maxLen) (hd : us.map LeafV.d = makeD R key) =>
        (show Calls Tryd.prog 47 #[.agg #[.int .i64 ct, .slice ap np cp], .agg #[.int .i64 (m : Int), .slice a3 k3 c3]] W fun e w' => e = .returned (.bool sb) ∧ Below W.heap.size W w' from by
          have := pfSame_any ct ap np cp xs (m : Int) a3 k3 c3 us W (hx.below (hb8.trans ((hbK.trans (hb.mono hbK.size)).mono hb8.size))) hL HXN.out hl (Nat.le_trans HXC.out.1 HXC.out.2) hk
          rwa [hsb1 us hd] at this)
      have hPl := (Array.getElem?_eq_some_iff.1 hP).1
      clear hMC hsb1 p0 p1 hQ8
      go_upto_region 12 with fail
      refine wp_region_facts [Fact.eq (.agg #[.int .i64 ct, .slice ap np cp]), Fact.eq (.slice am m cm), Fact.eq (.string key), (Fact.mkP (m : Int) R key), Fact.eq (.bool sb), Fact.eq (.bool (!sb))] (by kernel_rfl) (by kernel_rfl) (by kernel_rfl) (by kernel_rfl) (fun x => by simp only [fillFrom, Act.put, List.setIfInBounds_toArray, List.set_cons_succ, List.set_cons_zero]; rfl) ?_ ?_
      · refine ⟨?_, ?_, ?_, ?_, ?_, ?_, trivial⟩
        · intro x w' hbw hd
          clear hd
          have hrP := cells_of hP hbw hPl
          go_wp2_with (first | (refine wpList_load_midG 46 (.tmp 5) rfl w.heap.size 0 rfl (#[.int .i64 ct, .slice ap np cp] : Array Value).toList _ (rangeAt_row5 hrP) Tryd.underlying46 rfl (by kernel_rfl) (by first | rfl | (simp [Region.wanted, yielded, *]; done)) ?_; rw [Array.toArray_toList]))
          exact frPost_mk rfl (by repeat (first | assumption | exact Below.refl _ _ | refine bch ?_ (by assumption) | refine Below.alloc ?_ (by simp) _)) rfl
        · intro x w' hbw hd
          clear hd
          go_wp2_with fail
          exact frPost_mk rfl (by repeat (first | assumption | exact Below.refl _ _ | refine bch ?_ (by assumption) | refine Below.alloc ?_ (by simp) _)) rfl
        · intro x w' hbw hd
          clear hd
          go_wp2_with fail
          exact frPost_mk rfl (by repeat (first | assumption | exact Below.refl _ _ | refine bch ?_ (by assumption) | refine Below.alloc ?_ (by simp) _)) rfl
        · intro x w' hbw hd
          have d1 : x 1 = .slice am m cm := hd 1 rfl
          have d2 : x 2 = .string key := hd 2 rfl
          clear hd
          have CC := CMk w' hbw
          go_wp2_with (first | (go_at_call 32; refine (CC).mono ?_; rintro e wx ⟨a9, k9, c9, us9, rfl, hL9, hl9, hc9, hm9, hd9, hbx⟩))
          refine frPost_mk rfl (by repeat (first | assumption | exact Below.refl _ _ | refine bch ?_ (by assumption) | refine Below.alloc ?_ (by simp) _)) ?_; exact ⟨a9, k9, c9, us9, rfl, hL9, hl9, hc9, hm9, hd9⟩
        · intro x w' hbw hd
          have d0 : x 0 = .agg #[.int .i64 ct, .slice ap np cp] := hd 0 rfl
          obtain ⟨a3, k3, c3, us3, d3, hL3, hl3, hc3, hm3, hd3⟩ := (show (Fact.mkP (m : Int) R key).holds (x 3) w' from hd 3 rfl)
          clear hd
          have CC := CSm a3 k3 c3 us3 w' hbw hL3 hl3 (Nat.le_trans hc3 hm3) hd3
          go_wp2_with (first | (go_at_call 47; refine (CC).mono ?_; rintro e wx ⟨rfl, hbx⟩))
          exact frPost_mk rfl (by repeat (first | assumption | exact Below.refl _ _ | refine bch ?_ (by assumption) | refine Below.alloc ?_ (by simp) _)) rfl
        · intro x w' hbw hd
          have d4 : x 4 = .bool sb := hd 4 rfl
          clear hd
          go_wp2_with fail
          exact frPost_mk rfl (by repeat (first | assumption | exact Below.refl _ _ | refine bch ?_ (by assumption) | refine Below.alloc ?_ (by simp) _)) rfl
      intro x w12 hbw12 hall
      have hx5 : x 5 = .bool (!sb) := hall 5 (by decide)
      clear hall CMk CSm
      simp only [hx5]
      obtain ⟨W12, hW12⟩ : ∃ W, w12 = W := ⟨_, rfl⟩
      rw [hW12] at hbw12
      simp only [hW12]
      clear hW12
      have hP := cells_of hP hbw12 hPl
      have hPl12 := (Array.getElem?_eq_some_iff.1 hP).1
      have hbK := hbK.trans (hbw12.mono hbK.size)
      have hw12 := hb8.trans (hbK.mono hb8.size)
      have hrR := hrR.below hbK
      clear hbw12 hx5
      cases sb
      · have CI := fun W (hb : Below W12.heap.size W12 W) => inputs_any aR m cR R W (hrR.below hb) HML.out (by omega) hcR hmR HS3.out
        have CSh := fun W (hb : Below W12.heap.size W12 W) => shown_any ct ap np cp xs W (hx.below (hw12.trans (hb.mono hw12.size))) HXN.out HXC.out.1 HXC.out.2 HMAY.out
        have hf1 := inputs_few HML.out
        have hf2 := shown_few HMAY.out
        have hsh : ∀ s ∈ strsB (inputsT R) ++ strsB (shownT ct xs), s.size ≤ 1000000 := fun s hs => by
          rcases List.mem_append.1 hs with h | h
          · exact inputs_short HS3.out s h
          · exact shown_short HMAY.out s h
        have hcl := HCL.out rfl
        obtain ⟨I1, hI1⟩ : ∃ S, strsB (inputsT R) = S := ⟨_, rfl⟩
        obtain ⟨I2, hI2⟩ : ∃ S, strsB (shownT ct xs) = S := ⟨_, rfl⟩
        simp only [hI1] at CI hf1 hsh hcl
        simp only [hI2] at CSh hf2 hsh hcl
        have HL2 := Lib.hid (sval_flat_len I2)
        have HSH := Lib.hid hsh
        have HCL9 := Lib.hid hcl
        obtain ⟨i0, ii, hz0, hz1, hz2⟩ := info_parts Tryd.infoSt
        clear hI1 hI2 hsh hcl HCL HIS HNO
        go_upto_region 13 with fail
        refine wp_region_facts_chain 4 (by decide) [Fact.eq (.slice aR m cR), (Fact.strs W12.heap.size I1), Fact.eq (.agg #[.int .i64 ct, .slice ap np cp]), (Fact.strs W12.heap.size I2)] (by kernel_rfl) (by kernel_rfl) (by kernel_rfl) (by kernel_rfl) (by kernel_rfl) (by kernel_rfl) (by kernel_rfl) (fun x => by simp only [List.take_succ_cons, List.take_zero, fillFrom, Act.put, List.setIfInBounds_toArray, List.set_cons_succ, List.set_cons_zero]; rfl) ?_ ?_
        · refine ⟨?_, ?_, ?_, ?_, trivial⟩
          · intro x w' hbw hd
            clear hd
            go_wp2_with fail
            exact frPost_mk rfl (by repeat (first | assumption | exact Below.refl _ _ | refine bch ?_ (by assumption) | refine Below.alloc ?_ (by simp) _)) rfl
          · intro x w' hbw hd
            have d0 : x 0 = .slice aR m cR := hd 0 rfl
            clear hd
            have CC := CI w' hbw
            go_wp2_with (first | (go_at_call 60; refine (CC).mono ?_; rintro e wx ⟨vx, rfl, hox, hbx⟩))
            exact frPost_mk rfl (by repeat (first | assumption | exact Below.refl _ _ | refine bch ?_ (by assumption) | refine Below.alloc ?_ (by simp) _)) (own_lower hox hbw.size)
          · intro x w' hbw hd
            clear hd
            have hrP := cells_of hP hbw hPl12
            go_wp2_with (first | (refine wpList_load_midG 46 (.tmp 5) rfl w.heap.size 0 rfl (#[.int .i64 ct, .slice ap np cp] : Array Value).toList _ (rangeAt_row5 hrP) Tryd.underlying46 rfl (by kernel_rfl) (by first | rfl | (simp [Region.wanted, yielded, *]; done)) ?_; rw [Array.toArray_toList]))
            exact frPost_mk rfl (by repeat (first | assumption | exact Below.refl _ _ | refine bch ?_ (by assumption) | refine Below.alloc ?_ (by simp) _)) rfl
          · intro x w' hbw hd
            have d2 : x 2 = .agg #[.int .i64 ct, .slice ap np cp] := hd 2 rfl
            clear hd
            have CC := CSh w' hbw
            go_wp2_with (first | (go_at_call 61; refine (CC).mono ?_; rintro e wx ⟨vx, rfl, hox, hbx⟩))
            exact frPost_mk rfl (by repeat (first | assumption | exact Below.refl _ _ | refine bch ?_ (by assumption) | refine Below.alloc ?_ (by simp) _)) (own_lower hox hbw.size)
        · intro x w' hbw hall
          have hx0 : x 0 = .slice aR m cR := hall 0 (by decide)
          have o1 : w'.ownsRow W12.heap.size 9 1 (x 1) I1.length (I1.flatMap sval) := hall 1 (by decide)
          have o3 : w'.ownsRow W12.heap.size 9 1 (x 3) I2.length (I2.flatMap sval) := hall 3 (by decide)
          clear hall
          obtain ⟨v1, hv1⟩ : ∃ v, x 1 = v := ⟨_, rfl⟩
          rw [hv1] at o1
          obtain ⟨ab, cb, hx3, hrb, _, _, hab⟩ := own_sliceQ o3
          simp only [hx0, hv1, hx3, List.drop_succ_cons, List.drop_zero]
          go_wp2_with (first | (at_builtin; refine wpList_append_ownA _ rfl (.tmp 70) (.tmp 72) 80 rfl W12.heap.size 9 i0 (.string ⟨#[]⟩) 1 16 Tryd.underlying80 ii hz0 hz1 hz2 rfl (by decide) _ _ _ rfl o1 ab I2.length cb (I2.flatMap sval) rfl (none_newsA hab) HL2.out (row_newsA hrb hab) (sval_one _) (by unfold maxLen; omega) (by omega) hbw.size ?_; intro v9 w9 hown9 hgr9; have hown9 : w9.ownsRow W12.heap.size 9 1 v9 (I1.length + I2.length) (I1.flatMap sval ++ I2.flatMap sval) := hown9; obtain ⟨a10, c10, rfl, hr10, hc10, _⟩ := own_sliceH hown9) | (go_at_call 59; refine (clash_any a10 _ c10 (I1 ++ I2) _ (by rw [List.flatMap_append]; exact hr10) (by rw [List.length_append]) (by omega) hc10 HSH.out).mono ?_; rintro e w10 ⟨rfl, hb10⟩))
          go_ret
          have hbF := hbw.trans (below_grown o1 hgr9 hbw.size)
          refine ⟨by rw [HCL9.out]; first | rfl | simp, (hw12.trans (hbF.mono hw12.size)).trans (hb10.mono (Nat.le_trans hw12.size hbF.size))⟩
      · have his := HIS.out rfl
        have hno := HNO.out rfl
        have HIS9 := Lib.hid his
        have HNO9 := Lib.hid hno
        clear his hno HIS HNO HCL
        go_upto_region 16 with fail
        go_loopw [12, 13] (fun is i wr => ∃ k : Nat, k ≤ m ∧ i = .int .i64 k ∧ is = .bool (isB R k key rv) ∧ Below W12.heap.size W12 wr) (fun _ i _ => m - (intOf i).toNat)
        case atStart => exact ⟨0, Nat.zero_le _, rfl, rfl, Below.refl _ _⟩
        case round =>
          obtain ⟨k, hk, rfl, rfl, hbW⟩ := hrel
          obtain ⟨tb, htb⟩ : ∃ b, isB R k key rv = b := ⟨_, rfl⟩
          simp only [htb]
          by_cases hlt : k < m
          rotate_left
          · obtain rfl : k = m := by omega
            have d9 : decide ((k : Int) < (k : Int)) = false := decide_eq_false (by omega)
            have d9n : decide (k < k) = false := decide_eq_false (by omega)
            obtain rfl : tb = true := by rw [← htb]; exact HIS9.out
            clear htb
            go_wp2
            go_ret
            exact ⟨by first | rfl | simp, hw12.trans (hbW.mono hw12.size)⟩
          have d1 : decide ((k : Int) < (m : Int)) = true := decide_eq_true (by omega)
          have d1n : decide (k < m) = true := decide_eq_true hlt
          have hkl : k < R.length := by rw [HML.out]; exact hlt
          have hst := isB_step hkl key rv
          rw [htb] at hst
          have hnk := HNO9.out k hkl
          obtain ⟨b1, o1, he1, hb1, hg1⟩ := pr_range (hrR.below hbW) hkl
          obtain ⟨p, hp9⟩ : ∃ p, R[k] = p := ⟨_, rfl⟩
          rw [hp9] at hg1 hst hnk
          obtain ⟨kb, hkb⟩ : ∃ b, (p.k.toList == key.toList) = b := ⟨_, rfl⟩
          obtain ⟨vb, hvb⟩ : ∃ b, (p.v.toList == rv.toList) = b := ⟨_, rfl⟩
          rw [hkb, hvb] at hst
          rw [hkb] at hnk
          have HST := Lib.hid hst
          have q0 : wr.cell? ⟨b1, o1 + k * 2, none⟩ = some (.string p.k) := hg1 0 _ rfl
          have q1 : wr.cell? ⟨b1, o1 + k * 2 + 1, none⟩ = some (.string p.v) := hg1 1 _ rfl
          have n0 : (0 : Int) ≤ (k : Int) := by omega
          have n1 : (k : Int) < (m : Int) := by omega
          have n2 : ((k : Nat) : Int).toNat = k := by omega
          subst he1
          clear hg1 hst htb hp9 hb1
          cases tb
          · cases kb
            · go_wp2
              go_roundw
              case rel => exact ⟨k + 1, by omega, by go_num, by rw [HST.out]; first | rfl | simp, hbW⟩
              case measure => (simp [intOf]) <;> omega
            · go_wp2
              go_roundw
              case rel => exact ⟨k + 1, by omega, by go_num, by rw [HST.out]; first | rfl | simp, hbW⟩
              case measure => (simp [intOf]) <;> omega
          · cases kb
            · go_wp2
              go_roundw
              case rel => exact ⟨k + 1, by omega, by go_num, by rw [HST.out]; first | rfl | simp, hbW⟩
              case measure => (simp [intOf]) <;> omega
            · go_wp2
              go_roundw
              case rel => exact ⟨k + 1, by omega, by go_num, by rw [HST.out]; first | rfl | simp, hbW⟩
              case measure => (simp [intOf]) <;> omega
    · obtain ⟨_, hB1, _⟩ := pg_ok (q := Q.1) (ct := ct) (xs := xs) (key := key) (by rw [HVF.out])
      obtain ⟨_, _, hB2⟩ := pg_lk HLK.out
      exact (pg_both hB1 hB2).elim
end Go.Proofs.YtfikbaoiialfeaaDoor
