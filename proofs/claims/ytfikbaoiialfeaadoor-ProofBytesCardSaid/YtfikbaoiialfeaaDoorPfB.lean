/- ProofBytes walked. -/
import Derived.Test.YtfikbaoiialfeaaDoorRdP
import Derived.Test.YtfikbaoiialfeaaDoorRf2
import Derived.Test.YtfikbaoiialfeaaDoorRf4
import Derived.Test.YtfikbaoiialfeaaDoorGP
import Derived.Test.YtfikbaoiialfeaaDoorGY
import Derived.Deep.MidRow
import Derived.WalkKit
import Derived.ProofKit
import Derived.Handy
import Derived.Below
import Derived.Lib.Hide
import Derived.IntWalk
import Derived.Outline
import Derived.WalkLawsBesides
import Derived.WalkSpells
namespace Go.Proofs.YtfikbaoiialfeaaDoor
open Go.RowKit
attribute [local go_sem] strV
set_option linter.unusedVariables false
set_option maxRecDepth 100000 in
set_option maxHeartbeats 800000 in
theorem ratB_any (b : Nat) (w : World) (s : ByteArray) (at_ err : Int) (h : RAt b w s at_ err) :
    Calls Tryd.prog 54 #[.pointer (some ⟨b, 0, none⟩)] w fun e w' => e = .returned (.int .i64 at_) ∧ w' = w := by
  have c0 := h.c0; have c1 := h.c1; have c2 := h.c2
  go_enter Tryd.func54, Tryd.ntmps54
  go_wp2
  go_ret
  exact ⟨rfl, by first | rfl | trivial⟩
theorem pfB_refl (c : Int) (xs : List LeafV) : pfB c c xs xs = true := by
  unfold pfB; rw [beq_self_eq_true, (lvsB_iff xs xs).2 rfl]; rfl
theorem pfB_of {c d : Int} {xs ys : List LeafV} (hc : c = d) (h : xs.map LeafV.d = ys.map LeafV.d) : pfB c d xs ys = true := by
  unfold pfB; rw [(lvsB_iff xs ys).2 h, hc, beq_self_eq_true]; rfl
theorem lightPf_few {xs : List LeafV} (h : lightPf xs = true) : xs.length ≤ 5 ∧ ∀ x ∈ xs, x.path.length ≤ 40 := by
  unfold lightPf lightLeaf at h
  simp only [Bool.and_eq_true, decide_eq_true_eq, List.all_eq_true] at h
  exact ⟨h.1, fun x hx => by have := h.2 x hx; omega⟩
set_option maxRecDepth 100000 in
set_option maxHeartbeats 12800000 in
theorem walkProofBytes (c1 : Int) (a1 : Option Addr) (n1 k1 : Nat) (xs : List LeafV) (c2 : Int) (a2 : Option Addr) (n2 k2 : Nat) (ys : List LeafV) (s : ByteArray) (w : World) (hS : SW w) (hx : LvsAt w a1 xs) (hxn : xs.length = n1) (hxk : n1 ≤ k1) (hxm : k1 ≤ maxLen) (hy : LvsAt w a2 ys) (hyn : ys.length = n2) (hyk : n2 ≤ k2) (hym : k2 ≤ maxLen) (hs : s.size ≤ maxLen) :
    Calls Tryd.prog 7 #[.agg #[.int .i64 c1, .slice a1 n1 k1], .agg #[.int .i64 c2, .slice a2 n2 k2], .string s] w fun e w' => e = .returned (.bool true) ∧ Below w.heap.size w w' := by
  have hxM : n1 ≤ maxLen := Nat.le_trans hxk hxm
  have hyM : n2 ≤ maxLen := Nat.le_trans hyk hym
  have CLm := fun W (hb : Below w.heap.size w W) => lightPf_any c1 a1 n1 k1 xs W (hx.below hb) hxn hxM
  have CLn := fun W (hb : Below w.heap.size w W) => lightPf_any c2 a2 n2 k2 ys W (hy.below hb) hyn hyM
  obtain ⟨kl, el⟩ : ∃ b, lightPf xs = b := ⟨_, rfl⟩
  obtain ⟨kn, en⟩ : ∃ b, lightPf ys = b := ⟨_, rfl⟩
  simp only [el] at CLm
  simp only [en] at CLn
  have HEL := Lib.hid el
  clear el en
  have HXN := Lib.hid hxn
  have HYN := Lib.hid hyn
  clear hxk hxm hyk hym hxn hyn
  have hz0 := al2_0 w (.cells #[.int .i64 c1, .slice a1 n1 k1] 46) (.cells #[.int .i64 c2, .slice a2 n2 k2] 46)
  have hz1 := al2_1 w (.cells #[.int .i64 c1, .slice a1 n1 k1] 46) (.cells #[.int .i64 c2, .slice a2 n2 k2] 46)
  have hbA := al2_below w (.cells #[.int .i64 c1, .slice a1 n1 k1] 46) (.cells #[.int .i64 c2, .slice a2 n2 k2] 46)
  go_enter Tryd.func7, Tryd.ntmps7
  go_upto_region 1 with fail
  refine wp_nameE _ (fun W1 hX => ?_)
  have hg : W1.heap[w.heap.size]? = some (.cells #[.int .i64 c1, .slice a1 n1 k1] 46 (0, 0)) := by rw [hX]; exact hz0
  have hn : W1.heap[w.heap.size + 1]? = some (.cells #[.int .i64 c2, .slice a2 n2 k2] 46 (0, 0)) := by rw [hX]; exact hz1
  have hbel : Below w.heap.size w W1 := by rw [hX]; exact hbA
  clear hX hz0 hz1 hbA
  have hgl : w.heap.size < W1.heap.size := (Array.getElem?_eq_some_iff.1 hg).1
  have hnl : w.heap.size + 1 < W1.heap.size := (Array.getElem?_eq_some_iff.1 hn).1
  go_upto_region 3 with (go_at_call 27; refine (first7_any _ (hS.below hbel)).mono ?_; rintro e w2 ⟨rfl, hb⟩; have hg := cells_of hg hb hgl; have hn := cells_of hn hb hnl; have hgl := Nat.lt_of_lt_of_le hgl hb.size; have hnl := Nat.lt_of_lt_of_le hnl hb.size; have hbel := hbel.trans (hb.mono hbel.size); clear hb)
  cases kl
  · go_wp2_with (first | (refine wpList_load_mid rfl 46 (.tmp 3) rfl w.heap.size 0 rfl (#[.int .i64 c1, .slice a1 n1 k1] : Array Value).toList _ (rangeAt_row5 hg) Tryd.underlying46 rfl (by kernel_rfl) ?_; rw [Array.toArray_toList]) | (refine wpList_load_mid rfl 46 (.tmp 4) rfl (w.heap.size + 1) 0 rfl (#[.int .i64 c2, .slice a2 n2 k2] : Array Value).toList _ (rangeAt_row5 hn) Tryd.underlying46 rfl (by kernel_rfl) ?_; rw [Array.toArray_toList]) | (refine wpList_load_midG 46 (.tmp 3) rfl w.heap.size 0 rfl (#[.int .i64 c1, .slice a1 n1 k1] : Array Value).toList _ (rangeAt_row5 hg) Tryd.underlying46 rfl (by kernel_rfl) (by rfl) ?_; rw [Array.toArray_toList]) | (refine wpList_load_midG 46 (.tmp 4) rfl (w.heap.size + 1) 0 rfl (#[.int .i64 c2, .slice a2 n2 k2] : Array Value).toList _ (rangeAt_row5 hn) Tryd.underlying46 rfl (by kernel_rfl) (by rfl) ?_; rw [Array.toArray_toList]) | (go_at_call 27; refine (first7_any _ (hS.below hbel)).mono ?_; rintro e w2 ⟨rfl, hb⟩; have hg := cells_of hg hb hgl; have hn := cells_of hn hb hnl; have hgl := Nat.lt_of_lt_of_le hgl hb.size; have hnl := Nat.lt_of_lt_of_le hnl hb.size; have hbel := hbel.trans (hb.mono hbel.size); clear hb) | (go_at_call 37; (with_reducible refine (CLm _ hbel).mono ?_); rintro e w2 ⟨rfl, hb⟩; have hg := cells_of hg hb hgl; have hn := cells_of hn hb hnl; have hgl := Nat.lt_of_lt_of_le hgl hb.size; have hnl := Nat.lt_of_lt_of_le hnl hb.size; have hbel := hbel.trans (hb.mono hbel.size); clear hb))
    go_ret
    exact ⟨by first | rfl | simp, hbel⟩
  cases kn
  · go_wp2_with (first | (refine wpList_load_mid rfl 46 (.tmp 3) rfl w.heap.size 0 rfl (#[.int .i64 c1, .slice a1 n1 k1] : Array Value).toList _ (rangeAt_row5 hg) Tryd.underlying46 rfl (by kernel_rfl) ?_; rw [Array.toArray_toList]) | (refine wpList_load_mid rfl 46 (.tmp 4) rfl (w.heap.size + 1) 0 rfl (#[.int .i64 c2, .slice a2 n2 k2] : Array Value).toList _ (rangeAt_row5 hn) Tryd.underlying46 rfl (by kernel_rfl) ?_; rw [Array.toArray_toList]) | (refine wpList_load_midG 46 (.tmp 3) rfl w.heap.size 0 rfl (#[.int .i64 c1, .slice a1 n1 k1] : Array Value).toList _ (rangeAt_row5 hg) Tryd.underlying46 rfl (by kernel_rfl) (by rfl) ?_; rw [Array.toArray_toList]) | (refine wpList_load_midG 46 (.tmp 4) rfl (w.heap.size + 1) 0 rfl (#[.int .i64 c2, .slice a2 n2 k2] : Array Value).toList _ (rangeAt_row5 hn) Tryd.underlying46 rfl (by kernel_rfl) (by rfl) ?_; rw [Array.toArray_toList]) | (go_at_call 27; refine (first7_any _ (hS.below hbel)).mono ?_; rintro e w2 ⟨rfl, hb⟩; have hg := cells_of hg hb hgl; have hn := cells_of hn hb hnl; have hgl := Nat.lt_of_lt_of_le hgl hb.size; have hnl := Nat.lt_of_lt_of_le hnl hb.size; have hbel := hbel.trans (hb.mono hbel.size); clear hb) | (go_at_call 37; (with_reducible refine (CLm _ hbel).mono ?_); rintro e w2 ⟨rfl, hb⟩; have hg := cells_of hg hb hgl; have hn := cells_of hn hb hnl; have hgl := Nat.lt_of_lt_of_le hgl hb.size; have hnl := Nat.lt_of_lt_of_le hnl hb.size; have hbel := hbel.trans (hb.mono hbel.size); clear hb) | (go_at_call 37; (with_reducible refine (CLn _ hbel).mono ?_); rintro e w2 ⟨rfl, hb⟩; have hg := cells_of hg hb hgl; have hn := cells_of hn hb hnl; have hgl := Nat.lt_of_lt_of_le hgl hb.size; have hnl := Nat.lt_of_lt_of_le hnl hb.size; have hbel := hbel.trans (hb.mono hbel.size); clear hb))
    go_ret
    exact ⟨by first | rfl | simp, hbel⟩
  by_cases c2s : 3000 < s.size
  · have d2 : decide (3000 < (s.size : Int)) = true := decide_eq_true (by omega)
    go_wp2_with (first | (refine wpList_load_mid rfl 46 (.tmp 3) rfl w.heap.size 0 rfl (#[.int .i64 c1, .slice a1 n1 k1] : Array Value).toList _ (rangeAt_row5 hg) Tryd.underlying46 rfl (by kernel_rfl) ?_; rw [Array.toArray_toList]) | (refine wpList_load_mid rfl 46 (.tmp 4) rfl (w.heap.size + 1) 0 rfl (#[.int .i64 c2, .slice a2 n2 k2] : Array Value).toList _ (rangeAt_row5 hn) Tryd.underlying46 rfl (by kernel_rfl) ?_; rw [Array.toArray_toList]) | (refine wpList_load_midG 46 (.tmp 3) rfl w.heap.size 0 rfl (#[.int .i64 c1, .slice a1 n1 k1] : Array Value).toList _ (rangeAt_row5 hg) Tryd.underlying46 rfl (by kernel_rfl) (by rfl) ?_; rw [Array.toArray_toList]) | (refine wpList_load_midG 46 (.tmp 4) rfl (w.heap.size + 1) 0 rfl (#[.int .i64 c2, .slice a2 n2 k2] : Array Value).toList _ (rangeAt_row5 hn) Tryd.underlying46 rfl (by kernel_rfl) (by rfl) ?_; rw [Array.toArray_toList]) | (go_at_call 27; refine (first7_any _ (hS.below hbel)).mono ?_; rintro e w2 ⟨rfl, hb⟩; have hg := cells_of hg hb hgl; have hn := cells_of hn hb hnl; have hgl := Nat.lt_of_lt_of_le hgl hb.size; have hnl := Nat.lt_of_lt_of_le hnl hb.size; have hbel := hbel.trans (hb.mono hbel.size); clear hb) | (go_at_call 37; (with_reducible refine (CLm _ hbel).mono ?_); rintro e w2 ⟨rfl, hb⟩; have hg := cells_of hg hb hgl; have hn := cells_of hn hb hnl; have hgl := Nat.lt_of_lt_of_le hgl hb.size; have hnl := Nat.lt_of_lt_of_le hnl hb.size; have hbel := hbel.trans (hb.mono hbel.size); clear hb) | (go_at_call 37; (with_reducible refine (CLn _ hbel).mono ?_); rintro e w2 ⟨rfl, hb⟩; have hg := cells_of hg hb hgl; have hn := cells_of hn hb hnl; have hgl := Nat.lt_of_lt_of_le hgl hb.size; have hnl := Nat.lt_of_lt_of_le hnl hb.size; have hbel := hbel.trans (hb.mono hbel.size); clear hb))
    go_ret
    exact ⟨by first | rfl | simp, hbel⟩
  have d2 : decide (3000 < (s.size : Int)) = false := decide_eq_false (by omega)
  have hs9 : s.size ≤ 1000000000 := by omega
  clear hs c2s
  go_upto_region 5 with (first | (refine wpList_load_mid rfl 46 (.tmp 3) rfl w.heap.size 0 rfl (#[.int .i64 c1, .slice a1 n1 k1] : Array Value).toList _ (rangeAt_row5 hg) Tryd.underlying46 rfl (by kernel_rfl) ?_; rw [Array.toArray_toList]) | (refine wpList_load_mid rfl 46 (.tmp 4) rfl (w.heap.size + 1) 0 rfl (#[.int .i64 c2, .slice a2 n2 k2] : Array Value).toList _ (rangeAt_row5 hn) Tryd.underlying46 rfl (by kernel_rfl) ?_; rw [Array.toArray_toList]) | (refine wpList_load_midG 46 (.tmp 3) rfl w.heap.size 0 rfl (#[.int .i64 c1, .slice a1 n1 k1] : Array Value).toList _ (rangeAt_row5 hg) Tryd.underlying46 rfl (by kernel_rfl) (by rfl) ?_; rw [Array.toArray_toList]) | (refine wpList_load_midG 46 (.tmp 4) rfl (w.heap.size + 1) 0 rfl (#[.int .i64 c2, .slice a2 n2 k2] : Array Value).toList _ (rangeAt_row5 hn) Tryd.underlying46 rfl (by kernel_rfl) (by rfl) ?_; rw [Array.toArray_toList]) | (go_at_call 37; (with_reducible refine (CLm _ hbel).mono ?_); rintro e w2 ⟨rfl, hb⟩; have hg := cells_of hg hb hgl; have hn := cells_of hn hb hnl; have hgl := Nat.lt_of_lt_of_le hgl hb.size; have hnl := Nat.lt_of_lt_of_le hnl hb.size; have hbel := hbel.trans (hb.mono hbel.size); clear hb) | (go_at_call 37; (with_reducible refine (CLn _ hbel).mono ?_); rintro e w2 ⟨rfl, hb⟩; have hg := cells_of hg hb hgl; have hn := cells_of hn hb hnl; have hgl := Nat.lt_of_lt_of_le hgl hb.size; have hnl := Nat.lt_of_lt_of_le hnl hb.size; have hbel := hbel.trans (hb.mono hbel.size); clear hb))
  clear CLm CLn d2
  refine wp_nameE _ (fun W5 hX => ?_)
  have hg5 : W5.heap[w.heap.size]? = some (.cells #[.int .i64 c1, .slice a1 n1 k1] 46 (0, 0)) := by rw [hX]; exact hg
  have hn5 : W5.heap[w.heap.size + 1]? = some (.cells #[.int .i64 c2, .slice a2 n2 k2] 46 (0, 0)) := by rw [hX]; exact hn
  have hbel5 : Below w.heap.size w W5 := by rw [hX]; exact hbel
  clear hX hg hn hgl hnl hbel
  have hgl5 := (Array.getElem?_eq_some_iff.1 hg5).1
  have hnl5 := (Array.getElem?_eq_some_iff.1 hn5).1
  have hx5 := hx.below hbel5
  have hy5 := hy.below hbel5
  obtain ⟨l1, l2⟩ := lightPf_few HEL.out
  obtain ⟨km, em⟩ : ∃ b, mayPfB c1 xs = b := ⟨_, rfl⟩
  obtain ⟨ks, es⟩ : ∃ b, pfB c1 c2 xs ys = b := ⟨_, rfl⟩
  obtain ⟨st, est⟩ : ∃ b, stepsD xs = b := ⟨_, rfl⟩
  have CM := fun W (hb : Below W5.heap.size W5 W) => mayPf_any c1 a1 n1 k1 xs W (hx5.below hb) HXN.out hxM
  have CRM := fun W (hb : Below W5.heap.size W5 W) => refMayPf_any c1 a1 n1 k1 xs W (hx5.below hb) HXN.out hxM
  simp only [em] at CM CRM
  have CS := fun W (hb : Below W5.heap.size W5 W) => pfSame_any c1 a1 n1 k1 xs c2 a2 n2 k2 ys W (hx5.below hb) (hy5.below hb) HXN.out HYN.out hxM hyM
  have CRS := fun W (hb : Below W5.heap.size W5 W) => Go.Proofs.YtfikbaoiialfeaaDoor.Go.Proofs.YtfikbaoiialfeaaDoor.refSamePf_any c1 a1 n1 k1 xs c2 a2 n2 k2 ys W (hx5.below hb) (hy5.below hb) HXN.out HYN.out hxM hyM
  simp only [es] at CS CRS
  have CSS := fun W (hb : Below W5.heap.size W5 W) => pfSame_any c1 a1 n1 k1 xs c1 a1 n1 k1 xs W (hx5.below hb) (hx5.below hb) HXN.out HXN.out hxM hxM
  simp only [pfB_refl] at CSS
  have CT := fun W (hb : Below W5.heap.size W5 W) => steps_any c1 a1 n1 k1 xs W (hx5.below hb) HXN.out (by rw [← HXN.out]; exact l1) l2
  have CRT := fun W (hb : Below W5.heap.size W5 W) => Go.Proofs.YtfikbaoiialfeaaDoor.refSteps_any c1 a1 n1 k1 xs W (hx5.below hb) HXN.out (by rw [← HXN.out]; exact l1) l2
  simp only [est] at CT CRT
  have HEM := Lib.hid em
  clear em es est l1 l2
  refine wp_region_facts [Fact.eq (.agg #[.int .i64 c1, .slice a1 n1 k1]), Fact.eq (.bool km), Fact.eq (.agg #[.int .i64 c1, .slice a1 n1 k1]), Fact.eq (.bool km), Fact.eq (.bool false), Fact.eq (.bool false), Fact.eq (.agg #[.int .i64 c1, .slice a1 n1 k1]), Fact.eq (.agg #[.int .i64 c2, .slice a2 n2 k2]), Fact.eq (.bool ks), Fact.eq (.agg #[.int .i64 c1, .slice a1 n1 k1]), Fact.eq (.agg #[.int .i64 c2, .slice a2 n2 k2]), Fact.eq (.bool ks), Fact.eq (.bool false), Fact.eq (.bool false), Fact.eq (.bool false), Fact.eq (.agg #[.int .i64 c1, .slice a1 n1 k1]), Fact.eq (.int .i64 (st : Nat)), Fact.eq (.agg #[.int .i64 c1, .slice a1 n1 k1]), Fact.eq (.int .i64 (st : Nat)), Fact.eq (.bool false), Fact.eq (.bool false), Fact.eq (.bool false), Fact.eq (.agg #[.int .i64 c1, .slice a1 n1 k1]), Fact.eq (.agg #[.int .i64 c1, .slice a1 n1 k1]), Fact.eq (.bool true), Fact.eq (.bool false), Fact.eq (.bool false)] (by kernel_rfl) (by kernel_rfl) (by kernel_rfl) (by kernel_rfl) (fun x => by simp only [fillFrom, Act.put, List.setIfInBounds_toArray, List.set_cons_succ, List.set_cons_zero]; rfl) ?_ ?_
  · refine ⟨?_, ?_, ?_, ?_, ?_, ?_, ?_, ?_, ?_, ?_, ?_, ?_, ?_, ?_, ?_, ?_, ?_, ?_, ?_, ?_, ?_, ?_, ?_, ?_, ?_, ?_, ?_, trivial⟩
    · intro x w' hbw hd
      clear hd
      have hr1 := cells_of hg5 hbw hgl5
      go_wp2_with (first | (refine wpList_load_mid rfl 46 (.tmp 3) rfl w.heap.size 0 rfl (#[.int .i64 c1, .slice a1 n1 k1] : Array Value).toList _ (rangeAt_row5 hr1) Tryd.underlying46 rfl (by kernel_rfl) ?_; rw [Array.toArray_toList]))
      exact frPost_mk rfl (by repeat (first | assumption | exact Below.refl _ _ | refine bch ?_ (by assumption) | refine Below.alloc ?_ (by simp) _)) rfl
    · intro x w' hbw hd
      have d0 : x 0 = .agg #[.int .i64 c1, .slice a1 n1 k1] := hd 0 rfl
      clear hd
      have CC := CM w' hbw
      go_wp2_with (first | (go_at_call 36; refine (CC).mono ?_; rintro e wx ⟨rfl, hbx⟩))
      exact frPost_mk rfl (by repeat (first | assumption | exact Below.refl _ _ | refine bch ?_ (by assumption) | refine Below.alloc ?_ (by simp) _)) rfl
    · intro x w' hbw hd
      clear hd
      have hr1 := cells_of hg5 hbw hgl5
      go_wp2_with (first | (refine wpList_load_mid rfl 46 (.tmp 3) rfl w.heap.size 0 rfl (#[.int .i64 c1, .slice a1 n1 k1] : Array Value).toList _ (rangeAt_row5 hr1) Tryd.underlying46 rfl (by kernel_rfl) ?_; rw [Array.toArray_toList]))
      exact frPost_mk rfl (by repeat (first | assumption | exact Below.refl _ _ | refine bch ?_ (by assumption) | refine Below.alloc ?_ (by simp) _)) rfl
    · intro x w' hbw hd
      have d2 : x 2 = .agg #[.int .i64 c1, .slice a1 n1 k1] := hd 2 rfl
      clear hd
      have CC := CRM w' hbw
      go_wp2_with (first | (go_at_call 46; refine (CC).mono ?_; rintro e wx ⟨rfl, hbx⟩))
      exact frPost_mk rfl (by repeat (first | assumption | exact Below.refl _ _ | refine bch ?_ (by assumption) | refine Below.alloc ?_ (by simp) _)) rfl
    · intro x w' hbw hd
      have d1 : x 1 = .bool km := hd 1 rfl
      have d3 : x 3 = .bool km := hd 3 rfl
      clear hd
      go_wp2_with fail
      exact frPost_mk rfl (by repeat (first | assumption | exact Below.refl _ _ | refine bch ?_ (by assumption) | refine Below.alloc ?_ (by simp) _)) rfl
    · intro x w' hbw hd
      have d4 : x 4 = .bool false := hd 4 rfl
      clear hd
      go_wp2_with fail
      exact frPost_mk rfl (by repeat (first | assumption | exact Below.refl _ _ | refine bch ?_ (by assumption) | refine Below.alloc ?_ (by simp) _)) rfl
    · intro x w' hbw hd
      have d5 : x 5 = .bool false := hd 5 rfl
      clear hd
      have hr1 := cells_of hg5 hbw hgl5
      go_wp2_with (first | (refine wpList_load_midG 46 (.tmp 3) rfl w.heap.size 0 rfl (#[.int .i64 c1, .slice a1 n1 k1] : Array Value).toList _ (rangeAt_row5 hr1) Tryd.underlying46 rfl (by kernel_rfl) (by first | rfl | (simp [Region.wanted, yielded, *]; done)) ?_; rw [Array.toArray_toList]))
      exact frPost_mk rfl (by repeat (first | assumption | exact Below.refl _ _ | refine bch ?_ (by assumption) | refine Below.alloc ?_ (by simp) _)) rfl
    · intro x w' hbw hd
      have d5 : x 5 = .bool false := hd 5 rfl
      clear hd
      have hr2 := cells_of hn5 hbw hnl5
      go_wp2_with (first | (refine wpList_load_midG 46 (.tmp 4) rfl (w.heap.size + 1) 0 rfl (#[.int .i64 c2, .slice a2 n2 k2] : Array Value).toList _ (rangeAt_row5 hr2) Tryd.underlying46 rfl (by kernel_rfl) (by first | rfl | (simp [Region.wanted, yielded, *]; done)) ?_; rw [Array.toArray_toList]))
      exact frPost_mk rfl (by repeat (first | assumption | exact Below.refl _ _ | refine bch ?_ (by assumption) | refine Below.alloc ?_ (by simp) _)) rfl
    · intro x w' hbw hd
      have d5 : x 5 = .bool false := hd 5 rfl
      have d6 : x 6 = .agg #[.int .i64 c1, .slice a1 n1 k1] := hd 6 rfl
      have d7 : x 7 = .agg #[.int .i64 c2, .slice a2 n2 k2] := hd 7 rfl
      clear hd
      have CC := CS w' hbw
      go_wp2_with (first | (go_at_call 47; refine (CC).mono ?_; rintro e wx ⟨rfl, hbx⟩))
      exact frPost_mk rfl (by repeat (first | assumption | exact Below.refl _ _ | refine bch ?_ (by assumption) | refine Below.alloc ?_ (by simp) _)) rfl
    · intro x w' hbw hd
      have d5 : x 5 = .bool false := hd 5 rfl
      clear hd
      have hr1 := cells_of hg5 hbw hgl5
      go_wp2_with (first | (refine wpList_load_midG 46 (.tmp 3) rfl w.heap.size 0 rfl (#[.int .i64 c1, .slice a1 n1 k1] : Array Value).toList _ (rangeAt_row5 hr1) Tryd.underlying46 rfl (by kernel_rfl) (by first | rfl | (simp [Region.wanted, yielded, *]; done)) ?_; rw [Array.toArray_toList]))
      exact frPost_mk rfl (by repeat (first | assumption | exact Below.refl _ _ | refine bch ?_ (by assumption) | refine Below.alloc ?_ (by simp) _)) rfl
    · intro x w' hbw hd
      have d5 : x 5 = .bool false := hd 5 rfl
      clear hd
      have hr2 := cells_of hn5 hbw hnl5
      go_wp2_with (first | (refine wpList_load_midG 46 (.tmp 4) rfl (w.heap.size + 1) 0 rfl (#[.int .i64 c2, .slice a2 n2 k2] : Array Value).toList _ (rangeAt_row5 hr2) Tryd.underlying46 rfl (by kernel_rfl) (by first | rfl | (simp [Region.wanted, yielded, *]; done)) ?_; rw [Array.toArray_toList]))
      exact frPost_mk rfl (by repeat (first | assumption | exact Below.refl _ _ | refine bch ?_ (by assumption) | refine Below.alloc ?_ (by simp) _)) rfl
    · intro x w' hbw hd
      have d5 : x 5 = .bool false := hd 5 rfl
      have d9 : x 9 = .agg #[.int .i64 c1, .slice a1 n1 k1] := hd 9 rfl
      have d10 : x 10 = .agg #[.int .i64 c2, .slice a2 n2 k2] := hd 10 rfl
      clear hd
      have CC := CRS w' hbw
      go_wp2_with (first | (go_at_call 41; refine (CC).mono ?_; rintro e wx ⟨rfl, hbx⟩))
      exact frPost_mk rfl (by repeat (first | assumption | exact Below.refl _ _ | refine bch ?_ (by assumption) | refine Below.alloc ?_ (by simp) _)) rfl
    · intro x w' hbw hd
      have d5 : x 5 = .bool false := hd 5 rfl
      have d8 : x 8 = .bool ks := hd 8 rfl
      have d11 : x 11 = .bool ks := hd 11 rfl
      clear hd
      go_wp2_with fail
      exact frPost_mk rfl (by repeat (first | assumption | exact Below.refl _ _ | refine bch ?_ (by assumption) | refine Below.alloc ?_ (by simp) _)) rfl
    · intro x w' hbw hd
      have d5 : x 5 = .bool false := hd 5 rfl
      have d12 : x 12 = .bool false := hd 12 rfl
      clear hd
      go_wp2_with fail
      exact frPost_mk rfl (by repeat (first | assumption | exact Below.refl _ _ | refine bch ?_ (by assumption) | refine Below.alloc ?_ (by simp) _)) rfl
    · intro x w' hbw hd
      have d13 : x 13 = .bool false := hd 13 rfl
      clear hd
      go_wp2_with fail
      exact frPost_mk rfl (by repeat (first | assumption | exact Below.refl _ _ | refine bch ?_ (by assumption) | refine Below.alloc ?_ (by simp) _)) rfl
    · intro x w' hbw hd
      have d14 : x 14 = .bool false := hd 14 rfl
      clear hd
      have hr1 := cells_of hg5 hbw hgl5
      go_wp2_with (first | (refine wpList_load_midG 46 (.tmp 3) rfl w.heap.size 0 rfl (#[.int .i64 c1, .slice a1 n1 k1] : Array Value).toList _ (rangeAt_row5 hr1) Tryd.underlying46 rfl (by kernel_rfl) (by first | rfl | (simp [Region.wanted, yielded, *]; done)) ?_; rw [Array.toArray_toList]))
      exact frPost_mk rfl (by repeat (first | assumption | exact Below.refl _ _ | refine bch ?_ (by assumption) | refine Below.alloc ?_ (by simp) _)) rfl
    · intro x w' hbw hd
      have d14 : x 14 = .bool false := hd 14 rfl
      have d15 : x 15 = .agg #[.int .i64 c1, .slice a1 n1 k1] := hd 15 rfl
      clear hd
      have CC := CT w' hbw
      go_wp2_with (first | (go_at_call 48; refine (CC).mono ?_; rintro e wx ⟨rfl, hbx⟩))
      exact frPost_mk rfl (by repeat (first | assumption | exact Below.refl _ _ | refine bch ?_ (by assumption) | refine Below.alloc ?_ (by simp) _)) rfl
    · intro x w' hbw hd
      have d14 : x 14 = .bool false := hd 14 rfl
      clear hd
      have hr1 := cells_of hg5 hbw hgl5
      go_wp2_with (first | (refine wpList_load_midG 46 (.tmp 3) rfl w.heap.size 0 rfl (#[.int .i64 c1, .slice a1 n1 k1] : Array Value).toList _ (rangeAt_row5 hr1) Tryd.underlying46 rfl (by kernel_rfl) (by first | rfl | (simp [Region.wanted, yielded, *]; done)) ?_; rw [Array.toArray_toList]))
      exact frPost_mk rfl (by repeat (first | assumption | exact Below.refl _ _ | refine bch ?_ (by assumption) | refine Below.alloc ?_ (by simp) _)) rfl
    · intro x w' hbw hd
      have d14 : x 14 = .bool false := hd 14 rfl
      have d17 : x 17 = .agg #[.int .i64 c1, .slice a1 n1 k1] := hd 17 rfl
      clear hd
      have CC := CRT w' hbw
      go_wp2_with (first | (go_at_call 49; refine (CC).mono ?_; rintro e wx ⟨rfl, hbx⟩))
      exact frPost_mk rfl (by repeat (first | assumption | exact Below.refl _ _ | refine bch ?_ (by assumption) | refine Below.alloc ?_ (by simp) _)) rfl
    · intro x w' hbw hd
      have d14 : x 14 = .bool false := hd 14 rfl
      have d16 : x 16 = .int .i64 (st : Nat) := hd 16 rfl
      have d18 : x 18 = .int .i64 (st : Nat) := hd 18 rfl
      clear hd
      go_wp2_with fail
      exact frPost_mk rfl (by repeat (first | assumption | exact Below.refl _ _ | refine bch ?_ (by assumption) | refine Below.alloc ?_ (by simp) _)) rfl
    · intro x w' hbw hd
      have d14 : x 14 = .bool false := hd 14 rfl
      have d19 : x 19 = .bool false := hd 19 rfl
      clear hd
      go_wp2_with fail
      exact frPost_mk rfl (by repeat (first | assumption | exact Below.refl _ _ | refine bch ?_ (by assumption) | refine Below.alloc ?_ (by simp) _)) rfl
    · intro x w' hbw hd
      have d20 : x 20 = .bool false := hd 20 rfl
      clear hd
      go_wp2_with fail
      exact frPost_mk rfl (by repeat (first | assumption | exact Below.refl _ _ | refine bch ?_ (by assumption) | refine Below.alloc ?_ (by simp) _)) rfl
    · intro x w' hbw hd
      have d21 : x 21 = .bool false := hd 21 rfl
      clear hd
      have hr1 := cells_of hg5 hbw hgl5
      go_wp2_with (first | (refine wpList_load_midG 46 (.tmp 3) rfl w.heap.size 0 rfl (#[.int .i64 c1, .slice a1 n1 k1] : Array Value).toList _ (rangeAt_row5 hr1) Tryd.underlying46 rfl (by kernel_rfl) (by first | rfl | (simp [Region.wanted, yielded, *]; done)) ?_; rw [Array.toArray_toList]))
      exact frPost_mk rfl (by repeat (first | assumption | exact Below.refl _ _ | refine bch ?_ (by assumption) | refine Below.alloc ?_ (by simp) _)) rfl
    · intro x w' hbw hd
      have d21 : x 21 = .bool false := hd 21 rfl
      clear hd
      have hr1 := cells_of hg5 hbw hgl5
      go_wp2_with (first | (refine wpList_load_midG 46 (.tmp 3) rfl w.heap.size 0 rfl (#[.int .i64 c1, .slice a1 n1 k1] : Array Value).toList _ (rangeAt_row5 hr1) Tryd.underlying46 rfl (by kernel_rfl) (by first | rfl | (simp [Region.wanted, yielded, *]; done)) ?_; rw [Array.toArray_toList]))
      exact frPost_mk rfl (by repeat (first | assumption | exact Below.refl _ _ | refine bch ?_ (by assumption) | refine Below.alloc ?_ (by simp) _)) rfl
    · intro x w' hbw hd
      have d21 : x 21 = .bool false := hd 21 rfl
      have d22 : x 22 = .agg #[.int .i64 c1, .slice a1 n1 k1] := hd 22 rfl
      have d23 : x 23 = .agg #[.int .i64 c1, .slice a1 n1 k1] := hd 23 rfl
      clear hd
      have CC := CSS w' hbw
      go_wp2_with (first | (go_at_call 47; refine (CC).mono ?_; rintro e wx ⟨rfl, hbx⟩))
      exact frPost_mk rfl (by repeat (first | assumption | exact Below.refl _ _ | refine bch ?_ (by assumption) | refine Below.alloc ?_ (by simp) _)) rfl
    · intro x w' hbw hd
      have d21 : x 21 = .bool false := hd 21 rfl
      have d24 : x 24 = .bool true := hd 24 rfl
      clear hd
      go_wp2_with fail
      exact frPost_mk rfl (by repeat (first | assumption | exact Below.refl _ _ | refine bch ?_ (by assumption) | refine Below.alloc ?_ (by simp) _)) rfl
    · intro x w' hbw hd
      have d21 : x 21 = .bool false := hd 21 rfl
      have d25 : x 25 = .bool false := hd 25 rfl
      clear hd
      go_wp2_with fail
      exact frPost_mk rfl (by repeat (first | assumption | exact Below.refl _ _ | refine bch ?_ (by assumption) | refine Below.alloc ?_ (by simp) _)) rfl
  intro x W6 hb6 hd
  have d26 : x 26 = .bool false := hd 26 (by decide)
  clear hd
  simp only [Nat.zero_add, Nat.reduceAdd, d26]
  clear d26 CM CRM CS CRS CSS CT CRT
  have hg := cells_of hg5 hb6 hgl5
  have hn := cells_of hn5 hb6 hnl5
  have hbel := hbel5.trans (hb6.mono hbel5.size)
  have hgl := (Array.getElem?_eq_some_iff.1 hg).1
  have hnl := (Array.getElem?_eq_some_iff.1 hn).1
  clear hg5 hn5 hgl5 hnl5 hbel5 hb6 hx5 hy5
  go_upto_region 8 with (go_at_call 50; refine (rof_any s _).mono ?_; rintro e w7 ⟨rfl, hR, hb⟩; have hg := cells_of hg hb hgl; have hn := cells_of hn hb hnl; have hgl := Nat.lt_of_lt_of_le hgl hb.size; have hnl := Nat.lt_of_lt_of_le hnl hb.size; have hbel := hbel.trans (hb.mono hbel.size); have hwl := hb.size; clear hb)
  refine wp_nameE _ (fun W8 hX => ?_)
  have hb8 : Below w7.heap.size w7 W8 := by rw [hX]; exact Below.alloc (Below.refl _ _) (Nat.le_refl _) _
  have hQ : QAt w7.heap.size W8 s 0 0 := by rw [hX]; exact heap_push _ _ _
  clear hX
  have hRl := hR.lt
  have hR := hR.below hb8 hRl
  obtain ⟨gR, hgR⟩ : ∃ g, W6.heap.size = g := ⟨_, rfl⟩
  obtain ⟨gQ, hgQ⟩ : ∃ g, w7.heap.size = g := ⟨_, rfl⟩
  have hgr0 : w.heap.size + 1 < gR := by rw [← hgR]; omega
  have hrq : gR < gQ := by rw [← hgR, ← hgQ]; exact hRl
  have hg := cells_of hg hb8 hgl
  have hn := cells_of hn hb8 hnl
  have hbel := hbel.trans (hb8.mono hbel.size)
  have hgl := (Array.getElem?_eq_some_iff.1 hg).1
  have hnl := (Array.getElem?_eq_some_iff.1 hn).1
  simp only [hgR] at hR ⊢
  simp only [hgQ] at hQ ⊢
  clear hb8 hgR hgQ hRl hwl
  have hQl := hQ.lt
  obtain ⟨⟨dd, A, E⟩, hP⟩ : ∃ t, pfP s 0 0 = t := ⟨_, rfl⟩
  have CR := fun W h => pfRead_any gR W s 0 0 h hs9 ⟨Int.le_refl _, by omega⟩
  have CQ := fun W h => rdPf_any gQ W s 0 0 h hs9 ⟨Int.le_refl _, by omega⟩
  simp only [hP] at CR CQ
  unfold pfPost at CR
  unfold rdPfPost at CQ
  clear hP
  go_upto_region 11 with (first | (go_at_call 51; refine (CR _ hR).mono ?_; rintro e w9 ⟨a3, n3, k3, us, rfl, hud, huh, hun, huk, hum, hR, hp, hk9⟩; have hQ : QAt gQ w9 s 0 0 := hk9.row5 hQ (by omega); have hg := hk9.row5 hg (by omega); have hn := hk9.row5 hn (by omega); have hul := Nat.lt_of_lt_of_le hQl hk9.size) | (go_at_call 52; refine (CQ _ hQ).mono ?_; rintro e w10 ⟨c4, a4, n4, k4, vs, A4, rfl, hvh, hvn, hvk, hvm, hQ, hp4, hk10, hA, hvd⟩) | (refine wpList_storeRowTo (Z := #[.int .i64 dd.ct, .slice a3 n3 k3]) rfl (.tmp 9) (.tmp 65) 46 rfl (by kernel_rfl) rfl (by rfl) (al2_0 _ _ _) rfl (pf_oneM _ _ _ _) ?_) | (refine wpList_storeRowTo (Z := #[.int .i64 c4, .slice a4 n4 k4]) rfl (.tmp 10) (.tmp 67) 46 rfl (by kernel_rfl) rfl (by rfl) ((setRow_other _ _ _ _ (by omega)).trans (al2_1 _ _ _)) rfl (pf_oneM _ _ _ _) ?_))
  refine wp_nameE _ (fun W11 hX => ?_)
  have hbB : Below w10.heap.size w10 W11 := by rw [hX]; exact below_setRow (below_setRow (al2_below _ _ _) (Nat.le_refl _) _) (by omega) _
  have hAr : W11.heap[w10.heap.size]? = some (.cells #[.int .i64 dd.ct, .slice a3 n3 k3] 46 (0, 0)) := by rw [hX]; exact (setRow_other _ _ _ _ (by omega)).trans (setRow_heap _ _ _ _ _ _ (al2_0 _ _ _))
  have hBr : W11.heap[w10.heap.size + 1]? = some (.cells #[.int .i64 c4, .slice a4 n4 k4] 46 (0, 0)) := by rw [hX]; exact setRow_heap _ _ _ _ _ _ ((setRow_other _ _ _ _ (by omega)).trans (al2_1 _ _ _))
  clear hX
  have hwz : gQ < w10.heap.size := hQ.lt
  have hR10 : RAt gR w10 s A E := hk10.row5 hR (by omega)
  have hg := cells_of (hk10.row5 hg (by omega)) hbB (by omega)
  have hn := cells_of (hk10.row5 hn (by omega)) hbB (by omega)
  have hbel : Below w.heap.size w W11 := ((hbel.trans (hk9.below (by omega) (by omega))).trans (hk10.below (by omega) (by have := hk9.size; omega))).trans (hbB.mono (by omega))
  have hR := hR10.below hbB (by omega)
  have hQ := hQ.below hbB (by omega)
  have hU : LvsAt W11 a3 us := ((huh.same (SameT.kept hk10 (by omega)) (SameT.kept hk10 (by omega))).at).below hbB
  have hV : LvsAt W11 a4 vs := hvh.at.below hbB
  have huM : n3 ≤ maxLen := Nat.le_trans huk hum
  have hvM : n4 ≤ maxLen := Nat.le_trans hvk hvm
  obtain ⟨gA, hgA⟩ : ∃ g, w10.heap.size = g := ⟨_, rfl⟩
  simp only [hgA] at hAr hBr ⊢
  have hA9 : A4 = A := hA
  subst hA9
  have hvd9 : E = 0 → (⟨c4, vs.map LeafV.d⟩ : PfD) = dd := hvd
  have hud9 : us.map LeafV.d = dd.xs := hud
  have CSV : E = 0 → ∀ W, Below W11.heap.size W11 W → Calls Tryd.prog 41 #[.agg #[.int .i64 dd.ct, .slice a3 n3 k3], .agg #[.int .i64 c4, .slice a4 n4 k4]] W fun e w' => e = .returned (.bool true) ∧ Below W.heap.size W w' := fun he W hb => by
    have := Go.Proofs.YtfikbaoiialfeaaDoor.Go.Proofs.YtfikbaoiialfeaaDoor.refSamePf_any dd.ct a3 n3 k3 us c4 a4 n4 k4 vs W (hU.below hb) (hV.below hb) hun hvn huM hvM
    rwa [pfB_of (by rw [← hvd9 he]) (by rw [hud9, ← hvd9 he])] at this
  have CER := fun W (hb : Below W11.heap.size W11 W) => rerr_any gR W s A4 E (hR.below hb hR.lt)
  have CAT := fun W (hb : Below W11.heap.size W11 W) => ratB_any gR W s A4 E (hR.below hb hR.lt)
  have hgl := (Array.getElem?_eq_some_iff.1 hg).1
  have hnl := (Array.getElem?_eq_some_iff.1 hn).1
  have hAl := (Array.getElem?_eq_some_iff.1 hAr).1
  have hBl := (Array.getElem?_eq_some_iff.1 hBr).1
  have hQl := hQ.lt
  have q1 : W11.cell? ⟨gQ, 1, none⟩ = some (.int .i64 A4) := hQ.c1
  have q2 : W11.cell? ⟨gQ, 2, none⟩ = some (.int .i64 E) := hQ.c2
  clear hU hV hud9 hvd9 hud hvd hun hvn huk hum hvk hvm huM hvM hR10 huh hvh hk9 hk10 hbB hgA hR hp hp4 hul hwz CR CQ hA hs9
  by_cases hE0 : E = 0
  · subst hE0
    replace CSV := CSV rfl
    refine wp_region_facts [Fact.eq (.pointer (some ⟨gR, 0, none⟩)), Fact.eq (.int .i64 0), Fact.eq (.pointer (some ⟨gQ, 0, none⟩)), Fact.eq (.pointer (some ⟨gQ, 0, none⟩)), Fact.eq (.pointer (some ⟨gQ, 2, none⟩)), Fact.eq (.int .i64 0), Fact.eq (.bool false), Fact.eq (.bool false), Fact.eq (.pointer (some ⟨gR, 0, none⟩)), Fact.eq (.int .i64 A4), Fact.eq (.pointer (some ⟨gQ, 0, none⟩)), Fact.eq (.pointer (some ⟨gQ, 0, none⟩)), Fact.eq (.pointer (some ⟨gQ, 1, none⟩)), Fact.eq (.int .i64 A4), Fact.eq (.bool false), Fact.eq (.bool false), Fact.eq (.bool false), Fact.eq (.pointer (some ⟨gQ, 0, none⟩)), Fact.eq (.pointer (some ⟨gQ, 0, none⟩)), Fact.eq (.pointer (some ⟨gQ, 2, none⟩)), Fact.eq (.int .i64 0), Fact.eq (.bool true), Fact.eq (.bool true), Fact.eq (.agg #[.int .i64 dd.ct, .slice a3 n3 k3]), Fact.eq (.agg #[.int .i64 c4, .slice a4 n4 k4]), Fact.eq (.bool true), Fact.eq (.bool false), Fact.eq (.bool false), Fact.eq (.bool false)] (by kernel_rfl) (by kernel_rfl) (by kernel_rfl) (by kernel_rfl) (fun x => by simp only [fillFrom, Act.put, List.setIfInBounds_toArray, List.set_cons_succ, List.set_cons_zero]; rfl) ?_ ?_
    · refine ⟨?_, ?_, ?_, ?_, ?_, ?_, ?_, ?_, ?_, ?_, ?_, ?_, ?_, ?_, ?_, ?_, ?_, ?_, ?_, ?_, ?_, ?_, ?_, ?_, ?_, ?_, ?_, ?_, ?_, trivial⟩
      · intro x w' hbw hd
        clear hd
        go_wp2_with fail
        exact frPost_mk rfl (by repeat (first | assumption | exact Below.refl _ _ | refine bch ?_ (by assumption) | refine Below.alloc ?_ (by simp) _)) rfl
      · intro x w' hbw hd
        have d0 : x 0 = .pointer (some ⟨gR, 0, none⟩) := hd 0 rfl
        clear hd
        have CC := CER w' hbw
        go_wp2_with (first | (go_at_call 53; refine (CC).mono ?_; rintro e wx ⟨rfl, rfl⟩))
        exact frPost_mk rfl (by repeat (first | assumption | exact Below.refl _ _ | refine bch ?_ (by assumption) | refine Below.alloc ?_ (by simp) _)) rfl
      · intro x w' hbw hd
        clear hd
        go_wp2_with fail
        exact frPost_mk rfl (by repeat (first | assumption | exact Below.refl _ _ | refine bch ?_ (by assumption) | refine Below.alloc ?_ (by simp) _)) rfl
      · intro x w' hbw hd
        have d2 : x 2 = .pointer (some ⟨gQ, 0, none⟩) := hd 2 rfl
        clear hd
        go_wp2_with fail
        exact frPost_mk rfl (by repeat (first | assumption | exact Below.refl _ _ | refine bch ?_ (by assumption) | refine Below.alloc ?_ (by simp) _)) rfl
      · intro x w' hbw hd
        have d3 : x 3 = .pointer (some ⟨gQ, 0, none⟩) := hd 3 rfl
        clear hd
        go_wp2_with fail
        exact frPost_mk rfl (by repeat (first | assumption | exact Below.refl _ _ | refine bch ?_ (by assumption) | refine Below.alloc ?_ (by simp) _)) rfl
      · intro x w' hbw hd
        have d4 : x 4 = .pointer (some ⟨gQ, 2, none⟩) := hd 4 rfl
        clear hd
        have m1 := (hbw.cell (p := ⟨gQ, 2, none⟩) hQl).trans q2
        go_wp2_with (first | fail)
        exact frPost_mk rfl (by repeat (first | assumption | exact Below.refl _ _ | refine bch ?_ (by assumption) | refine Below.alloc ?_ (by simp) _)) rfl
      · intro x w' hbw hd
        have d1 : x 1 = .int .i64 0 := hd 1 rfl
        have d5 : x 5 = .int .i64 0 := hd 5 rfl
        clear hd
        go_wp2_with fail
        exact frPost_mk rfl (by repeat (first | assumption | exact Below.refl _ _ | refine bch ?_ (by assumption) | refine Below.alloc ?_ (by simp) _)) rfl
      · intro x w' hbw hd
        have d6 : x 6 = .bool false := hd 6 rfl
        clear hd
        go_wp2_with fail
        exact frPost_mk rfl (by repeat (first | assumption | exact Below.refl _ _ | refine bch ?_ (by assumption) | refine Below.alloc ?_ (by simp) _)) rfl
      · intro x w' hbw hd
        have d7 : x 7 = .bool false := hd 7 rfl
        clear hd
        go_wp2_with fail
        exact frPost_mk rfl (by repeat (first | assumption | exact Below.refl _ _ | refine bch ?_ (by assumption) | refine Below.alloc ?_ (by simp) _)) rfl
      · intro x w' hbw hd
        have d7 : x 7 = .bool false := hd 7 rfl
        have d8 : x 8 = .pointer (some ⟨gR, 0, none⟩) := hd 8 rfl
        clear hd
        have CC := CAT w' hbw
        go_wp2_with (first | (go_at_call 54; refine (CC).mono ?_; rintro e wx ⟨rfl, rfl⟩))
        exact frPost_mk rfl (by repeat (first | assumption | exact Below.refl _ _ | refine bch ?_ (by assumption) | refine Below.alloc ?_ (by simp) _)) rfl
      · intro x w' hbw hd
        have d7 : x 7 = .bool false := hd 7 rfl
        clear hd
        go_wp2_with fail
        exact frPost_mk rfl (by repeat (first | assumption | exact Below.refl _ _ | refine bch ?_ (by assumption) | refine Below.alloc ?_ (by simp) _)) rfl
      · intro x w' hbw hd
        have d7 : x 7 = .bool false := hd 7 rfl
        have d10 : x 10 = .pointer (some ⟨gQ, 0, none⟩) := hd 10 rfl
        clear hd
        go_wp2_with fail
        exact frPost_mk rfl (by repeat (first | assumption | exact Below.refl _ _ | refine bch ?_ (by assumption) | refine Below.alloc ?_ (by simp) _)) rfl
      · intro x w' hbw hd
        have d7 : x 7 = .bool false := hd 7 rfl
        have d11 : x 11 = .pointer (some ⟨gQ, 0, none⟩) := hd 11 rfl
        clear hd
        go_wp2_with fail
        exact frPost_mk rfl (by repeat (first | assumption | exact Below.refl _ _ | refine bch ?_ (by assumption) | refine Below.alloc ?_ (by simp) _)) rfl
      · intro x w' hbw hd
        have d7 : x 7 = .bool false := hd 7 rfl
        have d12 : x 12 = .pointer (some ⟨gQ, 1, none⟩) := hd 12 rfl
        clear hd
        have m1 := (hbw.cell (p := ⟨gQ, 1, none⟩) hQl).trans q1
        go_wp2_with (first | fail)
        exact frPost_mk rfl (by repeat (first | assumption | exact Below.refl _ _ | refine bch ?_ (by assumption) | refine Below.alloc ?_ (by simp) _)) rfl
      · intro x w' hbw hd
        have d7 : x 7 = .bool false := hd 7 rfl
        have d9 : x 9 = .int .i64 A4 := hd 9 rfl
        have d13 : x 13 = .int .i64 A4 := hd 13 rfl
        clear hd
        go_wp2_with fail
        exact frPost_mk rfl (by repeat (first | assumption | exact Below.refl _ _ | refine bch ?_ (by assumption) | refine Below.alloc ?_ (by simp) _)) rfl
      · intro x w' hbw hd
        have d7 : x 7 = .bool false := hd 7 rfl
        have d14 : x 14 = .bool false := hd 14 rfl
        clear hd
        go_wp2_with fail
        exact frPost_mk rfl (by repeat (first | assumption | exact Below.refl _ _ | refine bch ?_ (by assumption) | refine Below.alloc ?_ (by simp) _)) rfl
      · intro x w' hbw hd
        have d15 : x 15 = .bool false := hd 15 rfl
        clear hd
        go_wp2_with fail
        exact frPost_mk rfl (by repeat (first | assumption | exact Below.refl _ _ | refine bch ?_ (by assumption) | refine Below.alloc ?_ (by simp) _)) rfl
      · intro x w' hbw hd
        have d16 : x 16 = .bool false := hd 16 rfl
        clear hd
        go_wp2_with fail
        exact frPost_mk rfl (by repeat (first | assumption | exact Below.refl _ _ | refine bch ?_ (by assumption) | refine Below.alloc ?_ (by simp) _)) rfl
      · intro x w' hbw hd
        have d16 : x 16 = .bool false := hd 16 rfl
        have d17 : x 17 = .pointer (some ⟨gQ, 0, none⟩) := hd 17 rfl
        clear hd
        go_wp2_with fail
        exact frPost_mk rfl (by repeat (first | assumption | exact Below.refl _ _ | refine bch ?_ (by assumption) | refine Below.alloc ?_ (by simp) _)) rfl
      · intro x w' hbw hd
        have d16 : x 16 = .bool false := hd 16 rfl
        have d18 : x 18 = .pointer (some ⟨gQ, 0, none⟩) := hd 18 rfl
        clear hd
        go_wp2_with fail
        exact frPost_mk rfl (by repeat (first | assumption | exact Below.refl _ _ | refine bch ?_ (by assumption) | refine Below.alloc ?_ (by simp) _)) rfl
      · intro x w' hbw hd
        have d16 : x 16 = .bool false := hd 16 rfl
        have d19 : x 19 = .pointer (some ⟨gQ, 2, none⟩) := hd 19 rfl
        clear hd
        have m1 := (hbw.cell (p := ⟨gQ, 2, none⟩) hQl).trans q2
        go_wp2_with (first | fail)
        exact frPost_mk rfl (by repeat (first | assumption | exact Below.refl _ _ | refine bch ?_ (by assumption) | refine Below.alloc ?_ (by simp) _)) rfl
      · intro x w' hbw hd
        have d16 : x 16 = .bool false := hd 16 rfl
        have d20 : x 20 = .int .i64 0 := hd 20 rfl
        clear hd
        go_wp2_with fail
        exact frPost_mk rfl (by repeat (first | assumption | exact Below.refl _ _ | refine bch ?_ (by assumption) | refine Below.alloc ?_ (by simp) _)) rfl
      · intro x w' hbw hd
        have d16 : x 16 = .bool false := hd 16 rfl
        have d21 : x 21 = .bool true := hd 21 rfl
        clear hd
        go_wp2_with fail
        exact frPost_mk rfl (by repeat (first | assumption | exact Below.refl _ _ | refine bch ?_ (by assumption) | refine Below.alloc ?_ (by simp) _)) rfl
      · intro x w' hbw hd
        have d22 : x 22 = .bool true := hd 22 rfl
        clear hd
        have hr3 := cells_of hAr hbw hAl
        go_wp2_with (first | (refine wpList_load_midG 46 (.tmp 9) rfl gA 0 rfl (#[.int .i64 dd.ct, .slice a3 n3 k3] : Array Value).toList _ (rangeAt_row5 hr3) Tryd.underlying46 rfl (by kernel_rfl) (by first | rfl | (simp [Region.wanted, yielded, *]; done)) ?_; rw [Array.toArray_toList]))
        exact frPost_mk rfl (by repeat (first | assumption | exact Below.refl _ _ | refine bch ?_ (by assumption) | refine Below.alloc ?_ (by simp) _)) rfl
      · intro x w' hbw hd
        have d22 : x 22 = .bool true := hd 22 rfl
        clear hd
        have hr4 := cells_of hBr hbw hBl
        go_wp2_with (first | (refine wpList_load_midG 46 (.tmp 10) rfl (gA + 1) 0 rfl (#[.int .i64 c4, .slice a4 n4 k4] : Array Value).toList _ (rangeAt_row5 hr4) Tryd.underlying46 rfl (by kernel_rfl) (by first | rfl | (simp [Region.wanted, yielded, *]; done)) ?_; rw [Array.toArray_toList]))
        exact frPost_mk rfl (by repeat (first | assumption | exact Below.refl _ _ | refine bch ?_ (by assumption) | refine Below.alloc ?_ (by simp) _)) rfl
      · intro x w' hbw hd
        have d22 : x 22 = .bool true := hd 22 rfl
        have d23 : x 23 = .agg #[.int .i64 dd.ct, .slice a3 n3 k3] := hd 23 rfl
        have d24 : x 24 = .agg #[.int .i64 c4, .slice a4 n4 k4] := hd 24 rfl
        clear hd
        have CC := CSV w' hbw
        go_wp2_with (first | (go_at_call 41; refine (CC).mono ?_; rintro e wx ⟨rfl, hbx⟩))
        exact frPost_mk rfl (by repeat (first | assumption | exact Below.refl _ _ | refine bch ?_ (by assumption) | refine Below.alloc ?_ (by simp) _)) rfl
      · intro x w' hbw hd
        have d22 : x 22 = .bool true := hd 22 rfl
        have d25 : x 25 = .bool true := hd 25 rfl
        clear hd
        go_wp2_with fail
        exact frPost_mk rfl (by repeat (first | assumption | exact Below.refl _ _ | refine bch ?_ (by assumption) | refine Below.alloc ?_ (by simp) _)) rfl
      · intro x w' hbw hd
        have d16 : x 16 = .bool false := hd 16 rfl
        have d22 : x 22 = .bool true := hd 22 rfl
        have d26 : x 26 = .bool false := hd 26 rfl
        clear hd
        go_wp2_with fail
        exact frPost_mk rfl (by repeat (first | assumption | exact Below.refl _ _ | refine bch ?_ (by assumption) | refine Below.alloc ?_ (by simp) _)) rfl
      · intro x w' hbw hd
        have d16 : x 16 = .bool false := hd 16 rfl
        have d27 : x 27 = .bool false := hd 27 rfl
        clear hd
        go_wp2_with fail
        exact frPost_mk rfl (by repeat (first | assumption | exact Below.refl _ _ | refine bch ?_ (by assumption) | refine Below.alloc ?_ (by simp) _)) rfl
    intro x W12 hb hd
    have d28 : x 28 = .bool false := hd 28 (by decide)
    clear hd
    simp only [Nat.zero_add, Nat.reduceAdd, d28]
    have hg := cells_of hg hb hgl; have hn := cells_of hn hb hnl; have hgl := Nat.lt_of_lt_of_le hgl hb.size; have hnl := Nat.lt_of_lt_of_le hnl hb.size; have hbel := hbel.trans (hb.mono hbel.size)
    clear d28 hb CER CAT CSV q1 q2 hAr hBr hAl hBl hR hQ hQl
    cases km
    · go_wp2_with (first | (refine wpList_load_mid rfl 46 (.tmp 3) rfl w.heap.size 0 rfl (#[.int .i64 c1, .slice a1 n1 k1] : Array Value).toList _ (rangeAt_row5 hg) Tryd.underlying46 rfl (by kernel_rfl) ?_; rw [Array.toArray_toList]) | (go_at_call 46; refine (refMayPf_any c1 a1 n1 k1 xs _ (hx.below hbel) HXN.out hxM).mono ?_; rw [HEM.out]; rintro e w2 ⟨rfl, hb⟩; have hg := cells_of hg hb hgl; have hn := cells_of hn hb hnl; have hgl := Nat.lt_of_lt_of_le hgl hb.size; have hnl := Nat.lt_of_lt_of_le hnl hb.size; have hbel := hbel.trans (hb.mono hbel.size); clear hb) | (go_at_call 27; refine (first7_any _ (hS.below hbel)).mono ?_; rintro e w2 ⟨rfl, hb⟩; have hg := cells_of hg hb hgl; have hn := cells_of hn hb hnl; have hgl := Nat.lt_of_lt_of_le hgl hb.size; have hnl := Nat.lt_of_lt_of_le hnl hb.size; have hbel := hbel.trans (hb.mono hbel.size); clear hb))
      go_ret
      exact ⟨by first | rfl | simp, hbel⟩
    go_upto_region 15 with (first | (refine wpList_load_mid rfl 46 (.tmp 3) rfl w.heap.size 0 rfl (#[.int .i64 c1, .slice a1 n1 k1] : Array Value).toList _ (rangeAt_row5 hg) Tryd.underlying46 rfl (by kernel_rfl) ?_; rw [Array.toArray_toList]) | (go_at_call 46; refine (refMayPf_any c1 a1 n1 k1 xs _ (hx.below hbel) HXN.out hxM).mono ?_; rw [HEM.out]; rintro e w2 ⟨rfl, hb⟩; have hg := cells_of hg hb hgl; have hn := cells_of hn hb hnl; have hgl := Nat.lt_of_lt_of_le hgl hb.size; have hnl := Nat.lt_of_lt_of_le hnl hb.size; have hbel := hbel.trans (hb.mono hbel.size); clear hb))
    refine wp_nameE _ (fun W15 hX => ?_)
    have hg5 : W15.heap[w.heap.size]? = some (.cells #[.int .i64 c1, .slice a1 n1 k1] 46 (0, 0)) := by rw [hX]; exact hg
    have hbel5 : Below w.heap.size w W15 := by rw [hX]; exact hbel
    clear hX hg hn hgl hnl hbel
    have hgl5 := (Array.getElem?_eq_some_iff.1 hg5).1
    obtain ⟨T, hT⟩ : ∃ t : ByteArray, ⟨(pfBy c1 xs).toArray⟩ = t := ⟨_, rfl⟩
    have CP := fun W (hb : Below W15.heap.size W15 W) => refPutPf_any c1 a1 n1 k1 xs W ((hx.below hbel5).below hb) HXN.out HEM.out
    have CW := fun b W (hb : Below W15.heap.size W15 W) (hw : WAt W15.heap.size b W [] 0) => pfWrite_any b W15 W [] c1 a1 n1 k1 xs (hx.below hbel5) hb hw HXN.out HEM.out (by simp)
    have CB := fun b W (hw : WAt W15.heap.size b W (pfBy c1 xs) 0) (hb : Below W15.heap.size W15 W) => wbytes_rd W15.heap.size b W (pfBy c1 xs) hw.rd hb.size
    simp only [List.nil_append] at CW
    simp only [hT] at CP CB
    clear hT
    go_wp2_with (first | (go_at_call 55; refine (wnew_any W15.heap.size W15 (Nat.le_refl _)).mono ?_; rintro e w16 ⟨rfl, hw, hb⟩; have hg := cells_of hg5 hb hgl5) | (refine wpList_load_mid rfl 46 (.tmp 3) rfl w.heap.size 0 rfl (#[.int .i64 c1, .slice a1 n1 k1] : Array Value).toList _ (rangeAt_row5 hg) Tryd.underlying46 rfl (by kernel_rfl) ?_; rw [Array.toArray_toList]) | (go_at_call 56; refine (CW _ _ hb hw).mono ?_; rintro e w17 ⟨rfl, hw, hb17, _⟩; have hb := hb.trans hb17; have hg := cells_of hg5 hb hgl5; clear hb17) | (go_at_call 57; refine (CB _ _ hw hb).mono ?_; rintro e w18 ⟨rfl, _, hb18⟩; have hb := hb.trans hb18; have hg := cells_of hg5 hb hgl5; clear hb18) | (go_at_call 58; refine (CP _ hb).mono ?_; rintro e w19 ⟨rfl, hb19⟩; have hb := hb.trans (hb19.mono hb.size); clear hb19))
    go_ret
    exact ⟨by first | rfl | simp, hbel5.trans (hb.mono hbel5.size)⟩
  · have e0 : (E == 0) = false := beq_eq_false_iff_ne.2 hE0
    clear hE0
    refine wp_region_facts [Fact.eq (.pointer (some ⟨gR, 0, none⟩)), Fact.eq (.int .i64 E), Fact.eq (.pointer (some ⟨gQ, 0, none⟩)), Fact.eq (.pointer (some ⟨gQ, 0, none⟩)), Fact.eq (.pointer (some ⟨gQ, 2, none⟩)), Fact.eq (.int .i64 E), Fact.eq (.bool false), Fact.eq (.bool false), Fact.eq (.pointer (some ⟨gR, 0, none⟩)), Fact.eq (.int .i64 A4), Fact.eq (.pointer (some ⟨gQ, 0, none⟩)), Fact.eq (.pointer (some ⟨gQ, 0, none⟩)), Fact.eq (.pointer (some ⟨gQ, 1, none⟩)), Fact.eq (.int .i64 A4), Fact.eq (.bool false), Fact.eq (.bool false), Fact.eq (.bool false), Fact.eq (.pointer (some ⟨gQ, 0, none⟩)), Fact.eq (.pointer (some ⟨gQ, 0, none⟩)), Fact.eq (.pointer (some ⟨gQ, 2, none⟩)), Fact.eq (.int .i64 E), Fact.eq (.bool false), Fact.eq (.bool false), Fact.eq (.tuple #[]), Fact.eq (.tuple #[]), Fact.eq (.tuple #[]), Fact.eq (.tuple #[]), Fact.eq (.bool false), Fact.eq (.bool false)] (by kernel_rfl) (by kernel_rfl) (by kernel_rfl) (by kernel_rfl) (fun x => by simp only [fillFrom, Act.put, List.setIfInBounds_toArray, List.set_cons_succ, List.set_cons_zero]; rfl) ?_ ?_
    · refine ⟨?_, ?_, ?_, ?_, ?_, ?_, ?_, ?_, ?_, ?_, ?_, ?_, ?_, ?_, ?_, ?_, ?_, ?_, ?_, ?_, ?_, ?_, ?_, ?_, ?_, ?_, ?_, ?_, ?_, trivial⟩
      · intro x w' hbw hd
        clear hd
        go_wp2_with fail
        exact frPost_mk rfl (by repeat (first | assumption | exact Below.refl _ _ | refine bch ?_ (by assumption) | refine Below.alloc ?_ (by simp) _)) rfl
      · intro x w' hbw hd
        have d0 : x 0 = .pointer (some ⟨gR, 0, none⟩) := hd 0 rfl
        clear hd
        have CC := CER w' hbw
        go_wp2_with (first | (go_at_call 53; refine (CC).mono ?_; rintro e wx ⟨rfl, rfl⟩))
        exact frPost_mk rfl (by repeat (first | assumption | exact Below.refl _ _ | refine bch ?_ (by assumption) | refine Below.alloc ?_ (by simp) _)) rfl
      · intro x w' hbw hd
        clear hd
        go_wp2_with fail
        exact frPost_mk rfl (by repeat (first | assumption | exact Below.refl _ _ | refine bch ?_ (by assumption) | refine Below.alloc ?_ (by simp) _)) rfl
      · intro x w' hbw hd
        have d2 : x 2 = .pointer (some ⟨gQ, 0, none⟩) := hd 2 rfl
        clear hd
        go_wp2_with fail
        exact frPost_mk rfl (by repeat (first | assumption | exact Below.refl _ _ | refine bch ?_ (by assumption) | refine Below.alloc ?_ (by simp) _)) rfl
      · intro x w' hbw hd
        have d3 : x 3 = .pointer (some ⟨gQ, 0, none⟩) := hd 3 rfl
        clear hd
        go_wp2_with fail
        exact frPost_mk rfl (by repeat (first | assumption | exact Below.refl _ _ | refine bch ?_ (by assumption) | refine Below.alloc ?_ (by simp) _)) rfl
      · intro x w' hbw hd
        have d4 : x 4 = .pointer (some ⟨gQ, 2, none⟩) := hd 4 rfl
        clear hd
        have m1 := (hbw.cell (p := ⟨gQ, 2, none⟩) hQl).trans q2
        go_wp2_with (first | fail)
        exact frPost_mk rfl (by repeat (first | assumption | exact Below.refl _ _ | refine bch ?_ (by assumption) | refine Below.alloc ?_ (by simp) _)) rfl
      · intro x w' hbw hd
        have d1 : x 1 = .int .i64 E := hd 1 rfl
        have d5 : x 5 = .int .i64 E := hd 5 rfl
        clear hd
        go_wp2_with fail
        exact frPost_mk rfl (by repeat (first | assumption | exact Below.refl _ _ | refine bch ?_ (by assumption) | refine Below.alloc ?_ (by simp) _)) rfl
      · intro x w' hbw hd
        have d6 : x 6 = .bool false := hd 6 rfl
        clear hd
        go_wp2_with fail
        exact frPost_mk rfl (by repeat (first | assumption | exact Below.refl _ _ | refine bch ?_ (by assumption) | refine Below.alloc ?_ (by simp) _)) rfl
      · intro x w' hbw hd
        have d7 : x 7 = .bool false := hd 7 rfl
        clear hd
        go_wp2_with fail
        exact frPost_mk rfl (by repeat (first | assumption | exact Below.refl _ _ | refine bch ?_ (by assumption) | refine Below.alloc ?_ (by simp) _)) rfl
      · intro x w' hbw hd
        have d7 : x 7 = .bool false := hd 7 rfl
        have d8 : x 8 = .pointer (some ⟨gR, 0, none⟩) := hd 8 rfl
        clear hd
        have CC := CAT w' hbw
        go_wp2_with (first | (go_at_call 54; refine (CC).mono ?_; rintro e wx ⟨rfl, rfl⟩))
        exact frPost_mk rfl (by repeat (first | assumption | exact Below.refl _ _ | refine bch ?_ (by assumption) | refine Below.alloc ?_ (by simp) _)) rfl
      · intro x w' hbw hd
        have d7 : x 7 = .bool false := hd 7 rfl
        clear hd
        go_wp2_with fail
        exact frPost_mk rfl (by repeat (first | assumption | exact Below.refl _ _ | refine bch ?_ (by assumption) | refine Below.alloc ?_ (by simp) _)) rfl
      · intro x w' hbw hd
        have d7 : x 7 = .bool false := hd 7 rfl
        have d10 : x 10 = .pointer (some ⟨gQ, 0, none⟩) := hd 10 rfl
        clear hd
        go_wp2_with fail
        exact frPost_mk rfl (by repeat (first | assumption | exact Below.refl _ _ | refine bch ?_ (by assumption) | refine Below.alloc ?_ (by simp) _)) rfl
      · intro x w' hbw hd
        have d7 : x 7 = .bool false := hd 7 rfl
        have d11 : x 11 = .pointer (some ⟨gQ, 0, none⟩) := hd 11 rfl
        clear hd
        go_wp2_with fail
        exact frPost_mk rfl (by repeat (first | assumption | exact Below.refl _ _ | refine bch ?_ (by assumption) | refine Below.alloc ?_ (by simp) _)) rfl
      · intro x w' hbw hd
        have d7 : x 7 = .bool false := hd 7 rfl
        have d12 : x 12 = .pointer (some ⟨gQ, 1, none⟩) := hd 12 rfl
        clear hd
        have m1 := (hbw.cell (p := ⟨gQ, 1, none⟩) hQl).trans q1
        go_wp2_with (first | fail)
        exact frPost_mk rfl (by repeat (first | assumption | exact Below.refl _ _ | refine bch ?_ (by assumption) | refine Below.alloc ?_ (by simp) _)) rfl
      · intro x w' hbw hd
        have d7 : x 7 = .bool false := hd 7 rfl
        have d9 : x 9 = .int .i64 A4 := hd 9 rfl
        have d13 : x 13 = .int .i64 A4 := hd 13 rfl
        clear hd
        go_wp2_with fail
        exact frPost_mk rfl (by repeat (first | assumption | exact Below.refl _ _ | refine bch ?_ (by assumption) | refine Below.alloc ?_ (by simp) _)) rfl
      · intro x w' hbw hd
        have d7 : x 7 = .bool false := hd 7 rfl
        have d14 : x 14 = .bool false := hd 14 rfl
        clear hd
        go_wp2_with fail
        exact frPost_mk rfl (by repeat (first | assumption | exact Below.refl _ _ | refine bch ?_ (by assumption) | refine Below.alloc ?_ (by simp) _)) rfl
      · intro x w' hbw hd
        have d15 : x 15 = .bool false := hd 15 rfl
        clear hd
        go_wp2_with fail
        exact frPost_mk rfl (by repeat (first | assumption | exact Below.refl _ _ | refine bch ?_ (by assumption) | refine Below.alloc ?_ (by simp) _)) rfl
      · intro x w' hbw hd
        have d16 : x 16 = .bool false := hd 16 rfl
        clear hd
        go_wp2_with fail
        exact frPost_mk rfl (by repeat (first | assumption | exact Below.refl _ _ | refine bch ?_ (by assumption) | refine Below.alloc ?_ (by simp) _)) rfl
      · intro x w' hbw hd
        have d16 : x 16 = .bool false := hd 16 rfl
        have d17 : x 17 = .pointer (some ⟨gQ, 0, none⟩) := hd 17 rfl
        clear hd
        go_wp2_with fail
        exact frPost_mk rfl (by repeat (first | assumption | exact Below.refl _ _ | refine bch ?_ (by assumption) | refine Below.alloc ?_ (by simp) _)) rfl
      · intro x w' hbw hd
        have d16 : x 16 = .bool false := hd 16 rfl
        have d18 : x 18 = .pointer (some ⟨gQ, 0, none⟩) := hd 18 rfl
        clear hd
        go_wp2_with fail
        exact frPost_mk rfl (by repeat (first | assumption | exact Below.refl _ _ | refine bch ?_ (by assumption) | refine Below.alloc ?_ (by simp) _)) rfl
      · intro x w' hbw hd
        have d16 : x 16 = .bool false := hd 16 rfl
        have d19 : x 19 = .pointer (some ⟨gQ, 2, none⟩) := hd 19 rfl
        clear hd
        have m1 := (hbw.cell (p := ⟨gQ, 2, none⟩) hQl).trans q2
        go_wp2_with (first | fail)
        exact frPost_mk rfl (by repeat (first | assumption | exact Below.refl _ _ | refine bch ?_ (by assumption) | refine Below.alloc ?_ (by simp) _)) rfl
      · intro x w' hbw hd
        have d16 : x 16 = .bool false := hd 16 rfl
        have d20 : x 20 = .int .i64 E := hd 20 rfl
        clear hd
        go_wp2_with fail
        exact frPost_mk rfl (by repeat (first | assumption | exact Below.refl _ _ | refine bch ?_ (by assumption) | refine Below.alloc ?_ (by simp) _)) rfl
      · intro x w' hbw hd
        have d16 : x 16 = .bool false := hd 16 rfl
        have d21 : x 21 = .bool false := hd 21 rfl
        clear hd
        go_wp2_with fail
        exact frPost_mk rfl (by repeat (first | assumption | exact Below.refl _ _ | refine bch ?_ (by assumption) | refine Below.alloc ?_ (by simp) _)) rfl
      · intro x w' hbw hd
        have d22 : x 22 = .bool false := hd 22 rfl
        clear hd
        go_wp2_with fail
        first | exact frPost_mk rfl (by repeat (first | assumption | exact Below.refl _ _ | refine bch ?_ (by assumption) | refine Below.alloc ?_ (by simp) _)) rfl | exact ⟨rfl, rfl, Below.refl _ _, rfl⟩
      · intro x w' hbw hd
        have d22 : x 22 = .bool false := hd 22 rfl
        clear hd
        go_wp2_with fail
        first | exact frPost_mk rfl (by repeat (first | assumption | exact Below.refl _ _ | refine bch ?_ (by assumption) | refine Below.alloc ?_ (by simp) _)) rfl | exact ⟨rfl, rfl, Below.refl _ _, rfl⟩
      · intro x w' hbw hd
        have d22 : x 22 = .bool false := hd 22 rfl
        have d23 : x 23 = .tuple #[] := hd 23 rfl
        have d24 : x 24 = .tuple #[] := hd 24 rfl
        clear hd
        go_wp2_with (first | fail)
        first | exact frPost_mk rfl (by repeat (first | assumption | exact Below.refl _ _ | refine bch ?_ (by assumption) | refine Below.alloc ?_ (by simp) _)) rfl | exact ⟨rfl, rfl, Below.refl _ _, rfl⟩
      · intro x w' hbw hd
        have d22 : x 22 = .bool false := hd 22 rfl
        have d25 : x 25 = .tuple #[] := hd 25 rfl
        clear hd
        go_wp2_with fail
        first | exact frPost_mk rfl (by repeat (first | assumption | exact Below.refl _ _ | refine bch ?_ (by assumption) | refine Below.alloc ?_ (by simp) _)) rfl | exact ⟨rfl, rfl, Below.refl _ _, rfl⟩
      · intro x w' hbw hd
        have d16 : x 16 = .bool false := hd 16 rfl
        have d22 : x 22 = .bool false := hd 22 rfl
        have d26 : x 26 = .tuple #[] := hd 26 rfl
        clear hd
        go_wp2_with fail
        exact frPost_mk rfl (by repeat (first | assumption | exact Below.refl _ _ | refine bch ?_ (by assumption) | refine Below.alloc ?_ (by simp) _)) rfl
      · intro x w' hbw hd
        have d16 : x 16 = .bool false := hd 16 rfl
        have d27 : x 27 = .bool false := hd 27 rfl
        clear hd
        go_wp2_with fail
        exact frPost_mk rfl (by repeat (first | assumption | exact Below.refl _ _ | refine bch ?_ (by assumption) | refine Below.alloc ?_ (by simp) _)) rfl
    intro x W12 hb hd
    have d28 : x 28 = .bool false := hd 28 (by decide)
    clear hd
    simp only [Nat.zero_add, Nat.reduceAdd, d28]
    have hg := cells_of hg hb hgl; have hn := cells_of hn hb hnl; have hgl := Nat.lt_of_lt_of_le hgl hb.size; have hnl := Nat.lt_of_lt_of_le hnl hb.size; have hbel := hbel.trans (hb.mono hbel.size)
    clear d28 hb CER CAT CSV q1 q2 hAr hBr hAl hBl hR hQ hQl
    cases km
    · go_wp2_with (first | (refine wpList_load_mid rfl 46 (.tmp 3) rfl w.heap.size 0 rfl (#[.int .i64 c1, .slice a1 n1 k1] : Array Value).toList _ (rangeAt_row5 hg) Tryd.underlying46 rfl (by kernel_rfl) ?_; rw [Array.toArray_toList]) | (go_at_call 46; refine (refMayPf_any c1 a1 n1 k1 xs _ (hx.below hbel) HXN.out hxM).mono ?_; rw [HEM.out]; rintro e w2 ⟨rfl, hb⟩; have hg := cells_of hg hb hgl; have hn := cells_of hn hb hnl; have hgl := Nat.lt_of_lt_of_le hgl hb.size; have hnl := Nat.lt_of_lt_of_le hnl hb.size; have hbel := hbel.trans (hb.mono hbel.size); clear hb) | (go_at_call 27; refine (first7_any _ (hS.below hbel)).mono ?_; rintro e w2 ⟨rfl, hb⟩; have hg := cells_of hg hb hgl; have hn := cells_of hn hb hnl; have hgl := Nat.lt_of_lt_of_le hgl hb.size; have hnl := Nat.lt_of_lt_of_le hnl hb.size; have hbel := hbel.trans (hb.mono hbel.size); clear hb))
      go_ret
      exact ⟨by first | rfl | simp, hbel⟩
    go_upto_region 15 with (first | (refine wpList_load_mid rfl 46 (.tmp 3) rfl w.heap.size 0 rfl (#[.int .i64 c1, .slice a1 n1 k1] : Array Value).toList _ (rangeAt_row5 hg) Tryd.underlying46 rfl (by kernel_rfl) ?_; rw [Array.toArray_toList]) | (go_at_call 46; refine (refMayPf_any c1 a1 n1 k1 xs _ (hx.below hbel) HXN.out hxM).mono ?_; rw [HEM.out]; rintro e w2 ⟨rfl, hb⟩; have hg := cells_of hg hb hgl; have hn := cells_of hn hb hnl; have hgl := Nat.lt_of_lt_of_le hgl hb.size; have hnl := Nat.lt_of_lt_of_le hnl hb.size; have hbel := hbel.trans (hb.mono hbel.size); clear hb))
    refine wp_nameE _ (fun W15 hX => ?_)
    have hg5 : W15.heap[w.heap.size]? = some (.cells #[.int .i64 c1, .slice a1 n1 k1] 46 (0, 0)) := by rw [hX]; exact hg
    have hbel5 : Below w.heap.size w W15 := by rw [hX]; exact hbel
    clear hX hg hn hgl hnl hbel
    have hgl5 := (Array.getElem?_eq_some_iff.1 hg5).1
    obtain ⟨T, hT⟩ : ∃ t : ByteArray, ⟨(pfBy c1 xs).toArray⟩ = t := ⟨_, rfl⟩
    have CP := fun W (hb : Below W15.heap.size W15 W) => refPutPf_any c1 a1 n1 k1 xs W ((hx.below hbel5).below hb) HXN.out HEM.out
    have CW := fun b W (hb : Below W15.heap.size W15 W) (hw : WAt W15.heap.size b W [] 0) => pfWrite_any b W15 W [] c1 a1 n1 k1 xs (hx.below hbel5) hb hw HXN.out HEM.out (by simp)
    have CB := fun b W (hw : WAt W15.heap.size b W (pfBy c1 xs) 0) (hb : Below W15.heap.size W15 W) => wbytes_rd W15.heap.size b W (pfBy c1 xs) hw.rd hb.size
    simp only [List.nil_append] at CW
    simp only [hT] at CP CB
    clear hT
    go_wp2_with (first | (go_at_call 55; refine (wnew_any W15.heap.size W15 (Nat.le_refl _)).mono ?_; rintro e w16 ⟨rfl, hw, hb⟩; have hg := cells_of hg5 hb hgl5) | (refine wpList_load_mid rfl 46 (.tmp 3) rfl w.heap.size 0 rfl (#[.int .i64 c1, .slice a1 n1 k1] : Array Value).toList _ (rangeAt_row5 hg) Tryd.underlying46 rfl (by kernel_rfl) ?_; rw [Array.toArray_toList]) | (go_at_call 56; refine (CW _ _ hb hw).mono ?_; rintro e w17 ⟨rfl, hw, hb17, _⟩; have hb := hb.trans hb17; have hg := cells_of hg5 hb hgl5; clear hb17) | (go_at_call 57; refine (CB _ _ hw hb).mono ?_; rintro e w18 ⟨rfl, _, hb18⟩; have hb := hb.trans hb18; have hg := cells_of hg5 hb hgl5; clear hb18) | (go_at_call 58; refine (CP _ hb).mono ?_; rintro e w19 ⟨rfl, hb19⟩; have hb := hb.trans (hb19.mono hb.size); clear hb19))
    go_ret
    exact ⟨by first | rfl | simp, hbel5.trans (hb.mono hbel5.size)⟩
end Go.Proofs.YtfikbaoiialfeaaDoor
