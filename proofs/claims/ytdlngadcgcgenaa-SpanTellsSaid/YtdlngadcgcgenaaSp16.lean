/- SpanTells walked. -/
import Derived.Test.YtdlngadcgcgenaaSp14
import Derived.Test.YtdlngadcgcgenaaSp15
import Derived.Test.YtdlngadcgcgenaaSp5
import Derived.BigRegion
import Derived.RegionTactic
import Derived.BigQuiet
import Derived.Deep.QuietTactic
import Derived.Deep.MidRow
import Derived.LoopTactic
import Derived.BigFrame
import Derived.Laws.OwnMore
import Derived.WalkKit
import Derived.ProofKit
import Derived.Handy
import Derived.Below
import Derived.Lib.Hide
import Derived.IntWalk
import Derived.Outline
import Derived.WalkLawsBesides
import Derived.WalkSpells
namespace Go.Proofs.Ytdlngadcgcgenaa
open Go.RowKit
attribute [local go_sem] strV
set_option linter.unusedVariables false
set_option maxRecDepth 100000 in
set_option maxHeartbeats 12800000 in
theorem walkSpanTells (a : Option Addr) (n cap : Nat) (l : List (Int × Int)) (v f t most : Int) (w : World) (hr : RowAt w a (l.flatMap rgL)) (hn : l.length = n) (hm : n ≤ maxLen) (ha : a = none → n = 0 ∧ cap = 0) (hf0 : -9223372036854775808 ≤ f) (hf : f ≤ 9223372036854775807) (ht : -9223372036854775808 ≤ t) (ht1 : t ≤ 9223372036854775807) :
    Calls Try.prog 6 #[.slice a n cap, .int .i64 v, .int .i64 f, .int .i64 t, .int .i64 most] w fun e w' => e = .returned (.bool true) ∧ Below w.heap.size w w' := by
  go_enter Try.func6, Try.ntmps6
  have hbel := Below.refl w.heap.size w
  go_upto_region 3 with (go_at_call 8; refine (first23_any _).mono ?_; rintro e w2 ⟨rfl, hb⟩; have hbel := hbel.trans (hb.mono hbel.size); clear hb)
  by_cases h1 : 30 < n
  · have d1 : decide (30 < (n : Int)) = true := decide_eq_true (by omega)
    have d1n : decide (30 < n) = true := decide_eq_true h1
    go_wp2_with (go_at_call 8; refine (first23_any _).mono ?_; rintro e w2 ⟨rfl, hb⟩; have hbel := hbel.trans (hb.mono hbel.size); clear hb)
    go_ret
    exact ⟨by first | rfl | simp, hbel⟩
  have d1 : decide (30 < (n : Int)) = false := decide_eq_false (by omega)
  have d1n : decide (30 < n) = false := decide_eq_false h1
  by_cases h2 : 200 < most
  · have d2 : decide (200 < most) = true := decide_eq_true h2
    go_wp2_with (go_at_call 8; refine (first23_any _).mono ?_; rintro e w2 ⟨rfl, hb⟩; have hbel := hbel.trans (hb.mono hbel.size); clear hb)
    go_ret
    exact ⟨by first | rfl | simp, hbel⟩
  have d2 : decide (200 < most) = false := decide_eq_false h2
  have CD := fun W (hb : Below w.heap.size w W) => doc_any a n cap l W (hr.below hb) hn (by omega)
  go_upto_region 6 with (first | (go_at_call 8; refine (first23_any _).mono ?_; rintro e w2 ⟨rfl, hb⟩; have hbel := hbel.trans (hb.mono hbel.size); clear hb) | (go_at_call 20; refine (CD _ hbel).mono ?_; rintro e w5 ⟨vD, rfl, hoD, hb⟩))
  rw [hn] at hoD
  have hbel := hbel.trans (hb.mono hbel.size)
  clear hb CD
  obtain ⟨aD, cD, hvD, hrD, _, _, haD⟩ := own_sliceN hoD
  subst hvD
  clear hoD
  have hr5 := hr.below hbel
  have hbc := Below.refl w5.heap.size w5
  have CG : ∀ W, Below w5.heap.size w5 W → Calls Try.prog 9 #[.slice a n cap] W fun e w' => e = .returned (.bool (goodR l)) ∧ Below W.heap.size W w' := fun W hb => good_any a n cap l W (hr5.below hb) hn hm
  have CGD : ∀ W, Below w5.heap.size w5 W → Calls Try.prog 21 #[.slice aD n cD] W fun e w' => e = .returned (.bool (goodR l)) ∧ Below W.heap.size W w' := fun W hb => refGood_any aD n cD l W (hrD.below hb) hn (by omega)
  have CH : ∀ W, Below w5.heap.size w5 W → Calls Try.prog 11 #[.slice a n cap, .int .i64 v] W fun e w' => e = .returned (.bool (hasR l v)) ∧ Below W.heap.size W w' := fun W hb => has_any a n cap l v W (hr5.below hb) hn hm
  have CHD : ∀ W, Below w5.heap.size w5 W → Calls Try.prog 22 #[.slice aD n cD, .int .i64 v] W fun e w' => e = .returned (.bool (hasR l v)) ∧ Below W.heap.size W w' := fun W hb => refHas_any aD n cD l v W (hrD.below hb) hn (by omega)
  have CA := fun W (hb : Below w5.heap.size w5 W) => add_any a n cap l v W (hr5.below hb) hn (by omega) ha
  have CL := fun W (hb : Below w5.heap.size w5 W) => lacks_any a n cap l f t W (hr5.below hb) hn (by omega) hf ht
  have CC := fun W (hb : Below w5.heap.size w5 W) => count_any a n cap l W (hr5.below hb) hn hm
  have CAL := fun W (hb : Below w5.heap.size w5 W) => all_anyW a n cap l most W (hr5.below hb) hn hm (by omega)
  have CAD := fun W (hb : Below w5.heap.size w5 W) (h : goodR l = true) => addNum_any aD n cD l v W (hrD.below hb) hn (by omega) haD h
  have CLD := fun W (hb : Below w5.heap.size w5 W) (h : goodR l = true) => refLacks_any aD n cD l f t W (hrD.below hb) hn (by omega) hf ht h
  have CCD := fun W (hb : Below w5.heap.size w5 W) (h : goodR l = true) => countNums_any aD n cD l W (hrD.below hb) hn (by omega) h
  have CALD := fun W (hb : Below w5.heap.size w5 W) (h : goodR l = true) => allNums_any aD n cD l most W (hrD.below hb) hn (by omega) (by omega) h
  have hal := addR_len l v
  have hll : (lacksR l f t).length ≤ n + 1 := by
    unfold lacksR
    split
    · rw [← hn]; exact lacks_len
    · exact Nat.zero_le _
  have hares : goodR l = true → addRes l v = addR l v := fun h => by unfold addRes; rw [if_pos h]
  have hares0 : goodR l = false → addRes l v = [] := fun h => by unfold addRes; rw [if_neg (by rw [h]; exact Bool.false_ne_true)]
  have hlac0 : goodR l = false → lacksR l f t = [] := fun h => by unfold lacksR; rw [if_neg (by rw [h]; exact Bool.false_ne_true)]
  obtain ⟨hs, hhs⟩ : ∃ b, hasR l v = b := ⟨_, rfl⟩
  simp only [hhs] at CH CHD
  have e1 : (hs != hs) = false := by cases hs <;> rfl
  obtain ⟨gd, hgd⟩ : ∃ b, goodR l = b := ⟨_, rfl⟩
  rw [hgd] at hares hares0 hlac0
  simp only [hgd] at CG CGD CAD CLD CCD CALD CC CAL
  have e2 : (gd != gd) = false := by cases gd <;> rfl
  rw [hn] at hal
  clear hgd hhs hrD hr5 hr haD ha
  cases gd
  · have z1 := hares0 rfl
    have z2 := hlac0 rfl
    simp only [z1] at CA
    simp only [z2] at CL
    simp only [Bool.false_eq_true, if_false, List.map_nil, List.length_nil, List.flatMap_nil] at CA CL CC CAL
    clear z1 z2 hares hares0 hlac0 CAD CLD CCD CALD hal hll
    go_upto_region 10 with (first | (go_at_call 21; with_reducible refine (CGD _ hbc).mono ?_; rintro e wn ⟨rfl, hb⟩; have hbc := hbc.trans (hb.mono hbc.size); clear hb) | (go_at_call 9; with_reducible refine (CG _ hbc).mono ?_; rintro e wn ⟨rfl, hb⟩; have hbc := hbc.trans (hb.mono hbc.size); clear hb) | (go_at_call 11; with_reducible refine (CH _ hbc).mono ?_; rintro e wn ⟨rfl, hb⟩; have hbc := hbc.trans (hb.mono hbc.size); clear hb) | (go_at_call 22; with_reducible refine (CHD _ hbc).mono ?_; rintro e wn ⟨rfl, hb⟩; have hbc := hbc.trans (hb.mono hbc.size); clear hb))
    go_wp2_with (first | (go_at_call 19; with_reducible refine (CA _ hbc).mono ?_; rintro e wn ⟨v1, rfl, ho1, hb⟩; obtain ⟨a1, c1, rfl, _⟩ := own_slice ho1; have hbc := hbc.trans (hb.mono hbc.size); clear hb) | (go_at_call 10; with_reducible refine (CL _ hbc).mono ?_; rintro e wn ⟨v2, rfl, ho2, hb⟩; obtain ⟨a2, c2, rfl, _⟩ := own_slice ho2; have hbc := hbc.trans (hb.mono hbc.size); clear hb) | (go_at_call 12; with_reducible refine (CC _ hbc).mono ?_; rintro e wn ⟨rfl, hb⟩; have hbc := hbc.trans (hb.mono hbc.size); clear hb) | (go_at_call 14; with_reducible refine (CAL _ hbc).mono ?_; rintro e wn ⟨v3, rfl, ho3, hb⟩; obtain ⟨a3, c3, rfl, _⟩ := own_slice ho3; have hbc := hbc.trans (hb.mono hbc.size); clear hb))
    go_ret
    exact ⟨by first | rfl | simp, hbel.trans (hbc.mono hbel.size)⟩
  have z1 := hares rfl
  rw [z1] at CA
  simp only [if_true, forall_const] at CC CAL CAD CLD CCD CALD
  clear z1 hares hares0 hlac0
  obtain ⟨X1, hX1⟩ : ∃ X, addR l v = X := ⟨_, rfl⟩
  simp only [hX1] at CA CAD hal
  obtain ⟨n1, hn1⟩ : ∃ z, X1.length = z := ⟨_, rfl⟩
  simp only [hn1] at CA CAD hal
  obtain ⟨X2, hX2⟩ : ∃ X, lacksR l f t = X := ⟨_, rfl⟩
  simp only [hX2] at CL CLD hll
  obtain ⟨n2, hn2⟩ : ∃ z, X2.length = z := ⟨_, rfl⟩
  simp only [hn2] at CL CLD hll
  obtain ⟨Z, hZ⟩ : ∃ X, (allR l).take most.toNat = X := ⟨_, rfl⟩
  have hZl : Z.length ≤ 200 := by rw [← hZ, List.length_take]; omega
  simp only [hZ] at CAL CALD
  obtain ⟨n3, hn3⟩ : ∃ z, Z.length = z := ⟨_, rfl⟩
  rw [hn3] at hZl
  simp only [hn3] at CAL CALD
  obtain ⟨C, hC⟩ : ∃ c, countR l = c := ⟨_, rfl⟩
  simp only [hC] at CC CCD
  have e3 : (C == C) = true := beq_self_eq_true C
  have CR1 : ∀ (p q : Option Addr) (c d : Nat) W, RowAt W p (X1.flatMap rgL) → RowAt W q (X1.flatMap rgL) → Calls Try.prog 17 #[.slice p n1 c, .slice q n1 d] W fun e w' => e = .returned (.bool true) ∧ Below W.heap.size W w' := fun p q c d W h h2 => by
    have := ranges_any (cap := c) (cap' := d) h h2 hn1 hn1 (by unfold maxLen; omega) (by unfold maxLen; omega)
    rw [beq_self_eq_true] at this
    exact this
  have CR2 : ∀ (p q : Option Addr) (c d : Nat) W, RowAt W p (X2.flatMap rgL) → RowAt W q (X2.flatMap rgL) → Calls Try.prog 17 #[.slice p n2 c, .slice q n2 d] W fun e w' => e = .returned (.bool true) ∧ Below W.heap.size W w' := fun p q c d W h h2 => by
    have := ranges_any (cap := c) (cap' := d) h h2 hn2 hn2 (by unfold maxLen; omega) (by unfold maxLen; omega)
    rw [beq_self_eq_true] at this
    exact this
  have CI : ∀ (p q : Option Addr) (c d : Nat) W, RowAt W p (Z.map (Value.int .i64)) → RowAt W q (Z.map (Value.int .i64)) → Calls Try.prog 26 #[.slice p n3 c, .slice q n3 d] W fun e w' => e = .returned (.bool true) ∧ Below W.heap.size W w' := fun p q c d W h h2 => by
    have := ints_any (cap := c) (cap' := d) h h2 hn3 hn3 (by unfold maxLen; omega) (by unfold maxLen; omega)
    rw [beq_self_eq_true] at this
    exact this
  clear hX1 hX2 hZ hC hn1 hn2 hn3
  go_upto_region 11 with (first | (go_at_call 21; with_reducible refine (CGD _ hbc).mono ?_; rintro e wn ⟨rfl, hb⟩; have hbc := hbc.trans (hb.mono hbc.size); clear hb) | (go_at_call 9; with_reducible refine (CG _ hbc).mono ?_; rintro e wn ⟨rfl, hb⟩; have hbc := hbc.trans (hb.mono hbc.size); clear hb) | (go_at_call 11; with_reducible refine (CH _ hbc).mono ?_; rintro e wn ⟨rfl, hb⟩; have hbc := hbc.trans (hb.mono hbc.size); clear hb) | (go_at_call 22; with_reducible refine (CHD _ hbc).mono ?_; rintro e wn ⟨rfl, hb⟩; have hbc := hbc.trans (hb.mono hbc.size); clear hb))
  go_wp2_with (first | (go_at_call 19; with_reducible refine (CA _ hbc).mono ?_; rintro e wn ⟨v1, rfl, ho1, hb⟩; obtain ⟨a1, c1, rfl, r1, _⟩ := own_slice ho1; have hbc := hbc.trans (hb.mono hbc.size); clear hb) | (go_at_call 23; with_reducible refine (CAD _ hbc).mono ?_; rintro e wn ⟨v2, rfl, ho2, hb⟩; obtain ⟨a2, c2, rfl, r2, _⟩ := own_slice ho2; have r1 := r1.below hb; have hbc := hbc.trans (hb.mono hbc.size); clear hb) | (go_at_call 17; with_reducible refine (CR1 a1 a2 c1 c2 _ r1 r2).mono ?_; rintro e wn ⟨rfl, hb⟩; have hbc := hbc.trans (hb.mono hbc.size); clear hb) | (go_at_call 10; with_reducible refine (CL _ hbc).mono ?_; rintro e wn ⟨v3, rfl, ho3, hb⟩; obtain ⟨a3, c3, rfl, r3, _⟩ := own_slice ho3; have hbc := hbc.trans (hb.mono hbc.size); clear hb) | (go_at_call 24; with_reducible refine (CLD _ hbc).mono ?_; rintro e wn ⟨v4, rfl, ho4, hb⟩; obtain ⟨a4, c4, rfl, r4, _⟩ := own_slice ho4; have r3 := r3.below hb; have hbc := hbc.trans (hb.mono hbc.size); clear hb) | (go_at_call 17; with_reducible refine (CR2 a3 a4 c3 c4 _ r3 r4).mono ?_; rintro e wn ⟨rfl, hb⟩; have hbc := hbc.trans (hb.mono hbc.size); clear hb) | (go_at_call 12; with_reducible refine (CC _ hbc).mono ?_; rintro e wn ⟨rfl, hb⟩; have hbc := hbc.trans (hb.mono hbc.size); clear hb) | (go_at_call 25; with_reducible refine (CCD _ hbc).mono ?_; rintro e wn ⟨rfl, hb⟩; have hbc := hbc.trans (hb.mono hbc.size); clear hb) | (go_at_call 14; with_reducible refine (CAL _ hbc).mono ?_; rintro e wn ⟨v5, rfl, ho5, hb⟩; obtain ⟨a5, c5, rfl, r5, _⟩ := own_slice ho5; have hbc := hbc.trans (hb.mono hbc.size); clear hb) | (go_at_call 27; with_reducible refine (CALD _ hbc).mono ?_; rintro e wn ⟨v6, rfl, ho6, hb⟩; obtain ⟨a6, c6, rfl, r6, _⟩ := own_slice ho6; have r5 := r5.below hb; have hbc := hbc.trans (hb.mono hbc.size); clear hb) | (go_at_call 26; with_reducible refine (CI a5 a6 c5 c6 _ r5 r6).mono ?_; rintro e wn ⟨rfl, hb⟩; have hbc := hbc.trans (hb.mono hbc.size); clear hb))
  go_ret
  exact ⟨by first | rfl | simp, hbel.trans (hbc.mono hbel.size)⟩
end Go.Proofs.Ytdlngadcgcgenaa
