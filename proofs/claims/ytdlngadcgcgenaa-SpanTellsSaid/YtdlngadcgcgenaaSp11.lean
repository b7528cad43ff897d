/- The document's OfNums, Ranges, doc. -/
import Derived.Test.YtdlngadcgcgenaaSp10
import Derived.BigRegion
import Derived.RegionTactic
import Derived.BigQuiet
import Derived.Deep.QuietTactic
import Derived.Deep.MidRow
import Derived.Deep.RegionLaw
import Derived.LoopTactic
import Derived.BigFrame
import Derived.Laws.OwnMore
import Derived.WalkKit
import Derived.ProofKit
import Derived.Handy
import Derived.Below
import Derived.Lib.Hide
import Derived.IntWalk
import Derived.Outline
import Derived.WalkLawsBesides
import Derived.WalkSpells
namespace Go.Proofs.Ytdlngadcgcgenaa
open Go.RowKit
attribute [local go_sem] strV
set_option linter.unusedVariables false
set_option maxRecDepth 100000 in
set_option maxHeartbeats 6400000 in
theorem ofNums_any (a : Option Addr) (n cap : Nat) (l : List Int) (w : World) (hr : RowAt w a (l.map (Value.int .i64))) (hn : l.length = n) (hm : n ≤ 90000) :
    Calls Try.prog 18 #[.slice a n cap] w fun e w' => ∃ v, e = .returned v ∧ w'.ownsRow w.heap.size 70 2 v (ofR l).length ((ofR l).flatMap rgL) ∧ Below w.heap.size w w' := by
  have HN := Lib.hid hn
  clear hn
  go_enter Try.func18, Try.ntmps18
  go_upto_region 3 with fail
  go_loopw [3, 4] (fun v i wr => ∃ k : Nat, k ≤ n ∧ i = .int .i64 k ∧ wr.ownsRow w.heap.size 70 2 v (addAll (l.take k)).length ((addAll (l.take k)).flatMap rgL) ∧ Below w.heap.size w wr) (fun _ i _ => n - (intOf i).toNat)
  case atStart => exact ⟨0, Nat.zero_le _, rfl, World.ownsRow_nil _ _ _ _, Below.refl _ _⟩
  case round =>
    obtain ⟨k, hk, rfl, hown, hbel⟩ := hrel
    by_cases hlt : k < n
    rotate_left
    · have d9 : decide ((k : Int) < (n : Int)) = false := decide_eq_false (by omega)
      have d9n : decide (k < n) = false := decide_eq_false hlt
      have HE := Lib.hid (show addAll (l.take k) = ofR l by rw [List.take_of_length_le (by rw [HN.out]; omega), addAll_of])
      go_wp2
      go_ret
      exact ⟨_, rfl, by rw [← HE.out]; exact hown, hbel⟩
    have d9 : decide ((k : Int) < (n : Int)) = true := decide_eq_true (by omega)
    have d9n : decide (k < n) = true := decide_eq_true hlt
    have hkl : k < l.length := by rw [HN.out]; exact hlt
    obtain ⟨b1, o1, rfl, hb1, hc1⟩ := row_get (hr.below hbel) hkl
    have hstep := addAll_take hkl
    have hgd := (addAll_ok (l.take k)).1
    have hln := addAll_len (l.take k)
    rw [List.length_take, HN.out] at hln
    obtain ⟨y, hy⟩ : ∃ y, l[k] = y := ⟨_, rfl⟩
    rw [hy] at hc1 hstep
    obtain ⟨R, hR⟩ : ∃ R, addAll (l.take k) = R := ⟨_, rfl⟩
    rw [hR] at hown hstep hgd hln
    obtain ⟨aR, cR, hv, hrR, hR1, hR2, haR⟩ := own_sliceN hown
    subst hv
    have HST := Lib.hid hstep
    have CN := addNum_any aR R.length cR R y wr hrR rfl (by omega) haR hgd
    have n0 : (0 : Int) ≤ (k : Int) := by omega
    have n1 : (k : Int) < (n : Int) := by omega
    have n2 : ((k : Nat) : Int).toNat = k := by omega
    clear hy hR hstep hgd hown
    go_wp2_with (go_at_call 23; refine CN.mono ?_; rintro e w6 ⟨v6, rfl, hown6, hb6⟩)
    go_roundw
    case rel => exact ⟨k + 1, by omega, by go_num, by rw [HST.out]; exact own_lowerM hown6 hbel.size, hbel.trans (hb6.mono hbel.size)⟩
    case measure => (simp [intOf]) <;> omega
theorem beqP_at {x y : List (Int × Int)} {n : Nat} (hn : x.length = n ∧ y.length = n) (h : ∀ j, j < n → x[j]? = y[j]?) : (x == y) = true := by
  rw [beq_iff_eq]
  refine List.ext_getElem? fun j => ?_
  rcases Nat.lt_or_ge j n with h' | h'
  · exact h j h'
  · rw [List.getElem?_eq_none (by omega), List.getElem?_eq_none (by omega)]
set_option maxRecDepth 100000 in
set_option maxHeartbeats 3200000 in
theorem ranges_any {a a' : Option Addr} {n n' cap cap' : Nat} {x y : List (Int × Int)} {w : World} (hx : RowAt w a (x.flatMap rgL)) (hy : RowAt w a' (y.flatMap rgL)) (hn : x.length = n) (hn' : y.length = n') (hm : n ≤ maxLen) (hm' : n' ≤ maxLen) :
    Calls Try.prog 17 #[.slice a n cap, .slice a' n' cap'] w fun e w' => e = .returned (.bool (x == y)) ∧ Below w.heap.size w w' := by
  unfold maxLen at hm hm'
  have HN := Lib.hid hn; have HN' := Lib.hid hn'; clear hn hn'
  by_cases hne : n = n'
  rotate_left
  · have HF : Hid ((x == y) = false) := Lib.hid (by
      rw [beq_eq_false_iff_ne]; rintro rfl
      exact hne (by rw [← HN.out, ← HN'.out]))
    have hb0 : ((n : Int) != (n' : Int)) = true := by rw [bne_iff_ne]; omega
    go_enter Try.func17, Try.ntmps17
    go_wp2
    go_ret
    exact ⟨by rw [HF.out]; rfl, Below.refl _ _⟩
  subst hne
  go_enter Try.func17, Try.ntmps17
  go_wp2
  go_loopw [5] (fun i wr => ∃ k : Nat, k ≤ n ∧ Hid (∀ j, j < k → x[j]? = y[j]?) ∧ Below w.heap.size w wr ∧ i = .int .i64 k) (fun i _ => n - (intOf i).toNat)
  case atStart => exact ⟨0, by omega, Lib.hid (fun j h => by omega), Below.refl _ _, rfl⟩
  case round =>
    obtain ⟨k, hk, HE, hbel, rfl⟩ := hrel
    by_cases hlt : k < n
    rotate_left
    · have HT : Hid ((x == y) = true) := Lib.hid (beqP_at ⟨HN.out, HN'.out⟩ (fun j hj => HE.out j (by omega)))
      have d9 : decide ((k : Int) < (n : Int)) = false := decide_eq_false (by omega)
      have d9n : decide (k < n) = false := decide_eq_false hlt
      go_wp2
      go_ret
      exact ⟨by rw [HT.out]; rfl, hbel⟩
    have d9 : decide ((k : Int) < (n : Int)) = true := decide_eq_true (by omega)
    have d9n : decide (k < n) = true := decide_eq_true hlt
    have n0 : (0 : Int) ≤ (k : Int) := by omega
    have n1 : (k : Int) < (n : Int) := by omega
    have n2 : ((k : Nat) : Int).toNat = k := by omega
    have hkx : k < x.length := by rw [HN.out]; exact hlt
    have hky : k < y.length := by rw [HN'.out]; exact hlt
    obtain ⟨b1, o1, rfl, hb1, hg1⟩ := rg_range (hx.below hbel) hkx
    obtain ⟨b2, o2, rfl, hb2, hg2⟩ := rg_range (hy.below hbel) hky
    have hx1 := List.getElem?_eq_getElem hkx
    have hy1 := List.getElem?_eq_getElem hky
    obtain ⟨⟨X1, X2⟩, hX⟩ : ∃ p, x[k] = p := ⟨_, rfl⟩
    obtain ⟨⟨Y1, Y2⟩, hY⟩ : ∃ p, y[k] = p := ⟨_, rfl⟩
    rw [hX] at hg1 hx1
    rw [hY] at hg2 hy1
    have k0 : wr.cell? ⟨b1, o1 + k * 2, none⟩ = some (.int .i64 X1) := hg1 0 _ rfl
    have k1 : wr.cell? ⟨b1, o1 + k * 2 + 1, none⟩ = some (.int .i64 X2) := hg1 1 _ rfl
    have k2 : wr.cell? ⟨b2, o2 + k * 2, none⟩ = some (.int .i64 Y1) := hg2 0 _ rfl
    have k3 : wr.cell? ⟨b2, o2 + k * 2 + 1, none⟩ = some (.int .i64 Y2) := hg2 1 _ rfl
    have HX := Lib.hid hx1; have HY := Lib.hid hy1
    clear hg1 hg2 hx1 hy1 hX hY
    have hF : ¬ ((X1, X2) : Int × Int) = (Y1, Y2) → (x == y) = false := fun hne => by
      rw [beq_eq_false_iff_ne]; rintro rfl
      have h1 := HX.out; rw [HY.out] at h1; exact hne (by simpa using h1.symm)
    by_cases h1 : X1 = Y1
    · have e1 : (X1 != Y1) = false := by rw [h1]; simp
      by_cases h2 : X2 = Y2
      · have e2 : (X2 != Y2) = false := by rw [h2]; simp
        have HS := Lib.hid (show x[k]? = y[k]? by rw [HX.out, HY.out, h1, h2])
        clear h1 h2 hF
        go_upto_region 6 with fail
        go_quiet (fail)
        go_wp2
        go_roundw
        case rel => exact ⟨k + 1, by omega, Lib.hid (fun j hj => by
            rcases Nat.lt_or_ge j k with h | h
            · exact HE.out j h
            · obtain rfl : j = k := by omega
              exact HS.out), hbel.trans ((drewN_below _ _).mono hbel.size), by go_num⟩
        case measure => (simp [intOf]) <;> omega
      · have e2 : (X2 != Y2) = true := by simpa using h2
        have HF := Lib.hid (hF (fun h => h2 (by simpa using congrArg Prod.snd h)))
        clear h1 h2 hF
        go_upto_region 6 with fail
        go_quiet (fail)
        go_wp2
        go_ret
        exact ⟨by rw [HF.out]; rfl, hbel.trans ((drewN_below _ _).mono hbel.size)⟩
    · have e1 : (X1 != Y1) = true := by simpa using h1
      have HF := Lib.hid (hF (fun h => h1 (by simpa using congrArg Prod.fst h)))
      clear h1 hF
      go_upto_region 6 with fail
      go_quiet (fail)
      go_wp2
      go_ret
      exact ⟨by rw [HF.out]; rfl, hbel.trans ((drewN_below _ _).mono hbel.size)⟩
set_option maxRecDepth 100000 in
set_option maxHeartbeats 6400000 in
theorem doc_any (a : Option Addr) (n cap : Nat) (l : List (Int × Int)) (w : World) (hr : RowAt w a (l.flatMap rgL)) (hn : l.length = n) (hm : n ≤ 100000) :
    Calls Try.prog 20 #[.slice a n cap] w fun e w' => ∃ v, e = .returned v ∧ w'.ownsRow w.heap.size 70 2 v l.length (l.flatMap rgL) ∧ Below w.heap.size w w' := by
  obtain ⟨iR, hiR, hzR, hsR, hbR⟩ := info_parts Try.infoDr
  have HN := Lib.hid hn
  clear hn
  go_enter Try.func20, Try.ntmps20
  go_upto_region 3 with fail
  go_loopw [3, 4] (fun v i wr => ∃ k : Nat, k ≤ n ∧ i = .int .i64 k ∧ wr.ownsRow w.heap.size 70 2 v k ((l.take k).flatMap rgL) ∧ Below w.heap.size w wr) (fun _ i _ => n - (intOf i).toNat)
  case atStart => exact ⟨0, Nat.zero_le _, rfl, World.ownsRow_nil _ _ _ _, Below.refl _ _⟩
  case round =>
    obtain ⟨k, hk, rfl, hown, hbel⟩ := hrel
    by_cases hlt : k < n
    rotate_left
    · have d9 : decide ((k : Int) < (n : Int)) = false := decide_eq_false (by omega)
      have d9n : decide (k < n) = false := decide_eq_false hlt
      have HE := Lib.hid (show l.take k = l from List.take_of_length_le (by rw [HN.out]; omega))
      have HK := Lib.hid (show l.length = k by rw [HN.out]; omega)
      go_wp2
      go_ret
      exact ⟨_, rfl, by rw [HK.out]; rw [HE.out] at hown; exact hown, hbel⟩
    have d9 : decide ((k : Int) < (n : Int)) = true := decide_eq_true (by omega)
    have d9n : decide (k < n) = true := decide_eq_true hlt
    have hkl : k < l.length := by rw [HN.out]; exact hlt
    obtain ⟨b1, o1, rfl, hb1, hg1⟩ := rg_range (hr.below hbel) hkl
    obtain ⟨⟨x, y⟩, hxy⟩ : ∃ p, l[k] = p := ⟨_, rfl⟩
    rw [hxy] at hg1
    have HTK := Lib.hid (show (l.take (k + 1)).flatMap rgL = (l.take k).flatMap rgL ++ [.int .i64 x, .int .i64 y] by rw [List.take_succ_eq_append_getElem hkl, hxy, List.flatMap_append]; rfl)
    have k0 : wr.cell? ⟨b1, o1 + k * 2, none⟩ = some (.int .i64 x) := hg1 0 _ rfl
    have k1 : wr.cell? ⟨b1, o1 + k * 2 + 1, none⟩ = some (.int .i64 y) := hg1 1 _ rfl
    obtain ⟨aR, cR, hv, hrR, hR1, hR2, haR⟩ := own_sliceN hown
    subst hv
    unfold maxLen at hR2
    have n0 : (0 : Int) ≤ (k : Int) := by omega
    have n1 : (k : Int) < (n : Int) := by omega
    have n2 : ((k : Nat) : Int).toNat = k := by omega
    clear hg1 hxy hrR
    go_upto_region 5 with fail
    refine wp_region_any (by kernel_rfl) ?_
    change wpAny _ _ _ _ _ _ _ (World.drew _)
    refine wpAny_take (i := 0) (v := .slice aR k cR) rfl (by kernel_rfl) (by kernel_rfl) (by kernel_rfl) (fun _ _ _ h => h) (Or.inl ⟨by rfl, fun w9 => by (go_simp; try with_reducible rfl)⟩) ?_
    change wpAny _ _ _ _ _ _ (Act.put _ (some 11) _) _; dsimp only [Act.put]; simp only [List.setIfInBounds_toArray, List.set_cons_succ, List.set_cons_zero]
    refine wpAny_take (i := 1) (v := .slice (some ⟨b1, o1, none⟩) n cap) rfl (by kernel_rfl) (by kernel_rfl) (by kernel_rfl) (fun _ _ _ h => h) (Or.inl ⟨by rfl, fun w9 => by (go_simp; try with_reducible rfl)⟩) ?_
    change wpAny _ _ _ _ _ _ (Act.put _ (some 12) _) _; dsimp only [Act.put]; simp only [List.setIfInBounds_toArray, List.set_cons_succ, List.set_cons_zero]
    refine wpAny_take (i := 2) (v := .int .i64 (k : Int)) rfl (by kernel_rfl) (by kernel_rfl) (by kernel_rfl) (fun _ _ _ h => h) (Or.inl ⟨by rfl, fun w9 => by (go_simp; try with_reducible rfl)⟩) ?_
    change wpAny _ _ _ _ _ _ (Act.put _ (some 13) _) _; dsimp only [Act.put]; simp only [List.setIfInBounds_toArray, List.set_cons_succ, List.set_cons_zero]
    refine wpAny_take (i := 3) (v := .pointer (some ⟨b1, o1 + k * 2, none⟩)) rfl (by kernel_rfl) (by kernel_rfl) (by kernel_rfl) (fun _ _ _ h => h) (Or.inl ⟨by rfl, fun w9 => by (go_simp; try with_reducible rfl)⟩) ?_
    change wpAny _ _ _ _ _ _ (Act.put _ (some 14) _) _; dsimp only [Act.put]; simp only [List.setIfInBounds_toArray, List.set_cons_succ, List.set_cons_zero]
    refine wpAny_take (i := 4) (v := .pointer (some ⟨b1, o1 + k * 2, none⟩)) rfl (by kernel_rfl) (by kernel_rfl) (by kernel_rfl) (fun _ _ _ h => h) (Or.inl ⟨by rfl, fun w9 => by (go_simp; try with_reducible rfl)⟩) ?_
    change wpAny _ _ _ _ _ _ (Act.put _ (some 15) _) _; dsimp only [Act.put]; simp only [List.setIfInBounds_toArray, List.set_cons_succ, List.set_cons_zero]
    refine wpAny_take (i := 6) (v := .slice (some ⟨b1, o1, none⟩) n cap) rfl (by kernel_rfl) (by kernel_rfl) (by kernel_rfl) (fun _ _ _ h => h) (Or.inl ⟨by rfl, fun w9 => by (go_simp; try with_reducible rfl)⟩) ?_
    change wpAny _ _ _ _ _ _ (Act.put _ (some 17) _) _; dsimp only [Act.put]; simp only [List.setIfInBounds_toArray, List.set_cons_succ, List.set_cons_zero]
    refine wpAny_take (i := 7) (v := .int .i64 (k : Int)) rfl (by kernel_rfl) (by kernel_rfl) (by kernel_rfl) (fun _ _ _ h => h) (Or.inl ⟨by rfl, fun w9 => by (go_simp; try with_reducible rfl)⟩) ?_
    change wpAny _ _ _ _ _ _ (Act.put _ (some 18) _) _; dsimp only [Act.put]; simp only [List.setIfInBounds_toArray, List.set_cons_succ, List.set_cons_zero]
    refine wpAny_take (i := 8) (v := .pointer (some ⟨b1, o1 + k * 2, none⟩)) rfl (by kernel_rfl) (by kernel_rfl) (by kernel_rfl) (fun _ _ _ h => h) (Or.inl ⟨by rfl, fun w9 => by (go_simp; try with_reducible rfl)⟩) ?_
    change wpAny _ _ _ _ _ _ (Act.put _ (some 19) _) _; dsimp only [Act.put]; simp only [List.setIfInBounds_toArray, List.set_cons_succ, List.set_cons_zero]
    refine wpAny_take (i := 9) (v := .pointer (some ⟨b1, o1 + k * 2 + 1, none⟩)) rfl (by kernel_rfl) (by kernel_rfl) (by kernel_rfl) (fun _ _ _ h => h) (Or.inl ⟨by rfl, fun w9 => by (go_simp; try with_reducible rfl)⟩) ?_
    change wpAny _ _ _ _ _ _ (Act.put _ (some 20) _) _; dsimp only [Act.put]; simp only [List.setIfInBounds_toArray, List.set_cons_succ, List.set_cons_zero]
    refine wpAny_ready (rs := [5, 10]) (by kernel_rfl) (by simp) ?_
    refine AllReady.cons rfl (fun K hK => ?_) (AllReady.cons rfl (fun K hK => ?_) AllReady.nil)
    · go_simp
      refine hK _ _ ?_
      clear hK K
      refine wpAny_ready (rs := [10]) (by kernel_rfl) (by simp) ?_
      refine AllReady.cons rfl (fun K hK => ?_) AllReady.nil
      go_simp
      refine hK _ _ ?_
      clear hK K
      refine wpAny_take (i := 11) (v := .agg #[.int .i64 x, .int .i64 y]) rfl (by kernel_rfl) (by kernel_rfl) (by kernel_rfl) (fun _ _ _ h => h) (Or.inl ⟨by rfl, fun w9 => by (go_simp; try with_reducible rfl)⟩) ?_
      change wpAny _ _ _ _ _ _ (Act.put _ (some 22) _) _; dsimp only [Act.put]; simp only [List.setIfInBounds_toArray, List.set_cons_succ, List.set_cons_zero]
      refine wpAny_ready (rs := [12]) (by kernel_rfl) (by simp) ?_
      refine AllReady.cons rfl (fun K hK => ?_) AllReady.nil
      go_simp
      refine hK _ _ ?_
      clear hK K
      refine wpAny_ready (rs := [13]) (by kernel_rfl) (by simp) ?_
      refine AllReady.cons rfl (fun K hK => ?_) AllReady.nil
      refine step_append_ownA rfl (.tmp 11) (.tmp 23) 36 rfl w.heap.size 70 iR (.agg #[.int .i64 0, .int .i64 0]) 2 16 Try.underlying36 hiR hzR hsR hbR rfl (by decide) (.slice aR k cR) k ((l.take k).flatMap rgL) (by first | rfl | simp [Act.eval, Act.put]) (World.ownsRow.drew (hown.alloc _)) (some ⟨wr.heap.size, 0, none⟩) 1 1 [.int .i64 x, .int .i64 y] (by first | rfl | simp [Act.eval, Act.put]) (fun h => by cases h) rfl (some_fun (cell_two_new wr _ _ _)) (two_one _ _) (by unfold maxLen; omega) (by omega) (by show w.heap.size ≤ (wr.heap.push _).size; rw [Array.size_push]; have := hbel.size; omega) ?_
      intro v9 w9 hown9 hgr9
      refine hK _ _ ?_
      clear hK K
      change wpAny _ _ _ _ _ _ (Act.put _ (some 24) _) _; dsimp only [Act.put]; simp only [List.setIfInBounds_toArray, List.set_cons_succ, List.set_cons_zero]
      refine wpAny_take (i := 14) (v := v9) rfl (by kernel_rfl) (by kernel_rfl) (by kernel_rfl) (fun _ _ _ h => h) (Or.inl ⟨by rfl, fun w9 => by (go_simp; try with_reducible rfl)⟩) ?_
      change wpAny _ _ _ _ _ _ (Act.put _ (some 3) _) _; dsimp only [Act.put]; simp only [List.setIfInBounds_toArray, List.set_cons_succ, List.set_cons_zero]
      refine wpAny_done (by kernel_rfl) ?_ _
      have hb5 : Below w.heap.size w (wr.alloc (.cells #[.int .i64 x, .int .i64 y] 70)).drew := (Below.alloc hbel hbel.size _).drew
      have hb9 := hb5.trans (below_grown (World.ownsRow.drew (hown.alloc (.cells #[.int .i64 x, .int .i64 y] 70))) hgr9 hb5.size)
      go_wp2
      go_roundw
      case rel => exact ⟨k + 1, by omega, by go_num, by rw [HTK.out]; exact hown9, hb9⟩
      case measure => (simp [intOf]) <;> omega
    · go_simp
      refine hK _ _ ?_
      clear hK K
      refine wpAny_ready (rs := [5]) (by kernel_rfl) (by simp) ?_
      refine AllReady.cons rfl (fun K hK => ?_) AllReady.nil
      go_simp
      refine hK _ _ ?_
      clear hK K
      refine wpAny_take (i := 11) (v := .agg #[.int .i64 x, .int .i64 y]) rfl (by kernel_rfl) (by kernel_rfl) (by kernel_rfl) (fun _ _ _ h => h) (Or.inl ⟨by rfl, fun w9 => by (go_simp; try with_reducible rfl)⟩) ?_
      change wpAny _ _ _ _ _ _ (Act.put _ (some 22) _) _; dsimp only [Act.put]; simp only [List.setIfInBounds_toArray, List.set_cons_succ, List.set_cons_zero]
      refine wpAny_ready (rs := [12]) (by kernel_rfl) (by simp) ?_
      refine AllReady.cons rfl (fun K hK => ?_) AllReady.nil
      go_simp
      refine hK _ _ ?_
      clear hK K
      refine wpAny_ready (rs := [13]) (by kernel_rfl) (by simp) ?_
      refine AllReady.cons rfl (fun K hK => ?_) AllReady.nil
      refine step_append_ownA rfl (.tmp 11) (.tmp 23) 36 rfl w.heap.size 70 iR (.agg #[.int .i64 0, .int .i64 0]) 2 16 Try.underlying36 hiR hzR hsR hbR rfl (by decide) (.slice aR k cR) k ((l.take k).flatMap rgL) (by first | rfl | simp [Act.eval, Act.put]) (World.ownsRow.drew (hown.alloc _)) (some ⟨wr.heap.size, 0, none⟩) 1 1 [.int .i64 x, .int .i64 y] (by first | rfl | simp [Act.eval, Act.put]) (fun h => by cases h) rfl (some_fun (cell_two_new wr _ _ _)) (two_one _ _) (by unfold maxLen; omega) (by omega) (by show w.heap.size ≤ (wr.heap.push _).size; rw [Array.size_push]; have := hbel.size; omega) ?_
      intro v9 w9 hown9 hgr9
      refine hK _ _ ?_
      clear hK K
      change wpAny _ _ _ _ _ _ (Act.put _ (some 24) _) _; dsimp only [Act.put]; simp only [List.setIfInBounds_toArray, List.set_cons_succ, List.set_cons_zero]
      refine wpAny_take (i := 14) (v := v9) rfl (by kernel_rfl) (by kernel_rfl) (by kernel_rfl) (fun _ _ _ h => h) (Or.inl ⟨by rfl, fun w9 => by (go_simp; try with_reducible rfl)⟩) ?_
      change wpAny _ _ _ _ _ _ (Act.put _ (some 3) _) _; dsimp only [Act.put]; simp only [List.setIfInBounds_toArray, List.set_cons_succ, List.set_cons_zero]
      refine wpAny_done (by kernel_rfl) ?_ _
      have hb5 : Below w.heap.size w (wr.alloc (.cells #[.int .i64 x, .int .i64 y] 70)).drew := (Below.alloc hbel hbel.size _).drew
      have hb9 := hb5.trans (below_grown (World.ownsRow.drew (hown.alloc (.cells #[.int .i64 x, .int .i64 y] 70))) hgr9 hb5.size)
      go_wp2
      go_roundw
      case rel => exact ⟨k + 1, by omega, by go_num, by rw [HTK.out]; exact hown9, hb9⟩
      case measure => (simp [intOf]) <;> omega
end Go.Proofs.Ytdlngadcgcgenaa
