/- StoreOrder walked. -/
import Derived.Test.YtpledhipdiephaaDoorSoM
import Derived.Deep.Cut
import Derived.BigRegion
import Derived.RegionTactic
import Derived.BigQuiet
import Derived.Deep.QuietTactic
import Derived.Deep.MidRow
import Derived.Deep.RegionLaw
import Derived.OneCell
import Derived.Laws.OwnMore
import Derived.Deep.RegionHeld
import Derived.LoopTactic
import Derived.BigFrame
import Derived.WalkKit
import Derived.ProofKit
import Derived.Handy
import Derived.Below
import Derived.Lib.Hide
import Derived.IntWalk
import Derived.Outline
import Derived.WalkLawsBesides
import Derived.WalkSpells
namespace Go.Proofs.YtpledhipdiephaaDoor
open Go.RowKit
attribute [local go_sem] strV
set_option linter.unusedVariables false
set_option linter.unusedSimpArgs false
theorem Two.base {B g1 g2 : Nat} {w : World} {l1 l2 : List Pr} (h : Two B w g1 l1 g2 l2) : B ≤ w.heap.size := by
  obtain ⟨r1, r2, h1, h2, h3, h4, h5, h6, h7⟩ := h
  exact h7
theorem rise_rowD {a : Option Addr} {l : List Pr} {w : World} (hr : RowAt w a (l.flatMap Pr.cells)) (M : Nat) (W : World) (hb : Below w.heap.size w W) : RowAt W a ((l.take M).flatMap Pr.cells) := by
  rcases hr.below hb with h | ⟨b, off, ha, hlt, hc⟩
  · have : l = [] := by
      cases l with
      | nil => rfl
      | cons p l => simp [Pr.cells] at h
    subst this; left; simp
  · refine .inr ⟨b, off, ha, hlt, fun j hj => ?_⟩
    have e : ((l.take M).flatMap Pr.cells)[j]? = some ((l.take M).flatMap Pr.cells)[j] := List.getElem?_eq_getElem hj
    have e2 := pr_take M j _ e
    rw [hc j (List.getElem?_eq_some_iff.1 e2).1, e, e2]
set_option maxRecDepth 100000 in
set_option maxHeartbeats 12800000 in
theorem walkStoreOrder (a : Option Addr) (n cap : Nat) (l : List Pr) (by_ : Int) (w : World) (hW : SW w) (hr : RowAt w a (l.flatMap Pr.cells)) (hn : l.length = n) (hcap : n ≤ cap) (hcm : cap ≤ maxLen) (hq9 : ∀ p ∈ l, p.k.size ≤ maxLen ∧ p.v.size ≤ maxLen) (hbd : -9223372036854775808 ≤ by_) (hbe : by_ ≤ 9223372036854775807) :
    Calls Tryd.prog 3 #[.slice a n cap, .int .i64 by_] w fun e w' => e = .returned (.bool true) ∧ Below w.heap.size w w' := by
  unfold maxLen at hcm
  obtain ⟨M, hM⟩ : ∃ M, min n 30 = M := ⟨_, rfl⟩
  have hMn : M ≤ n := by omega
  have hM30 : M ≤ 30 := by omega
  have m1 : min (n : Int) 30 = (M : Int) := by omega
  have CR := fun W hb => rise_any a M cap (l.take M) W (rise_rowD hr M W hb) (by rw [List.length_take]; omega) (by omega) (by omega)
  have hgR := rise_good (l.take M)
  have hlR := rise_len (l.take M)
  rw [List.length_take] at hlR
  obtain ⟨R, hR⟩ : ∃ R, riseL (l.take M) = R := ⟨_, rfl⟩
  rw [hR] at hgR hlR
  simp only [hR] at CR
  have hR30 : R.length ≤ 30 := by omega
  have n0 : (0 : Int) ≤ (M : Int) := by omega
  have n1 : (M : Int) ≤ (cap : Int) := by omega
  have n2 : ((M : Nat) : Int).toNat = M := by omega
  clear hR hlR hM hn
  go_enter Tryd.func3, Tryd.ntmps3
  go_upto_region 4 with (first | (go_at_call 10; refine (first12_any w).mono ?_; rintro e w1 ⟨rfl, hb1⟩) | (go_at_call 11; refine (CR _ hb1).mono ?_; rintro e w2 ⟨v2, rfl, hown2, hb2⟩))
  obtain ⟨a2, c2, rfl, hr2, hc2, hm2, _⟩ := own_sliceN hown2
  have hbw2 : Below w.heap.size w w2 := hb1.trans (hb2.mono hb1.size)
  obtain ⟨N, hN⟩ : ∃ N, R.length = N := ⟨_, rfl⟩
  rw [hN] at hR30 hc2
  simp only [hN]
  have HN := Lib.hid hN
  clear hN CR hown2 n0 n1 n2 m1
  have Cn := new_any w2
  go_upto_region 5 with (first | (go_at_call 12; refine Cn.mono ?_; rintro e w3 ⟨rfl, hq3, hb3⟩; have Cn2 := new_any w3) | (go_at_call 12; refine Cn2.mono ?_; rintro e w4 ⟨rfl, hq4, hb4⟩))
  have hT0 := Two.new hq3 hb3 hq4 hb4
  have hb24 : Below w2.heap.size w2 w4 := hb3.trans (hb4.mono hb3.size)
  have hW2 := hW.below hbw2
  clear Cn Cn2 hq3 hq4 hb3 hb4
  by_cases hby : by_ < 0
  · have d9 : decide (by_ < 0) = true := decide_eq_true hby
    have hbz0 := hbw2.trans (hb24.mono hbw2.size)
    go_wp2_with (go_at_call 10; refine (first12_any _).mono ?_; rintro e wz ⟨rfl, hbz⟩)
    go_ret
    exact ⟨by first | rfl | simp, hbz0.trans (hbz.mono hbz0.size)⟩
  have d9 : decide (by_ < 0) = false := decide_eq_false hby
  go_wp2
  go_loopw [7] (fun i wr => ∃ k : Nat, k ≤ N ∧ i = .int .i64 k ∧ Below w2.heap.size w2 wr ∧ ∃ b, Two w2.heap.size wr w2.heap.size (R.take k) w3.heap.size (b) ∧ b.length ≤ k ∧ KeysIn b R) (fun i _ => N - (intOf i).toNat)
  case atStart => exact ⟨0, Nat.zero_le _, rfl, hb24, [], hT0, Nat.le_refl _, fun p hp => by cases hp⟩
  case round =>
    clear hT0 hb24
    obtain ⟨k, hk, rfl, hbel, b, hT, hbl, hki⟩ := hrel
    by_cases hlt : k < N
    rotate_left
    · obtain rfl : N = k := by omega
      have d1 : decide ((N : Int) < (N : Int)) = false := decide_eq_false (by omega)
      have d1n : decide (N < N) = false := decide_eq_false (by omega)
      rw [List.take_of_length_le (by rw [HN.out]; exact Nat.le_refl _)] at hT
      obtain ⟨wO, rfl⟩ : ∃ x, x = wr := ⟨wr, rfl⟩
      have ws : IntKind.i64.wrap ((N : Int) - 1) = (N : Int) - 1 := by rw [IntKind.wrap_i64]; omega
      go_wp2
      go_loopw [9] (fun i wr => ∃ z : Int, -1 ≤ z ∧ z < N ∧ i = .int .i64 z ∧ Below w2.heap.size w2 wr ∧ ∃ b, Two w2.heap.size wr w2.heap.size (R) w3.heap.size (b) ∧ (b.length : Int) + z ≤ 2 * N ∧ KeysIn b R ∧ Cov b R (z + 1).toNat) (fun i _ => (intOf i + 1).toNat)
      case atStart => exact ⟨(N : Int) - 1, by omega, by omega, rfl, hbel, b, hT, by omega, hki, fun j hj hij => by have := HN.out; omega⟩
      case round =>
        clear hbel hT hbl hki b hlt hk d1 d1n
        obtain ⟨z, hz1, hz2, rfl, hbel, b, hT, hbl, hki, hcov⟩ := hrel
        have hgb := hT.symm.good
        by_cases hz : 0 ≤ z
        rotate_left
        · obtain rfl : z = -1 := by omega
          have hbR : b = R := cov_end hgb hgR (by simpa using hcov) hki
          subst hbR
          have CZ := hT.symm.setL_any (by omega) ⟨#[122, 122]⟩ ⟨#[122]⟩
          go_upto_region 18 with (go_at_call 13; refine CZ.mono ?_; rintro e w5 ⟨rfl, hT5, hb5⟩)
          have hbel := hbel.trans (hb5.mono (Nat.le_refl _))
          have hbw := hbw2.trans (hbel.mono hbw2.size)
          have CG := fun W (h : Two w2.heap.size W w2.heap.size (b) w3.heap.size (setS b ⟨#[122, 122]⟩ ⟨#[122]⟩)) => stGet_any w2.heap.size b ⟨#[122, 122]⟩ W h.left (by omega)
          have HO := fun h => zz_out hgb fits_zz (k := ⟨#[122, 122]⟩) h
          have HI := fun h => zz_in hgb fits_zz (k := ⟨#[122, 122]⟩) h
          have hls := setS_len b ⟨#[122, 122]⟩ ⟨#[122]⟩
          have CDr := fun W (h : Two w2.heap.size W w2.heap.size (b) w3.heap.size (setS b ⟨#[122, 122]⟩ ⟨#[122]⟩)) => h.symm.dropL_any (by omega) ⟨#[122, 122]⟩
          have CSt := fun v W (h : Two w2.heap.size W w2.heap.size (b) w3.heap.size (setS b ⟨#[122, 122]⟩ ⟨#[122]⟩)) => h.symm.setL_any (by omega) ⟨#[122, 122]⟩ v
          obtain ⟨fd, hfd⟩ : ∃ f, foundL b ⟨#[122, 122]⟩ = f := ⟨_, rfl⟩
          obtain ⟨vz, hvz⟩ : ∃ f, getV b ⟨#[122, 122]⟩ = f := ⟨_, rfl⟩
          rw [hfd] at HO HI
          rw [hvz] at HI
          simp only [hfd, hvz] at CG
          clear CZ hfd hvz
          have hT5g := hT5.symm
          cases fd
          · have HO9 := HO rfl
            clear HO HI CSt
            rw [HO9] at CDr
            go_upto_region 23 with (first | (go_at_call 14; refine (CG _ hT5g).mono ?_; rintro e w6 ⟨rfl, hb6⟩; have hT6 := hT5g.kept hb6) | (go_at_call 15; refine (CDr _ hT6).mono ?_; rintro e w7 ⟨rfl, hTs, hb7⟩))
            have hTT := hTs.symm
            have hbw6 := hbel.trans (hb6.mono hT5g.base)
            have hbw9 := hbw6.trans hb7
            have hbw := hbw2.trans (hbw9.mono hbw2.size)
            obtain ⟨RR, hRR, HEQ⟩ := root_eql b
            have CRt := fun W g (hb : Below w.heap.size w W) (h : StAt W g b) => rootB_any g b W (hW.below hb) h (by omega)
            simp only [hRR] at CRt
            have CLn := fun W g (h : StAt W g b) => stLen_any g b W h
            rw [HN.out] at CLn
            go_wp2_with (first | (go_at_call 16; refine (CRt _ _ hbw hTT.left).mono ?_; rintro e w8 ⟨rfl, hb8⟩; have hTT8 := hTT.kept hb8; have hbw8 := hbw.trans (hb8.mono hbw.size)) | (go_at_call 16; refine (CRt _ _ hbw8 hTT8.symm.left).mono ?_; rintro e w9 ⟨rfl, hb9⟩; have hTT9 := hTT8.kept hb9; have hbw9 := hbw8.trans (hb9.mono hbw8.size)) | (go_at_call 17; refine (CLn _ _ hTT9.left).mono ?_; rintro e w10 ⟨rfl, hb10⟩; have hTT10 := hTT9.kept hb10; have hbw10 := hbw9.trans (hb10.mono hbw9.size)) | (go_at_call 17; refine (CLn _ _ hTT10.symm.left).mono ?_; rintro e w11 ⟨rfl, hb11⟩))
            go_ret
            exact ⟨by first | rfl | simp, hbw10.trans (hb11.mono hbw10.size)⟩
          · have HI9 := HI rfl
            clear HO HI CDr
            have CSv := CSt vz
            rw [HI9] at CSv
            go_upto_region 23 with (first | (go_at_call 14; refine (CG _ hT5g).mono ?_; rintro e w6 ⟨rfl, hb6⟩; have hT6 := hT5g.kept hb6) | (go_at_call 14; refine (CG _ hT6).mono ?_; rintro e w61 ⟨rfl, hb61⟩; have hT61 := hT6.kept hb61) | (go_at_call 13; refine (CSv _ hT61).mono ?_; rintro e w7 ⟨rfl, hTs, hb7⟩))
            have hTT := hTs.symm
            have hbw6 := hbel.trans (hb6.mono hT5g.base)
            have hbw61 := hbw6.trans (hb61.mono hT6.base)
            have hbw9 := hbw61.trans hb7
            have hbw := hbw2.trans (hbw9.mono hbw2.size)
            obtain ⟨RR, hRR, HEQ⟩ := root_eql b
            have CRt := fun W g (hb : Below w.heap.size w W) (h : StAt W g b) => rootB_any g b W (hW.below hb) h (by omega)
            simp only [hRR] at CRt
            have CLn := fun W g (h : StAt W g b) => stLen_any g b W h
            rw [HN.out] at CLn
            go_wp2_with (first | (go_at_call 16; refine (CRt _ _ hbw hTT.left).mono ?_; rintro e w8 ⟨rfl, hb8⟩; have hTT8 := hTT.kept hb8; have hbw8 := hbw.trans (hb8.mono hbw.size)) | (go_at_call 16; refine (CRt _ _ hbw8 hTT8.symm.left).mono ?_; rintro e w9 ⟨rfl, hb9⟩; have hTT9 := hTT8.kept hb9; have hbw9 := hbw8.trans (hb9.mono hbw8.size)) | (go_at_call 17; refine (CLn _ _ hTT9.left).mono ?_; rintro e w10 ⟨rfl, hb10⟩; have hTT10 := hTT9.kept hb10; have hbw10 := hbw9.trans (hb10.mono hbw9.size)) | (go_at_call 17; refine (CLn _ _ hTT10.symm.left).mono ?_; rintro e w11 ⟨rfl, hb11⟩))
            go_ret
            exact ⟨by first | rfl | simp, hbw10.trans (hb11.mono hbw10.size)⟩
        obtain ⟨m, rfl⟩ : ∃ m : Nat, z = (m : Int) := ⟨z.toNat, by omega⟩
        have hlt : m < N := by omega
        have hkl : m < R.length := by rw [HN.out]; exact hlt
        obtain ⟨b1, o1, rfl, hb1x, hg1⟩ := pr_range hr2 hkl
        have hnx : KeysIn (setS b R[m].k R[m].v) R := keysIn_set hgb hki (List.getElem_mem hkl) _
        have hcv := cov_set hgb hgR hkl (by have e : ((m : Int) + 1).toNat = m + 1 := (by omega); rw [e] at hcov; exact hcov)
        obtain ⟨⟨pk, pv⟩, hp9⟩ : ∃ p, R[m] = p := ⟨_, rfl⟩
        rw [hp9] at hg1 hnx hcv
        simp only [] at hnx hcv
        have hgd9 := setS_good hgb pk pv
        have q0 : w2.cell? ⟨b1, o1 + m * 2, none⟩ = some (.string pk) := hg1 0 _ rfl
        have q1 : w2.cell? ⟨b1, o1 + m * 2 + 1, none⟩ = some (.string pv) := hg1 1 _ rfl
        have CS := fun W (h : Two w2.heap.size W w2.heap.size (R) w3.heap.size (b)) => h.symm.setL_any (by omega) pk pv
        have hbl2 : ((setS b pk pv).length : Int) + ((m : Int) - 1) ≤ 2 * N := by have := setS_len b pk pv; omega
        obtain ⟨b9, hb9⟩ : ∃ x, setS b pk pv = x := ⟨_, rfl⟩
        rw [hb9] at hnx hcv hbl2
        simp only [hb9] at CS
        obtain ⟨er, her⟩ : ∃ e, setE pk pv = e := ⟨_, rfl⟩
        simp only [her] at CS
        clear hp9 her hg1 hb9 hgd9 hcov hki
        have k0 : (0 : Int) ≤ (m : Int) := by omega
        have k1 : (m : Int) < (N : Int) := by omega
        have k2 : ((m : Nat) : Int).toNat = m := by omega
        have ws2 : IntKind.i64.wrap ((m : Int) - 1) = (m : Int) - 1 := by rw [IntKind.wrap_i64]; omega
        go_upto_region 16 with fail
        refine wp_region_held_drew (S := fun X => Below w2.heap.size w2 X) (by kernel_rfl) (hbel.drew) (fun hS0 => ?_)
        refine wpAnyH_take (i := 0) (v := .pointer (some ⟨w3.heap.size, 0, none⟩)) rfl (by kernel_rfl) (by kernel_rfl) (by kernel_rfl) (fun _ _ _ h => h) (Yields.yieldsIf (Or.inl ⟨by rfl, fun w9 => by (go_simp; first | done | with_reducible rfl | (intro h9; exfalso; omega))⟩)) hS0 ?_
        change wpAnyH _ _ _ _ _ _ _ (Act.put _ (some 85) _) _; dsimp only [Act.put]; simp only [List.setIfInBounds_toArray, List.set_cons_succ, List.set_cons_zero]
        refine wpAnyH_take (i := 1) (v := .slice (some ⟨b1, o1, none⟩) N c2) rfl (by kernel_rfl) (by kernel_rfl) (by kernel_rfl) (fun _ _ _ h => h) (Yields.yieldsIf (Or.inl ⟨by rfl, fun w9 => by (go_simp; first | done | with_reducible rfl | (intro h9; exfalso; omega))⟩)) hS0 ?_
        change wpAnyH _ _ _ _ _ _ _ (Act.put _ (some 86) _) _; dsimp only [Act.put]; simp only [List.setIfInBounds_toArray, List.set_cons_succ, List.set_cons_zero]
        refine wpAnyH_take (i := 2) (v := .int .i64 (m : Int)) rfl (by kernel_rfl) (by kernel_rfl) (by kernel_rfl) (fun _ _ _ h => h) (Yields.yieldsIf (Or.inl ⟨by rfl, fun w9 => by (go_simp; first | done | with_reducible rfl | (intro h9; exfalso; omega))⟩)) hS0 ?_
        change wpAnyH _ _ _ _ _ _ _ (Act.put _ (some 87) _) _; dsimp only [Act.put]; simp only [List.setIfInBounds_toArray, List.set_cons_succ, List.set_cons_zero]
        refine wpAnyH_take (i := 3) (v := .pointer (some ⟨b1, o1 + m * 2, none⟩)) rfl (by kernel_rfl) (by kernel_rfl) (by kernel_rfl) (fun _ _ _ h => h) (Yields.yieldsIf (Or.inl ⟨by rfl, fun w9 => by (go_simp; first | done | with_reducible rfl | (intro h9; exfalso; omega))⟩)) hS0 ?_
        change wpAnyH _ _ _ _ _ _ _ (Act.put _ (some 88) _) _; dsimp only [Act.put]; simp only [List.setIfInBounds_toArray, List.set_cons_succ, List.set_cons_zero]
        refine wpAnyH_take (i := 4) (v := .pointer (some ⟨b1, o1 + m * 2, none⟩)) rfl (by kernel_rfl) (by kernel_rfl) (by kernel_rfl) (fun _ _ _ h => h) (Yields.yieldsIf (Or.inl ⟨by rfl, fun w9 => by (go_simp; first | done | with_reducible rfl | (intro h9; exfalso; omega))⟩)) hS0 ?_
        change wpAnyH _ _ _ _ _ _ _ (Act.put _ (some 89) _) _; dsimp only [Act.put]; simp only [List.setIfInBounds_toArray, List.set_cons_succ, List.set_cons_zero]
        refine wpAnyH_take (i := 5) (v := .string pk) rfl (by kernel_rfl) (by kernel_rfl) (by kernel_rfl) (fun _ _ _ h => h) (Or.inl ⟨by rfl, fun w9 hS9 => by have hc9 := (hS9.cell hb1x).trans q0; go_simp; try with_reducible rfl⟩) hS0 ?_
        change wpAnyH _ _ _ _ _ _ _ (Act.put _ (some 90) _) _; dsimp only [Act.put]; simp only [List.setIfInBounds_toArray, List.set_cons_succ, List.set_cons_zero]
        refine wpAnyH_take (i := 6) (v := .slice (some ⟨b1, o1, none⟩) N c2) rfl (by kernel_rfl) (by kernel_rfl) (by kernel_rfl) (fun _ _ _ h => h) (Yields.yieldsIf (Or.inl ⟨by rfl, fun w9 => by (go_simp; first | done | with_reducible rfl | (intro h9; exfalso; omega))⟩)) hS0 ?_
        change wpAnyH _ _ _ _ _ _ _ (Act.put _ (some 91) _) _; dsimp only [Act.put]; simp only [List.setIfInBounds_toArray, List.set_cons_succ, List.set_cons_zero]
        refine wpAnyH_take (i := 7) (v := .int .i64 (m : Int)) rfl (by kernel_rfl) (by kernel_rfl) (by kernel_rfl) (fun _ _ _ h => h) (Yields.yieldsIf (Or.inl ⟨by rfl, fun w9 => by (go_simp; first | done | with_reducible rfl | (intro h9; exfalso; omega))⟩)) hS0 ?_
        change wpAnyH _ _ _ _ _ _ _ (Act.put _ (some 92) _) _; dsimp only [Act.put]; simp only [List.setIfInBounds_toArray, List.set_cons_succ, List.set_cons_zero]
        refine wpAnyH_take (i := 8) (v := .pointer (some ⟨b1, o1 + m * 2, none⟩)) rfl (by kernel_rfl) (by kernel_rfl) (by kernel_rfl) (fun _ _ _ h => h) (Yields.yieldsIf (Or.inl ⟨by rfl, fun w9 => by (go_simp; first | done | with_reducible rfl | (intro h9; exfalso; omega))⟩)) hS0 ?_
        change wpAnyH _ _ _ _ _ _ _ (Act.put _ (some 93) _) _; dsimp only [Act.put]; simp only [List.setIfInBounds_toArray, List.set_cons_succ, List.set_cons_zero]
        refine wpAnyH_take (i := 9) (v := .pointer (some ⟨b1, o1 + m * 2 + 1, none⟩)) rfl (by kernel_rfl) (by kernel_rfl) (by kernel_rfl) (fun _ _ _ h => h) (Yields.yieldsIf (Or.inl ⟨by rfl, fun w9 => by (go_simp; first | done | with_reducible rfl | (intro h9; exfalso; omega))⟩)) hS0 ?_
        change wpAnyH _ _ _ _ _ _ _ (Act.put _ (some 94) _) _; dsimp only [Act.put]; simp only [List.setIfInBounds_toArray, List.set_cons_succ, List.set_cons_zero]
        refine wpAnyH_take (i := 10) (v := .string pv) rfl (by kernel_rfl) (by kernel_rfl) (by kernel_rfl) (fun _ _ _ h => h) (Or.inl ⟨by rfl, fun w9 hS9 => by have hc9 := (hS9.cell hb1x).trans q1; go_simp; try with_reducible rfl⟩) hS0 ?_
        change wpAnyH _ _ _ _ _ _ _ (Act.put _ (some 95) _) _; dsimp only [Act.put]; simp only [List.setIfInBounds_toArray, List.set_cons_succ, List.set_cons_zero]
        refine wpAnyH_ready (rs := [11]) (by kernel_rfl) (by simp) ?_
        refine AllReadyH.cons rfl (fun K hK => ?_) (fun j hj => by cases hj)
        go_simp
        refine (CS _ (hT.kept ((Below.refl _ _).drew))).mono ?_
        rintro e w5 ⟨rfl, hT5, hb5⟩
        have hS1 := hS0.trans (hb5.mono (Nat.le_refl _))
        refine (Shut.out hK) _ _ hS1 (fun _ => ?_)
        clear hK K
        refine wpAnyH_done (by kernel_rfl) ?_ _
        go_wp2
        go_roundw
        case rel => exact ⟨(m : Int) - 1, by omega, by omega, by first | rfl | go_num, hS1, b9, hT5.symm, hbl2, hnx, by have e : ((m : Int) - 1 + 1).toNat = m := (by omega); rw [e]; exact hcv⟩
        case measure => (simp [intOf]) <;> omega
    have hgb := hT.symm.good
    have hkl : k < R.length := by rw [HN.out]; exact hlt
    obtain ⟨b1, o1, rfl, hb1x, hg1⟩ := pr_range hr2 hkl
    have hnx := setS_next hgR hkl
    obtain ⟨⟨pk, pv⟩, hp9⟩ : ∃ p, R[k] = p := ⟨_, rfl⟩
    rw [hp9] at hg1 hnx
    simp only [] at hnx
    have q0 : w2.cell? ⟨b1, o1 + k * 2, none⟩ = some (.string pk) := hg1 0 _ rfl
    have q1 : w2.cell? ⟨b1, o1 + k * 2 + 1, none⟩ = some (.string pv) := hg1 1 _ rfl
    have CS := fun W (h : Two w2.heap.size W w2.heap.size (R.take k) w3.heap.size (b)) => h.setL_any (by rw [List.length_take]; omega) pk pv
    rw [hnx] at CS
    obtain ⟨er, her⟩ : ∃ e, setE pk pv = e := ⟨_, rfl⟩
    simp only [her] at CS
    clear hp9 hnx her hg1
    have d1 : decide ((k : Int) < (N : Int)) = true := decide_eq_true (by omega)
    have d1n : decide (k < N) = true := decide_eq_true hlt
    have k0 : (0 : Int) ≤ (k : Int) := by omega
    have k1 : (k : Int) < (N : Int) := by omega
    have k2 : ((k : Nat) : Int).toNat = k := by omega
    obtain ⟨q, hq⟩ : ∃ q : Nat, by_ % (N : Int) = (q : Int) := ⟨(by_ % (N : Int)).toNat, by have := Int.emod_nonneg by_ (show (N : Int) ≠ 0 by omega); omega⟩
    have hqN : q < N := by have := Int.emod_lt_of_pos by_ (show (0 : Int) < (N : Int) by omega); omega
    obtain ⟨t, ht⟩ : ∃ t : Nat, ((k : Int) + (q : Int)) % (N : Int) = (t : Int) := ⟨(((k : Int) + (q : Int)) % (N : Int)).toNat, by have := Int.emod_nonneg ((k : Int) + (q : Int)) (show (N : Int) ≠ 0 by omega); omega⟩
    have htN : t < N := by have := Int.emod_lt_of_pos ((k : Int) + (q : Int)) (show (0 : Int) < (N : Int) by omega); omega
    have mx : max (N : Int) 1 = (N : Int) := by omega
    have r1 : by_.tmod (N : Int) = (q : Int) := by rw [Int.tmod_eq_emod_of_nonneg (by omega)]; exact hq
    have r2 : ((k : Int) + (q : Int)).tmod (N : Int) = (t : Int) := by rw [Int.tmod_eq_emod_of_nonneg (by omega)]; exact ht
    have wr1 : IntKind.i64.wrap (q : Int) = (q : Int) := by rw [IntKind.wrap_i64]; omega
    have wr2 : IntKind.i64.wrap ((k : Int) + (q : Int)) = (k : Int) + (q : Int) := by rw [IntKind.wrap_i64]; omega
    have wr3 : IntKind.i64.wrap (t : Int) = (t : Int) := by rw [IntKind.wrap_i64]; omega
    have z0 : ((N : Int) == 0) = false := by rw [beq_eq_false_iff_ne]; omega
    have z1 : (N : Int) ≠ 0 := by omega
    have z2 : N ≠ 0 := by omega
    clear hq ht
    go_upto_region 11 with fail
    refine wp_region_held_drew (S := fun X => Below w2.heap.size w2 X) (by kernel_rfl) (hbel.drew) (fun hS0 => ?_)
    refine wpAnyH_take (i := 0) (v := .pointer (some ⟨w2.heap.size, 0, none⟩)) rfl (by kernel_rfl) (by kernel_rfl) (by kernel_rfl) (fun _ _ _ h => h) (Yields.yieldsIf (Or.inl ⟨by rfl, fun w9 => by (go_simp; first | done | with_reducible rfl | (intro h9; exfalso; omega))⟩)) hS0 ?_
    change wpAnyH _ _ _ _ _ _ _ (Act.put _ (some 59) _) _; dsimp only [Act.put]; simp only [List.setIfInBounds_toArray, List.set_cons_succ, List.set_cons_zero]
    refine wpAnyH_take (i := 1) (v := .slice (some ⟨b1, o1, none⟩) N c2) rfl (by kernel_rfl) (by kernel_rfl) (by kernel_rfl) (fun _ _ _ h => h) (Yields.yieldsIf (Or.inl ⟨by rfl, fun w9 => by (go_simp; first | done | with_reducible rfl | (intro h9; exfalso; omega))⟩)) hS0 ?_
    change wpAnyH _ _ _ _ _ _ _ (Act.put _ (some 60) _) _; dsimp only [Act.put]; simp only [List.setIfInBounds_toArray, List.set_cons_succ, List.set_cons_zero]
    refine wpAnyH_take (i := 2) (v := .int .i64 (k : Int)) rfl (by kernel_rfl) (by kernel_rfl) (by kernel_rfl) (fun _ _ _ h => h) (Yields.yieldsIf (Or.inl ⟨by rfl, fun w9 => by (go_simp; first | done | with_reducible rfl | (intro h9; exfalso; omega))⟩)) hS0 ?_
    change wpAnyH _ _ _ _ _ _ _ (Act.put _ (some 61) _) _; dsimp only [Act.put]; simp only [List.setIfInBounds_toArray, List.set_cons_succ, List.set_cons_zero]
    refine wpAnyH_take (i := 3) (v := .pointer (some ⟨b1, o1 + k * 2, none⟩)) rfl (by kernel_rfl) (by kernel_rfl) (by kernel_rfl) (fun _ _ _ h => h) (Yields.yieldsIf (Or.inl ⟨by rfl, fun w9 => by (go_simp; first | done | with_reducible rfl | (intro h9; exfalso; omega))⟩)) hS0 ?_
    change wpAnyH _ _ _ _ _ _ _ (Act.put _ (some 62) _) _; dsimp only [Act.put]; simp only [List.setIfInBounds_toArray, List.set_cons_succ, List.set_cons_zero]
    refine wpAnyH_take (i := 4) (v := .pointer (some ⟨b1, o1 + k * 2, none⟩)) rfl (by kernel_rfl) (by kernel_rfl) (by kernel_rfl) (fun _ _ _ h => h) (Yields.yieldsIf (Or.inl ⟨by rfl, fun w9 => by (go_simp; first | done | with_reducible rfl | (intro h9; exfalso; omega))⟩)) hS0 ?_
    change wpAnyH _ _ _ _ _ _ _ (Act.put _ (some 63) _) _; dsimp only [Act.put]; simp only [List.setIfInBounds_toArray, List.set_cons_succ, List.set_cons_zero]
    refine wpAnyH_take (i := 5) (v := .string pk) rfl (by kernel_rfl) (by kernel_rfl) (by kernel_rfl) (fun _ _ _ h => h) (Or.inl ⟨by rfl, fun w9 hS9 => by have hc9 := (hS9.cell hb1x).trans q0; go_simp; try with_reducible rfl⟩) hS0 ?_
    change wpAnyH _ _ _ _ _ _ _ (Act.put _ (some 64) _) _; dsimp only [Act.put]; simp only [List.setIfInBounds_toArray, List.set_cons_succ, List.set_cons_zero]
    refine wpAnyH_take (i := 6) (v := .slice (some ⟨b1, o1, none⟩) N c2) rfl (by kernel_rfl) (by kernel_rfl) (by kernel_rfl) (fun _ _ _ h => h) (Yields.yieldsIf (Or.inl ⟨by rfl, fun w9 => by (go_simp; first | done | with_reducible rfl | (intro h9; exfalso; omega))⟩)) hS0 ?_
    change wpAnyH _ _ _ _ _ _ _ (Act.put _ (some 65) _) _; dsimp only [Act.put]; simp only [List.setIfInBounds_toArray, List.set_cons_succ, List.set_cons_zero]
    refine wpAnyH_take (i := 7) (v := .int .i64 (k : Int)) rfl (by kernel_rfl) (by kernel_rfl) (by kernel_rfl) (fun _ _ _ h => h) (Yields.yieldsIf (Or.inl ⟨by rfl, fun w9 => by (go_simp; first | done | with_reducible rfl | (intro h9; exfalso; omega))⟩)) hS0 ?_
    change wpAnyH _ _ _ _ _ _ _ (Act.put _ (some 66) _) _; dsimp only [Act.put]; simp only [List.setIfInBounds_toArray, List.set_cons_succ, List.set_cons_zero]
    refine wpAnyH_take (i := 8) (v := .pointer (some ⟨b1, o1 + k * 2, none⟩)) rfl (by kernel_rfl) (by kernel_rfl) (by kernel_rfl) (fun _ _ _ h => h) (Yields.yieldsIf (Or.inl ⟨by rfl, fun w9 => by (go_simp; first | done | with_reducible rfl | (intro h9; exfalso; omega))⟩)) hS0 ?_
    change wpAnyH _ _ _ _ _ _ _ (Act.put _ (some 67) _) _; dsimp only [Act.put]; simp only [List.setIfInBounds_toArray, List.set_cons_succ, List.set_cons_zero]
    refine wpAnyH_take (i := 9) (v := .pointer (some ⟨b1, o1 + k * 2 + 1, none⟩)) rfl (by kernel_rfl) (by kernel_rfl) (by kernel_rfl) (fun _ _ _ h => h) (Yields.yieldsIf (Or.inl ⟨by rfl, fun w9 => by (go_simp; first | done | with_reducible rfl | (intro h9; exfalso; omega))⟩)) hS0 ?_
    change wpAnyH _ _ _ _ _ _ _ (Act.put _ (some 68) _) _; dsimp only [Act.put]; simp only [List.setIfInBounds_toArray, List.set_cons_succ, List.set_cons_zero]
    refine wpAnyH_take (i := 10) (v := .string pv) rfl (by kernel_rfl) (by kernel_rfl) (by kernel_rfl) (fun _ _ _ h => h) (Or.inl ⟨by rfl, fun w9 hS9 => by have hc9 := (hS9.cell hb1x).trans q1; go_simp; try with_reducible rfl⟩) hS0 ?_
    change wpAnyH _ _ _ _ _ _ _ (Act.put _ (some 69) _) _; dsimp only [Act.put]; simp only [List.setIfInBounds_toArray, List.set_cons_succ, List.set_cons_zero]
    refine wpAnyH_ready (rs := [11]) (by kernel_rfl) (by simp) ?_
    refine AllReadyH.cons rfl (fun K hK => ?_) (fun j hj => by cases hj)
    go_simp
    refine (CS _ (hT.kept ((Below.refl _ _).drew))).mono ?_
    rintro e w5 ⟨rfl, hT5, hb5⟩
    have hS1 := hS0.trans (hb5.mono (Nat.le_refl _))
    refine (Shut.out hK) _ _ hS1 (fun _ => ?_)
    clear hK K
    refine wpAnyH_done (by kernel_rfl) ?_ _
    have htl : t < R.length := by rw [HN.out]; exact htN
    have hmt := List.getElem_mem htl
    obtain ⟨b9, o9, e9, hb9x, hg9⟩ := pr_range hr2 htl
    simp only [Option.some.injEq, Addr.mk.injEq, and_true] at e9
    obtain ⟨rfl, rfl⟩ := e9
    obtain ⟨⟨tk, tv⟩, ht9⟩ : ∃ p, R[t] = p := ⟨_, rfl⟩
    rw [ht9] at hg9 hmt
    have t0 : w5.cell? ⟨b1, o1 + t * 2, none⟩ = some (.string tk) := (hS1.cell hb9x).trans (hg9 0 _ rfl)
    have n0 : (0 : Int) ≤ (t : Int) := by omega
    have n1 : (t : Int) < (N : Int) := by omega
    have n2 : ((t : Nat) : Int).toNat = t := by omega
    have CS2 := hT5.symm.setL_any (by omega) tk ⟨#[111, 108, 100]⟩
    go_wp2_with (go_at_call 13; refine CS2.mono ?_; rintro e w6 ⟨rfl, hT6, hb6⟩)
    go_roundw
    case rel => exact ⟨k + 1, by omega, by go_num, hS1.trans (hb6.mono (Nat.le_refl _)), _, hT6.symm, by have := setS_len b tk ⟨#[111, 108, 100]⟩; omega, keysIn_set hgb hki hmt _⟩
    case measure => (simp [intOf]) <;> omega
end Go.Proofs.YtpledhipdiephaaDoor
