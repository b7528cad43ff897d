/- LifeApart walked. -/
import Derived.Test.YtbckncopdkmoeaaLf14
import Derived.Deep.Cut
import Derived.BigRegion
import Derived.RegionTactic
import Derived.BigQuiet
import Derived.Deep.QuietTactic
import Derived.Deep.MidRow
import Derived.Deep.RegionLaw
import Derived.OneCell
import Derived.Laws.OwnMore
import Derived.Deep.RegionHeld
import Derived.LoopTactic
import Derived.BigFrame
import Derived.WalkKit
import Derived.ProofKit
import Derived.Handy
import Derived.Below
import Derived.Lib.Hide
import Derived.IntWalk
import Derived.Outline
import Derived.WalkLawsBesides
import Derived.WalkSpells
namespace Go.Proofs.Ytbckncopdkmoeaa
open Go.RowKit
attribute [local go_sem] strV
set_option linter.unusedVariables false
set_option linter.unusedSimpArgs false
set_option maxRecDepth 100000 in
set_option maxHeartbeats 6400000 in
theorem walkLifeApart (a : Option Addr) (n cap : Nat) (es : List Ev) (a2 : Option Addr) (n2 cap2 : Nat) (es2 : List Ev) (w : World) (hr : RowAt w a (es.flatMap Ev.cells)) (hn : es.length = n) (hc : n ≤ cap) (hm : cap ≤ maxLen) (hr2 : RowAt w a2 (es2.flatMap Ev.cells)) (hn2 : es2.length = n2) (hc2 : n2 ≤ cap2) (hm2 : cap2 ≤ maxLen) :
    Calls Try.prog 10 #[.slice a n cap, .slice a2 n2 cap2] w fun e w' => e = .returned (.bool true) ∧ Below w.heap.size w w' := by
  have CL1 := fun W (h : RowAt W a (es.flatMap Ev.cells)) => lightL_any a n cap es W h hn
  have CL2 := fun W (h : RowAt W a2 (es2.flatMap Ev.cells)) => lightL_any a2 n2 cap2 es2 W h hn2
  obtain ⟨l1, hl1⟩ : ∃ b, lightL es = b := ⟨_, rfl⟩
  obtain ⟨l2, hl2⟩ : ∃ b, lightL es2 = b := ⟨_, rfl⟩
  rw [hl1] at CL1
  rw [hl2] at CL2
  have HN := Lib.hid hn
  have HN2 := Lib.hid hn2
  have H1 := Lib.hid hl1
  have H2 := Lib.hid hl2
  clear hn hn2 hl1 hl2
  by_cases c1 : 30 < n
  · go_enter Try.func10, Try.ntmps10
    have d1 : decide (30 < (n : Int)) = true := decide_eq_true (by omega)
    go_wp2_with (first | (go_at_call 29; with_reducible refine (first22_any w).mono ?_; rintro e wa ⟨rfl, hba⟩) | (go_at_call 29; with_reducible refine (first22_any wa).mono ?_; rintro e wz ⟨rfl, hbz⟩))
    go_ret
    exact ⟨by first | rfl | simp, hba.trans (hbz.mono hba.size)⟩
  have d1 : decide (30 < (n : Int)) = false := decide_eq_false (by omega)
  by_cases c2 : 30 < n2
  · have d2 : decide (30 < (n2 : Int)) = true := decide_eq_true (by omega)
    go_enter Try.func10, Try.ntmps10
    go_wp2_with (first | (go_at_call 29; with_reducible refine (first22_any w).mono ?_; rintro e wa ⟨rfl, hba⟩) | (go_at_call 29; with_reducible refine (first22_any wa).mono ?_; rintro e wz ⟨rfl, hbz⟩))
    go_ret
    exact ⟨by first | rfl | simp, hba.trans (hbz.mono hba.size)⟩
  have d2 : decide (30 < (n2 : Int)) = false := decide_eq_false (by omega)
  go_enter Try.func10, Try.ntmps10
  cases l1
  · go_wp2_with (first | (go_at_call 29; with_reducible refine (first22_any w).mono ?_; rintro e wa ⟨rfl, hba⟩) | (go_at_call 30; with_reducible refine (CL1 _ (hr.below hba)).mono ?_; rintro e w2 ⟨rfl, hb2⟩; have hbb := hba.trans (hb2.mono hba.size)) | (go_at_call 29; with_reducible refine (first22_any w2).mono ?_; rintro e wz ⟨rfl, hbz⟩))
    go_ret
    exact ⟨by first | rfl | simp, hbb.trans (hbz.mono hbb.size)⟩
  cases l2
  · go_wp2_with (first | (go_at_call 29; with_reducible refine (first22_any w).mono ?_; rintro e wa ⟨rfl, hba⟩) | (go_at_call 30; with_reducible refine (CL1 _ (hr.below hba)).mono ?_; rintro e w2 ⟨rfl, hb2⟩; have hbb := hba.trans (hb2.mono hba.size)) | (go_at_call 30; with_reducible refine (CL2 _ (hr2.below hbb)).mono ?_; rintro e w3 ⟨rfl, hb3⟩; have hbc := hbb.trans (hb3.mono hbb.size)) | (go_at_call 29; with_reducible refine (first22_any w3).mono ?_; rintro e wz ⟨rfl, hbz⟩))
    go_ret
    exact ⟨by first | rfl | simp, hbc.trans (hbz.mono hbc.size)⟩
  have hs1 := light_sz H1.out
  have hs2 := light_sz H2.out
  go_wp2_with (first | (go_at_call 29; with_reducible refine (first22_any w).mono ?_; rintro e wa ⟨rfl, hba⟩) | (go_at_call 30; with_reducible refine (CL1 _ (hr.below hba)).mono ?_; rintro e w2 ⟨rfl, hb2⟩; have hbb := hba.trans (hb2.mono hba.size)) | (go_at_call 30; with_reducible refine (CL2 _ (hr2.below hbb)).mono ?_; rintro e w3 ⟨rfl, hb3⟩; have hbc := hbb.trans (hb3.mono hbb.size)))
  have hp30 : n ≤ 30 := by omega
  have hp31 : n2 ≤ 30 := by omega
  clear c1 c2 CL1 CL2
  go_loopw [5] (fun i wr => ∃ k : Nat, k ≤ n ∧ i = .int .i64 k ∧ Below w3.heap.size w3 wr ∧ (∀ x ∈ es.take k, ∀ y ∈ es2, ¬ Clash x y)) (fun i _ => n - (intOf i).toNat)
  case atStart => exact ⟨0, Nat.zero_le _, rfl, Below.refl _ _, by simp⟩
  case round =>
    obtain ⟨k, hk, rfl, hb4, hap⟩ := hrel
    have hbw := hbc.trans (hb4.mono hbc.size)
    by_cases hlt : k < n
    rotate_left
    · have hAP : ApartE es es2 := fun x hx y hy => hap x (by rw [List.take_of_length_le (by rw [HN.out]; omega)]; exact hx) y hy
      obtain rfl : n = k := by omega
      have d9 : decide ((n : Int) < (n : Int)) = false := decide_eq_false (by omega)
      have d9n : decide (n < n) = false := decide_eq_false (by omega)
      obtain ⟨wO, rfl⟩ : ∃ x, x = wr := ⟨wr, rfl⟩
      go_wp2_with (first | (go_at_call 31; with_reducible refine (lfNew_any wO).mono ?_; rintro e wA ⟨rfl, hTA, hbA⟩) | (go_at_call 31; with_reducible refine (lfNew_any wA).mono ?_; rintro e wB ⟨rfl, hTB, hbB⟩))
      have hltA := hTA.lt
      have hTA := hTA.kept hbB
      have hltB := hTB.lt
      have hb9 := hbA.trans (hbB.mono hbA.size)
      go_loopw [15] (fun i wq => ∃ k : Nat, k ≤ n ∧ i = .int .i64 k ∧ Below wO.heap.size wO wq ∧ TabAt wq (wO.heap.size + 2) wO.heap.size (wO.heap.size + 1) k (foldT t0 (es.take k)).f (foldT t0 (es.take k)).cl ∧ TabAt wq (wA.heap.size + 2) wA.heap.size (wA.heap.size + 1) 0 (t0).f (t0).cl) (fun i _ => n - (intOf i).toNat)
      case atStart => exact ⟨0, Nat.zero_le _, rfl, hb9, by rw [List.take_zero]; exact hTA, hTB⟩
      case round =>
        clear hb9 hTA hTB
        obtain ⟨k, hk, rfl, hb9, hTA, hTB⟩ := hrel
        by_cases hlt : k < n
        rotate_left
        · obtain rfl : n = k := by omega
          have d9 : decide ((n : Int) < (n : Int)) = false := decide_eq_false (by omega)
          have d9n : decide (n < n) = false := decide_eq_false (by omega)
          rw [List.take_of_length_le (by rw [HN.out]; exact Nat.le_refl _)] at hTA
          obtain ⟨wP, rfl⟩ : ∃ x, x = wr := ⟨wr, rfl⟩
          go_wp2
          go_loopw [16] (fun i wq => ∃ q : Nat, q ≤ n2 ∧ i = .int .i64 q ∧ Below wO.heap.size wO wq ∧ TabAt wq (wO.heap.size + 2) wO.heap.size (wO.heap.size + 1) (n + q) (foldT (foldT t0 es) (es2.take q)).f (foldT (foldT t0 es) (es2.take q)).cl ∧ TabAt wq (wA.heap.size + 2) wA.heap.size (wA.heap.size + 1) q (foldT t0 (es2.take q)).f (foldT t0 (es2.take q)).cl) (fun i _ => n2 - (intOf i).toNat)
          case atStart => exact ⟨0, Nat.zero_le _, rfl, hb9, hTA, hTB⟩
          case round =>
            clear hb9 hTA hTB
            obtain ⟨q, hq, rfl, hb9, hTA, hTB⟩ := hrel
            by_cases hlq : q < n2
            rotate_left
            · obtain rfl : n2 = q := by omega
              have d9 : decide ((n2 : Int) < (n2 : Int)) = false := decide_eq_false (by omega)
              have d9n : decide (n2 < n2) = false := decide_eq_false (by omega)
              rw [List.take_of_length_le (by rw [HN2.out]; exact Nat.le_refl _)] at hTA hTB
              obtain ⟨wQ, rfl⟩ : ∃ x, x = wr := ⟨wr, rfl⟩
              go_wp2
              go_loopw [17] (fun i wq => ∃ k : Nat, k ≤ n ∧ i = .int .i64 k ∧ Below wO.heap.size wO wq ∧ TabAt wq (wO.heap.size + 2) wO.heap.size (wO.heap.size + 1) (n + n2) (foldT (foldT t0 es) es2).f (foldT (foldT t0 es) es2).cl ∧ TabAt wq (wA.heap.size + 2) wA.heap.size (wA.heap.size + 1) (n2 + k) (foldT (foldT t0 es2) (es.take k)).f (foldT (foldT t0 es2) (es.take k)).cl) (fun i _ => n - (intOf i).toNat)
              case atStart => exact ⟨0, Nat.zero_le _, rfl, hb9, hTA, hTB⟩
              case round =>
                clear hb9 hTA hTB
                obtain ⟨k, hk, rfl, hb9, hTA, hTB⟩ := hrel
                by_cases hlt : k < n
                rotate_left
                · obtain rfl : n = k := by omega
                  have d9 : decide ((n : Int) < (n : Int)) = false := decide_eq_false (by omega)
                  have d9n : decide (n < n) = false := decide_eq_false (by omega)
                  rw [List.take_of_length_le (by rw [HN.out]; exact Nat.le_refl _), ← apart_all hAP] at hTB
                  obtain ⟨wR, rfl⟩ : ∃ x, x = wr := ⟨wr, rfl⟩
                  obtain ⟨hk1, hq1⟩ := fold_keys es keys0 ends0
                  obtain ⟨⟨ks, hks⟩, ⟨qs, hqs⟩⟩ := fold_keys es2 hk1 hq1
                  generalize foldT (foldT t0 es) es2 = S at hTA hTB hks hqs
                  clear hk1 hq1
                  have hbR := hbw.trans (hb9.mono hbw.size)
                  have K1 := fun W (hT : TabAt W (wO.heap.size + 2) wO.heap.size (wO.heap.size + 1) (n + n2) (S).f (S).cl) => lfKeys_any (wO.heap.size + 2) wO.heap.size (wO.heap.size + 1) (n + n2) S.f S.cl W hT (by omega) ks hks.1 hks.2.1 hks.2.2
                  have K2 := fun W (hT : TabAt W (wA.heap.size + 2) wA.heap.size (wA.heap.size + 1) (n2 + n) (S).f (S).cl) => lfKeys_any (wA.heap.size + 2) wA.heap.size (wA.heap.size + 1) (n2 + n) S.f S.cl W hT (by omega) ks hks.1 hks.2.1 hks.2.2
                  have Q1 := fun W (hT : TabAt W (wO.heap.size + 2) wO.heap.size (wO.heap.size + 1) (n + n2) (S).f (S).cl) => lfClosed_any (wO.heap.size + 2) wO.heap.size (wO.heap.size + 1) (n + n2) S.f S.cl W hT (by omega) qs hqs.1 hqs.2.1 hqs.2.2
                  have Q2 := fun W (hT : TabAt W (wA.heap.size + 2) wA.heap.size (wA.heap.size + 1) (n2 + n) (S).f (S).cl) => lfClosed_any (wA.heap.size + 2) wA.heap.size (wA.heap.size + 1) (n2 + n) S.f S.cl W hT (by omega) qs hqs.1 hqs.2.1 hqs.2.2
                  obtain ⟨N, hN⟩ : ∃ m, ks.length = m := ⟨_, rfl⟩
                  obtain ⟨M, hM⟩ : ∃ m, qs.length = m := ⟨_, rfl⟩
                  rw [hN] at K1 K2
                  rw [hM] at Q1 Q2
                  have HK := Lib.hid hN
                  clear hN hM
                  go_upto_region 32 with (first | (go_at_call 40; with_reducible refine (K1 _ hTA).mono ?_; rintro e w1k ⟨v1, rfl, ho1, hb1k⟩; obtain ⟨a3, c3, rfl, hr3, hc3, hm3, _⟩ := own_sliceN ho1; have hTB1 := hTB.kept hb1k) | (go_at_call 40; with_reducible refine (K2 _ hTB1).mono ?_; rintro e w2k ⟨v2, rfl, ho2, hb2k⟩; obtain ⟨a4, c4, rfl, hr4, _⟩ := own_sliceN ho2))
                  have hN9 : N ≤ maxLen := Nat.le_trans hc3 hm3
                  unfold maxLen at hN9
                  clear hc3 hm3
                  have hr3 := hr3.below hb2k
                  have hTA := (hTA.kept hb1k).kept hb2k
                  have hTB := hTB1.kept hb2k
                  have hb11 := (hbR.trans (hb1k.mono hbR.size)).trans (hb2k.mono (hbR.trans (hb1k.mono hbR.size)).size)
                  clear K1 K2 ho1 ho2 hb1k hb2k hTB1
                  go_wp2_with (first | (go_at_call 42; with_reducible refine (Q1 _ hTA).mono ?_; rintro e w3k ⟨v3, rfl, ho3, hb3k⟩; obtain ⟨a5, c5, rfl, _⟩ := own_sliceN ho3; have hTB1 := hTB.kept hb3k) | (go_at_call 42; with_reducible refine (Q2 _ hTB1).mono ?_; rintro e w4k ⟨v4, rfl, ho4, hb4k⟩; obtain ⟨a6, c6, rfl, _⟩ := own_sliceN ho4))
                  have hb12 := (hb11.trans (hb3k.mono hb11.size)).trans (hb4k.mono (hb11.trans (hb3k.mono hb11.size)).size)
                  have hr3 := (hr3.below hb3k).below hb4k
                  have hr4 := (hr4.below hb3k).below hb4k
                  have hTA := (hTA.kept hb3k).kept hb4k
                  have hTB := hTB1.kept hb4k
                  clear Q1 Q2 ho3 ho4 hb3k hb4k hTB1 hb11
                  go_loopw [20] (fun i wq => ∃ k : Nat, k ≤ N ∧ i = .int .i64 k ∧ Below w4k.heap.size w4k wq) (fun i _ => N - (intOf i).toNat)
                  case atStart => exact ⟨0, Nat.zero_le _, rfl, Below.refl _ _⟩
                  case round =>
                    obtain ⟨k, hk, rfl, hb13⟩ := hrel
                    have hb14 := hb12.trans (hb13.mono hb12.size)
                    by_cases hlt : k < N
                    rotate_left
                    · obtain rfl : N = k := by omega
                      have d9 : decide ((N : Int) < (N : Int)) = false := decide_eq_false (by omega)
                      have d9n : decide (N < N) = false := decide_eq_false (by omega)
                      go_wp2
                      go_ret
                      exact ⟨by first | rfl | simp, hb14⟩
                    have hkl : k < ks.length := by rw [HK.out]; exact hlt
                    obtain ⟨b3, off3, rfl, hbx3, hrg3⟩ := lk_range (hr3.below hb13) hkl
                    obtain ⟨b4, off4, rfl, hbx4, hrg4⟩ := lk_range (hr4.below hb13) hkl
                    have hwx := hks.2.1 _ (List.getElem_mem hkl)
                    obtain ⟨x, hx⟩ : ∃ x, ks[k] = x := ⟨_, rfl⟩
                    rw [hx] at hrg3 hrg4 hwx
                    clear hx
                    have d9 : decide ((k : Int) < (N : Int)) = true := decide_eq_true (by omega)
                    have d9n : decide (k < N) = true := decide_eq_true (by omega)
                    have n0 : (0 : Int) ≤ (k : Int) := by omega
                    have n1 : (k : Int) < (N : Int) := by omega
                    have n2' : ((k : Nat) : Int).toNat = k := by omega
                    have hTA := hTA.kept hb13
                    have hTB := hTB.kept hb13
                    have G1k := fun W (hT : TabAt W (wO.heap.size + 2) wO.heap.size (wO.heap.size + 1) (n + n2) (S).f (S).cl) => lfGet_any (wO.heap.size + 2) wO.heap.size (wO.heap.size + 1) (n + n2) S.f S.cl x hwx W hT
                    have G2k := fun W (hT : TabAt W (wA.heap.size + 2) wA.heap.size (wA.heap.size + 1) (n2 + n) (S).f (S).cl) => lfGet_any (wA.heap.size + 2) wA.heap.size (wA.heap.size + 1) (n2 + n) S.f S.cl x hwx W hT
                    generalize (S.f x).getD zeroEnt = e at G1k G2k
                    generalize (S.f x).isSome = sb at G1k G2k
                    go_upto_region 38 with (first | (refine wpList_loadLkR (.tmp 165) rfl b3 (off3 + k * 4) rfl x hrg3 (by rfl) ?_) | (go_at_call 34; refine (G1k _ hTA).mono ?_; rintro e9 w5 ⟨rfl, hb5⟩) | (refine wpList_storeRowTo (Z := e.row) rfl (.tmp 21) (.tmp 168) 78 rfl (infoEnt_row _) rfl rfl (heap_push _ zeroEnt.row 78) rfl (Ent.row_one _) ?_))
                    refine wp_nameE _ (fun wU hwU => ?_)
                    have hU1 : wU.heap[w5.heap.size]? = some (.cells e.row 78 (0, 0)) := by rw [hwU]; exact setRow_heap _ _ zeroEnt.row e.row _ _ (heap_push w5 zeroEnt.row 78)
                    have hbU : Below w5.heap.size w5 wU := by rw [hwU]; exact below_setRow ((Below.refl _ _).alloc (Nat.le_refl _) _) (Nat.le_refl _) _
                    clear hwU G1k
                    have hbU := hb5.trans (hbU.mono hb5.size)
                    clear hb5
                    have hTB := hTB.kept hbU
                    have hrg4 := range_belowS hrg4 hbU hbx4
                    have hrg3 := range_belowS hrg3 hbU hbx3
                    go_upto_region 39 with (first | (refine wpList_loadLkR (.tmp 174) rfl b4 (off4 + k * 4) rfl x hrg4 (by rfl) ?_) | (go_at_call 34; refine (G2k _ hTB).mono ?_; rintro e9 w6 ⟨rfl, hb6⟩) | (refine wpList_storeRowTo (Z := e.row) rfl (.tmp 23) (.tmp 177) 78 rfl (infoEnt_row _) rfl rfl (heap_push _ zeroEnt.row 78) rfl (Ent.row_one _) ?_))
                    refine wp_nameE _ (fun wV hwV => ?_)
                    have hV1 : wV.heap[w6.heap.size]? = some (.cells e.row 78 (0, 0)) := by rw [hwV]; exact setRow_heap _ _ zeroEnt.row e.row _ _ (heap_push w6 zeroEnt.row 78)
                    have hbV : Below w6.heap.size w6 wV := by rw [hwV]; exact below_setRow ((Below.refl _ _).alloc (Nat.le_refl _) _) (Nat.le_refl _) _
                    clear hwV G2k
                    have hbV := hb6.trans (hbV.mono hb6.size)
                    clear hb6
                    have hlU := row_lt hU1
                    have hU1 := cells_of hU1 hbV hlU
                    have hlb4 : b4 < wU.heap.size := Nat.lt_of_lt_of_le hbx4 hbU.size
                    have hlb3 : b3 < wU.heap.size := Nat.lt_of_lt_of_le hbx3 hbU.size
                    have hrg4 := range_belowS hrg4 hbV hlb4
                    have hrg3 := range_belowS hrg3 hbV hlb3
                    have hl3 := Nat.lt_of_lt_of_le hlb3 hbV.size
                    have hl4 := Nat.lt_of_lt_of_le hlb4 hbV.size
                    have hb15 := hb13.trans ((hbU.trans (hbV.mono hbU.size)).mono hb13.size)
                    refine wp_region_held_drew (S := fun X => Below wV.heap.size wV X) (by kernel_rfl) ((Below.refl _ _).drew) (fun hS0 => ?_)
                    refine wpAnyH_take (i := 0) (v := .slice (some ⟨b3, off3, none⟩) N c3) rfl (by kernel_rfl) (by kernel_rfl) (by kernel_rfl) (fun _ _ _ h => h) (Yields.yieldsIf (Or.inl ⟨by rfl, fun w9 => by (go_simp; first | done | with_reducible rfl | (intro h9; exfalso; omega))⟩)) hS0 ?_
                    change wpAnyH _ _ _ _ _ _ _ (Act.put _ (some 179) _) _; dsimp only [Act.put]; simp only [List.setIfInBounds_toArray, List.set_cons_succ, List.set_cons_zero]
                    refine wpAnyH_take (i := 1) (v := .int .i64 (k : Int)) rfl (by kernel_rfl) (by kernel_rfl) (by kernel_rfl) (fun _ _ _ h => h) (Yields.yieldsIf (Or.inl ⟨by rfl, fun w9 => by (go_simp; first | done | with_reducible rfl | (intro h9; exfalso; omega))⟩)) hS0 ?_
                    change wpAnyH _ _ _ _ _ _ _ (Act.put _ (some 180) _) _; dsimp only [Act.put]; simp only [List.setIfInBounds_toArray, List.set_cons_succ, List.set_cons_zero]
                    refine wpAnyH_take (i := 2) (v := .pointer (some ⟨b3, off3 + k * 4, none⟩)) rfl (by kernel_rfl) (by kernel_rfl) (by kernel_rfl) (fun _ _ _ h => h) (Yields.yieldsIf (Or.inl ⟨by rfl, fun w9 => by (go_simp; first | done | with_reducible rfl | (intro h9; exfalso; omega))⟩)) hS0 ?_
                    change wpAnyH _ _ _ _ _ _ _ (Act.put _ (some 181) _) _; dsimp only [Act.put]; simp only [List.setIfInBounds_toArray, List.set_cons_succ, List.set_cons_zero]
                    refine wpAnyH_take (i := 3) (v := .agg x.row) rfl (by kernel_rfl) (by kernel_rfl) (by kernel_rfl) (fun _ _ _ h => h) (Or.inl ⟨by rfl, fun w9 hS9 => exec_loadLkAt (.tmp 181) rfl b3 (off3 + k * 4) (by first | rfl | simp [Act.eval, Act.put]) x (range_belowS hrg3 hS9 hl3)⟩) hS0 ?_
                    change wpAnyH _ _ _ _ _ _ _ (Act.put _ (some 182) _) _; dsimp only [Act.put]; simp only [List.setIfInBounds_toArray, List.set_cons_succ, List.set_cons_zero]
                    refine wpAnyH_take (i := 4) (v := .slice (some ⟨b4, off4, none⟩) N c4) rfl (by kernel_rfl) (by kernel_rfl) (by kernel_rfl) (fun _ _ _ h => h) (Yields.yieldsIf (Or.inl ⟨by rfl, fun w9 => by (go_simp; first | done | with_reducible rfl | (intro h9; exfalso; omega))⟩)) hS0 ?_
                    change wpAnyH _ _ _ _ _ _ _ (Act.put _ (some 183) _) _; dsimp only [Act.put]; simp only [List.setIfInBounds_toArray, List.set_cons_succ, List.set_cons_zero]
                    refine wpAnyH_take (i := 5) (v := .int .i64 (k : Int)) rfl (by kernel_rfl) (by kernel_rfl) (by kernel_rfl) (fun _ _ _ h => h) (Yields.yieldsIf (Or.inl ⟨by rfl, fun w9 => by (go_simp; first | done | with_reducible rfl | (intro h9; exfalso; omega))⟩)) hS0 ?_
                    change wpAnyH _ _ _ _ _ _ _ (Act.put _ (some 184) _) _; dsimp only [Act.put]; simp only [List.setIfInBounds_toArray, List.set_cons_succ, List.set_cons_zero]
                    refine wpAnyH_take (i := 6) (v := .pointer (some ⟨b4, off4 + k * 4, none⟩)) rfl (by kernel_rfl) (by kernel_rfl) (by kernel_rfl) (fun _ _ _ h => h) (Yields.yieldsIf (Or.inl ⟨by rfl, fun w9 => by (go_simp; first | done | with_reducible rfl | (intro h9; exfalso; omega))⟩)) hS0 ?_
                    change wpAnyH _ _ _ _ _ _ _ (Act.put _ (some 185) _) _; dsimp only [Act.put]; simp only [List.setIfInBounds_toArray, List.set_cons_succ, List.set_cons_zero]
                    refine wpAnyH_take (i := 7) (v := .agg x.row) rfl (by kernel_rfl) (by kernel_rfl) (by kernel_rfl) (fun _ _ _ h => h) (Or.inl ⟨by rfl, fun w9 hS9 => exec_loadLkAt (.tmp 185) rfl b4 (off4 + k * 4) (by first | rfl | simp [Act.eval, Act.put]) x (range_belowS hrg4 hS9 hl4)⟩) hS0 ?_
                    change wpAnyH _ _ _ _ _ _ _ (Act.put _ (some 186) _) _; dsimp only [Act.put]; simp only [List.setIfInBounds_toArray, List.set_cons_succ, List.set_cons_zero]
                    refine wpAnyH_take (i := 8) (v := .bool false) rfl (by kernel_rfl) (by kernel_rfl) (by kernel_rfl) (fun _ _ _ h => h) (Or.inl ⟨by rfl, fun w9 hS9 => exec_neqLk 182 186 rfl x (by first | rfl | simp [Act.eval, Act.put]) (by first | rfl | simp [Act.eval, Act.put])⟩) hS0 ?_
                    change wpAnyH _ _ _ _ _ _ _ (Act.put _ (some 187) _) _; dsimp only [Act.put]; simp only [List.setIfInBounds_toArray, List.set_cons_succ, List.set_cons_zero]
                    refine wpAnyH_take (i := 9) (v := .bool false) rfl (by kernel_rfl) (by kernel_rfl) (by kernel_rfl) (fun _ _ _ h => h) (Yields.yieldsIf (Or.inl ⟨by rfl, fun w9 => by (go_simp; first | done | with_reducible rfl | (intro h9; exfalso; omega))⟩)) hS0 ?_
                    change wpAnyH _ _ _ _ _ _ _ (Act.put _ (some 188) _) _; dsimp only [Act.put]; simp only [List.setIfInBounds_toArray, List.set_cons_succ, List.set_cons_zero]
                    refine wpAnyH_take (i := 10) (v := .agg e.row) rfl (by kernel_rfl) (by kernel_rfl) (by kernel_rfl) (fun _ _ _ h => h) (Or.inl ⟨by rfl, fun w9 hS9 => exec_loadEntH (.tmp 21) rfl w5.heap.size (by first | rfl | simp [Act.eval, Act.put]) e (cells_of hU1 hS9 (row_lt hU1))⟩) hS0 ?_
                    change wpAnyH _ _ _ _ _ _ _ (Act.put _ (some 189) _) _; dsimp only [Act.put]; simp only [List.setIfInBounds_toArray, List.set_cons_succ, List.set_cons_zero]
                    refine wpAnyH_take (i := 11) (v := .agg e.row) rfl (by kernel_rfl) (by kernel_rfl) (by kernel_rfl) (fun _ _ _ h => h) (Or.inl ⟨by rfl, fun w9 hS9 => exec_loadEntH (.tmp 23) rfl w6.heap.size (by first | rfl | simp [Act.eval, Act.put]) e (cells_of hV1 hS9 (row_lt hV1))⟩) hS0 ?_
                    change wpAnyH _ _ _ _ _ _ _ (Act.put _ (some 190) _) _; dsimp only [Act.put]; simp only [List.setIfInBounds_toArray, List.set_cons_succ, List.set_cons_zero]
                    refine wpAnyH_take (i := 12) (v := .bool false) rfl (by kernel_rfl) (by kernel_rfl) (by kernel_rfl) (fun _ _ _ h => h) (Or.inl ⟨by rfl, fun w9 hS9 => exec_neqEnt 189 190 rfl e (by first | rfl | simp [Act.eval, Act.put]) (by first | rfl | simp [Act.eval, Act.put])⟩) hS0 ?_
                    change wpAnyH _ _ _ _ _ _ _ (Act.put _ (some 191) _) _; dsimp only [Act.put]; simp only [List.setIfInBounds_toArray, List.set_cons_succ, List.set_cons_zero]
                    refine wpAnyH_take (i := 13) (v := .bool false) rfl (by kernel_rfl) (by kernel_rfl) (by kernel_rfl) (fun _ _ _ h => h) (Yields.yieldsIf (Or.inl ⟨by rfl, fun w9 => by (go_simp; first | done | with_reducible rfl | (intro h9; exfalso; omega))⟩)) hS0 ?_
                    change wpAnyH _ _ _ _ _ _ _ (Act.put _ (some 192) _) _; dsimp only [Act.put]; simp only [List.setIfInBounds_toArray, List.set_cons_succ, List.set_cons_zero]
                    refine wpAnyH_done (by kernel_rfl) ?_ _
                    go_wp2
                    go_roundw
                    case rel => exact ⟨k + 1, by omega, by go_num, hb15.trans (hS0.mono hb15.size)⟩
                    case measure => (simp [intOf]) <;> omega
                have hkl : k < es.length := by rw [HN.out]; exact hlt
                obtain ⟨b, off, rfl, hbx, hrg⟩ := ev_range (hr.below hbw) hkl
                have HE := foldT_take (s := foldT t0 es2) hkl
                obtain ⟨e1, he1⟩ : ∃ e, es[k] = e := ⟨_, rfl⟩
                have hz1 := hs1 _ (List.getElem_mem hkl)
                rw [he1] at hrg HE hz1
                clear he1
                have hrg := range_belowS hrg hb9 hbx
                have d9 : decide ((k : Int) < (n : Int)) = true := decide_eq_true (by omega)
                have d9n : decide (k < n) = true := decide_eq_true (by omega)
                have n0 : (0 : Int) ≤ (k : Int) := by omega
                have n1 : (k : Int) < (n : Int) := by omega
                have n2' : ((k : Nat) : Int).toNat = k := by omega
                have CF := fun W hT => foldR_any (wA.heap.size + 2) wA.heap.size (wA.heap.size + 1) (n2 + k) (foldT (foldT t0 es2) (es.take k)) e1 W hz1 hT (by unfold maxLen; omega)
                go_upto_region 29 with (first | (refine wpList_loadEvR (.tmp 134) rfl b (off + k * 13) rfl e1 hrg (by rfl) ?_) | (go_at_call 32; refine (CF _ hTB).mono ?_; rintro e w5 ⟨rfl, hT5, j, hj, hg5⟩))
                rw [← HE] at hT5
                have hb5 := hb9.trans (grown_lowM hg5 (fun k e => by cases e; rcases hj with rfl | rfl <;> omega) hb9.size)
                have hU5 := hTA.grown hg5 (by rcases hj with rfl | rfl <;> omega) (by rcases hj with rfl | rfl <;> omega) (by rcases hj with rfl | rfl <;> omega)
                go_wp2
                go_roundw
                case rel => exact ⟨k + 1, by omega, by go_num, hb5, hU5, hT5⟩
                case measure => (simp [intOf]) <;> omega
            have hql : q < es2.length := by rw [HN2.out]; exact hlq
            obtain ⟨b2, off2, rfl, hbx2, hrg2⟩ := ev_range (hr2.below hbw) hql
            have HEA := foldT_take (s := foldT t0 es) hql
            have HEB := foldT_take (s := t0) hql
            have hsay := apart_says (m1 := es2.take q) hAP (List.getElem_mem hql)
            obtain ⟨e2, he2⟩ : ∃ e, es2[q] = e := ⟨_, rfl⟩
            have hz2 := hs2 _ (List.getElem_mem hql)
            rw [he2] at hrg2 HEA HEB hz2 hsay
            clear he2
            have d9 : decide ((q : Int) < (n2 : Int)) = true := decide_eq_true (by omega)
            have d9n : decide (q < n2) = true := decide_eq_true (by omega)
            have n0 : (0 : Int) ≤ (q : Int) := by omega
            have n1 : (q : Int) < (n2 : Int) := by omega
            have n2' : ((q : Nat) : Int).toNat = q := by omega
            have CT := fun W hT => foldR_any (wO.heap.size + 2) wO.heap.size (wO.heap.size + 1) (n + q) (foldT (foldT t0 es) (es2.take q)) e2 W hz2 hT (by unfold maxLen; omega)
            have CU := fun W hT => foldR_any (wA.heap.size + 2) wA.heap.size (wA.heap.size + 1) q (foldT t0 (es2.take q)) e2 W hz2 hT (by unfold maxLen; omega)
            rw [← hsay] at CU
            generalize foldA (foldT (foldT t0 es) (es2.take q)).f (foldT (foldT t0 es) (es2.take q)).cl e2 = V at CT CU
            clear hsay
            go_upto_region 25 with fail
            refine wp_region_held_drew (S := fun X => Below wO.heap.size wO X) (by kernel_rfl) (hb9.drew) (fun hS0 => ?_)
            refine wpAnyH_take (i := 0) (v := .pointer (some ⟨wO.heap.size + 2, 0, none⟩)) rfl (by kernel_rfl) (by kernel_rfl) (by kernel_rfl) (fun _ _ _ h => h) (Yields.yieldsIf (Or.inl ⟨by rfl, fun w9 => by (go_simp; first | done | with_reducible rfl | (intro h9; exfalso; omega))⟩)) hS0 ?_
            change wpAnyH _ _ _ _ _ _ _ (Act.put _ (some 112) _) _; dsimp only [Act.put]; simp only [List.setIfInBounds_toArray, List.set_cons_succ, List.set_cons_zero]
            refine wpAnyH_take (i := 1) (v := .slice (some ⟨b2, off2, none⟩) n2 cap2) rfl (by kernel_rfl) (by kernel_rfl) (by kernel_rfl) (fun _ _ _ h => h) (Yields.yieldsIf (Or.inl ⟨by rfl, fun w9 => by (go_simp; first | done | with_reducible rfl | (intro h9; exfalso; omega))⟩)) hS0 ?_
            change wpAnyH _ _ _ _ _ _ _ (Act.put _ (some 113) _) _; dsimp only [Act.put]; simp only [List.setIfInBounds_toArray, List.set_cons_succ, List.set_cons_zero]
            refine wpAnyH_take (i := 2) (v := .int .i64 (q : Int)) rfl (by kernel_rfl) (by kernel_rfl) (by kernel_rfl) (fun _ _ _ h => h) (Yields.yieldsIf (Or.inl ⟨by rfl, fun w9 => by (go_simp; first | done | with_reducible rfl | (intro h9; exfalso; omega))⟩)) hS0 ?_
            change wpAnyH _ _ _ _ _ _ _ (Act.put _ (some 114) _) _; dsimp only [Act.put]; simp only [List.setIfInBounds_toArray, List.set_cons_succ, List.set_cons_zero]
            refine wpAnyH_take (i := 3) (v := .pointer (some ⟨b2, off2 + q * 13, none⟩)) rfl (by kernel_rfl) (by kernel_rfl) (by kernel_rfl) (fun _ _ _ h => h) (Yields.yieldsIf (Or.inl ⟨by rfl, fun w9 => by (go_simp; first | done | with_reducible rfl | (intro h9; exfalso; omega))⟩)) hS0 ?_
            change wpAnyH _ _ _ _ _ _ _ (Act.put _ (some 115) _) _; dsimp only [Act.put]; simp only [List.setIfInBounds_toArray, List.set_cons_succ, List.set_cons_zero]
            refine wpAnyH_take (i := 4) (v := .agg e2.row) rfl (by kernel_rfl) (by kernel_rfl) (by kernel_rfl) (fun _ _ _ h => h) (Or.inl ⟨by rfl, fun w9 hS9 => exec_loadEvR (.tmp 115) rfl b2 (off2 + q * 13) (by first | rfl | simp [Act.eval, Act.put]) e2 (range_belowS hrg2 hS9 hbx2)⟩) hS0 ?_
            change wpAnyH _ _ _ _ _ _ _ (Act.put _ (some 116) _) _; dsimp only [Act.put]; simp only [List.setIfInBounds_toArray, List.set_cons_succ, List.set_cons_zero]
            refine wpAnyH_take (i := 6) (v := .pointer (some ⟨wA.heap.size + 2, 0, none⟩)) rfl (by kernel_rfl) (by kernel_rfl) (by kernel_rfl) (fun _ _ _ h => h) (Yields.yieldsIf (Or.inl ⟨by rfl, fun w9 => by (go_simp; first | done | with_reducible rfl | (intro h9; exfalso; omega))⟩)) hS0 ?_
            change wpAnyH _ _ _ _ _ _ _ (Act.put _ (some 118) _) _; dsimp only [Act.put]; simp only [List.setIfInBounds_toArray, List.set_cons_succ, List.set_cons_zero]
            refine wpAnyH_take (i := 7) (v := .slice (some ⟨b2, off2, none⟩) n2 cap2) rfl (by kernel_rfl) (by kernel_rfl) (by kernel_rfl) (fun _ _ _ h => h) (Yields.yieldsIf (Or.inl ⟨by rfl, fun w9 => by (go_simp; first | done | with_reducible rfl | (intro h9; exfalso; omega))⟩)) hS0 ?_
            change wpAnyH _ _ _ _ _ _ _ (Act.put _ (some 119) _) _; dsimp only [Act.put]; simp only [List.setIfInBounds_toArray, List.set_cons_succ, List.set_cons_zero]
            refine wpAnyH_take (i := 8) (v := .int .i64 (q : Int)) rfl (by kernel_rfl) (by kernel_rfl) (by kernel_rfl) (fun _ _ _ h => h) (Yields.yieldsIf (Or.inl ⟨by rfl, fun w9 => by (go_simp; first | done | with_reducible rfl | (intro h9; exfalso; omega))⟩)) hS0 ?_
            change wpAnyH _ _ _ _ _ _ _ (Act.put _ (some 120) _) _; dsimp only [Act.put]; simp only [List.setIfInBounds_toArray, List.set_cons_succ, List.set_cons_zero]
            refine wpAnyH_take (i := 9) (v := .pointer (some ⟨b2, off2 + q * 13, none⟩)) rfl (by kernel_rfl) (by kernel_rfl) (by kernel_rfl) (fun _ _ _ h => h) (Yields.yieldsIf (Or.inl ⟨by rfl, fun w9 => by (go_simp; first | done | with_reducible rfl | (intro h9; exfalso; omega))⟩)) hS0 ?_
            change wpAnyH _ _ _ _ _ _ _ (Act.put _ (some 121) _) _; dsimp only [Act.put]; simp only [List.setIfInBounds_toArray, List.set_cons_succ, List.set_cons_zero]
            refine wpAnyH_take (i := 10) (v := .agg e2.row) rfl (by kernel_rfl) (by kernel_rfl) (by kernel_rfl) (fun _ _ _ h => h) (Or.inl ⟨by rfl, fun w9 hS9 => exec_loadEvR (.tmp 121) rfl b2 (off2 + q * 13) (by first | rfl | simp [Act.eval, Act.put]) e2 (range_belowS hrg2 hS9 hbx2)⟩) hS0 ?_
            change wpAnyH _ _ _ _ _ _ _ (Act.put _ (some 122) _) _; dsimp only [Act.put]; simp only [List.setIfInBounds_toArray, List.set_cons_succ, List.set_cons_zero]
            refine wpAnyH_ready (rs := [5]) (by kernel_rfl) (by simp) ?_
            refine AllReadyH.cons rfl (fun K hK => ?_) (fun j hj => by cases hj)
            go_simp
            refine (CT _ (hTA.kept ((Below.refl _ _).drew))).mono ?_
            rintro e w12 ⟨rfl, hT12, j1, hj1, hg12⟩
            have hU12 := (hTB.kept ((Below.refl _ _).drew)).grown hg12 (by rcases hj1 with rfl | rfl <;> omega) (by rcases hj1 with rfl | rfl <;> omega) (by rcases hj1 with rfl | rfl <;> omega)
            have hS1 := hS0.trans (grown_lowM hg12 (fun k e => by cases e; rcases hj1 with rfl | rfl <;> omega) hS0.size)
            refine (Shut.out hK) _ _ hS1 (fun _ => ?_)
            clear hK K
            refine wpAnyH_ready (rs := [11]) (by kernel_rfl) (by simp) ?_
            refine AllReadyH.cons rfl (fun K hK => ?_) (fun j hj => by cases hj)
            go_simp
            refine (CU _ hU12).mono ?_
            rintro e w13 ⟨rfl, hU13, j2, hj2, hg13⟩
            have hT13 := hT12.grown hg13 (by rcases hj2 with rfl | rfl <;> omega) (by rcases hj2 with rfl | rfl <;> omega) (by rcases hj2 with rfl | rfl <;> omega)
            have hS2 := hS1.trans (grown_lowM hg13 (fun k e => by cases e; rcases hj2 with rfl | rfl <;> omega) hS1.size)
            refine (Shut.out hK) _ _ hS2 (fun _ => ?_)
            clear hK K
            refine wpAnyH_take (i := 12) (v := .bool false) rfl (by kernel_rfl) (by kernel_rfl) (by kernel_rfl) (fun _ _ _ h => h) (Yields.yieldsIf (Or.inl ⟨by rfl, fun w9 => by (go_simp; first | done | with_reducible rfl | (intro h9; exfalso; omega))⟩)) hS2 ?_
            change wpAnyH _ _ _ _ _ _ _ (Act.put _ (some 124) _) _; dsimp only [Act.put]; simp only [List.setIfInBounds_toArray, List.set_cons_succ, List.set_cons_zero]
            refine wpAnyH_done (by kernel_rfl) ?_ _
            go_wp2
            rw [← HEA] at hT13
            rw [← HEB] at hU13
            go_roundw
            case rel => exact ⟨q + 1, by omega, by go_num, hS2, hT13, hU13⟩
            case measure => (simp [intOf]) <;> omega
        have hkl : k < es.length := by rw [HN.out]; exact hlt
        obtain ⟨b, off, rfl, hbx, hrg⟩ := ev_range (hr.below hbw) hkl
        have HE := foldT_take (s := t0) hkl
        obtain ⟨e1, he1⟩ : ∃ e, es[k] = e := ⟨_, rfl⟩
        have hz1 := hs1 _ (List.getElem_mem hkl)
        rw [he1] at hrg HE hz1
        clear he1
        have hrg := range_belowS hrg hb9 hbx
        have d9 : decide ((k : Int) < (n : Int)) = true := decide_eq_true (by omega)
        have d9n : decide (k < n) = true := decide_eq_true (by omega)
        have n0 : (0 : Int) ≤ (k : Int) := by omega
        have n1 : (k : Int) < (n : Int) := by omega
        have n2' : ((k : Nat) : Int).toNat = k := by omega
        have CF := fun W hT => foldR_any (wO.heap.size + 2) wO.heap.size (wO.heap.size + 1) k (foldT t0 (es.take k)) e1 W hz1 hT (by unfold maxLen; omega)
        go_upto_region 20 with (first | (refine wpList_loadEvR (.tmp 103) rfl b (off + k * 13) rfl e1 hrg (by rfl) ?_) | (go_at_call 32; refine (CF _ hTA).mono ?_; rintro e w5 ⟨rfl, hT5, j, hj, hg5⟩))
        rw [← HE] at hT5
        have hb5 := hb9.trans (grown_lowM hg5 (fun k e => by cases e; rcases hj with rfl | rfl <;> omega) hb9.size)
        have hU5 := hTB.grown hg5 (by rcases hj with rfl | rfl <;> omega) (by rcases hj with rfl | rfl <;> omega) (by rcases hj with rfl | rfl <;> omega)
        go_wp2
        go_roundw
        case rel => exact ⟨k + 1, by omega, by go_num, hb5, hT5, hU5⟩
        case measure => (simp [intOf]) <;> omega
    have hkl : k < es.length := by rw [HN.out]; exact hlt
    obtain ⟨b, off, rfl, hbx, hrg⟩ := ev_range (hr.below hbw) hkl
    have HE := Lib.hid (List.take_succ_eq_append_getElem hkl)
    obtain ⟨e1, he1⟩ : ∃ e, es[k] = e := ⟨_, rfl⟩
    have hz1 := hs1 _ (List.getElem_mem hkl)
    rw [he1] at hrg HE hz1
    clear he1
    have CO := fun W => ownR_any e1 W hz1
    obtain ⟨p1, hp1⟩ : ∃ x, ownB e1 = x := ⟨_, rfl⟩
    obtain ⟨P1, hP1⟩ : ∃ x, ownP e1 = x := ⟨_, rfl⟩
    obtain ⟨C1, hC1⟩ : ∃ x, ownC e1 = x := ⟨_, rfl⟩
    rw [hp1, hP1, hC1] at CO
    have HP1 := Lib.hid hp1
    have HQ1 := Lib.hid hP1
    have HC1 := Lib.hid hC1
    clear hp1 hP1 hC1
    have d9 : decide ((k : Int) < (n : Int)) = true := decide_eq_true (by omega)
    have d9n : decide (k < n) = true := decide_eq_true (by omega)
    have n0 : (0 : Int) ≤ (k : Int) := by omega
    have n1 : (k : Int) < (n : Int) := by omega
    have n2' : ((k : Nat) : Int).toNat = k := by omega
    go_upto_region 9 with (first | (refine wpList_loadEvR (.tmp 55) rfl b (off + k * 13) rfl e1 hrg (by rfl) ?_) | (go_at_call 41; refine (CO _).mono ?_; rintro e w5 ⟨rfl, hb5⟩))
    refine wp_nameE _ (fun wI hwI => ?_)
    have hbI : Below w5.heap.size w5 wI := by rw [hwI]; exact (Below.refl _ _).alloc (Nat.le_refl _) _
    have hx1 : wI.heap[w5.heap.size]? = some (.cells #[.string P1, .int .i64 C1] 60 (0, 0)) := by rw [hwI]; exact heap_push w5 _ _
    clear hwI CO d9 d9n n0 n1 n2' hrg hbx
    have hb6 := hb4.trans ((hb5.trans (hbI.mono hb5.size)).mono hb4.size)
    have hx1l := row_lt hx1
    go_wp2
    go_loopw [9] (fun j wq => ∃ q : Nat, q ≤ n2 ∧ j = .int .i64 q ∧ Below wI.heap.size wI wq ∧ (∀ y ∈ es2.take q, ¬ Clash e1 y)) (fun j _ => n2 - (intOf j).toNat)
    case atStart => exact ⟨0, Nat.zero_le _, rfl, Below.refl _ _, by simp⟩
    case round =>
      obtain ⟨q, hq, rfl, hb7, haq⟩ := hrel
      have hb8 := hb6.trans (hb7.mono hb6.size)
      by_cases hlq : q < n2
      rotate_left
      · obtain rfl : n2 = q := by omega
        have d9 : decide ((n2 : Int) < (n2 : Int)) = false := decide_eq_false (by omega)
        have d9n : decide (n2 < n2) = false := decide_eq_false (by omega)
        go_wp2
        go_roundw
        case rel => exact ⟨k + 1, by omega, by go_num, hb8, fun x hx y hy => by rw [HE.out] at hx; rcases List.mem_append.1 hx with hx | hx; exact hap x hx y hy; rw [List.mem_singleton] at hx; subst hx; exact haq y (by rw [List.take_of_length_le (by rw [HN2.out]; omega)]; exact hy)⟩
        case measure => (simp [intOf]) <;> omega
      have hql : q < es2.length := by rw [HN2.out]; exact hlq
      obtain ⟨b2, off2, rfl, hbx2, hrg2⟩ := ev_range (hr2.below (hbc.trans (hb8.mono hbc.size))) hql
      have HE2 := Lib.hid (List.take_succ_eq_append_getElem hql)
      obtain ⟨e2, he2⟩ : ∃ e, es2[q] = e := ⟨_, rfl⟩
      have hz2 := hs2 _ (List.getElem_mem hql)
      rw [he2] at hrg2 HE2 hz2
      clear he2
      have CO := fun W => ownR_any e2 W hz2
      obtain ⟨p2, hp2⟩ : ∃ x, ownB e2 = x := ⟨_, rfl⟩
      obtain ⟨P2, hP2⟩ : ∃ x, ownP e2 = x := ⟨_, rfl⟩
      obtain ⟨C2, hC2⟩ : ∃ x, ownC e2 = x := ⟨_, rfl⟩
      rw [hp2, hP2, hC2] at CO
      have HP2 := Lib.hid hp2
      have HQ2 := Lib.hid hP2
      have HC2 := Lib.hid hC2
      clear hp2 hP2 hC2
      have d9 : decide ((q : Int) < (n2 : Int)) = true := decide_eq_true (by omega)
      have d9n : decide (q < n2) = true := decide_eq_true (by omega)
      have n0 : (0 : Int) ≤ (q : Int) := by omega
      have n1 : (q : Int) < (n2 : Int) := by omega
      have n2' : ((q : Nat) : Int).toNat = q := by omega
      go_upto_region 13 with (first | (refine wpList_loadEvR (.tmp 70) rfl b2 (off2 + q * 13) rfl e2 hrg2 (by rfl) ?_) | (go_at_call 41; refine (CO _).mono ?_; rintro e w9 ⟨rfl, hb9⟩))
      refine wp_nameE _ (fun wJ hwJ => ?_)
      have hbJ : Below w9.heap.size w9 wJ := by rw [hwJ]; exact (Below.refl _ _).alloc (Nat.le_refl _) _
      have hx2 : wJ.heap[w9.heap.size]? = some (.cells #[.string P2, .int .i64 C2] 60 (0, 0)) := by rw [hwJ]; exact heap_push w9 _ _
      clear hwJ CO hrg2 hbx2
      have hb10 := hb7.trans ((hb9.trans (hbJ.mono hb9.size)).mono hb7.size)
      have hx1J := cells_of hx1 hb10 hx1l
      have u0 := cell_heap hx1J 0
      have u1 := cell_heap hx1J 1
      have v0 := cell_heap hx2 0
      have v1 := cell_heap hx2 1
      clear hb9 hbJ hx2 hx1J
      cases p1
      · go_wp2
        go_roundw
        case rel => exact ⟨q + 1, by omega, by go_num, hb10, fun y hy => by rw [HE2.out] at hy; rcases List.mem_append.1 hy with hy | hy; exact haq y hy; rw [List.mem_singleton] at hy; subst hy; exact (fun z => by have h9 := z.1; rw [HP1.out] at h9; exact absurd h9 (by decide))⟩
        case measure => (simp [intOf]) <;> omega
      cases p2
      · go_wp2
        go_roundw
        case rel => exact ⟨q + 1, by omega, by go_num, hb10, fun y hy => by rw [HE2.out] at hy; rcases List.mem_append.1 hy with hy | hy; exact haq y hy; rw [List.mem_singleton] at hy; subst hy; exact (fun z => by have h9 := z.2.1; rw [HP2.out] at h9; exact absurd h9 (by decide))⟩
        case measure => (simp [intOf]) <;> omega
      by_cases hPP : P1 = P2
      · by_cases hCC : C1 = C2
        · subst hPP hCC
          go_wp2_with (go_at_call 29; with_reducible refine (first22_any _).mono ?_; rintro e wz ⟨rfl, hbz⟩)
          go_ret
          have hbz2 := (hbc.trans (hb6.mono hbc.size)).trans (hb10.mono (hbc.trans (hb6.mono hbc.size)).size)
          exact ⟨by first | rfl | simp, hbz2.trans (hbz.mono hbz2.size)⟩
        · have x2 : (C1 == C2) = false := beq_eq_false_iff_ne.2 hCC
          subst hPP
          go_wp2
          go_roundw
          case rel => exact ⟨q + 1, by omega, by go_num, hb10, fun y hy => by rw [HE2.out] at hy; rcases List.mem_append.1 hy with hy | hy; exact haq y hy; rw [List.mem_singleton] at hy; subst hy; exact (fun z => hCC (by rw [← HC1.out, ← HC2.out]; exact z.2.2.2))⟩
          case measure => (simp [intOf]) <;> omega
      · have x1 : (P1.toList == P2.toList) = false := by rw [beq_eq_false_iff_ne]; exact fun e => hPP (ba_toList_inj e)
        go_wp2
        go_roundw
        case rel => exact ⟨q + 1, by omega, by go_num, hb10, fun y hy => by rw [HE2.out] at hy; rcases List.mem_append.1 hy with hy | hy; exact haq y hy; rw [List.mem_singleton] at hy; subst hy; exact (fun z => hPP (by rw [← HQ1.out, ← HQ2.out]; exact z.2.2.1))⟩
        case measure => (simp [intOf]) <;> omega
end Go.Proofs.Ytbckncopdkmoeaa
