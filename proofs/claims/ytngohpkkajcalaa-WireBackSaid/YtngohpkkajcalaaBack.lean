/- liglaw4.back: bytes read as they were written, to their end. -/
import Derived.Test.YtngohpkkajcalaaBackMath
import Derived.Test.YtngohpkkajcalaaWrite
import Derived.Deep.Cut
import Derived.WalkKit
import Derived.ProofKit
import Derived.Handy
import Derived.Below
import Derived.BigQuiet
import Derived.Lib.Hide
import Derived.IntWalk
import Derived.Outline
import Derived.WalkLawsBesides
import Derived.WalkSpells
namespace Go.Proofs.Ytngohpkkajcalaa
open Go.RowKit
attribute [local go_sem] strV
set_option linter.unusedVariables false
theorem Kept.row {b g : Nat} {w w' : World} {X : Obj} (h : Kept b w w') (hg : w.heap[g]? = some X) (hb : g ≠ b) : w'.heap[g]? = some X := by
  rw [h.block g (Array.getElem?_eq_some_iff.1 hg).1 hb]; exact hg
theorem below_row {g : Nat} {w w' : World} {X : Obj} (h : Below w.heap.size w w') (hg : w.heap[g]? = some X) : w'.heap[g]? = some X := by
  rw [h.block g (Array.getElem?_eq_some_iff.1 hg).1]; exact hg
theorem rerr_same (b : Nat) (w : World) (s : ByteArray) (at_ err : Int) (h : RAt b w s at_ err) :
    Calls Try.prog 23 #[.pointer (some ⟨b, 0, none⟩)] w fun e w' => e = .returned (.int .i64 err) ∧ w' = w := rerr_any b w s at_ err h
def finB (T : ByteArray) (ps : List Pt) (sh : Bool) : Int := bif sh then 2 else (if pos ps ps.length < T.size then 3 else 0)
set_option maxRecDepth 100000 in
set_option maxHeartbeats 6400000 in
theorem back_any (T : ByteArray) (a : Option Addr) (n cap : Nat) (ps : List Pt) (en : Int) (sh : Bool) (w : World) (hT : T.size ≤ 1000000000) (hr : RowAt w a (ps.flatMap Pt.cells)) (hn : ps.length = n) (h30 : n ≤ 30) (hss : ∀ p ∈ ps, p.s.size ≤ 300) (hC : Chain T ps sh) :
    Calls Try.prog 29 #[.string T, .slice a n cap, .int .i64 en] w fun e w' => e = .returned (.bool (finB T ps sh == en)) ∧ Below w.heap.size w w' := by
  have HN := Lib.hid hn; clear hn
  obtain ⟨fb, hfb⟩ : ∃ fb, finB T ps sh = fb := ⟨_, rfl⟩
  rw [hfb]
  have HF := Lib.hid hfb; clear hfb
  go_enter Try.func29, Try.ntmps29
  go_wp2_with (go_at_call 13; refine (rof_any T _).mono ?_; rintro e wb ⟨rfl, hR, hbb⟩)
  go_loopw [8] (fun i W => ∃ (k : Nat) (A E : Int), k ≤ n ∧ RAt w.heap.size W T A E ∧ ((E = 0 ∧ A = pos ps k ∧ (sh = true → k < n)) ∨ (E = 2 ∧ k = n ∧ sh = true)) ∧ i = .int .i64 k ∧ Below w.heap.size w W) (fun i _ => n - (intOf i).toNat)
  case atStart => exact ⟨0, 0, 0, by omega, hR, .inl ⟨rfl, rfl, fun h => by have := hC.some h; rw [HN.out] at this; exact this⟩, rfl, hbb⟩
  case round =>
    clear hR hbb
    obtain ⟨k, A, E, hk, hR, hD, rfl, hbel⟩ := hrel
    by_cases hlt : k < n
    rotate_left
    · have hfin : endF T A E = fb := by
        rw [← HF.out]
        rcases hD with ⟨rfl, rfl, h⟩ | ⟨rfl, rfl, h⟩
        · have hs : sh = false := by
            cases hs : sh
            · rfl
            · exact absurd (h hs) hlt
          subst hs
          have hkn : k = ps.length := by rw [HN.out]; omega
          unfold endF finB
          rw [if_pos rfl, hkn]; rfl
        · subst h; rfl
      have CE := rend_any w.heap.size wr T A E hR
      rw [hfin] at CE
      clear hfin HF hD
      go_wp2_with (go_at_call 24; refine CE.mono ?_; rintro e w9 ⟨rfl, hb9⟩)
      go_ret
      exact ⟨rfl, hbel.trans (hb9.mono hbel.size)⟩
    obtain ⟨rfl, rfl⟩ : E = 0 ∧ A = pos ps k := by
      rcases hD with ⟨h1, h2, _⟩ | ⟨_, h, _⟩
      · exact ⟨h1, h2⟩
      · omega
    have hshk : sh = true → k < n := by
      intro h; exact hlt
    have hkl : k < ps.length := by rw [HN.out]; exact hlt
    obtain ⟨c, off, rfl, hcl, hrg⟩ := pt_at (hr.below hbel) hkl
    obtain ⟨p, hp⟩ : ∃ p, ps[k] = p := ⟨_, rfl⟩
    have hP : 0 ≤ pos ps k ∧ pos ps k ≤ T.size := ⟨by unfold pos; omega, hC.inT k (by omega) (fun _ => hkl)⟩
    obtain ⟨A', E', hGot, hNx⟩ : ∃ A' E', Got T p (pos ps k) A' E' ∧ ((E' = 0 ∧ A' = pos ps (k + 1) ∧ (sh = true → k + 1 < n)) ∨ (E' = 2 ∧ k + 1 = n ∧ sh = true)) := by
      rcases hC.one k hkl with ⟨h1, h2, h3⟩ | ⟨h1, h3⟩
      · rw [hp] at h3; exact ⟨_, _, h3, .inr ⟨rfl, by rw [HN.out] at h2; exact h2, h1⟩⟩
      · rw [hp] at h3; exact ⟨_, _, h3, .inl ⟨rfl, rfl, fun h => by have := h1 h; rw [HN.out] at this; exact this⟩⟩
    have hE0 : E' ≠ 0 → (E' == 0) = false := fun h => beq_eq_false_iff_ne.2 h
    have HNx := hNx
    rw [hp] at hrg
    obtain ⟨A0, hA0⟩ : ∃ A0, pos ps k = A0 := ⟨_, rfl⟩
    rw [hA0] at hR hP hGot
    have c0 := Pt.at0 hrg
    have hz0 : (wr.alloc (.cells #[.int .i64 0, .int .i64 0, .string ⟨#[]⟩, .int .u8 0, .int .u8 0, .int .u8 0, .int .u8 0, .int .u8 0, .int .u8 0, .int .u8 0, .int .u8 0, .int .u8 0, .int .u8 0, .int .u8 0, .int .u8 0, .int .u8 0, .int .u8 0, .int .u8 0, .int .u8 0, .int .u8 0, .int .u8 0, .int .u8 0, .int .u8 0, .int .u8 0, .int .u8 0, .int .u8 0, .int .u8 0, .int .u8 0, .int .u8 0, .int .u8 0, .int .u8 0, .int .u8 0, .int .u8 0, .int .u8 0, .int .u8 0] 49)).heap[wr.heap.size]? = some (.cells #[.int .i64 0, .int .i64 0, .string ⟨#[]⟩, .int .u8 0, .int .u8 0, .int .u8 0, .int .u8 0, .int .u8 0, .int .u8 0, .int .u8 0, .int .u8 0, .int .u8 0, .int .u8 0, .int .u8 0, .int .u8 0, .int .u8 0, .int .u8 0, .int .u8 0, .int .u8 0, .int .u8 0, .int .u8 0, .int .u8 0, .int .u8 0, .int .u8 0, .int .u8 0, .int .u8 0, .int .u8 0, .int .u8 0, .int .u8 0, .int .u8 0, .int .u8 0, .int .u8 0, .int .u8 0, .int .u8 0, .int .u8 0] 49 (0, 0)) := by
      show (wr.heap.push _)[wr.heap.size]? = _
      rw [Array.getElem?_push_size]
    have hYZ : (#[.int .i64 0, .int .i64 0, .string ⟨#[]⟩, .int .u8 0, .int .u8 0, .int .u8 0, .int .u8 0, .int .u8 0, .int .u8 0, .int .u8 0, .int .u8 0, .int .u8 0, .int .u8 0, .int .u8 0, .int .u8 0, .int .u8 0, .int .u8 0, .int .u8 0, .int .u8 0, .int .u8 0, .int .u8 0, .int .u8 0, .int .u8 0, .int .u8 0, .int .u8 0, .int .u8 0, .int .u8 0, .int .u8 0, .int .u8 0, .int .u8 0, .int .u8 0, .int .u8 0, .int .u8 0, .int .u8 0, .int .u8 0] : Array Value).size = p.cells.toArray.size := by rw [show p.cells.toArray.size = 35 from by rw [List.size_toArray, Pt.cells_len]]; rfl
    have hiZ : (Try.prog.info? 49).map (·.size) = some p.cells.toArray.size := by rw [List.size_toArray, Pt.cells_len]; kernel_rfl
    clear hr hp hkl hcl hA0 hNx
    have HD := Lib.hid hD
    clear hD
    go_upto_region 7 with (go_at_call 23; refine (rerr_same _ _ _ _ _ hR).mono ?_; rintro e wx ⟨rfl, hwx⟩; obtain rfl : _ = wx := hwx.symm)
    go_upto_region 8 with (first | (refine wpList_load_mid rfl 49 (.tmp 31) rfl c _ rfl p.cells _ hrg Try.underlying49 rfl (by rw [Pt.cells_len]; kernel_rfl) ?_) | (refine wpList_storeRowTo rfl (.tmp 9) (.tmp 32) 49 rfl hiZ rfl rfl hz0 hYZ p.row_one ?_))
    refine wp_nameR _ (fun W9 hW9 => ?_)
    have hg9 : W9.heap[wr.heap.size]? = some (.cells p.cells.toArray 49 (0, 0)) := by rw [hW9]; exact setRow_heap _ _ _ _ _ _ hz0
    have hb9 : Below wr.heap.size wr W9 := by rw [hW9]; exact below_setRow (Below.alloc (Below.refl _ _) (Nat.le_refl _) _) (Nat.le_refl _) _
    have hR9 := hR.below hb9 hR.lt
    have hgb : wr.heap.size ≠ w.heap.size := by have := hR.lt; omega
    have hbw9 : Below w.heap.size w W9 := hbel.trans (hb9.mono hbel.size)
    have hiH : (Try.prog.info? 42).map (·.size) = some (Lib.byteCells p.h).length := by rw [Lib.byteCells_length, p.hl]; kernel_rfl
    clear hW9 hz0 hYZ hiZ hbel hrg c0 hR
    have e0 := Pt.cell0 hg9
    by_cases k0 : p.kd = 0
    · rw [k0] at e0
      obtain ⟨R, hG, hRn⟩ := hGot.num k0
      have C1 := rnum_all w.heap.size W9 T A0 0 0 72057594037927935 hR9 hT
      rw [show numG T A0 0 0 72057594037927935 = (R, A', E') from by unfold numG; rw [if_pos rfl]; exact hG] at C1
      obtain ⟨sm, hsm⟩ : ∃ sm, (R == p.n) = sm := ⟨_, rfl⟩
      have hsE : sm = false → (E' == 0) = false := fun h => hE0 (fun e => by rw [h, hRn e] at hsm; simp at hsm)
      clear hG hRn hGot
      cases sm
      all_goals
        try have hE1 := hsE rfl
        clear hsE
        go_wp2_with (first | (go_at_call 14; refine C1.mono ?_; rintro e w1 ⟨rfl, hr1, hk1⟩; have hg1 := hk1.row hg9 hgb; have f1 := Pt.cell1 hg1) | (go_at_call 23; refine (rerr_same _ _ _ _ _ hr1).mono ?_; rintro e wx ⟨rfl, hwx⟩; obtain rfl : _ = wx := hwx.symm))
        go_roundw
        case rel => exact ⟨k + 1, A', E', by omega, hr1, HNx, by go_num, hbw9.trans (hk1.below (Nat.le_refl _) hbw9.size)⟩
        case measure => (simp [intOf]) <;> omega
    have q0 : (p.kd == 0) = false := beq_eq_false_iff_ne.2 k0
    by_cases k1 : p.kd = 1
    · rw [k1] at e0
      obtain ⟨R, hG, hRn⟩ := hGot.text k1
      have C1 := rtext_all w.heap.size W9 T A0 0 300 hR9 hT
      rw [show textG T A0 0 300 = (R, A', E') from by unfold textG; rw [if_pos rfl]; exact hG] at C1
      obtain ⟨sm, hsm⟩ : ∃ sm, (R.toList == p.s.toList) = sm := ⟨_, rfl⟩
      have hsE : sm = false → (E' == 0) = false := fun h => hE0 (fun e => by rw [h, hRn e] at hsm; simp at hsm)
      clear hG hRn hGot
      cases sm
      all_goals
        try have hE1 := hsE rfl
        clear hsE
        go_wp2_with (first | (go_at_call 16; refine C1.mono ?_; rintro e w1 ⟨rfl, hr1, hk1⟩; have hg1 := hk1.row hg9 hgb; have f1 := Pt.cell2 hg1) | (go_at_call 23; refine (rerr_same _ _ _ _ _ hr1).mono ?_; rintro e wx ⟨rfl, hwx⟩; obtain rfl : _ = wx := hwx.symm))
        go_roundw
        case rel => exact ⟨k + 1, A', E', by omega, hr1, HNx, by go_num, hbw9.trans (hk1.below (Nat.le_refl _) hbw9.size)⟩
        case measure => (simp [intOf]) <;> omega
    have q1 : (p.kd == 1) = false := beq_eq_false_iff_ne.2 k1
    obtain ⟨R, hRl, hG, hRn⟩ := hGot.hash k0 k1
    have C1 := rhash_all w.heap.size W9 T A0 0 hR9 hT hP
    rw [hG] at C1
    obtain ⟨sm, hsm⟩ : ∃ sm, (R == p.h) = sm := ⟨_, rfl⟩
    have hsE : sm = false → (E' == 0) = false := fun h => hE0 (fun e => by rw [h, hRn e] at hsm; simp at hsm)
    have hEQ : ∀ W, (Op.equalIn 10000 42 (.agg (hrow R)) (.agg (hrow p.h))).run Try.prog W = .ok sm W := fun W => by rw [run_equal_hash W _ R p.h hRl p.hl Try.underlying42 Try.underlying5 (by kernel_rfl), hsm]
    clear hG hRn hGot hsm
    go_upto_region 10 with fail
    have hz1 : ∀ W : World, (W.alloc (.cells #[.int .u8 0, .int .u8 0, .int .u8 0, .int .u8 0, .int .u8 0, .int .u8 0, .int .u8 0, .int .u8 0, .int .u8 0, .int .u8 0, .int .u8 0, .int .u8 0, .int .u8 0, .int .u8 0, .int .u8 0, .int .u8 0, .int .u8 0, .int .u8 0, .int .u8 0, .int .u8 0, .int .u8 0, .int .u8 0, .int .u8 0, .int .u8 0, .int .u8 0, .int .u8 0, .int .u8 0, .int .u8 0, .int .u8 0, .int .u8 0, .int .u8 0, .int .u8 0] 42)).heap[W.heap.size]? = some (.cells #[.int .u8 0, .int .u8 0, .int .u8 0, .int .u8 0, .int .u8 0, .int .u8 0, .int .u8 0, .int .u8 0, .int .u8 0, .int .u8 0, .int .u8 0, .int .u8 0, .int .u8 0, .int .u8 0, .int .u8 0, .int .u8 0, .int .u8 0, .int .u8 0, .int .u8 0, .int .u8 0, .int .u8 0, .int .u8 0, .int .u8 0, .int .u8 0, .int .u8 0, .int .u8 0, .int .u8 0, .int .u8 0, .int .u8 0, .int .u8 0, .int .u8 0, .int .u8 0] 42 (0, 0)) := fun W => by
      show (W.heap.push _)[W.heap.size]? = _
      rw [Array.getElem?_push_size]
    have hRs : (hrow R).size = 32 := by rw [hrow_size]; exact hRl
    have hiR : (Try.prog.info? 42).map (·.size) = some (hrow R).size := by rw [hRs]; kernel_rfl
    have hYR : (#[.int .u8 0, .int .u8 0, .int .u8 0, .int .u8 0, .int .u8 0, .int .u8 0, .int .u8 0, .int .u8 0, .int .u8 0, .int .u8 0, .int .u8 0, .int .u8 0, .int .u8 0, .int .u8 0, .int .u8 0, .int .u8 0, .int .u8 0, .int .u8 0, .int .u8 0, .int .u8 0, .int .u8 0, .int .u8 0, .int .u8 0, .int .u8 0, .int .u8 0, .int .u8 0, .int .u8 0, .int .u8 0, .int .u8 0, .int .u8 0, .int .u8 0, .int .u8 0] : Array Value).size = (hrow R).size := by rw [hRs]; rfl
    have hR1 := hrow_one R
    go_upto_region 11 with (first | (go_at_call 18; refine C1.mono ?_; rintro e w1 ⟨rfl, hr1, hk1⟩; have hg1 := hk1.row hg9 hgb; have HZ := hz1 w1) | (refine wpList_storeRowTo rfl (.tmp 13) (.tmp 36) 42 rfl hiR rfl rfl HZ hYR hR1 ?_))
    refine wp_nameR _ (fun W8 hW8 => ?_)
    have hy8 : W8.heap[w1.heap.size]? = some (.cells (hrow R) 42 (0, 0)) := by rw [hW8]; exact setRow_heap _ _ _ _ _ _ (hz1 w1)
    have hb8 : Below w1.heap.size w1 W8 := by rw [hW8]; exact below_setRow (Below.alloc (Below.refl _ _) (Nat.le_refl _) _) (Nat.le_refl _) _
    have hg8 := below_row hb8 hg1
    have hr8 := hr1.below hb8 hr1.lt
    have hbw1 : Below w.heap.size w w1 := hbw9.trans (hk1.below (Nat.le_refl _) hbw9.size)
    have hbw8 : Below w.heap.size w W8 := hbw1.trans (hb8.mono hbw1.size)
    clear hW8 HZ hz1 hR1 hYR hiR C1
    have hrR : W8.rangeAt w1.heap.size 0 (Lib.byteCells R) := rangeAt_row (cs := Lib.byteCells R) hy8
    have hiR2 : (Try.prog.info? 42).map (·.size) = some (Lib.byteCells R).length := by rw [Lib.byteCells_length, hRl]; kernel_rfl
    go_upto_region 18 with (first | (refine wpList_load_mid rfl 42 (.tmp 13) rfl w1.heap.size 0 rfl (Lib.byteCells R) _ hrR Try.underlying42 rfl hiR2 ?_; rw [hrow_list]) | (refine wpList_load_mid rfl 42 (.tmp 38) rfl wr.heap.size 3 rfl (Lib.byteCells p.h) _ (Pt.range3 hg8) Try.underlying42 rfl hiH ?_; rw [hrow_list]))
    cases sm
    all_goals
      try have hE1 := hsE rfl
      clear hsE
      go_wp2_with (go_at_call 23; refine (rerr_same _ _ _ _ _ hr8).mono ?_; rintro e wx ⟨rfl, hwx⟩; obtain rfl : _ = wx := hwx.symm)
      go_roundw
      case rel => exact ⟨k + 1, A', E', by omega, hr8, HNx, by go_num, hbw8⟩
      case measure => (simp [intOf]) <;> omega
end Go.Proofs.Ytngohpkkajcalaa
