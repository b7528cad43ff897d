/- WireBack, walked. -/
import Derived.Test.YtngohpkkajcalaaBack
import Derived.Test.YtngohpkkajcalaaReader2
import Derived.Deep.Cut
import Derived.WalkKit
import Derived.ProofKit
import Derived.Handy
import Derived.Below
import Derived.BigQuiet
import Derived.Lib.Hide
import Derived.IntWalk
import Derived.Outline
import Derived.WalkLawsBesides
import Derived.WalkSpells
namespace Go.Proofs.Ytngohpkkajcalaa
open Go.RowKit
attribute [local go_sem] strV
set_option linter.unusedVariables false
theorem list_ba (T : ByteArray) : (⟨T.data.toList.toArray⟩ : ByteArray) = T := by
  apply ByteArray.ext; simp
theorem back_true (T : ByteArray) (a : Option Addr) (n cap : Nat) (ps : List Pt) (en : Int) (w : World) (hr : RowAt w a (ps.flatMap Pt.cells)) (hn : ps.length = n) (h30 : n ≤ 30) (hss : ∀ p ∈ ps, p.s.size ≤ 300) (H : ∃ sh, T.size ≤ 1000000000 ∧ Chain T ps sh ∧ finB T ps sh = en) :
    Calls Try.prog 29 #[.string T, .slice a n cap, .int .i64 en] w fun e w' => e = .returned (.bool true) ∧ Below w.heap.size w w' := by
  obtain ⟨sh, hT, hC, rfl⟩ := H
  have := back_any T a n cap ps (finB T ps sh) sh w hT hr hn h30 hss hC
  rw [beq_self_eq_true] at this
  exact this
set_option maxRecDepth 100000 in
set_option maxHeartbeats 6400000 in
theorem walkWireBack (a : Option Addr) (n cap : Nat) (ps : List Pt) (more : ByteArray) (w : World) (hr : RowAt w a (ps.flatMap Pt.cells)) (hn : ps.length = n) (hl : n ≤ maxLen) (hss : ∀ p ∈ ps, p.s.size ≤ maxLen) (hm : more.size ≤ maxLen) :
    Calls Try.prog 5 #[.slice a n cap, .string more] w fun e w' => e = .returned (.bool true) ∧ Below w.heap.size w w' := by
  have CF := fun (W : World) (h : RowAt W a (ps.flatMap Pt.cells)) => few_any a n cap ps W h hn hss
  cases hf : fewB ps
  · simp only [hf] at CF
    go_enter Try.func5, Try.ntmps5
    go_wp2_with (first | (go_at_call 8; refine (first4_any _).mono ?_; rintro e wa ⟨rfl, hba⟩; first | (have hbel := hbel.trans (hba.mono hbel.size)) | (have hbel := hba; have hra := hr.below hba)) | (go_at_call 9; refine (CF _ hra).mono ?_; rintro e wb ⟨rfl, hwb⟩; obtain rfl : _ = wb := hwb.symm))
    go_ret
    exact ⟨rfl, hbel⟩
  obtain ⟨h30, h300⟩ := fewB_spec hf
  simp only [hf] at CF
  by_cases h40 : 40 < more.size
  · go_enter Try.func5, Try.ntmps5
    go_wp2_with (first | (go_at_call 8; refine (first4_any _).mono ?_; rintro e wa ⟨rfl, hba⟩; first | (have hbel := hbel.trans (hba.mono hbel.size)) | (have hbel := hba; have hra := hr.below hba)) | (go_at_call 9; refine (CF _ hra).mono ?_; rintro e wb ⟨rfl, hwb⟩; obtain rfl : _ = wb := hwb.symm))
    go_ret
    exact ⟨rfl, hbel⟩
  by_cases h0 : more.size = 0
  · go_enter Try.func5, Try.ntmps5
    go_wp2_with (first | (go_at_call 8; refine (first4_any _).mono ?_; rintro e wa ⟨rfl, hba⟩; first | (have hbel := hbel.trans (hba.mono hbel.size)) | (have hbel := hba; have hra := hr.below hba)) | (go_at_call 9; refine (CF _ hra).mono ?_; rintro e wb ⟨rfl, hwb⟩; obtain rfl : _ = wb := hwb.symm))
    go_ret
    exact ⟨rfl, hbel⟩
  have g0 : ((more.size : Int) == 0) = false := beq_eq_false_iff_ne.2 (by omega)
  have HN := Lib.hid hn
  have hab : ps ≠ [] → ∀ x, a = some x → x.block < w.heap.size := fun h0 x hx => by
    rcases hr with h | ⟨b, off, h1, h2, _⟩
    · cases ps with
      | nil => exact absurd rfl h0
      | cons p ps => have := congrArg List.length h; rw [List.flatMap_cons, List.length_append, Pt.cells_len] at this; simp at this
    · rw [hx] at h1; cases h1; exact h2
  go_enter Try.func5, Try.ntmps5
  go_wp2_with (first | (go_at_call 8; refine (first4_any _).mono ?_; rintro e wa ⟨rfl, hba⟩; have hra := hr.below hba) | (go_at_call 9; refine (CF _ hra).mono ?_; rintro e wb ⟨rfl, hwb⟩; obtain rfl : _ = wb := hwb.symm) | (go_at_call 10; refine (wnew_any wa.heap.size _ (Nat.le_refl _)).mono ?_; rintro e wb ⟨rfl, hW, hbb⟩; have hbel : Below w.heap.size w wb := hba.trans (hbb.mono hba.size)))
  go_loopw [6] (fun i W => ∃ k : Nat, k ≤ n ∧ WP wa.heap.size wa.heap.size W (ps.take k) ∧ Below w.heap.size w W ∧ wa.heap.size ≤ W.heap.size ∧ i = .int .i64 k) (fun i _ => n - (intOf i).toNat)
  case atStart => exact ⟨0, by omega, ⟨[], hW, fun _ => rfl⟩, hbel, hbb.size, rfl⟩
  case round =>
    clear hW hbel hbb CF hra
    obtain ⟨k, hk, hW, hbel, hBw, rfl⟩ := hrel
    by_cases hlt : k < n
    · have hkl : k < ps.length := by rw [HN.out]; exact hlt
      obtain ⟨c, off, rfl, hcl, hrg⟩ := pt_at (hr.below hbel) hkl
      obtain ⟨p, hp⟩ : ∃ p, ps[k] = p := ⟨_, rfl⟩
      have hps : p.s.size ≤ 300 := h300 p (by rw [← hp]; exact List.getElem_mem _)
      have htk : ps.take (k + 1) = ps.take k ++ [p] := by rw [List.take_add_one, List.getElem?_eq_getElem hkl, hp]; rfl
      have hpss : ∀ q ∈ ps.take k, q.s.size ≤ 300 := fun q hq => h300 q (List.mem_of_mem_take hq)
      have hl30 : (ps.take k).length ≤ 30 := by rw [List.length_take]; omega
      rw [hp] at hrg
      have c0 := Pt.at0 hrg
      have c1 := Pt.at1 hrg
      have c2 := Pt.at2 hrg
      have c3 := Pt.at3 hrg
      have HT := Lib.hid htk
      have hk31 : k < 30 := by omega
      clear htk hp hkl hn
      have hiH : (Try.prog.info? 42).map (·.size) = some (Lib.byteCells p.h).length := by rw [Lib.byteCells_length, p.hl]; kernel_rfl
      by_cases k0 : p.kd = 0
      · rw [k0] at c0
        go_wp2_with (go_at_call 26; refine (put_num wa.heap.size _ _ (ps.take k) p hW hBw k0 hpss hl30).mono ?_; rintro e w1 ⟨rfl, hW1, hb1, hk1⟩)
        go_roundw
        case rel => exact ⟨k + 1, by omega, by rw [HT.out]; exact hW1, hbel.trans (hb1.mono hba.size), Nat.le_trans hBw hk1.size, by go_num⟩
        case measure => (simp [intOf]) <;> omega
      have q0 : (p.kd == 0) = false := beq_eq_false_iff_ne.2 k0
      by_cases k1 : p.kd = 1
      · rw [k1] at c0
        go_wp2_with (go_at_call 27; refine (put_text wa.heap.size _ _ (ps.take k) p hW hBw k1 hps hpss hl30).mono ?_; rintro e w1 ⟨rfl, hW1, hb1, hk1⟩)
        go_roundw
        case rel => exact ⟨k + 1, by omega, by rw [HT.out]; exact hW1, hbel.trans (hb1.mono hba.size), Nat.le_trans hBw hk1.size, by go_num⟩
        case measure => (simp [intOf]) <;> omega
      have q1 : (p.kd == 1) = false := beq_eq_false_iff_ne.2 k1
      go_upto_region 12 with fail
      go_wp2_with (first | (refine wpList_load_mid rfl 42 (.tmp 43) rfl c _ rfl (Lib.byteCells p.h) _ c3 Try.underlying42 rfl hiH ?_; rw [hrow_list]) | (go_at_call 28; refine (put_hash wa.heap.size _ _ (ps.take k) p hW hBw k0 k1 hpss hl30).mono ?_; rintro e w1 ⟨rfl, hW1, hb1, hk1⟩))
      go_roundw
      case rel => exact ⟨k + 1, by omega, by rw [HT.out]; exact hW1, hbel.trans (hb1.mono hba.size), Nat.le_trans hBw hk1.size, by go_num⟩
      case measure => (simp [intOf]) <;> omega
    obtain rfl : k = n := by omega
    have ht : ps.take k = ps := List.take_of_length_le (by rw [HN.out]; exact Nat.le_refl _)
    rw [ht] at hW
    obtain ⟨lw, hWA, hlw⟩ := hW
    clear ht
    cases hb : anyBad ps
    rotate_left
    · rw [hb] at hWA
      simp only [cond_true] at hWA
      clear hlw hb
      go_wp2_with (go_at_call 12; refine (wbytes_err wa.heap.size _ _ lw 1 hWA rfl).mono ?_; rintro e wd ⟨rfl, hbd⟩)
      go_ret
      exact ⟨rfl, hbel.trans (hbd.mono hbel.size)⟩
    rw [hb] at hWA
    simp only [cond_false] at hWA
    obtain rfl := hlw hb
    clear hlw
    have hlo := outs_len ps h300
    have hlo2 : (outs ps).length ≤ 9240 := by omega
    have hrow := hr.below hbel
    have CW := wbytes_rd wa.heap.size _ wr (outs ps) hWA.rd hBw
    obtain ⟨S, hS⟩ : ∃ S : ByteArray, (⟨(outs ps).toArray⟩ : ByteArray) = S := ⟨_, rfl⟩
    rw [hS] at CW
    have hSl : S.data.toList = outs ps := by rw [← hS]
    have hSz : S.size = (outs ps).length := by rw [← str_len, hSl]
    have H1 : ∃ sh, S.size ≤ 1000000000 ∧ Chain S ps sh ∧ finB S ps sh = 0 :=
      ⟨false, by omega, chain_more (B := []) (by rw [hSl, List.append_nil]) hb h300, by unfold finB; rw [pos_all, hSz]; simp⟩
    have h2l : (S ++ more).data.toList = outs ps ++ more.data.toList := by rw [← hSl]; simp
    have h2z : (S ++ more).size = S.size + more.size := by simp
    have H2 : ∃ sh, (S ++ more).size ≤ 1000000000 ∧ Chain (S ++ more) ps sh ∧ finB (S ++ more) ps sh = 3 :=
      ⟨false, by omega, chain_more h2l hb h300, by unfold finB; rw [pos_all, h2z, hSz]; simp only [cond_false]; rw [if_pos (by omega)]⟩
    have h3l : (S.extract 0 (S.size - 1)).data.toList = (outs ps).take ((outs ps).length - 1) := by rw [hSz, ← hSl]; simp; rw [List.dropLast_eq_take, str_len]
    have hcat : ¬ 9223372036854775807 < S.size + more.size := by omega
    have BT := fun (T : ByteArray) (en : Int) (W : World) (h : RowAt W a (ps.flatMap Pt.cells)) H => back_true T a k cap ps en W h hn (by omega) h300 H
    have hrow := hr.below hbel
    rcases Nat.eq_zero_or_pos k with hk0 | hk0
    · subst hk0
      clear hS hSl hSz h2l h2z h3l hlo hlo2 hWA
      go_wp2_with (first | (go_at_call 12; refine CW.mono ?_; rintro e wd ⟨rfl, hRd, hbd⟩; have hbq := hbel.trans (hbd.mono hba.size); have hrd := hr.below hbq) | (go_at_call 29; refine (BT _ _ _ hrd ?_).mono ?_; (first | with_reducible exact H1 | with_reducible exact H2); rintro e w1 ⟨rfl, hb1⟩; have hrd := hrd.below hb1; have hbq := hbq.trans (hb1.mono hbq.size)))
      go_ret
      exact ⟨rfl, hbq⟩
    · have hne : ps ≠ [] := fun e => by rw [e] at hn; simp at hn; omega
      have hpos : 0 < S.size := by
        cases ps with
        | nil => exact absurd rfl hne
        | cons p ps =>
          have := bytes_pos (anyBad_at hb (k := 0) (by simp))
          simp only [List.getElem_cons_zero] at this
          rw [hSz]; unfold outs; rw [List.flatMap_cons, List.length_append]; omega
      have H3 : ∃ sh, (S.extract 0 (S.size - 1)).size ≤ 1000000000 ∧ Chain (S.extract 0 (S.size - 1)) ps sh ∧ finB (S.extract 0 (S.size - 1)) ps sh = 2 :=
        ⟨true, by rw [← str_len, h3l]; simp; omega, chain_less hne h3l hb h300, rfl⟩
      have e1 : ((S.size : Int) - 1).toNat = S.size - 1 := by omega
      have e2 : IntKind.i64.wrap ((S.size : Int) - 1) = (S.size : Int) - 1 := IntWalk.i64_in _ (by omega)
      clear hS hSl hSz h2l h2z h3l hlo hlo2 hWA
      go_wp2_with (first | (go_at_call 12; refine CW.mono ?_; rintro e wd ⟨rfl, hRd, hbd⟩; have hbq := hbel.trans (hbd.mono hba.size); have hrd := hr.below hbq) | (go_at_call 29; refine (BT _ _ _ hrd ?_).mono ?_; (first | with_reducible exact H1 | with_reducible exact H2 | with_reducible exact H3); rintro e w1 ⟨rfl, hb1⟩; have hrd := hrd.below hb1; have hbq := hbq.trans (hb1.mono hbq.size)))
      go_ret
      exact ⟨rfl, hbq⟩
end Go.Proofs.Ytngohpkkajcalaa
