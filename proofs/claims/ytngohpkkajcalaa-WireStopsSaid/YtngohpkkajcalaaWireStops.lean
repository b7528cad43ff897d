/- WireStops, walked. -/
import Derived.Test.YtngohpkkajcalaaReader2
import Derived.Test.YtngohpkkajcalaaReaderH
import Derived.Test.YtngohpkkajcalaaGtOpen
import Derived.WalkKit
import Derived.ProofKit
import Derived.Handy
import Derived.Below
import Derived.BigQuiet
import Derived.Lib.Hide
import Derived.IntWalk
import Derived.Outline
import Derived.WalkLawsBesides
import Derived.WalkSpells
namespace Go.Proofs.Ytngohpkkajcalaa
open Go.RowKit
attribute [local go_sem] strV
set_option linter.unusedVariables false
theorem numF_cases (s : ByteArray) (least most : Int) : ∃ R A E, numF s 0 least most = (R, A, E) ∧ ((E = 0 ∧ least ≤ R ∧ R ≤ most ∧ 0 < A ∧ A ≤ s.size) ∨ (E ≠ 0 ∧ R = 0 ∧ A = 0)) := by
  obtain ⟨v, n, er, hx⟩ : ∃ v n er, nextS s.data.toList 0 = (v, n, er) := ⟨_, _, _, rfl⟩
  by_cases her : er = 0
  rotate_left
  · exact ⟨_, _, _, numF_err hx her, .inr ⟨her, rfl, rfl⟩⟩
  subst her
  by_cases ho : v < least ∨ most < v
  · exact ⟨_, _, _, numF_out hx ho, .inr ⟨by decide, rfl, rfl⟩⟩
  · obtain ⟨i, m, x, h1, h2, h3, h4, h5, _⟩ := next_ok hx
    rw [str_len] at h5
    exact ⟨_, _, _, numF_in hx ho, .inl ⟨rfl, by omega, by omega, by omega, by omega⟩⟩
set_option maxRecDepth 100000 in
set_option maxHeartbeats 6400000 in
theorem walkWireStops (s : ByteArray) (least most : Int) (a : Option Addr) (n cap : Nat) (gs : List Gt) (w : World) (hs : s.size ≤ maxLen) (hr : RowAt w a (gs.flatMap Gt.cells)) (hn : gs.length = n) (hl : n ≤ maxLen) :
    Calls Try.prog 6 #[.string s, .int .i64 least, .int .i64 most, .slice a n cap] w fun e w' => e = .returned (.bool true) ∧ Below w.heap.size w w' := by
  have HN := Lib.hid hn; clear hn
  by_cases h300 : 300 < s.size
  · go_enter Try.func6, Try.ntmps6
    go_wp2_with (go_at_call 8; refine (first4_any _).mono ?_; rintro e wa ⟨rfl, hba⟩)
    go_ret
    exact ⟨rfl, by repeat (first | assumption | exact Below.refl _ _ | refine bch ?_ (by assumption) | refine Below.alloc ?_ (by simp) _)⟩
  by_cases h20 : 20 < n
  · go_enter Try.func6, Try.ntmps6
    go_wp2_with (go_at_call 8; refine (first4_any _).mono ?_; rintro e wa ⟨rfl, hba⟩)
    go_ret
    exact ⟨rfl, by repeat (first | assumption | exact Below.refl _ _ | refine bch ?_ (by assumption) | refine Below.alloc ?_ (by simp) _)⟩
  obtain ⟨R, A, E, hF, hC⟩ := numF_cases s least most
  rcases hC with ⟨hE, h1, h2, h3, h4⟩ | ⟨hE, hR0, hA0⟩
  · subst hE
    have d1 : decide (least ≤ R) = true := decide_eq_true h1
    have d2 : decide (R ≤ most) = true := decide_eq_true h2
    have d3 : decide (0 < A) = true := decide_eq_true h3
    have d4 : decide (A ≤ (s.size : Int)) = true := decide_eq_true h4
    clear h1 h2 h3 h4
    go_enter Try.func6, Try.ntmps6
    go_wp2_with (first | (go_at_call 8; refine (first4_any _).mono ?_; rintro e wa ⟨rfl, hba⟩) | (go_at_call 13; refine (rof_any s _).mono ?_; rintro e wb ⟨rfl, hR, hbb⟩) | (go_at_call 14; refine (rnum_any w.heap.size wa.heap.size _ s 0 least most hR hs hba.size).mono ?_; rw [hF]; rintro e wr ⟨rfl, hR2, hbc⟩; have hbel : Below w.heap.size w wr := ((hba.trans (hbb.mono hba.size)).trans hbc)) | (go_at_call 23; refine (rerr_any _ _ _ _ _ hR2).mono ?_; rintro e wx ⟨rfl, hwx⟩; obtain rfl : _ = wx := hwx.symm) | (go_at_call 22; refine (rat_any _ _ _ _ _ hR2).mono ?_; rintro e wx ⟨rfl, hwx⟩; obtain rfl : _ = wx := hwx.symm))
    go_ret
    exact ⟨rfl, hbel⟩
  · subst hR0
    subst hA0
    have hEQ : ∀ W, (Op.equalIn 10000 42 (.agg #[.int .u8 0, .int .u8 0, .int .u8 0, .int .u8 0, .int .u8 0, .int .u8 0, .int .u8 0, .int .u8 0, .int .u8 0, .int .u8 0, .int .u8 0, .int .u8 0, .int .u8 0, .int .u8 0, .int .u8 0, .int .u8 0, .int .u8 0, .int .u8 0, .int .u8 0, .int .u8 0, .int .u8 0, .int .u8 0, .int .u8 0, .int .u8 0, .int .u8 0, .int .u8 0, .int .u8 0, .int .u8 0, .int .u8 0, .int .u8 0, .int .u8 0, .int .u8 0]) (.agg #[.int .u8 0, .int .u8 0, .int .u8 0, .int .u8 0, .int .u8 0, .int .u8 0, .int .u8 0, .int .u8 0, .int .u8 0, .int .u8 0, .int .u8 0, .int .u8 0, .int .u8 0, .int .u8 0, .int .u8 0, .int .u8 0, .int .u8 0, .int .u8 0, .int .u8 0, .int .u8 0, .int .u8 0, .int .u8 0, .int .u8 0, .int .u8 0, .int .u8 0, .int .u8 0, .int .u8 0, .int .u8 0, .int .u8 0, .int .u8 0, .int .u8 0, .int .u8 0])).run Try.prog W = .ok true W := fun W => by kernel_rfl
    have he : (E == 0) = false := beq_eq_false_iff_ne.2 hE
    go_enter Try.func6, Try.ntmps6
    go_wp2_with (first | (go_at_call 8; refine (first4_any _).mono ?_; rintro e wa ⟨rfl, hba⟩) | (go_at_call 13; refine (rof_any s _).mono ?_; rintro e wb ⟨rfl, hR, hbb⟩) | (go_at_call 14; refine (rnum_any w.heap.size wa.heap.size _ s 0 least most hR hs hba.size).mono ?_; rw [hF]; rintro e wr ⟨rfl, hR2, hbc⟩; have hbel : Below w.heap.size w wr := ((hba.trans (hbb.mono hba.size)).trans hbc)) | (go_at_call 23; refine (rerr_any _ _ _ _ _ hR2).mono ?_; rintro e wx ⟨rfl, hwx⟩; obtain rfl : _ = wx := hwx.symm) | (go_at_call 22; refine (rat_any _ _ _ _ _ hR2).mono ?_; rintro e wx ⟨rfl, hwx⟩; obtain rfl : _ = wx := hwx.symm))
    have hRb : wa.heap.size < wr.heap.size := hR2.lt
    go_loopw [13] (fun i wr => ∃ k : Nat, k ≤ n ∧ RAt wa.heap.size wr s 0 E ∧ Below w.heap.size w wr ∧ i = .int .i64 k) (fun i _ => n - (intOf i).toNat)
    case atStart => exact ⟨0, by omega, hR2, hbel, rfl⟩
    case round =>
      clear hR2 hbel hRb
      obtain ⟨k, hk, hR2, hbel, rfl⟩ := hrel
      by_cases hlt : k < n
      · obtain ⟨b, off, rfl, hbl, _, _, c2⟩ := gt_at (hr.below hbel) (k := k) (by rw [HN.out]; exact hlt)
        go_wp2_with (first | (go_at_call 14; refine (rnum_err _ _ _ _ _ 0 72057594037927935 hR2 he).mono ?_; rintro e wd ⟨rfl, hbd⟩; have hR2 := hR2.below hbd hR2.lt; have hbel := hbel.trans (hbd.mono hbel.size); obtain ⟨hcd, _⟩ := bcell hbd; have c2 := (hcd _ _ hbl).trans c2; have hbl := Nat.lt_of_lt_of_le hbl hbd.size) | (go_at_call 16; refine (rtext_err _ _ _ _ _ 300 hR2 he).mono ?_; rintro e we ⟨rfl, hbe⟩; have hR2 := hR2.below hbe hR2.lt; have hbel := hbel.trans (hbe.mono hbel.size); obtain ⟨hce, _⟩ := bcell hbe; have c2 := (hce _ _ hbl).trans c2; have hbl := Nat.lt_of_lt_of_le hbl hbe.size) | (go_at_call 18; refine (rhash_err _ _ _ _ _  hR2 he).mono ?_; rintro e wf ⟨rfl, hbf⟩; have hR2 := hR2.below hbf hR2.lt; have hbel := hbel.trans (hbf.mono hbel.size); obtain ⟨hcf, _⟩ := bcell hbf; have c2 := (hcf _ _ hbl).trans c2; have hbl := Nat.lt_of_lt_of_le hbl hbf.size) | (go_at_call 20; refine (rcount_err _ _ _ _ _ _ hR2 he).mono ?_; rintro e wg ⟨rfl, hbg⟩; have hR2 := hR2.below hbg hR2.lt; have hbel := hbel.trans (hbg.mono hbel.size); obtain ⟨hcg, _⟩ := bcell hbg; have c2 := (hcg _ _ hbl).trans c2; have hbl := Nat.lt_of_lt_of_le hbl hbg.size) | (go_at_call 24; refine (rend_err _ _ _ _ _  hR2 he).mono ?_; rintro e wh ⟨rfl, hbh⟩; have hR2 := hR2.below hbh hR2.lt; have hbel := hbel.trans (hbh.mono hbel.size); obtain ⟨hch, _⟩ := bcell hbh; have c2 := (hch _ _ hbl).trans c2; have hbl := Nat.lt_of_lt_of_le hbl hbh.size) | (go_at_call 23; refine (rerr_any _ _ _ _ _ hR2).mono ?_; rintro e wx ⟨rfl, hwx⟩; obtain rfl : _ = wx := hwx.symm) | (go_at_call 22; refine (rat_any _ _ _ _ _ hR2).mono ?_; rintro e wx ⟨rfl, hwx⟩; obtain rfl : _ = wx := hwx.symm))
        go_roundw
        case rel => exact ⟨k + 1, by omega, hR2, hbel, by go_num⟩
        case measure => (simp [intOf]) <;> omega
      · go_wp2
        go_ret
        exact ⟨rfl, hbel⟩
end Go.Proofs.Ytngohpkkajcalaa
