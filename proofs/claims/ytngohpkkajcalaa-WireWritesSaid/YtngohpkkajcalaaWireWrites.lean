/- WireWrites, walked. -/
import Derived.Test.YtngohpkkajcalaaWrite
import Derived.Test.YtngohpkkajcalaaReader2
import Derived.WalkKit
import Derived.ProofKit
import Derived.Handy
import Derived.Below
import Derived.BigQuiet
import Derived.Lib.Hide
import Derived.IntWalk
import Derived.Outline
import Derived.WalkLawsBesides
import Derived.WalkSpells
namespace Go.Proofs.Ytngohpkkajcalaa
open Go.RowKit
attribute [local go_sem] strV
set_option linter.unusedVariables false
/-- write, whatever block the empty slice names. -/
theorem WR (B : Nat) {b : Nat} {w0 : World} (a : Option Addr) (n cap : Nat) (ps : List Pt) (w : World) (hr : RowAt w a (ps.flatMap Pt.cells)) (hBs : w0.heap.size ≤ B) (hab : ∀ x, a = some x → x.block < w0.heap.size ∨ ps = []) (hn : ps.length = n) (h30 : ps.length ≤ 30) (hss : ∀ p ∈ ps, p.s.size ≤ 300) (hW : WP B b w []) (hBw : B ≤ w.heap.size) :
    Calls Try.prog 11 #[.pointer (some ⟨b, 0, none⟩), .slice a n cap] w fun e w' => e = .returned (.tuple #[.string (bif anyBad ps then ⟨#[]⟩ else ⟨(outs ps).toArray⟩), .int .i64 (bif anyBad ps then 1 else 0)]) ∧ WP B b w' ps ∧ Below B w w' := by
  refine write_any B b a n cap ps w hr (fun h0 x hx => ?_) hn (by omega) hss hW hBw
  rcases hab x hx with h | h
  · omega
  · exact absurd h h0
set_option maxRecDepth 100000 in
set_option maxHeartbeats 6400000 in
theorem walkWireWrites (a : Option Addr) (n cap : Nat) (ps : List Pt) (w : World) (hr : RowAt w a (ps.flatMap Pt.cells)) (hn : ps.length = n) (hl : n ≤ maxLen) (hss : ∀ p ∈ ps, p.s.size ≤ maxLen) :
    Calls Try.prog 3 #[.slice a n cap] w fun e w' => e = .returned (.bool true) ∧ Below w.heap.size w w' := by
  cases hf : fewB ps
  · go_enter Try.func3, Try.ntmps3
    have CF := fun (W : World) (h : RowAt W a (ps.flatMap Pt.cells)) => few_any a n cap ps W h hn hss
    simp only [hf] at CF
    go_wp2_with (first | (go_at_call 8; refine (first4_any _).mono ?_; rintro e wa ⟨rfl, hba⟩; first | (have hbel := hbel.trans (hba.mono hbel.size)) | (have hbel := hba; have hra := hr.below hba)) | (go_at_call 9; refine (CF _ hra).mono ?_; rintro e wb ⟨rfl, hwb⟩; obtain rfl : _ = wb := hwb.symm))
    go_ret
    exact ⟨rfl, hbel⟩
  obtain ⟨h30, h300⟩ := fewB_spec hf
  have CF := fun (W : World) (h : RowAt W a (ps.flatMap Pt.cells)) => few_any a n cap ps W h hn hss
  simp only [hf] at CF
  have hab : ∀ x, a = some x → x.block < w.heap.size ∨ ps = [] := fun x hx => by
    rcases hr with h | ⟨b, off, h1, h2, _⟩
    · right
      cases ps with
      | nil => rfl
      | cons p ps => have := congrArg List.length h; rw [List.flatMap_cons, List.length_append, Pt.cells_len] at this; simp at this
    · left; rw [hx] at h1; cases h1; exact h2
  cases hb : anyBad ps
  · go_enter Try.func3, Try.ntmps3
    go_wp2_with (first | (go_at_call 8; refine (first4_any _).mono ?_; rintro e wa ⟨rfl, hba⟩; have hra := hr.below hba) | (go_at_call 9; refine (CF _ hra).mono ?_; rintro e wb ⟨rfl, hwb⟩; obtain rfl : _ = wb := hwb.symm) | (go_at_call 10; refine (wnew_any wa.heap.size _ (Nat.le_refl _)).mono ?_; rintro e wb ⟨rfl, hW, hbb⟩; have hrb := hra.below hbb; have hbel : Below w.heap.size w wb := hba.trans (hbb.mono hba.size)) | (go_at_call 11; refine (WR wa.heap.size a n cap ps wb hrb hba.size hab hn h30 h300 ⟨[], hW, fun _ => rfl⟩ hbb.size).mono ?_; rw [hb]; rintro e wc ⟨rfl, hWc, hbc⟩; have hbel := hbel.trans (hbc.mono hba.size); have hBc := Nat.le_trans hbb.size hbc.size; obtain ⟨lw, hWA, hlw⟩ := hWc; rw [hb] at hWA; simp only [cond_false] at hWA; obtain rfl := hlw hb) | (go_at_call 12; first | (refine (wbytes_rd wa.heap.size _ _ (outs ps) hRd hBd).mono ?_; rintro e we ⟨rfl, hRe, hbe⟩; have hbel := hbel.trans (hbe.mono hba.size)) | (refine (wbytes_rd wa.heap.size _ _ (outs ps) hWA.rd hBc).mono ?_; rintro e wd ⟨rfl, hRd, hbd⟩; have hbel := hbel.trans (hbd.mono hba.size); have hBd := Nat.le_trans hBc hbd.size)))
    go_ret
    exact ⟨rfl, hbel⟩
  · go_enter Try.func3, Try.ntmps3
    go_wp2_with (first | (go_at_call 8; refine (first4_any _).mono ?_; rintro e wa ⟨rfl, hba⟩; have hra := hr.below hba) | (go_at_call 9; refine (CF _ hra).mono ?_; rintro e wb ⟨rfl, hwb⟩; obtain rfl : _ = wb := hwb.symm) | (go_at_call 10; refine (wnew_any wa.heap.size _ (Nat.le_refl _)).mono ?_; rintro e wb ⟨rfl, hW, hbb⟩; have hrb := hra.below hbb; have hbel : Below w.heap.size w wb := hba.trans (hbb.mono hba.size)) | (go_at_call 11; refine (WR wa.heap.size a n cap ps wb hrb hba.size hab hn h30 h300 ⟨[], hW, fun _ => rfl⟩ hbb.size).mono ?_; rw [hb]; rintro e wc ⟨rfl, hWc, hbc⟩; have hbel := hbel.trans (hbc.mono hba.size); have hBc := Nat.le_trans hbb.size hbc.size; obtain ⟨lw, hWA, hlw⟩ := hWc; rw [hb] at hWA; simp only [cond_true] at hWA) | (go_at_call 12; first | (refine (wbytes_err wa.heap.size _ _ lw 1 hWd rfl).mono ?_; rintro e we ⟨rfl, hbe⟩; have hbel := hbel.trans (hbe.mono hbel.size)) | (refine (wbytes_err wa.heap.size _ _ lw 1 hWA rfl).mono ?_; rintro e wd ⟨rfl, hbd⟩; have hbel := hbel.trans (hbd.mono hbel.size); have hWd := hWA.below hbd)))
    go_ret
    exact ⟨rfl, hbel⟩
end Go.Proofs.Ytngohpkkajcalaa
