/- A Reader of package wire: numbers and hashes, and what they keep. -/
import Derived.Test.YtfblbholkhdldaaDoorReaderU
import Derived.Test.YtfblbholkhdldaaDoorReaderK
import Derived.Lib.BufferWrite
import Derived.Laws.CopyOwn
import Derived.Deep.RegionLaw
import Derived.BigRegion
import Derived.RegionTactic
import Derived.Laws.Tables
import Derived.Laws.Rows
import Derived.Laws.Cells
import Derived.WalkKit
import Derived.ProofKit
import Derived.Handy
import Derived.Below
import Derived.BigQuiet
import Derived.Lib.Hide
import Derived.IntWalk
import Derived.Outline
import Derived.WalkLawsBesides
import Derived.WalkSpells
namespace Go.Proofs.YtfblbholkhdldaaDoor
open Go.RowKit
attribute [local go_sem] strV
theorem Kept.setRow {b g : Nat} {w w1 : World} (h : Kept b w w1) (hg : w.heap.size ≤ g) (cs : Array Value) : Kept b w (w1.setRow g cs) :=
  ⟨h.os, h.tape, h.output, by simpa [World.setRow] using h.size, fun k hk hne => (setRow_other w1 g k cs (by omega)).trans (h.block k hk hne)⟩
set_option maxRecDepth 100000 in
set_option maxHeartbeats 1600000 in
theorem rnum_kept (b : Nat) (w : World) (s : ByteArray) (at_ least most : Int) (h : RAt b w s at_ 0) (hs : s.size ≤ maxLen) :
    Calls Tryd.prog 95 #[.pointer (some ⟨b, 0, none⟩), .int .i64 least, .int .i64 most] w fun e w' => e = .returned (.int .i64 (numF s at_ least most).1) ∧ RAt b w' s (numF s at_ least most).2.1 (numF s at_ least most).2.2 ∧ Kept b w w' := by
  obtain ⟨v, n, er, hx⟩ : ∃ v n er, nextS s.data.toList at_ = (v, n, er) := ⟨_, _, _, rfl⟩
  have hlt := h.lt
  have fin : ∀ (R A E : Int), numF s at_ least most = (R, A, E) → (Calls Tryd.prog 95 #[.pointer (some ⟨b, 0, none⟩), .int .i64 least, .int .i64 most] w fun e w' => e = .returned (.int .i64 R) ∧ RAt b w' s A E ∧ Kept b w w') →
      Calls Tryd.prog 95 #[.pointer (some ⟨b, 0, none⟩), .int .i64 least, .int .i64 most] w fun e w' => e = .returned (.int .i64 (numF s at_ least most).1) ∧ RAt b w' s (numF s at_ least most).2.1 (numF s at_ least most).2.2 ∧ Kept b w w' := fun R A E hf hc => by rw [hf]; exact hc
  have CN := number_ok b w s at_ v n er h hs hx
  by_cases her : er = 0
  rotate_left
  · have e0 : (er == 0) = false := beq_eq_false_iff_ne.2 her
    refine fin _ _ _ (numF_err hx her) ?_
    rw [e0] at CN
    clear fin hx
    go_enter Tryd.func95, Tryd.ntmps95
    go_wp2_with (go_at_call 105; refine CN.mono ?_; rintro e w1 ⟨rfl, w0, hb0, hw1⟩)
    go_ret
    exact ⟨rfl, (h.below hb0 hlt).at2 _, (Kept.of hb0).setCell _ _⟩
  subst her
  rw [show ((0 : Int) == 0) = true from rfl] at CN
  by_cases ho : v < least ∨ most < v
  · refine fin _ _ _ (numF_out hx ho) ?_
    clear fin hx
    obtain ⟨c1, hc1⟩ : ∃ c, decide (v < least) = c := ⟨_, rfl⟩
    have hd2 : c1 = false → decide (most < v) = true := fun e => decide_eq_true (by
      rcases ho with h1 | h1
      · rw [decide_eq_true h1] at hc1; rw [← hc1] at e; cases e
      · exact h1)
    cases c1
    · have d2 := hd2 rfl
      clear hd2 ho
      go_enter Tryd.func95, Tryd.ntmps95
      go_wp2_with (go_at_call 105; refine CN.mono ?_; rintro e w1 ⟨rfl, w0, hb0, hw1⟩; have h1 : RAt b w1 s at_ 0 := (by rw [hw1]; exact (h.below hb0 hlt).at2 _); have c2 := h1.c2; have f2 := h1.fr 2; have hbB : Kept b w w1 := (by rw [hw1]; exact (Kept.of hb0).setCell _ _); clear hw1)
      go_ret
      exact ⟨rfl, h1.at2 _, hbB.setCell _ _⟩
    · clear hd2 ho
      go_enter Tryd.func95, Tryd.ntmps95
      go_wp2_with (go_at_call 105; refine CN.mono ?_; rintro e w1 ⟨rfl, w0, hb0, hw1⟩; have h1 : RAt b w1 s at_ 0 := (by rw [hw1]; exact (h.below hb0 hlt).at2 _); have c2 := h1.c2; have f2 := h1.fr 2; have hbB : Kept b w w1 := (by rw [hw1]; exact (Kept.of hb0).setCell _ _); clear hw1)
      go_ret
      exact ⟨rfl, h1.at2 _, hbB.setCell _ _⟩
  · refine fin _ _ _ (numF_in hx ho) ?_
    have d1 : decide (v < least) = false := decide_eq_false (by omega)
    have d2 : decide (most < v) = false := decide_eq_false (by omega)
    clear fin hx ho
    go_enter Tryd.func95, Tryd.ntmps95
    go_wp2_with (go_at_call 105; refine CN.mono ?_; rintro e w1 ⟨rfl, w0, hb0, hw1⟩; have h1 : RAt b w1 s at_ 0 := (by rw [hw1]; exact (h.below hb0 hlt).at2 _); have c1 := h1.c1; have f1 := h1.fr 1; have hbB : Kept b w w1 := (by rw [hw1]; exact (Kept.of hb0).setCell _ _); clear hw1)
    go_ret
    exact ⟨rfl, h1.at1 _, hbB.setCell _ _⟩
end Go.Proofs.YtfblbholkhdldaaDoor
