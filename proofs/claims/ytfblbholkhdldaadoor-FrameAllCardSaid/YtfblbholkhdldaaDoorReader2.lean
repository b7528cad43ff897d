/- A Reader of package wire: a number, a hash; what the examples fix. -/
import Derived.Test.YtfblbholkhdldaaDoorReader
import Derived.Test.YtfblbholkhdldaaDoorLebNext
import Derived.WalkKit
import Derived.ProofKit
import Derived.Handy
import Derived.Below
import Derived.BigQuiet
import Derived.Lib.Hide
import Derived.IntWalk
import Derived.Outline
import Derived.WalkLawsBesides
import Derived.WalkSpells
namespace Go.Proofs.YtfblbholkhdldaaDoor
open Go.RowKit
attribute [local go_sem] strV
/-- What Num answers, where it stands behind it, which error it bears. -/
def numF (s : ByteArray) (at_ least most : Int) : Int × Int × Int :=
  let x := nextS s.data.toList at_
  if x.2.2 = 0 then (if x.1 < least ∨ most < x.1 then (0, at_, 1) else (x.1, x.2.1, 0)) else (0, at_, x.2.2)
theorem numF_err {s : ByteArray} {at_ least most v n er : Int} (hx : nextS s.data.toList at_ = (v, n, er)) (he : er ≠ 0) : numF s at_ least most = (0, at_, er) := by
  unfold numF; rw [hx]; simp [he]
theorem numF_out {s : ByteArray} {at_ least most v n : Int} (hx : nextS s.data.toList at_ = (v, n, 0)) (ho : v < least ∨ most < v) : numF s at_ least most = (0, at_, 1) := by
  unfold numF; rw [hx]; simp only [if_pos trivial]; rw [if_pos ho]
theorem numF_in {s : ByteArray} {at_ least most v n : Int} (hx : nextS s.data.toList at_ = (v, n, 0)) (ho : ¬ (v < least ∨ most < v)) : numF s at_ least most = (v, n, 0) := by
  unfold numF; rw [hx]; simp only [if_pos trivial]; rw [if_neg ho]
set_option maxRecDepth 100000 in
set_option maxHeartbeats 1600000 in
theorem rnum_any (B b : Nat) (w : World) (s : ByteArray) (at_ least most : Int) (h : RAt b w s at_ 0) (hs : s.size ≤ maxLen) (hB : B ≤ b) :
    Calls Tryd.prog 95 #[.pointer (some ⟨b, 0, none⟩), .int .i64 least, .int .i64 most] w fun e w' => e = .returned (.int .i64 (numF s at_ least most).1) ∧ RAt b w' s (numF s at_ least most).2.1 (numF s at_ least most).2.2 ∧ Below B w w' := by
  obtain ⟨v, n, er, hx⟩ : ∃ v n er, nextS s.data.toList at_ = (v, n, er) := ⟨_, _, _, rfl⟩
  have hlt := h.lt
  have fin : ∀ (R A E : Int), numF s at_ least most = (R, A, E) → (Calls Tryd.prog 95 #[.pointer (some ⟨b, 0, none⟩), .int .i64 least, .int .i64 most] w fun e w' => e = .returned (.int .i64 R) ∧ RAt b w' s A E ∧ Below B w w') →
      Calls Tryd.prog 95 #[.pointer (some ⟨b, 0, none⟩), .int .i64 least, .int .i64 most] w fun e w' => e = .returned (.int .i64 (numF s at_ least most).1) ∧ RAt b w' s (numF s at_ least most).2.1 (numF s at_ least most).2.2 ∧ Below B w w' := fun R A E hf hc => by rw [hf]; exact hc
  have CN := number_ok b w s at_ v n er h hs hx
  by_cases her : er = 0
  rotate_left
  · have e0 : (er == 0) = false := beq_eq_false_iff_ne.2 her
    refine fin _ _ _ (numF_err hx her) ?_
    rw [e0] at CN
    clear fin hx
    go_enter Tryd.func95, Tryd.ntmps95
    go_wp2_with (go_at_call 105; refine CN.mono ?_; rintro e w1 ⟨rfl, w0, hb0, hw1⟩)
    go_ret
    exact ⟨rfl, (h.below hb0 hlt).at2 _, (hb0.mono (by omega)).setCell (p := ⟨b, 2, none⟩) hB _⟩
  subst her
  rw [show ((0 : Int) == 0) = true from rfl] at CN
  by_cases ho : v < least ∨ most < v
  · refine fin _ _ _ (numF_out hx ho) ?_
    clear fin hx
    obtain ⟨c1, hc1⟩ : ∃ c, decide (v < least) = c := ⟨_, rfl⟩
    have hd2 : c1 = false → decide (most < v) = true := fun e => decide_eq_true (by
      rcases ho with h1 | h1
      · rw [decide_eq_true h1] at hc1; rw [← hc1] at e; cases e
      · exact h1)
    cases c1
    · have d2 := hd2 rfl
      clear hd2 ho
      go_enter Tryd.func95, Tryd.ntmps95
      go_wp2_with (go_at_call 105; refine CN.mono ?_; rintro e w1 ⟨rfl, w0, hb0, hw1⟩; have h1 : RAt b w1 s at_ 0 := (by rw [hw1]; exact (h.below hb0 hlt).at2 _); have c2 := h1.c2; have f2 := h1.fr 2; have hbB : Below B w w1 := (by rw [hw1]; exact (hb0.mono (by omega)).setCell (p := ⟨b, 2, none⟩) hB _); clear hw1)
      go_ret
      exact ⟨rfl, h1.at2 _, hbB.setCell (p := ⟨b, 2, none⟩) hB _⟩
    · clear hd2 ho
      go_enter Tryd.func95, Tryd.ntmps95
      go_wp2_with (go_at_call 105; refine CN.mono ?_; rintro e w1 ⟨rfl, w0, hb0, hw1⟩; have h1 : RAt b w1 s at_ 0 := (by rw [hw1]; exact (h.below hb0 hlt).at2 _); have c2 := h1.c2; have f2 := h1.fr 2; have hbB : Below B w w1 := (by rw [hw1]; exact (hb0.mono (by omega)).setCell (p := ⟨b, 2, none⟩) hB _); clear hw1)
      go_ret
      exact ⟨rfl, h1.at2 _, hbB.setCell (p := ⟨b, 2, none⟩) hB _⟩
  · refine fin _ _ _ (numF_in hx ho) ?_
    have d1 : decide (v < least) = false := decide_eq_false (by omega)
    have d2 : decide (most < v) = false := decide_eq_false (by omega)
    clear fin hx ho
    go_enter Tryd.func95, Tryd.ntmps95
    go_wp2_with (go_at_call 105; refine CN.mono ?_; rintro e w1 ⟨rfl, w0, hb0, hw1⟩; have h1 : RAt b w1 s at_ 0 := (by rw [hw1]; exact (h.below hb0 hlt).at2 _); have c1 := h1.c1; have f1 := h1.fr 1; have hbB : Below B w w1 := (by rw [hw1]; exact (hb0.mono (by omega)).setCell (p := ⟨b, 2, none⟩) hB _); clear hw1)
    go_ret
    exact ⟨rfl, h1.at1 _, hbB.setCell (p := ⟨b, 1, none⟩) hB _⟩
end Go.Proofs.YtfblbholkhdldaaDoor
