/- A Reader of package wire: texts, counts, its end. -/
import Derived.Test.YtfblbholkhdldaaDoorReader2
import Derived.WalkKit
import Derived.ProofKit
import Derived.Handy
import Derived.Below
import Derived.BigQuiet
import Derived.Lib.Hide
import Derived.IntWalk
import Derived.Outline
import Derived.WalkLawsBesides
import Derived.WalkSpells
namespace Go.Proofs.YtfblbholkhdldaaDoor
open Go.RowKit
attribute [local go_sem] strV
theorem wp_nameR {P : Program} {c : Code} {Q : Exit → Act → World → Prop} {a : Act} (E : World) (h : ∀ W, W = E → c.wp P Q a W) : c.wp P Q a E := h E rfl
/-- What Text answers, where it stands behind it, which error it bears. -/
def textF (s : ByteArray) (at_ most : Int) : ByteArray × Int × Int :=
  let x := nextS s.data.toList at_
  if x.2.2 = 0 then (if most < x.1 then (⟨#[]⟩, at_, 4) else if (s.size : Int) - x.2.1 < x.1 then (⟨#[]⟩, at_, 2) else (s.extract x.2.1.toNat (x.2.1 + x.1).toNat, x.2.1 + x.1, 0)) else (⟨#[]⟩, at_, x.2.2)
def countF (s : ByteArray) (at_ most : Int) : Int × Int × Int :=
  let x := nextS s.data.toList at_
  if x.2.2 = 0 then (if most < x.1 then (0, at_, 4) else (x.1, x.2.1, 0)) else (0, at_, x.2.2)
set_option maxRecDepth 100000 in
set_option maxHeartbeats 1600000 in
theorem rtext_any (B b : Nat) (w : World) (s : ByteArray) (at_ most : Int) (h : RAt b w s at_ 0) (hs : s.size ≤ 1000000000) (hB : B ≤ b) :
    Calls Tryd.prog 96 #[.pointer (some ⟨b, 0, none⟩), .int .i64 most] w fun e w' => e = .returned (.string (textF s at_ most).1) ∧ RAt b w' s (textF s at_ most).2.1 (textF s at_ most).2.2 ∧ Below B w w' := by
  have hsm : s.size ≤ maxLen := by unfold maxLen; omega
  obtain ⟨v, n, er, hx⟩ : ∃ v n er, nextS s.data.toList at_ = (v, n, er) := ⟨_, _, _, rfl⟩
  have hlt := h.lt
  have CN := number_ok b w s at_ v n er h hsm hx
  by_cases her : er = 0
  rotate_left
  · have e0 : (er == 0) = false := beq_eq_false_iff_ne.2 her
    have hF : textF s at_ most = (⟨#[]⟩, at_, er) := by unfold textF; rw [hx]; simp [her]
    rw [hF]
    rw [e0] at CN
    clear hF hx
    go_enter Tryd.func96, Tryd.ntmps96
    go_wp2_with (go_at_call 105; refine CN.mono ?_; rintro e w1 ⟨rfl, w0, hb0, hw1⟩)
    go_ret
    exact ⟨rfl, (h.below hb0 hlt).at2 _, (hb0.mono (by omega)).setCell (p := ⟨b, 2, none⟩) hB _⟩
  subst her
  rw [show ((0 : Int) == 0) = true from rfl] at CN
  obtain ⟨i, m, X, rfl, rfl, rfl, hm1, hle, _, hX, _⟩ := next_ok hx
  rw [str_len] at hle
  by_cases ho : most < (X : Int)
  · skip
    have d1 : decide (most < (X : Int)) = true := decide_eq_true ho
    have hF : textF s (i : Int) most = (⟨#[]⟩, (i : Int), 4) := by unfold textF; rw [hx]; simp [ho]
    rw [hF]
    clear hF hx
    go_enter Tryd.func96, Tryd.ntmps96
    go_wp2_with (go_at_call 105; refine CN.mono ?_; rintro e w1 ⟨rfl, w0, hb0, hw1⟩; have h1 : RAt b w1 s (i : Int) 0 := (by rw [hw1]; exact (h.below hb0 hlt).at2 _); have hbB : Below B w w1 := (by rw [hw1]; exact (hb0.mono (by omega)).setCell (p := ⟨b, 2, none⟩) hB _); clear hw1; have c0 := h1.c0; have c1 := h1.c1; have c2 := h1.c2; have f1 := h1.fr 1; have f2 := h1.fr 2)
    go_ret
    exact ⟨rfl, h1.at2 _, hbB.setCell (p := ⟨b, 2, none⟩) hB _⟩
  have d1 : decide (most < (X : Int)) = false := decide_eq_false ho
  by_cases hq : (s.size : Int) - ((i + m : Nat) : Int) < (X : Int)
  · skip
    have hF : textF s (i : Int) most = (⟨#[]⟩, (i : Int), 2) := by unfold textF; rw [hx]; rw [if_pos rfl, if_neg ho, if_pos hq]
    rw [hF]
    clear hF hx
    go_enter Tryd.func96, Tryd.ntmps96
    go_wp2_with (go_at_call 105; refine CN.mono ?_; rintro e w1 ⟨rfl, w0, hb0, hw1⟩; have h1 : RAt b w1 s (i : Int) 0 := (by rw [hw1]; exact (h.below hb0 hlt).at2 _); have hbB : Below B w w1 := (by rw [hw1]; exact (hb0.mono (by omega)).setCell (p := ⟨b, 2, none⟩) hB _); clear hw1; have c0 := h1.c0; have c1 := h1.c1; have c2 := h1.c2; have f1 := h1.fr 1; have f2 := h1.fr 2)
    go_ret
    exact ⟨rfl, h1.at2 _, hbB.setCell (p := ⟨b, 2, none⟩) hB _⟩
  · skip
    have hF : textF s (i : Int) most = (s.extract (i + m) (i + m + X), ((i + m : Nat) : Int) + (X : Int), 0) := by unfold textF; rw [hx]; rw [if_pos rfl, if_neg ho, if_neg hq]; simp only [Int.toNat_natCast]; rw [show (((i + m : Nat) : Int) + (X : Int)).toNat = i + m + X by omega]
    rw [hF]
    clear hF hx
    go_enter Tryd.func96, Tryd.ntmps96
    go_wp2_with (go_at_call 105; refine CN.mono ?_; rintro e w1 ⟨rfl, w0, hb0, hw1⟩; have h1 : RAt b w1 s (i : Int) 0 := (by rw [hw1]; exact (h.below hb0 hlt).at2 _); have hbB : Below B w w1 := (by rw [hw1]; exact (hb0.mono (by omega)).setCell (p := ⟨b, 2, none⟩) hB _); clear hw1; have c0 := h1.c0; have c1 := h1.c1; have c2 := h1.c2; have f1 := h1.fr 1; have f2 := h1.fr 2)
    refine wp_nameR _ (fun W hW => ?_)
    have hR : RAt b W s (((i + m : Nat) : Int) + (X : Int)) 0 := by rw [hW]; exact h1.at1 _
    have hbW : Below B w W := by rw [hW]; exact hbB.setCell (p := ⟨b, 1, none⟩) hB _
    clear hW
    have d0 := hR.c0; have d1 := hR.c1
    have b1 : ((i : Int) + (m : Int)) + (X : Int) ≤ (s.size : Int) := by omega
    have b2 : (i : Int) + (m : Int) ≤ ((i : Int) + (m : Int)) + (X : Int) := by omega
    go_quiet (fail)
    go_wp2
    go_ret
    exact ⟨rfl, hR, hbW.trans ((drewN_below _ _).mono (by have := h.lt; have := hbW.size; omega))⟩
end Go.Proofs.YtfblbholkhdldaaDoor
