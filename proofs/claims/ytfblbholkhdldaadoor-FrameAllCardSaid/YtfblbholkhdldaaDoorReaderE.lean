/- Readers: where they end; the document's own reader: texts. -/
import Derived.Test.YtfblbholkhdldaaDoorReaderQ
import Derived.BigQuiet
import Derived.WalkKit
import Derived.ProofKit
import Derived.Handy
import Derived.Below
import Derived.BigQuiet
import Derived.Lib.Hide
import Derived.IntWalk
import Derived.Outline
import Derived.WalkLawsBesides
import Derived.WalkSpells
namespace Go.Proofs.YtfblbholkhdldaaDoor
open Go.RowKit
attribute [local go_sem] strV
def endF (s : ByteArray) (at_ err : Int) : Int := if err = 0 then (if at_ < s.size then 3 else 0) else err
set_option maxRecDepth 100000 in
set_option maxHeartbeats 1600000 in
theorem rend_any (b : Nat) (w : World) (s : ByteArray) (at_ err : Int) (h : RAt b w s at_ err) :
    Calls Tryd.prog 71 #[.pointer (some ⟨b, 0, none⟩)] w fun e w' => e = .returned (.int .i64 (endF s at_ err)) ∧ Below w.heap.size w w' := by
  have c0 := h.c0; have c1 := h.c1; have c2 := h.c2
  by_cases he : err = 0
  rotate_left
  · have e0 : (err == 0) = false := beq_eq_false_iff_ne.2 he
    have hF : endF s at_ err = err := by unfold endF; rw [if_neg he]
    rw [hF]
    clear hF
    go_enter Tryd.func71, Tryd.ntmps71
    go_wp2
    go_quiet (fail)
    go_wp2
    go_ret
    exact ⟨rfl, drewN_below _ _⟩
  subst he
  cases hl : decide (at_ < (s.size : Int))
  · have hF : endF s at_ 0 = 0 := by unfold endF; rw [if_pos rfl, if_neg (of_decide_eq_false hl)]
    rw [hF]
    clear hF
    go_enter Tryd.func71, Tryd.ntmps71
    go_wp2
    go_quiet (fail)
    go_wp2
    go_ret
    exact ⟨rfl, drewN_below _ _⟩
  · have hF : endF s at_ 0 = 3 := by unfold endF; rw [if_pos rfl, if_pos (of_decide_eq_true hl)]
    rw [hF]
    clear hF
    go_enter Tryd.func71, Tryd.ntmps71
    go_wp2
    go_quiet (fail)
    go_wp2
    go_ret
    exact ⟨rfl, drewN_below _ _⟩
set_option maxRecDepth 100000 in
set_option maxHeartbeats 1600000 in
theorem qend_any (b : Nat) (w : World) (s : ByteArray) (at_ err : Int) (h : QAt b w s at_ err) :
    Calls Tryd.prog 73 #[.pointer (some ⟨b, 0, none⟩)] w fun e w' => e = .returned (.int .i64 (endF s at_ err)) ∧ Below w.heap.size w w' := by
  have c0 := h.c0; have c1 := h.c1; have c2 := h.c2
  by_cases he : err = 0
  rotate_left
  · have e0 : (err == 0) = false := beq_eq_false_iff_ne.2 he
    have hF : endF s at_ err = err := by unfold endF; rw [if_neg he]
    rw [hF]
    clear hF
    go_enter Tryd.func73, Tryd.ntmps73
    go_wp2
    go_ret
    exact ⟨rfl, Below.refl _ _⟩
  subst he
  cases hl : decide (at_ < (s.size : Int))
  · have hF : endF s at_ 0 = 0 := by unfold endF; rw [if_pos rfl, if_neg (of_decide_eq_false hl)]
    rw [hF]
    clear hF
    go_enter Tryd.func73, Tryd.ntmps73
    go_wp2
    go_quiet (fail)
    go_wp2
    go_ret
    exact ⟨rfl, drewN_below _ _⟩
  · have hF : endF s at_ 0 = 3 := by unfold endF; rw [if_pos rfl, if_pos (of_decide_eq_true hl)]
    rw [hF]
    clear hF
    go_enter Tryd.func73, Tryd.ntmps73
    go_wp2
    go_quiet (fail)
    go_wp2
    go_ret
    exact ⟨rfl, drewN_below _ _⟩
set_option maxRecDepth 100000 in
set_option maxHeartbeats 1600000 in
theorem qtext_any (B b : Nat) (w : World) (s : ByteArray) (at_ most : Int) (h : QAt b w s at_ 0) (hs : s.size ≤ 1000000000) (hB : B ≤ b) :
    Calls Tryd.prog 97 #[.pointer (some ⟨b, 0, none⟩), .int .i64 most] w fun e w' => e = .returned (.string (textF s at_ most).1) ∧ QAt b w' s (textF s at_ most).2.1 (textF s at_ most).2.2 ∧ Below B w w' := by
  have hsm : s.size ≤ maxLen := by unfold maxLen; omega
  obtain ⟨v, n, er, hx⟩ : ∃ v n er, nextS s.data.toList at_ = (v, n, er) := ⟨_, _, _, rfl⟩
  have hlt := h.lt
  have hBw : B ≤ w.heap.size := by omega
  have c0 := h.c0; have c1 := h.c1; have c2 := h.c2
  obtain ⟨hbc, hbf⟩ := beyond_cells (W := w)
  have C1 : ∀ n' : Beyond w, Calls Tryd.prog 106 #[.string s, .int .i64 at_] n'.x fun e w' => e = .returned (.tuple #[.int .i64 v, .int .i64 n, .int .i64 er]) ∧ Below n'.x.heap.size n'.x w' := fun n' => (refNextB s at_ n'.x hsm).mono fun e w' ⟨h1, h2⟩ => ⟨by rw [h1, hx]; rfl, h2⟩
  by_cases her : er = 0
  rotate_left
  · have e0 : (er == 0) = false := beq_eq_false_iff_ne.2 her
    have hF : textF s at_ most = (⟨#[]⟩, at_, er) := by unfold textF; rw [hx]; simp [her]
    rw [hF]
    clear hF hx
    go_enter Tryd.func97, Tryd.ntmps97
    go_wp2
    refine wp_region_below (by kernel_rfl) (by kernel_rfl) ?_
    repeat (go_big_quiet_step ((go_at_call 106; exact quiet_below (C1 _))))
    intro w9 hw9
    have hb9 := beyond_below hw9
    have h9 := h.below hb9 hlt
    have hbB : Below B w w9 := hb9.mono hBw
    have d0 := h9.c0; have d1 := h9.c1; have d2 := h9.c2; have f1 := h9.fr 1; have f2 := h9.fr 2
    go_wp2
    go_ret
    exact ⟨rfl, h9.at2 _, hbB.setCell (p := ⟨b, 2, none⟩) hB _⟩
  subst her
  obtain ⟨i, m, X, rfl, rfl, rfl, hm1, hle, _, hX, _⟩ := next_ok hx
  rw [str_len] at hle
  by_cases ho : most < (X : Int)
  · skip
    have g1 : decide (most < (X : Int)) = true := decide_eq_true ho
    have hF : textF s (i : Int) most = (⟨#[]⟩, (i : Int), 4) := by unfold textF; rw [hx]; simp [ho]
    rw [hF]
    clear hF hx
    go_enter Tryd.func97, Tryd.ntmps97
    go_wp2
    refine wp_region_below (by kernel_rfl) (by kernel_rfl) ?_
    repeat (go_big_quiet_step ((go_at_call 106; exact quiet_below (C1 _))))
    intro w9 hw9
    have hb9 := beyond_below hw9
    have h9 := h.below hb9 hlt
    have hbB : Below B w w9 := hb9.mono hBw
    have d0 := h9.c0; have d1 := h9.c1; have d2 := h9.c2; have f1 := h9.fr 1; have f2 := h9.fr 2
    go_wp2
    go_ret
    exact ⟨rfl, h9.at2 _, hbB.setCell (p := ⟨b, 2, none⟩) hB _⟩
  have g1 : decide (most < (X : Int)) = false := decide_eq_false ho
  by_cases hq : (s.size : Int) - ((i + m : Nat) : Int) < (X : Int)
  · skip
    have hF : textF s (i : Int) most = (⟨#[]⟩, (i : Int), 2) := by unfold textF; rw [hx]; rw [if_pos rfl, if_neg ho, if_pos hq]
    rw [hF]
    clear hF hx
    go_enter Tryd.func97, Tryd.ntmps97
    go_wp2
    refine wp_region_below (by kernel_rfl) (by kernel_rfl) ?_
    repeat (go_big_quiet_step ((go_at_call 106; exact quiet_below (C1 _))))
    intro w9 hw9
    have hb9 := beyond_below hw9
    have h9 := h.below hb9 hlt
    have hbB : Below B w w9 := hb9.mono hBw
    have d0 := h9.c0; have d1 := h9.c1; have d2 := h9.c2; have f1 := h9.fr 1; have f2 := h9.fr 2
    go_wp2
    go_ret
    exact ⟨rfl, h9.at2 _, hbB.setCell (p := ⟨b, 2, none⟩) hB _⟩
  · have b1 : ((i : Int) + (m : Int)) + (X : Int) ≤ (s.size : Int) := by omega
    have b2 : (i : Int) + (m : Int) ≤ ((i : Int) + (m : Int)) + (X : Int) := by omega
    have hF : textF s (i : Int) most = (s.extract (i + m) (i + m + X), ((i + m : Nat) : Int) + (X : Int), 0) := by unfold textF; rw [hx]; rw [if_pos rfl, if_neg ho, if_neg hq]; simp only [Int.toNat_natCast]; rw [show (((i + m : Nat) : Int) + (X : Int)).toNat = i + m + X by omega]
    rw [hF]
    clear hF hx
    go_enter Tryd.func97, Tryd.ntmps97
    go_wp2
    refine wp_region_below (by kernel_rfl) (by kernel_rfl) ?_
    repeat (go_big_quiet_step ((go_at_call 106; exact quiet_below (C1 _))))
    intro w9 hw9
    have hb9 := beyond_below hw9
    have h9 := h.below hb9 hlt
    have hbB : Below B w w9 := hb9.mono hBw
    have d0 := h9.c0; have d1 := h9.c1; have d2 := h9.c2; have f1 := h9.fr 1; have f2 := h9.fr 2
    go_wp2
    go_ret
    exact ⟨rfl, h9.at1 _, hbB.setCell (p := ⟨b, 1, none⟩) hB _⟩
end Go.Proofs.YtfblbholkhdldaaDoor
