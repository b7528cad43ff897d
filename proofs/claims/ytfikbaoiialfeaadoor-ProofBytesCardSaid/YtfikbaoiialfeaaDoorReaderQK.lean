/- The document's own reader: numbers and texts, and what they keep. -/
import Derived.Test.YtfikbaoiialfeaaDoorGU
import Derived.Test.YtfikbaoiialfeaaDoorGB
import Derived.Test.YtfikbaoiialfeaaDoorGC
import Derived.BigQuiet
import Derived.WalkKit
import Derived.ProofKit
import Derived.Handy
import Derived.Below
import Derived.Lib.Hide
import Derived.IntWalk
import Derived.Outline
import Derived.WalkLawsBesides
import Derived.WalkSpells
namespace Go.Proofs.YtfikbaoiialfeaaDoor
open Go.RowKit
attribute [local go_sem] strV
set_option maxRecDepth 100000 in
set_option maxHeartbeats 1600000 in
theorem qnum_kept (b : Nat) (w : World) (s : ByteArray) (at_ least most : Int) (h : QAt b w s at_ 0) (hs : s.size ≤ 1000000000) :
    Calls Tryd.prog 86 #[.pointer (some ⟨b, 0, none⟩), .int .i64 least, .int .i64 most] w fun e w' => e = .returned (.int .i64 (numF s at_ least most).1) ∧ QAt b w' s (numF s at_ least most).2.1 (numF s at_ least most).2.2 ∧ Kept b w w' := by
  have hsm : s.size ≤ maxLen := by unfold maxLen; omega
  obtain ⟨v, n, er, hx⟩ : ∃ v n er, nextS s.data.toList at_ = (v, n, er) := ⟨_, _, _, rfl⟩
  have hlt := h.lt
  have c0 := h.c0; have c1 := h.c1; have c2 := h.c2
  obtain ⟨hbc, hbf⟩ := beyond_cells (W := w)
  have C1 : ∀ n' : Beyond w, Calls Tryd.prog 112 #[.string s, .int .i64 at_] n'.x fun e w' => e = .returned (.tuple #[.int .i64 v, .int .i64 n, .int .i64 er]) ∧ Below n'.x.heap.size n'.x w' := fun n' => (refNextB s at_ n'.x hsm).mono fun e w' ⟨h1, h2⟩ => ⟨by rw [h1, hx]; rfl, h2⟩
  by_cases her : er = 0
  rotate_left
  · have e0 : (er == 0) = false := beq_eq_false_iff_ne.2 her
    have hF : numF s at_ least most = (0, at_, er) := by unfold numF; rw [hx]; simp [her]
    rw [hF]
    clear hF hx
    go_enter Tryd.func86, Tryd.ntmps86
    go_wp2
    refine wp_region_below (by kernel_rfl) (by kernel_rfl) ?_
    repeat (go_big_quiet_step ((go_at_call 112; exact quiet_below (C1 _))))
    intro w9 hw9
    have hb9 := beyond_below hw9
    have h9 := h.below hb9 hlt
    have hbB : Kept b w w9 := Kept.of hb9
    have d0 := h9.c0; have d1 := h9.c1; have d2 := h9.c2; have f1 := h9.fr 1; have f2 := h9.fr 2
    go_wp2
    go_ret
    exact ⟨rfl, h9.at2 _, hbB.setCell _ _⟩
  subst her
  by_cases ho : v < least ∨ most < v
  · rw [numF_out hx ho]
    clear hx
    obtain ⟨x1, hc1⟩ : ∃ c, decide (v < least) = c := ⟨_, rfl⟩
    have hd2 : x1 = false → decide (most < v) = true := fun e => decide_eq_true (by
      rcases ho with h1 | h1
      · rw [decide_eq_true h1] at hc1; rw [← hc1] at e; cases e
      · exact h1)
    cases x1
    · have e2 := hd2 rfl
      clear hd2 ho
      go_enter Tryd.func86, Tryd.ntmps86
      go_wp2
      refine wp_region_below (by kernel_rfl) (by kernel_rfl) ?_
      repeat (go_big_quiet_step ((go_at_call 112; exact quiet_below (C1 _))))
      intro w9 hw9
      have hb9 := beyond_below hw9
      have h9 := h.below hb9 hlt
      have hbB : Kept b w w9 := Kept.of hb9
      have d0 := h9.c0; have d1 := h9.c1; have d2 := h9.c2; have f1 := h9.fr 1; have f2 := h9.fr 2
      go_wp2
      go_ret
      exact ⟨rfl, h9.at2 _, hbB.setCell _ _⟩
    · clear hd2 ho
      go_enter Tryd.func86, Tryd.ntmps86
      go_wp2
      refine wp_region_below (by kernel_rfl) (by kernel_rfl) ?_
      repeat (go_big_quiet_step ((go_at_call 112; exact quiet_below (C1 _))))
      intro w9 hw9
      have hb9 := beyond_below hw9
      have h9 := h.below hb9 hlt
      have hbB : Kept b w w9 := Kept.of hb9
      have d0 := h9.c0; have d1 := h9.c1; have d2 := h9.c2; have f1 := h9.fr 1; have f2 := h9.fr 2
      go_wp2
      go_ret
      exact ⟨rfl, h9.at2 _, hbB.setCell _ _⟩
  · rw [numF_in hx ho]
    have e1 : decide (v < least) = false := decide_eq_false (by omega)
    have e2 : decide (most < v) = false := decide_eq_false (by omega)
    clear hx ho
    go_enter Tryd.func86, Tryd.ntmps86
    go_wp2
    refine wp_region_below (by kernel_rfl) (by kernel_rfl) ?_
    repeat (go_big_quiet_step ((go_at_call 112; exact quiet_below (C1 _))))
    intro w9 hw9
    have hb9 := beyond_below hw9
    have h9 := h.below hb9 hlt
    have hbB : Kept b w w9 := Kept.of hb9
    have d0 := h9.c0; have d1 := h9.c1; have d2 := h9.c2; have f1 := h9.fr 1; have f2 := h9.fr 2
    go_wp2
    go_ret
    exact ⟨rfl, h9.at1 _, hbB.setCell _ _⟩
set_option maxRecDepth 100000 in
set_option maxHeartbeats 1600000 in
theorem qtext_kept (b : Nat) (w : World) (s : ByteArray) (at_ most : Int) (h : QAt b w s at_ 0) (hs : s.size ≤ 1000000000) :
    Calls Tryd.prog 88 #[.pointer (some ⟨b, 0, none⟩), .int .i64 most] w fun e w' => e = .returned (.string (textF s at_ most).1) ∧ QAt b w' s (textF s at_ most).2.1 (textF s at_ most).2.2 ∧ Kept b w w' := by
  have hsm : s.size ≤ maxLen := by unfold maxLen; omega
  obtain ⟨v, n, er, hx⟩ : ∃ v n er, nextS s.data.toList at_ = (v, n, er) := ⟨_, _, _, rfl⟩
  have hlt := h.lt
  have c0 := h.c0; have c1 := h.c1; have c2 := h.c2
  obtain ⟨hbc, hbf⟩ := beyond_cells (W := w)
  have C1 : ∀ n' : Beyond w, Calls Tryd.prog 112 #[.string s, .int .i64 at_] n'.x fun e w' => e = .returned (.tuple #[.int .i64 v, .int .i64 n, .int .i64 er]) ∧ Below n'.x.heap.size n'.x w' := fun n' => (refNextB s at_ n'.x hsm).mono fun e w' ⟨h1, h2⟩ => ⟨by rw [h1, hx]; rfl, h2⟩
  by_cases her : er = 0
  rotate_left
  · have e0 : (er == 0) = false := beq_eq_false_iff_ne.2 her
    have hF : textF s at_ most = (⟨#[]⟩, at_, er) := by unfold textF; rw [hx]; simp [her]
    rw [hF]
    clear hF hx
    go_enter Tryd.func88, Tryd.ntmps88
    go_wp2
    refine wp_region_below (by kernel_rfl) (by kernel_rfl) ?_
    repeat (go_big_quiet_step ((go_at_call 112; exact quiet_below (C1 _))))
    intro w9 hw9
    have hb9 := beyond_below hw9
    have h9 := h.below hb9 hlt
    have hbB : Kept b w w9 := Kept.of hb9
    have d0 := h9.c0; have d1 := h9.c1; have d2 := h9.c2; have f1 := h9.fr 1; have f2 := h9.fr 2
    go_wp2
    go_ret
    exact ⟨rfl, h9.at2 _, hbB.setCell _ _⟩
  subst her
  obtain ⟨i, m, X, rfl, rfl, rfl, hm1, hle, _, hX, _⟩ := next_ok hx
  rw [str_len] at hle
  by_cases ho : most < (X : Int)
  · skip
    have g1 : decide (most < (X : Int)) = true := decide_eq_true ho
    have hF : textF s (i : Int) most = (⟨#[]⟩, (i : Int), 4) := by unfold textF; rw [hx]; simp [ho]
    rw [hF]
    clear hF hx
    go_enter Tryd.func88, Tryd.ntmps88
    go_wp2
    refine wp_region_below (by kernel_rfl) (by kernel_rfl) ?_
    repeat (go_big_quiet_step ((go_at_call 112; exact quiet_below (C1 _))))
    intro w9 hw9
    have hb9 := beyond_below hw9
    have h9 := h.below hb9 hlt
    have hbB : Kept b w w9 := Kept.of hb9
    have d0 := h9.c0; have d1 := h9.c1; have d2 := h9.c2; have f1 := h9.fr 1; have f2 := h9.fr 2
    go_wp2
    go_ret
    exact ⟨rfl, h9.at2 _, hbB.setCell _ _⟩
  have g1 : decide (most < (X : Int)) = false := decide_eq_false ho
  by_cases hq : (s.size : Int) - ((i + m : Nat) : Int) < (X : Int)
  · skip
    have hF : textF s (i : Int) most = (⟨#[]⟩, (i : Int), 2) := by unfold textF; rw [hx]; rw [if_pos rfl, if_neg ho, if_pos hq]
    rw [hF]
    clear hF hx
    go_enter Tryd.func88, Tryd.ntmps88
    go_wp2
    refine wp_region_below (by kernel_rfl) (by kernel_rfl) ?_
    repeat (go_big_quiet_step ((go_at_call 112; exact quiet_below (C1 _))))
    intro w9 hw9
    have hb9 := beyond_below hw9
    have h9 := h.below hb9 hlt
    have hbB : Kept b w w9 := Kept.of hb9
    have d0 := h9.c0; have d1 := h9.c1; have d2 := h9.c2; have f1 := h9.fr 1; have f2 := h9.fr 2
    go_wp2
    go_ret
    exact ⟨rfl, h9.at2 _, hbB.setCell _ _⟩
  · have b1 : ((i : Int) + (m : Int)) + (X : Int) ≤ (s.size : Int) := by omega
    have b2 : (i : Int) + (m : Int) ≤ ((i : Int) + (m : Int)) + (X : Int) := by omega
    have hF : textF s (i : Int) most = (s.extract (i + m) (i + m + X), ((i + m : Nat) : Int) + (X : Int), 0) := by unfold textF; rw [hx]; rw [if_pos rfl, if_neg ho, if_neg hq]; simp only [Int.toNat_natCast]; rw [show (((i + m : Nat) : Int) + (X : Int)).toNat = i + m + X by omega]
    rw [hF]
    clear hF hx
    go_enter Tryd.func88, Tryd.ntmps88
    go_wp2
    refine wp_region_below (by kernel_rfl) (by kernel_rfl) ?_
    repeat (go_big_quiet_step ((go_at_call 112; exact quiet_below (C1 _))))
    intro w9 hw9
    have hb9 := beyond_below hw9
    have h9 := h.below hb9 hlt
    have hbB : Kept b w w9 := Kept.of hb9
    have d0 := h9.c0; have d1 := h9.c1; have d2 := h9.c2; have f1 := h9.fr 1; have f2 := h9.fr 2
    go_wp2
    go_ret
    exact ⟨rfl, h9.at1 _, hbB.setCell _ _⟩
theorem qnumK_all (b : Nat) (w : World) (s : ByteArray) (at_ err : Int) (least most : Int) (h : QAt b w s at_ err) (hs : s.size ≤ 1000000000) :
    Calls Tryd.prog 86 #[.pointer (some ⟨b, 0, none⟩), .int .i64 least, .int .i64 most] w fun e w' => e = .returned (.int .i64 (numG s at_ err least most).1) ∧ QAt b w' s (numG s at_ err least most).2.1 (numG s at_ err least most).2.2 ∧ Kept b w w' := by
  unfold numG
  by_cases he : err = 0
  · subst he
    rw [if_pos rfl]
    exact qnum_kept b w s at_ least most h hs
  · rw [if_neg he]
    refine (qnum_err b w s at_ err least most h (beq_eq_false_iff_ne.2 he)).mono ?_
    rintro e w' ⟨rfl, hb⟩
    exact ⟨rfl, h.below hb h.lt, Kept.of hb⟩
theorem qtextK_all (b : Nat) (w : World) (s : ByteArray) (at_ err : Int) (most : Int) (h : QAt b w s at_ err) (hs : s.size ≤ 1000000000) :
    Calls Tryd.prog 88 #[.pointer (some ⟨b, 0, none⟩), .int .i64 most] w fun e w' => e = .returned (.string (textG s at_ err most).1) ∧ QAt b w' s (textG s at_ err most).2.1 (textG s at_ err most).2.2 ∧ Kept b w w' := by
  unfold textG
  by_cases he : err = 0
  · subst he
    rw [if_pos rfl]
    exact qtext_kept b w s at_ most h hs
  · rw [if_neg he]
    refine (qtext_err b w s at_ err most h (beq_eq_false_iff_ne.2 he)).mono ?_
    rintro e w' ⟨rfl, hb⟩
    exact ⟨rfl, h.below hb h.lt, Kept.of hb⟩
end Go.Proofs.YtfikbaoiialfeaaDoor
