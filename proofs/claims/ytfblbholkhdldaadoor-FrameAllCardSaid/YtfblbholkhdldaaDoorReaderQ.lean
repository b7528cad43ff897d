/- The document's own reader: numbers, counts. -/
import Derived.Test.YtfblbholkhdldaaDoorReader3
import Derived.Test.YtfblbholkhdldaaDoorLebRead2
import Derived.BigQuiet
import Derived.WalkKit
import Derived.ProofKit
import Derived.Handy
import Derived.Below
import Derived.BigQuiet
import Derived.Lib.Hide
import Derived.IntWalk
import Derived.Outline
import Derived.WalkLawsBesides
import Derived.WalkSpells
namespace Go.Proofs.YtfblbholkhdldaaDoor
open Go.RowKit
attribute [local go_sem] strV
/-- Block b is a reader of the document's own answer: of s, at at_, bearing err. -/
def QAt (b : Nat) (w : World) (s : ByteArray) (at_ err : Int) : Prop := w.heap[b]? = some (.cells #[.string s, .int .i64 at_, .int .i64 err] 103 (0, 0))
theorem QAt.c0 {b : Nat} {w : World} {s : ByteArray} {at_ err : Int} (h : QAt b w s at_ err) : w.cell? ⟨b, 0, none⟩ = some (.string s) := cell_heap h 0
theorem QAt.c1 {b : Nat} {w : World} {s : ByteArray} {at_ err : Int} (h : QAt b w s at_ err) : w.cell? ⟨b, 1, none⟩ = some (.int .i64 at_) := cell_heap h 1
theorem QAt.c2 {b : Nat} {w : World} {s : ByteArray} {at_ err : Int} (h : QAt b w s at_ err) : w.cell? ⟨b, 2, none⟩ = some (.int .i64 err) := cell_heap h 2
theorem QAt.fr {b : Nat} {w : World} {s : ByteArray} {at_ err : Int} (h : QAt b w s at_ err) (k : Nat) : w.frozen? ⟨b, k, none⟩ = false := frozen_heap h k
theorem QAt.lt {b : Nat} {w : World} {s : ByteArray} {at_ err : Int} (h : QAt b w s at_ err) : b < w.heap.size := (Array.getElem?_eq_some_iff.1 h).1
theorem QAt.below {b B : Nat} {w w' : World} {s : ByteArray} {at_ err : Int} (h : QAt b w s at_ err) (hb : Below B w w') (hB : b < B) : QAt b w' s at_ err := by
  unfold QAt; rw [hb.block b hB]; exact h
theorem QAt.at1 {b : Nat} {w : World} {s : ByteArray} {at_ err : Int} (h : QAt b w s at_ err) (x : Int) : QAt b (w.setCell ⟨b, 1, none⟩ (.int .i64 x)) s x err := by
  unfold QAt at h ⊢; simp [World.setCell, Array.getElem?_modify, h]
theorem QAt.at2 {b : Nat} {w : World} {s : ByteArray} {at_ err : Int} (h : QAt b w s at_ err) (x : Int) : QAt b (w.setCell ⟨b, 2, none⟩ (.int .i64 x)) s at_ x := by
  unfold QAt at h ⊢; simp [World.setCell, Array.getElem?_modify, h]

theorem refNextB (s : ByteArray) (a : Int) (w : World) (hs : s.size ≤ maxLen) :
    Calls Tryd.prog 106 #[.string s, .int .i64 a] w fun e w' => e = .returned (trip (nextS s.data.toList a)) ∧ Below w.heap.size w w' := (nextNum_any s a w hs).mono fun e w' ⟨h1, h2⟩ => ⟨h1, by first | exact h2 | (rw [← h2]; exact Below.refl _ _) | (rw [h2]; exact Below.refl _ _)⟩
set_option maxRecDepth 100000 in
set_option maxHeartbeats 1600000 in
theorem qnum_any (B b : Nat) (w : World) (s : ByteArray) (at_ least most : Int) (h : QAt b w s at_ 0) (hs : s.size ≤ 1000000000) (hB : B ≤ b) :
    Calls Tryd.prog 98 #[.pointer (some ⟨b, 0, none⟩), .int .i64 least, .int .i64 most] w fun e w' => e = .returned (.int .i64 (numF s at_ least most).1) ∧ QAt b w' s (numF s at_ least most).2.1 (numF s at_ least most).2.2 ∧ Below B w w' := by
  have hsm : s.size ≤ maxLen := by unfold maxLen; omega
  obtain ⟨v, n, er, hx⟩ : ∃ v n er, nextS s.data.toList at_ = (v, n, er) := ⟨_, _, _, rfl⟩
  have hlt := h.lt
  have hBw : B ≤ w.heap.size := by omega
  have c0 := h.c0; have c1 := h.c1; have c2 := h.c2
  obtain ⟨hbc, hbf⟩ := beyond_cells (W := w)
  have C1 : ∀ n' : Beyond w, Calls Tryd.prog 106 #[.string s, .int .i64 at_] n'.x fun e w' => e = .returned (.tuple #[.int .i64 v, .int .i64 n, .int .i64 er]) ∧ Below n'.x.heap.size n'.x w' := fun n' => (refNextB s at_ n'.x hsm).mono fun e w' ⟨h1, h2⟩ => ⟨by rw [h1, hx]; rfl, h2⟩
  by_cases her : er = 0
  rotate_left
  · have e0 : (er == 0) = false := beq_eq_false_iff_ne.2 her
    have hF : numF s at_ least most = (0, at_, er) := by unfold numF; rw [hx]; simp [her]
    rw [hF]
    clear hF hx
    go_enter Tryd.func98, Tryd.ntmps98
    go_wp2
    refine wp_region_below (by kernel_rfl) (by kernel_rfl) ?_
    repeat (go_big_quiet_step ((go_at_call 106; exact quiet_below (C1 _))))
    intro w9 hw9
    have hb9 := beyond_below hw9
    have h9 := h.below hb9 hlt
    have hbB : Below B w w9 := hb9.mono hBw
    have d0 := h9.c0; have d1 := h9.c1; have d2 := h9.c2; have f1 := h9.fr 1; have f2 := h9.fr 2
    go_wp2
    go_ret
    exact ⟨rfl, h9.at2 _, hbB.setCell (p := ⟨b, 2, none⟩) hB _⟩
  subst her
  by_cases ho : v < least ∨ most < v
  · rw [numF_out hx ho]
    clear hx
    obtain ⟨x1, hc1⟩ : ∃ c, decide (v < least) = c := ⟨_, rfl⟩
    have hd2 : x1 = false → decide (most < v) = true := fun e => decide_eq_true (by
      rcases ho with h1 | h1
      · rw [decide_eq_true h1] at hc1; rw [← hc1] at e; cases e
      · exact h1)
    cases x1
    · have e2 := hd2 rfl
      clear hd2 ho
      go_enter Tryd.func98, Tryd.ntmps98
      go_wp2
      refine wp_region_below (by kernel_rfl) (by kernel_rfl) ?_
      repeat (go_big_quiet_step ((go_at_call 106; exact quiet_below (C1 _))))
      intro w9 hw9
      have hb9 := beyond_below hw9
      have h9 := h.below hb9 hlt
      have hbB : Below B w w9 := hb9.mono hBw
      have d0 := h9.c0; have d1 := h9.c1; have d2 := h9.c2; have f1 := h9.fr 1; have f2 := h9.fr 2
      go_wp2
      go_ret
      exact ⟨rfl, h9.at2 _, hbB.setCell (p := ⟨b, 2, none⟩) hB _⟩
    · clear hd2 ho
      go_enter Tryd.func98, Tryd.ntmps98
      go_wp2
      refine wp_region_below (by kernel_rfl) (by kernel_rfl) ?_
      repeat (go_big_quiet_step ((go_at_call 106; exact quiet_below (C1 _))))
      intro w9 hw9
      have hb9 := beyond_below hw9
      have h9 := h.below hb9 hlt
      have hbB : Below B w w9 := hb9.mono hBw
      have d0 := h9.c0; have d1 := h9.c1; have d2 := h9.c2; have f1 := h9.fr 1; have f2 := h9.fr 2
      go_wp2
      go_ret
      exact ⟨rfl, h9.at2 _, hbB.setCell (p := ⟨b, 2, none⟩) hB _⟩
  · rw [numF_in hx ho]
    have e1 : decide (v < least) = false := decide_eq_false (by omega)
    have e2 : decide (most < v) = false := decide_eq_false (by omega)
    clear hx ho
    go_enter Tryd.func98, Tryd.ntmps98
    go_wp2
    refine wp_region_below (by kernel_rfl) (by kernel_rfl) ?_
    repeat (go_big_quiet_step ((go_at_call 106; exact quiet_below (C1 _))))
    intro w9 hw9
    have hb9 := beyond_below hw9
    have h9 := h.below hb9 hlt
    have hbB : Below B w w9 := hb9.mono hBw
    have d0 := h9.c0; have d1 := h9.c1; have d2 := h9.c2; have f1 := h9.fr 1; have f2 := h9.fr 2
    go_wp2
    go_ret
    exact ⟨rfl, h9.at1 _, hbB.setCell (p := ⟨b, 1, none⟩) hB _⟩
end Go.Proofs.YtfblbholkhdldaaDoor
