/- A Reader of package wire: texts, counts, and what they keep. -/
import Derived.Test.YtfblbholkhdldaaDoorReader3
import Derived.Test.YtfblbholkhdldaaDoorReaderQ
import Derived.WalkKit
import Derived.ProofKit
import Derived.Handy
import Derived.Below
import Derived.BigQuiet
import Derived.Lib.Hide
import Derived.IntWalk
import Derived.Outline
import Derived.WalkLawsBesides
import Derived.WalkSpells
namespace Go.Proofs.YtfblbholkhdldaaDoor
open Go.RowKit
attribute [local go_sem] strV
/-- All is as it was but block b, and what has been made since. -/
structure Kept (b : Nat) (w w' : World) : Prop where
  os : w'.os = w.os
  tape : w'.tape = w.tape
  output : w'.output = w.output
  size : w.heap.size ≤ w'.heap.size
  block : ∀ k, k < w.heap.size → k ≠ b → w'.heap[k]? = w.heap[k]?
theorem Kept.of {b : Nat} {w w' : World} (h : Below w.heap.size w w') : Kept b w w' := ⟨h.os, h.tape, h.output, h.size, fun k hk _ => h.block k hk⟩
theorem Kept.trans {b : Nat} {w w1 w2 : World} (h : Kept b w w1) (g : Kept b w1 w2) : Kept b w w2 :=
  ⟨g.os.trans h.os, g.tape.trans h.tape, g.output.trans h.output, Nat.le_trans h.size g.size, fun k hk hne => (g.block k (Nat.lt_of_lt_of_le hk h.size) hne).trans (h.block k hk hne)⟩
theorem Kept.setCell {b : Nat} {w w1 : World} (h : Kept b w w1) (o : Nat) (v : Value) : Kept b w (w1.setCell ⟨b, o, none⟩ v) :=
  ⟨h.os, h.tape, h.output, by rw [World.size_setCell]; exact h.size, fun k hk hne => by
    show (w1.heap.modify b _)[k]? = _
    rw [Array.getElem?_modify, if_neg (fun e => hne e.symm)]; exact h.block k hk hne⟩
theorem Kept.below {b B : Nat} {w w' : World} (h : Kept b w w') (hB : B ≤ b) (hw : B ≤ w.heap.size) : Below B w w' :=
  ⟨h.os, h.tape, h.output, h.size, fun k hk => h.block k (by omega) (by omega)⟩
theorem QAt.kept {b c : Nat} {w w' : World} {s : ByteArray} {at_ err : Int} (h : QAt c w s at_ err) (hk : Kept b w w') (hne : c ≠ b) : QAt c w' s at_ err := by
  unfold QAt; rw [hk.block c h.lt hne]; exact h
theorem RAt.kept {b c : Nat} {w w' : World} {s : ByteArray} {at_ err : Int} (h : RAt c w s at_ err) (hk : Kept b w w') (hne : c ≠ b) : RAt c w' s at_ err := by
  unfold RAt; rw [hk.block c h.lt hne]; exact h
set_option maxRecDepth 100000 in
set_option maxHeartbeats 1600000 in
theorem rtext_kept (b : Nat) (w : World) (s : ByteArray) (at_ most : Int) (h : RAt b w s at_ 0) (hs : s.size ≤ 1000000000) :
    Calls Tryd.prog 96 #[.pointer (some ⟨b, 0, none⟩), .int .i64 most] w fun e w' => e = .returned (.string (textF s at_ most).1) ∧ RAt b w' s (textF s at_ most).2.1 (textF s at_ most).2.2 ∧ Kept b w w' := by
  have hsm : s.size ≤ maxLen := by unfold maxLen; omega
  obtain ⟨v, n, er, hx⟩ : ∃ v n er, nextS s.data.toList at_ = (v, n, er) := ⟨_, _, _, rfl⟩
  have hlt := h.lt
  have CN := number_ok b w s at_ v n er h hsm hx
  by_cases her : er = 0
  rotate_left
  · have e0 : (er == 0) = false := beq_eq_false_iff_ne.2 her
    have hF : textF s at_ most = (⟨#[]⟩, at_, er) := by unfold textF; rw [hx]; simp [her]
    rw [hF]
    rw [e0] at CN
    clear hF hx
    go_enter Tryd.func96, Tryd.ntmps96
    go_wp2_with (go_at_call 105; refine CN.mono ?_; rintro e w1 ⟨rfl, w0, hb0, hw1⟩)
    go_ret
    exact ⟨rfl, (h.below hb0 hlt).at2 _, (Kept.of hb0).setCell _ _⟩
  subst her
  rw [show ((0 : Int) == 0) = true from rfl] at CN
  obtain ⟨i, m, X, rfl, rfl, rfl, hm1, hle, _, hX, _⟩ := next_ok hx
  rw [str_len] at hle
  by_cases ho : most < (X : Int)
  · skip
    have d1 : decide (most < (X : Int)) = true := decide_eq_true ho
    have hF : textF s (i : Int) most = (⟨#[]⟩, (i : Int), 4) := by unfold textF; rw [hx]; simp [ho]
    rw [hF]
    clear hF hx
    go_enter Tryd.func96, Tryd.ntmps96
    go_wp2_with (go_at_call 105; refine CN.mono ?_; rintro e w1 ⟨rfl, w0, hb0, hw1⟩; have h1 : RAt b w1 s (i : Int) 0 := (by rw [hw1]; exact (h.below hb0 hlt).at2 _); have hbB : Kept b w w1 := (by rw [hw1]; exact (Kept.of hb0).setCell _ _); clear hw1; have c0 := h1.c0; have c1 := h1.c1; have c2 := h1.c2; have f1 := h1.fr 1; have f2 := h1.fr 2)
    go_ret
    exact ⟨rfl, h1.at2 _, hbB.setCell _ _⟩
  have d1 : decide (most < (X : Int)) = false := decide_eq_false ho
  by_cases hq : (s.size : Int) - ((i + m : Nat) : Int) < (X : Int)
  · skip
    have hF : textF s (i : Int) most = (⟨#[]⟩, (i : Int), 2) := by unfold textF; rw [hx]; rw [if_pos rfl, if_neg ho, if_pos hq]
    rw [hF]
    clear hF hx
    go_enter Tryd.func96, Tryd.ntmps96
    go_wp2_with (go_at_call 105; refine CN.mono ?_; rintro e w1 ⟨rfl, w0, hb0, hw1⟩; have h1 : RAt b w1 s (i : Int) 0 := (by rw [hw1]; exact (h.below hb0 hlt).at2 _); have hbB : Kept b w w1 := (by rw [hw1]; exact (Kept.of hb0).setCell _ _); clear hw1; have c0 := h1.c0; have c1 := h1.c1; have c2 := h1.c2; have f1 := h1.fr 1; have f2 := h1.fr 2)
    go_ret
    exact ⟨rfl, h1.at2 _, hbB.setCell _ _⟩
  · skip
    have hF : textF s (i : Int) most = (s.extract (i + m) (i + m + X), ((i + m : Nat) : Int) + (X : Int), 0) := by unfold textF; rw [hx]; rw [if_pos rfl, if_neg ho, if_neg hq]; simp only [Int.toNat_natCast]; rw [show (((i + m : Nat) : Int) + (X : Int)).toNat = i + m + X by omega]
    rw [hF]
    clear hF hx
    go_enter Tryd.func96, Tryd.ntmps96
    go_wp2_with (go_at_call 105; refine CN.mono ?_; rintro e w1 ⟨rfl, w0, hb0, hw1⟩; have h1 : RAt b w1 s (i : Int) 0 := (by rw [hw1]; exact (h.below hb0 hlt).at2 _); have hbB : Kept b w w1 := (by rw [hw1]; exact (Kept.of hb0).setCell _ _); clear hw1; have c0 := h1.c0; have c1 := h1.c1; have c2 := h1.c2; have f1 := h1.fr 1; have f2 := h1.fr 2)
    refine wp_nameR _ (fun W hW => ?_)
    have hR : RAt b W s (((i + m : Nat) : Int) + (X : Int)) 0 := by rw [hW]; exact h1.at1 _
    have hbW : Kept b w W := by rw [hW]; exact hbB.setCell _ _
    clear hW
    have d0 := hR.c0; have d1 := hR.c1
    have b1 : ((i : Int) + (m : Int)) + (X : Int) ≤ (s.size : Int) := by omega
    have b2 : (i : Int) + (m : Int) ≤ ((i : Int) + (m : Int)) + (X : Int) := by omega
    go_quiet (fail)
    go_wp2
    go_ret
    exact ⟨rfl, hR, hbW.trans (Kept.of (drewN_below _ _))⟩
end Go.Proofs.YtfblbholkhdldaaDoor
