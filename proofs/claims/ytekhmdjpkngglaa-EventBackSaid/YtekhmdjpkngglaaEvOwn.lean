/- EventOwn, walked. -/
import Derived.Test.YtekhmdjpkngglaaEvO
import Derived.Deep.MidRow
import Derived.Deep.Cut
import Derived.WalkKit
import Derived.ProofKit
import Derived.Handy
import Derived.Below
import Derived.BigQuiet
import Derived.Lib.Hide
import Derived.IntWalk
import Derived.Outline
import Derived.WalkLawsBesides
import Derived.WalkSpells
namespace Go.Proofs.Ytekhmdjpkngglaa
open Go.RowKit
attribute [local go_sem] strV
set_option linter.unusedVariables false
theorem row_one_ev {w : World} {b : Nat} {e : Ev} (h : w.heap[b]? = some (.cells e.row 27 (0, 0))) : RowAt w (some ⟨b, 0, none⟩) ([e].flatMap Ev.cells) := by
  refine .inr ⟨b, 0, rfl, (Array.getElem?_eq_some_iff.1 h).1, fun j hj => ?_⟩
  rw [Nat.zero_add, cell_heap h]
  simp [Ev.cells]
theorem push_new (w : World) (c : Array Value) (t : TypeId) : (w.alloc (.cells c t)).heap[w.heap.size]? = some (.cells c t (0, 0)) := by
  show (w.heap.push _)[w.heap.size]? = _
  rw [Array.getElem?_push_size]
theorem hasP_of {kd : Int} {sp : ByteArray} {sc : Int} {dp : ByteArray} {dc sq : Int} {da : ByteArray} {th ta : Int} {ack : ByteArray} (h : mayEv ⟨kd, sp, sc, dp, dc, sq, da, th, ta, ack, ⟨#[]⟩, 0, 0⟩ = true) : hasP kd = true := by
  unfold mayEv at h
  rw [Bool.and_eq_true] at h
  have h2 := h.2
  unfold bodyE at h2
  simp only at h2
  by_cases k6 : kd = 6
  · rw [if_pos k6] at h2; exact absurd h2 (by decide)
  rw [if_neg k6] at h2
  by_cases k7 : kd = 7
  · rw [if_pos k7] at h2; simp at h2
  rw [if_neg k7] at h2
  by_cases k3 : kd = 3
  · rw [k3]; rfl
  rw [if_neg k3, Bool.and_eq_true] at h2
  exact h2.1
set_option maxRecDepth 100000 in
set_option maxHeartbeats 6400000 in
theorem walkEventOwn (sp : ByteArray) (sc : Int) (dp : ByteArray) (dc sq : Int) (da : ByteArray) (th ta : Int) (kd : Int) (ack : ByteArray) (w : World) (h1 : sp.size ≤ maxLen) (h2 : dp.size ≤ maxLen) (ha : ack.size ≤ maxLen) :
    Calls Try.prog 4 #[.agg #[.string sp, .int .i64 sc, .string dp, .int .i64 dc, .int .i64 sq, .string da, .int .i64 th, .int .i64 ta], .int .i64 kd, .string ack] w fun e w' => e = .returned (.bool true) ∧ Below w.heap.size w w' := by
  by_cases k3 : kd = 3
  · subst k3
    obtain ⟨lb, hlb⟩ : ∃ b, lightL [(⟨3, sp, sc, dp, dc, sq, da, th, ta, ack, ⟨#[]⟩, 0, 0⟩ : Ev)] = b := ⟨_, rfl⟩
    obtain ⟨mb, hmb⟩ : ∃ b, mayEv ⟨3, sp, sc, dp, dc, sq, da, th, ta, ack, ⟨#[]⟩, 0, 0⟩ = b := ⟨_, rfl⟩
    have hH : mb = true → hasP (3) = true := fun h => hasP_of (hmb.trans h)
    have CM := fun W => mayEv_any 3 sp sc dp dc sq da th ta ack ⟨#[]⟩ 0 0 W h1 h2 (by decide)
    simp only [hmb] at CM
    have CO := fun W (h : mb = true) => own_any 3 sp sc dp dc sq da th ta ack ⟨#[]⟩ 0 0 W h1 h2 (by decide) (hmb.trans h) (hH h)
    have CLt := fun (W : World) (c : Nat) (h : W.heap[c]? = some (.cells ((⟨3, sp, sc, dp, dc, sq, da, th, ta, ack, ⟨#[]⟩, 0, 0⟩ : Ev)).row 27 (0, 0))) => lightL_any (some ⟨c, 0, none⟩) 1 1 [⟨3, sp, sc, dp, dc, sq, da, th, ta, ack, ⟨#[]⟩, 0, 0⟩] W (row_one_ev h) rfl
    simp only [hlb] at CLt
    clear hlb hmb
    have hg0 := push_new w #[.string sp, .int .i64 sc, .string dp, .int .i64 dc, .int .i64 sq, .string da, .int .i64 th, .int .i64 ta] 25
    have hbA : Below w.heap.size w (w.alloc (.cells #[.string sp, .int .i64 sc, .string dp, .int .i64 dc, .int .i64 sq, .string da, .int .i64 th, .int .i64 ta] 25)) := Below.alloc (Below.refl _ _) (Nat.le_refl _) _
    go_enter Try.func4, Try.ntmps4
    go_upto_region 3 with (go_at_call 8; refine (first9_any _).mono ?_; rintro e wa ⟨rfl, hba⟩; have hp := cells_of hg0 hba (by simp); have p0 := cell_heap hp 0; have p1 := cell_heap hp 1; have p2 := cell_heap hp 2; have p3 := cell_heap hp 3; have p4 := cell_heap hp 4; have p5 := cell_heap hp 5; have p6 := cell_heap hp 6; have p7 := cell_heap hp 7)
    have hbel := hbA.trans (hba.mono hbA.size)
    clear hg0 hbA hba
    go_upto_region 6 with fail
    refine wp_nameE _ (fun W5 hW5 => ?_)
    have hb5 : Below wa.heap.size wa W5 := by rw [hW5]; first | exact Below.alloc (Below.refl _ _) (Nat.le_refl _) _ | exact (Below.alloc (Below.refl _ _) (Nat.le_refl _) _).setCell (p := ⟨wa.heap.size, 9, none⟩) (Nat.le_refl _) _
    have hg : W5.heap[wa.heap.size]? = some (.cells #[.int .i64 3, .string sp, .int .i64 sc, .string dp, .int .i64 dc, .int .i64 sq, .string da, .int .i64 th, .int .i64 ta, .string ack, .string ⟨#[]⟩, .int .i64 0, .int .i64 0] 27 (0, 0)) := by rw [hW5]; first | exact push_new _ _ _ | exact row_put5 (push_new _ _ _)
    have hp := cells_of hp hb5 (Array.getElem?_eq_some_iff.1 hp).1
    have hbel := hbel.trans (hb5.mono hbel.size)
    have hgl := (Array.getElem?_eq_some_iff.1 hg).1
    have hpl := (Array.getElem?_eq_some_iff.1 hp).1
    have q0 := cell_heap hg 0; have q1 := cell_heap hg 1; have q2 := cell_heap hg 2; have q3 := cell_heap hg 3; have q4 := cell_heap hg 4; have q5 := cell_heap hg 5; have q6 := cell_heap hg 6; have q7 := cell_heap hg 7; have q8 := cell_heap hg 8; have q9 := cell_heap hg 9; have q10 := cell_heap hg 10; have q11 := cell_heap hg 11; have q12 := cell_heap hg 12
    have C6 := CLt (W5.alloc (.cells #[.int .i64 3, .string sp, .int .i64 sc, .string dp, .int .i64 dc, .int .i64 sq, .string da, .int .i64 th, .int .i64 ta, .string ack, .string ⟨#[]⟩, .int .i64 0, .int .i64 0] 27)) W5.heap.size (push_new _ _ _)
    have hb6a : Below W5.heap.size W5 (W5.alloc (.cells #[.int .i64 3, .string sp, .int .i64 sc, .string dp, .int .i64 dc, .int .i64 sq, .string da, .int .i64 th, .int .i64 ta, .string ack, .string ⟨#[]⟩, .int .i64 0, .int .i64 0] 27)) := Below.alloc (Below.refl _ _) (Nat.le_refl _) _
    clear hW5 hb5 CLt
    cases lb
    · go_wp2_with (first | (go_at_call 9; refine C6.mono ?_; rintro e w6 ⟨rfl, hb6⟩; have hb6 := hb6a.trans (hb6.mono hb6a.size); have hbel := hbel.trans (hb6.mono hbel.size)) | (go_at_call 8; refine (first9_any _).mono ?_; rintro e wz ⟨rfl, hbz⟩; have hbel := hbel.trans (hbz.mono hbel.size)))
      go_ret
      exact ⟨rfl, hbel⟩
    cases mb
    · go_wp2_with (first | (go_at_call 9; refine C6.mono ?_; rintro e w6 ⟨rfl, hb6⟩; have hb6 := hb6a.trans (hb6.mono hb6a.size); have hg := cells_of hg hb6 hgl; have hbel := hbel.trans (hb6.mono hbel.size); have q0 := cell_heap hg 0; have q1 := cell_heap hg 1; have q2 := cell_heap hg 2; have q3 := cell_heap hg 3; have q4 := cell_heap hg 4; have q5 := cell_heap hg 5; have q6 := cell_heap hg 6; have q7 := cell_heap hg 7; have q8 := cell_heap hg 8; have q9 := cell_heap hg 9; have q10 := cell_heap hg 10; have q11 := cell_heap hg 11; have q12 := cell_heap hg 12) | (go_at_call 11; refine (CM _).mono ?_; rintro e w7 ⟨rfl, hb7⟩; have hbel := hbel.trans (hb7.mono hbel.size)) | (go_at_call 8; refine (first9_any _).mono ?_; rintro e wz ⟨rfl, hbz⟩; have hbel := hbel.trans (hbz.mono hbel.size)))
      go_ret
      exact ⟨rfl, hbel⟩
    have CO2 := fun W => CO W rfl
    clear CO hH
    go_upto_region 8 with (first | (go_at_call 9; refine C6.mono ?_; rintro e w6 ⟨rfl, hb6⟩; have hb6 := hb6a.trans (hb6.mono hb6a.size); have hg := cells_of hg hb6 hgl; have hp := cells_of hp hb6 hpl; have hgl := Nat.lt_of_lt_of_le hgl hb6.size; have hpl := Nat.lt_of_lt_of_le hpl hb6.size; have hbel := hbel.trans (hb6.mono hbel.size); have q0 := cell_heap hg 0; have q1 := cell_heap hg 1; have q2 := cell_heap hg 2; have q3 := cell_heap hg 3; have q4 := cell_heap hg 4; have q5 := cell_heap hg 5; have q6 := cell_heap hg 6; have q7 := cell_heap hg 7; have q8 := cell_heap hg 8; have q9 := cell_heap hg 9; have q10 := cell_heap hg 10; have q11 := cell_heap hg 11; have q12 := cell_heap hg 12) | (go_at_call 11; refine (CM _).mono ?_; rintro e w7 ⟨rfl, hb7⟩; have hg := cells_of hg hb7 hgl; have hp := cells_of hp hb7 hpl; have hgl := Nat.lt_of_lt_of_le hgl hb7.size; have hpl := Nat.lt_of_lt_of_le hpl hb7.size; have hbel := hbel.trans (hb7.mono hbel.size); have q0 := cell_heap hg 0; have q1 := cell_heap hg 1; have q2 := cell_heap hg 2; have q3 := cell_heap hg 3; have q4 := cell_heap hg 4; have q5 := cell_heap hg 5; have q6 := cell_heap hg 6; have q7 := cell_heap hg 7; have q8 := cell_heap hg 8; have q9 := cell_heap hg 9; have q10 := cell_heap hg 10; have q11 := cell_heap hg 11; have q12 := cell_heap hg 12))
    simp only [show ((3 : Int) == 2 || (3 : Int) == 3) = true from rfl, cond_true] at CO2
    go_wp2_with (go_at_call 13; refine (CO2 _).mono ?_; rintro e w8 ⟨rfl, hb8⟩; have hp := cells_of hp hb8 hpl; have hpl := Nat.lt_of_lt_of_le hpl hb8.size; have hbel := hbel.trans (hb8.mono hbel.size); have p0 := cell_heap hp 0; have p1 := cell_heap hp 1; have p2 := cell_heap hp 2; have p3 := cell_heap hp 3; have p4 := cell_heap hp 4; have p5 := cell_heap hp 5; have p6 := cell_heap hp 6; have p7 := cell_heap hp 7)
    go_ret
    exact ⟨rfl, Below.alloc hbel hbel.size _⟩
  have e3 : (kd == 3) = false := beq_eq_false_iff_ne.2 k3
  obtain ⟨lb, hlb⟩ : ∃ b, lightL [(⟨kd, sp, sc, dp, dc, sq, da, th, ta, ⟨#[]⟩, ⟨#[]⟩, 0, 0⟩ : Ev)] = b := ⟨_, rfl⟩
  obtain ⟨mb, hmb⟩ : ∃ b, mayEv ⟨kd, sp, sc, dp, dc, sq, da, th, ta, ⟨#[]⟩, ⟨#[]⟩, 0, 0⟩ = b := ⟨_, rfl⟩
  have hH : mb = true → hasP (kd) = true := fun h => hasP_of (hmb.trans h)
  have CM := fun W => mayEv_any kd sp sc dp dc sq da th ta ⟨#[]⟩ ⟨#[]⟩ 0 0 W h1 h2 (by decide)
  simp only [hmb] at CM
  have CO := fun W (h : mb = true) => own_any kd sp sc dp dc sq da th ta ⟨#[]⟩ ⟨#[]⟩ 0 0 W h1 h2 (by decide) (hmb.trans h) (hH h)
  have CLt := fun (W : World) (c : Nat) (h : W.heap[c]? = some (.cells ((⟨kd, sp, sc, dp, dc, sq, da, th, ta, ⟨#[]⟩, ⟨#[]⟩, 0, 0⟩ : Ev)).row 27 (0, 0))) => lightL_any (some ⟨c, 0, none⟩) 1 1 [⟨kd, sp, sc, dp, dc, sq, da, th, ta, ⟨#[]⟩, ⟨#[]⟩, 0, 0⟩] W (row_one_ev h) rfl
  simp only [hlb] at CLt
  clear hlb hmb
  have hg0 := push_new w #[.string sp, .int .i64 sc, .string dp, .int .i64 dc, .int .i64 sq, .string da, .int .i64 th, .int .i64 ta] 25
  have hbA : Below w.heap.size w (w.alloc (.cells #[.string sp, .int .i64 sc, .string dp, .int .i64 dc, .int .i64 sq, .string da, .int .i64 th, .int .i64 ta] 25)) := Below.alloc (Below.refl _ _) (Nat.le_refl _) _
  go_enter Try.func4, Try.ntmps4
  go_upto_region 3 with (go_at_call 8; refine (first9_any _).mono ?_; rintro e wa ⟨rfl, hba⟩; have hp := cells_of hg0 hba (by simp); have p0 := cell_heap hp 0; have p1 := cell_heap hp 1; have p2 := cell_heap hp 2; have p3 := cell_heap hp 3; have p4 := cell_heap hp 4; have p5 := cell_heap hp 5; have p6 := cell_heap hp 6; have p7 := cell_heap hp 7)
  have hbel := hbA.trans (hba.mono hbA.size)
  clear hg0 hbA hba
  go_upto_region 6 with fail
  refine wp_nameE _ (fun W5 hW5 => ?_)
  have hb5 : Below wa.heap.size wa W5 := by rw [hW5]; first | exact Below.alloc (Below.refl _ _) (Nat.le_refl _) _ | exact (Below.alloc (Below.refl _ _) (Nat.le_refl _) _).setCell (p := ⟨wa.heap.size, 9, none⟩) (Nat.le_refl _) _
  have hg : W5.heap[wa.heap.size]? = some (.cells #[.int .i64 kd, .string sp, .int .i64 sc, .string dp, .int .i64 dc, .int .i64 sq, .string da, .int .i64 th, .int .i64 ta, .string ⟨#[]⟩, .string ⟨#[]⟩, .int .i64 0, .int .i64 0] 27 (0, 0)) := by rw [hW5]; first | exact push_new _ _ _ | exact row_put5 (push_new _ _ _)
  have hp := cells_of hp hb5 (Array.getElem?_eq_some_iff.1 hp).1
  have hbel := hbel.trans (hb5.mono hbel.size)
  have hgl := (Array.getElem?_eq_some_iff.1 hg).1
  have hpl := (Array.getElem?_eq_some_iff.1 hp).1
  have q0 := cell_heap hg 0; have q1 := cell_heap hg 1; have q2 := cell_heap hg 2; have q3 := cell_heap hg 3; have q4 := cell_heap hg 4; have q5 := cell_heap hg 5; have q6 := cell_heap hg 6; have q7 := cell_heap hg 7; have q8 := cell_heap hg 8; have q9 := cell_heap hg 9; have q10 := cell_heap hg 10; have q11 := cell_heap hg 11; have q12 := cell_heap hg 12
  have C6 := CLt (W5.alloc (.cells #[.int .i64 kd, .string sp, .int .i64 sc, .string dp, .int .i64 dc, .int .i64 sq, .string da, .int .i64 th, .int .i64 ta, .string ⟨#[]⟩, .string ⟨#[]⟩, .int .i64 0, .int .i64 0] 27)) W5.heap.size (push_new _ _ _)
  have hb6a : Below W5.heap.size W5 (W5.alloc (.cells #[.int .i64 kd, .string sp, .int .i64 sc, .string dp, .int .i64 dc, .int .i64 sq, .string da, .int .i64 th, .int .i64 ta, .string ⟨#[]⟩, .string ⟨#[]⟩, .int .i64 0, .int .i64 0] 27)) := Below.alloc (Below.refl _ _) (Nat.le_refl _) _
  clear hW5 hb5 CLt
  cases lb
  · go_wp2_with (first | (go_at_call 9; refine C6.mono ?_; rintro e w6 ⟨rfl, hb6⟩; have hb6 := hb6a.trans (hb6.mono hb6a.size); have hbel := hbel.trans (hb6.mono hbel.size)) | (go_at_call 8; refine (first9_any _).mono ?_; rintro e wz ⟨rfl, hbz⟩; have hbel := hbel.trans (hbz.mono hbel.size)))
    go_ret
    exact ⟨rfl, hbel⟩
  cases mb
  · go_wp2_with (first | (go_at_call 9; refine C6.mono ?_; rintro e w6 ⟨rfl, hb6⟩; have hb6 := hb6a.trans (hb6.mono hb6a.size); have hg := cells_of hg hb6 hgl; have hbel := hbel.trans (hb6.mono hbel.size); have q0 := cell_heap hg 0; have q1 := cell_heap hg 1; have q2 := cell_heap hg 2; have q3 := cell_heap hg 3; have q4 := cell_heap hg 4; have q5 := cell_heap hg 5; have q6 := cell_heap hg 6; have q7 := cell_heap hg 7; have q8 := cell_heap hg 8; have q9 := cell_heap hg 9; have q10 := cell_heap hg 10; have q11 := cell_heap hg 11; have q12 := cell_heap hg 12) | (go_at_call 11; refine (CM _).mono ?_; rintro e w7 ⟨rfl, hb7⟩; have hbel := hbel.trans (hb7.mono hbel.size)) | (go_at_call 8; refine (first9_any _).mono ?_; rintro e wz ⟨rfl, hbz⟩; have hbel := hbel.trans (hbz.mono hbel.size)))
    go_ret
    exact ⟨rfl, hbel⟩
  have CO2 := fun W => CO W rfl
  clear CO hH
  go_upto_region 8 with (first | (go_at_call 9; refine C6.mono ?_; rintro e w6 ⟨rfl, hb6⟩; have hb6 := hb6a.trans (hb6.mono hb6a.size); have hg := cells_of hg hb6 hgl; have hp := cells_of hp hb6 hpl; have hgl := Nat.lt_of_lt_of_le hgl hb6.size; have hpl := Nat.lt_of_lt_of_le hpl hb6.size; have hbel := hbel.trans (hb6.mono hbel.size); have q0 := cell_heap hg 0; have q1 := cell_heap hg 1; have q2 := cell_heap hg 2; have q3 := cell_heap hg 3; have q4 := cell_heap hg 4; have q5 := cell_heap hg 5; have q6 := cell_heap hg 6; have q7 := cell_heap hg 7; have q8 := cell_heap hg 8; have q9 := cell_heap hg 9; have q10 := cell_heap hg 10; have q11 := cell_heap hg 11; have q12 := cell_heap hg 12) | (go_at_call 11; refine (CM _).mono ?_; rintro e w7 ⟨rfl, hb7⟩; have hg := cells_of hg hb7 hgl; have hp := cells_of hp hb7 hpl; have hgl := Nat.lt_of_lt_of_le hgl hb7.size; have hpl := Nat.lt_of_lt_of_le hpl hb7.size; have hbel := hbel.trans (hb7.mono hbel.size); have q0 := cell_heap hg 0; have q1 := cell_heap hg 1; have q2 := cell_heap hg 2; have q3 := cell_heap hg 3; have q4 := cell_heap hg 4; have q5 := cell_heap hg 5; have q6 := cell_heap hg 6; have q7 := cell_heap hg 7; have q8 := cell_heap hg 8; have q9 := cell_heap hg 9; have q10 := cell_heap hg 10; have q11 := cell_heap hg 11; have q12 := cell_heap hg 12))
  by_cases k2 : kd = 2
  · subst k2
    simp only [show ((2 : Int) == 2 || (2 : Int) == 3) = true from rfl, cond_true] at CO2
    go_wp2_with (go_at_call 13; refine (CO2 _).mono ?_; rintro e w8 ⟨rfl, hb8⟩; have hp := cells_of hp hb8 hpl; have hpl := Nat.lt_of_lt_of_le hpl hb8.size; have hbel := hbel.trans (hb8.mono hbel.size); have p0 := cell_heap hp 0; have p1 := cell_heap hp 1; have p2 := cell_heap hp 2; have p3 := cell_heap hp 3; have p4 := cell_heap hp 4; have p5 := cell_heap hp 5; have p6 := cell_heap hp 6; have p7 := cell_heap hp 7)
    go_ret
    exact ⟨rfl, Below.alloc hbel hbel.size _⟩
  have e2 : (kd == 2) = false := beq_eq_false_iff_ne.2 k2
  simp only [e2, e3, Bool.or_false, cond_false] at CO2
  go_wp2_with (go_at_call 13; refine (CO2 _).mono ?_; rintro e w8 ⟨rfl, hb8⟩; have hp := cells_of hp hb8 hpl; have hpl := Nat.lt_of_lt_of_le hpl hb8.size; have hbel := hbel.trans (hb8.mono hbel.size); have p0 := cell_heap hp 0; have p1 := cell_heap hp 1; have p2 := cell_heap hp 2; have p3 := cell_heap hp 3; have p4 := cell_heap hp 4; have p5 := cell_heap hp 5; have p6 := cell_heap hp 6; have p7 := cell_heap hp 7)
  go_ret
  exact ⟨rfl, Below.alloc hbel hbel.size _⟩
end Go.Proofs.Ytekhmdjpkngglaa
