/- WireReads, walked. -/
import Derived.Test.YtngohpkkajcalaaReaderA
import Derived.Test.YtngohpkkajcalaaRegI
import Derived.Test.YtngohpkkajcalaaGtOpen
import Derived.Test.YtngohpkkajcalaaHashEq
import Derived.Deep.Cut
import Derived.WalkKit
import Derived.ProofKit
import Derived.Handy
import Derived.Below
import Derived.BigQuiet
import Derived.Lib.Hide
import Derived.IntWalk
import Derived.Outline
import Derived.WalkLawsBesides
import Derived.WalkSpells
namespace Go.Proofs.Ytngohpkkajcalaa
open Go.RowKit
attribute [local go_sem] strV
set_option linter.unusedVariables false
/-- All blocks below n are kept, block b aside. -/
structure KB (b n : Nat) (w w' : World) : Prop where
  os : w'.os = w.os
  tape : w'.tape = w.tape
  output : w'.output = w.output
  size : w.heap.size ≤ w'.heap.size
  block : ∀ k, k < n → k ≠ b → w'.heap[k]? = w.heap[k]?
theorem KB.of {b : Nat} {w w' : World} (h : Kept b w w') : KB b w.heap.size w w' := ⟨h.os, h.tape, h.output, h.size, h.block⟩
theorem KB.kept {b n : Nat} {w w1 w2 : World} (h : KB b n w w1) (g : Kept b w1 w2) (hn : n ≤ w.heap.size) : KB b n w w2 :=
  ⟨g.os.trans h.os, g.tape.trans h.tape, g.output.trans h.output, Nat.le_trans h.size g.size, fun k hk hne => (g.block k (Nat.lt_of_lt_of_le hk (Nat.le_trans hn h.size)) hne).trans (h.block k hk hne)⟩
theorem KB.less {b n c : Nat} {w w1 w2 : World} (h : KB b n w w1) (g : Below c w1 w2) (hc : c ≤ n) : KB b c w w2 :=
  ⟨g.os.trans h.os, g.tape.trans h.tape, g.output.trans h.output, Nat.le_trans h.size g.size, fun k hk hne => (g.block k hk).trans (h.block k (by omega) hne)⟩
theorem KB.below {b n B : Nat} {w w' : World} (h : KB b n w w') (hB : B ≤ b) (hn : B ≤ n) : Below B w w' :=
  ⟨h.os, h.tape, h.output, h.size, fun k hk => h.block k (by omega) (by omega)⟩
/-- Both readers, the first one of which has answered if d1, the second one if d2. -/
structure RR (b c : Nat) (w0 : World) (s : ByteArray) (A E A' E' : Int) (d1 d2 : Bool) (W : World) : Prop where
  k : KB b (bif d2 then c else w0.heap.size) w0 W
  r : RAt b W s (bif d1 then A' else A) (bif d1 then E' else E)
  q : QAt c W s (bif d2 then A' else A) (bif d2 then E' else E)
theorem RR.cell {b c g : Nat} {w0 W : World} {s : ByteArray} {A E A' E' : Int} {d1 : Bool} (h : RR b c w0 s A E A' E' d1 false W) (hg : g < w0.heap.size) (hb : g ≠ b) (j : Nat) : W.cell? ⟨g, j, none⟩ = w0.cell? ⟨g, j, none⟩ := by
  have := h.k.block g hg hb
  unfold World.cell?
  simp only [this]
theorem RR.one {b c : Nat} {w0 W W' : World} {s : ByteArray} {A E A' E' : Int} {d2 : Bool} (h : RR b c w0 s A E A' E' false d2 W) (hc : c ≤ w0.heap.size) (hbc : b < c) (hr : RAt b W' s A' E') (hk : Kept b W W') : RR b c w0 s A E A' E' true d2 W' :=
  ⟨h.k.kept hk (by cases d2 <;> simp [hc]), hr, h.q.kept hk (by omega)⟩
theorem RR.two {b c : Nat} {w0 W W' : World} {s : ByteArray} {A E A' E' : Int} {d1 : Bool} (h : RR b c w0 s A E A' E' d1 false W) (hc : c ≤ w0.heap.size) (hbc : b < c) (hq : QAt c W' s A' E') (hk : Below c W W') : RR b c w0 s A E A' E' d1 true W' :=
  ⟨h.k.less hk hc, h.r.below hk hbc, hq⟩
theorem rat_below (b : Nat) (w : World) (s : ByteArray) (at_ err : Int) (h : RAt b w s at_ err) :
    Calls Try.prog 22 #[.pointer (some ⟨b, 0, none⟩)] w fun e w' => e = .returned (.int .i64 at_) ∧ Below w.heap.size w w' :=
  (rat_any b w s at_ err h).mono fun e w' ⟨h1, h2⟩ => ⟨h1, h2 ▸ Below.refl _ _⟩
theorem rerr_below (b : Nat) (w : World) (s : ByteArray) (at_ err : Int) (h : RAt b w s at_ err) :
    Calls Try.prog 23 #[.pointer (some ⟨b, 0, none⟩)] w fun e w' => e = .returned (.int .i64 err) ∧ Below w.heap.size w w' :=
  (rerr_any b w s at_ err h).mono fun e w' ⟨h1, h2⟩ => ⟨h1, h2 ▸ Below.refl _ _⟩
theorem hashG_hrow {s : ByteArray} {at_ err : Int} (h : 0 ≤ at_ ∧ at_ ≤ s.size) : ∃ l : List UInt8, l.length = 32 ∧ (hashG s at_ err).1 = hrow l := by
  have hz : ∃ l : List UInt8, l.length = 32 ∧ zrow = hrow l := ⟨List.replicate 32 0, by simp, zrow_hrow⟩
  unfold hashG
  split
  · split
    · exact hz
    · exact ⟨_, hashL_len s at_ h.1 (by omega), rfl⟩
  · exact hz
set_option maxRecDepth 100000 in
set_option maxHeartbeats 6400000 in
theorem walkWireReads (s : ByteArray) (a : Option Addr) (n cap : Nat) (gs : List Gt) (w : World) (hs : s.size ≤ maxLen) (hr : RowAt w a (gs.flatMap Gt.cells)) (hn : gs.length = n) (hl : n ≤ maxLen) :
    Calls Try.prog 4 #[.string s, .slice a n cap] w fun e w' => e = .returned (.bool true) ∧ Below w.heap.size w w' := by
  have HN := Lib.hid hn; clear hn
  by_cases h300 : 600 < s.size
  · go_enter Try.func4, Try.ntmps4
    go_wp2_with (go_at_call 8; refine (first4_any _).mono ?_; rintro e wa ⟨rfl, hba⟩)
    go_ret
    exact ⟨rfl, by repeat (first | assumption | exact Below.refl _ _ | refine bch ?_ (by assumption) | refine Below.alloc ?_ (by simp) _)⟩
  by_cases h20 : 40 < n
  · go_enter Try.func4, Try.ntmps4
    go_wp2_with (go_at_call 8; refine (first4_any _).mono ?_; rintro e wa ⟨rfl, hba⟩)
    go_ret
    exact ⟨rfl, by repeat (first | assumption | exact Below.refl _ _ | refine bch ?_ (by assumption) | refine Below.alloc ?_ (by simp) _)⟩
  have hs9 : s.size ≤ 1000000000 := by omega
  go_enter Try.func4, Try.ntmps4
  go_wp2_with (first | (go_at_call 8; refine (first4_any _).mono ?_; rintro e wa ⟨rfl, hba⟩) | (go_at_call 13; refine (rof_any s _).mono ?_; rintro e wb ⟨rfl, hR, hbb⟩))
  go_loopw [7] (fun i wr => ∃ (k : Nat) (A E : Int), k ≤ n ∧ RAt wa.heap.size wr s A E ∧ QAt wb.heap.size wr s A E ∧ (0 ≤ A ∧ A ≤ s.size) ∧ Below w.heap.size w wr ∧ i = .int .i64 k) (fun i _ => n - (intOf i).toNat)
  case atStart =>
    refine ⟨0, 0, 0, by omega, hR.below (Below.alloc (Below.refl _ _) (Nat.le_refl _) _) hR.lt, ?_, ⟨by omega, by omega⟩, ?_, rfl⟩
    · show (wb.heap.push _)[wb.heap.size]? = _
      rw [Array.getElem?_push_size]
    · exact Below.alloc (hba.trans (hbb.mono hba.size)) (Nat.le_trans hba.size hbb.size) _
  case round =>
    have hbc : wa.heap.size < wb.heap.size := hR.lt
    have hwa : w.heap.size ≤ wa.heap.size := hba.size
    clear hR hba hbb
    obtain ⟨k, A, E, hk, hR, hQ, hP, hbel, rfl⟩ := hrel
    by_cases hlt : k < n
    rotate_left
    · have hF : endF s A E = endF s A E := rfl
      go_wp2_with (first | (go_at_call 24; refine (rend_any _ _ s A E hR).mono ?_; rintro e w1 ⟨rfl, hb1⟩; have hQ := hQ.below hb1 hQ.lt) | (go_at_call 25; refine (qend_any _ _ s A E hQ).mono ?_; rintro e w2 ⟨rfl, hb2⟩))
      go_ret
      exact ⟨rfl, (hbel.trans (hb1.mono hbel.size)).trans (hb2.mono (Nat.le_trans hbel.size hb1.size))⟩
    obtain ⟨b, off, rfl, hbl, c0, c1, c2⟩ := gt_at (hr.below hbel) (k := k) (by rw [HN.out]; exact hlt)
    obtain ⟨⟨kd, le, mo⟩, hg⟩ : ∃ g, gs[k]'(by rw [HN.out]; exact hlt) = g := ⟨_, rfl⟩
    rw [hg] at c0 c1 c2
    simp only at c0 c1 c2
    by_cases h0 : kd = 0
    · subst h0
      go_wp2
      refine wp_nameR _ (fun W9 hW => ?_)
      have hbA : Below wr.heap.size wr W9 := by rw [hW]; exact Below.alloc (Below.refl _ _) (Nat.le_refl _) _
      have hgh : W9.heap[wr.heap.size]? = some (.cells #[.int .i64 0, .int .i64 le, .int .i64 mo] 38 (0, 0)) := by rw [hW]; show (wr.heap.push _)[wr.heap.size]? = _; rw [Array.getElem?_push_size]
      have g1 : W9.cell? ⟨wr.heap.size, 1, none⟩ = some (.int .i64 le) := cell_heap hgh 1
      have g2 : W9.cell? ⟨wr.heap.size, 2, none⟩ = some (.int .i64 mo) := cell_heap hgh 2
      have hgl : wr.heap.size < W9.heap.size := (Array.getElem?_eq_some_iff.1 hgh).1
      have hgb : wr.heap.size ≠ wa.heap.size := by have := hR.lt; omega
      have hRW := hR.below hbA hR.lt
      have hQW := hQ.below hbA hQ.lt
      have hcs : wb.heap.size ≤ W9.heap.size := Nat.le_of_lt hQW.lt
      have hbelW : Below w.heap.size w W9 := hbel.trans (hbA.mono hbel.size)
      clear hW hgh
      obtain ⟨⟨R, A', E'⟩, hG⟩ : ∃ t, numG s A E le mo = t := ⟨_, rfl⟩
      have C1 := fun W h => rnum_all wa.heap.size W s A E le mo h hs9
      have C2 := fun W h => qnum_all wb.heap.size W s A E le mo h hs9
      have hP' : 0 ≤ A' ∧ A' ≤ s.size := by have := numG_in (err := E) (least := le) (most := mo) hP; rw [hG] at this; exact this
      simp only [hG] at C1 C2
      refine wp_region_vals [.pointer (some ⟨wa.heap.size, 0, none⟩), .pointer (some ⟨wr.heap.size, 1, none⟩), .int .i64 le, .pointer (some ⟨wr.heap.size, 2, none⟩), .int .i64 mo, .int .i64 R, .pointer (some ⟨wb.heap.size, 0, none⟩), .pointer (some ⟨wr.heap.size, 1, none⟩), .int .i64 le, .pointer (some ⟨wr.heap.size, 2, none⟩), .int .i64 mo, .int .i64 R, .bool true, .bool true] (fun D => RR wa.heap.size wb.heap.size W9 s A E A' E' (D 5) (D 11)) (by kernel_rfl) (by kernel_rfl) (by kernel_rfl) (by kernel_rfl) (fun x => by simp only [fillFrom, Act.put, List.setIfInBounds_toArray, List.set_cons_succ, List.set_cons_zero, Nat.zero_add, Nat.reduceAdd]; rfl) ?_ ?_ ?_
      case refine_2 =>
        refine ⟨?_, ?_, ?_, ?_, ?_, ?_, ?_, ?_, ?_, ?_, ?_, ?_, ?_, ?_, trivial⟩
        · intro D x w' hD hI hw hcl
          clear hw
          go_wp2_with fail
          exact ivPost_mk rfl rfl hI
        · intro D x w' hD hI hw hcl
          clear hw
          go_wp2_with fail
          exact ivPost_mk rfl rfl hI
        · intro D x w' hD hI hw hcl
          have d1 : x 1 = .pointer (some ⟨wr.heap.size, 1, none⟩) := (hw 1 rfl).2
          have h11 : D 11 = false := by
            cases h : D 11 with
            | false => rfl
            | true => have := (hcl.at (i := 5) (j := 2) (hcl.at (i := 11) (j := 5) h rfl) rfl); rw [hD] at this; cases this
          have hI2 : RR wa.heap.size wb.heap.size W9 s A E A' E' (D 5) (D 11) w' := hI
          rw [h11] at hI2
          clear h11
          have m := (hI2.cell hgl hgb 1).trans g1
          clear hw
          go_wp2_with fail
          exact ivPost_mk rfl rfl hI
        · intro D x w' hD hI hw hcl
          clear hw
          go_wp2_with fail
          exact ivPost_mk rfl rfl hI
        · intro D x w' hD hI hw hcl
          have d3 : x 3 = .pointer (some ⟨wr.heap.size, 2, none⟩) := (hw 3 rfl).2
          have h11 : D 11 = false := by
            cases h : D 11 with
            | false => rfl
            | true => have := (hcl.at (i := 5) (j := 4) (hcl.at (i := 11) (j := 5) h rfl) rfl); rw [hD] at this; cases this
          have hI2 : RR wa.heap.size wb.heap.size W9 s A E A' E' (D 5) (D 11) w' := hI
          rw [h11] at hI2
          clear h11
          have m := (hI2.cell hgl hgb 2).trans g2
          clear hw
          go_wp2_with fail
          exact ivPost_mk rfl rfl hI
        · intro D x w' hD hI hw hcl
          have d0 : x 0 = .pointer (some ⟨wa.heap.size, 0, none⟩) := (hw 0 rfl).2
          have d2 : x 2 = .int .i64 le := (hw 2 rfl).2
          have d4 : x 4 = .int .i64 mo := (hw 4 rfl).2
          clear hw
          have hI1 : RR wa.heap.size wb.heap.size W9 s A E A' E' (D 5) (D 11) w' := hI
          rw [hD] at hI1
          go_wp2_with (go_at_call 14; refine (C1 w' hI1.r).mono ?_; rintro e w2 ⟨rfl, hr2, hk2⟩)
          exact ivPost_mk rfl rfl (RR.one hI1 hcs hbc hr2 hk2)
        · intro D x w' hD hI hw hcl
          clear hw
          go_wp2_with fail
          exact ivPost_mk rfl rfl hI
        · intro D x w' hD hI hw hcl
          clear hw
          go_wp2_with fail
          exact ivPost_mk rfl rfl hI
        · intro D x w' hD hI hw hcl
          have d7 : x 7 = .pointer (some ⟨wr.heap.size, 1, none⟩) := (hw 7 rfl).2
          have h11 : D 11 = false := by
            cases h : D 11 with
            | false => rfl
            | true => have := (hcl.at (i := 11) (j := 8) h rfl); rw [hD] at this; cases this
          have hI2 : RR wa.heap.size wb.heap.size W9 s A E A' E' (D 5) (D 11) w' := hI
          rw [h11] at hI2
          clear h11
          have m := (hI2.cell hgl hgb 1).trans g1
          clear hw
          go_wp2_with fail
          exact ivPost_mk rfl rfl hI
        · intro D x w' hD hI hw hcl
          clear hw
          go_wp2_with fail
          exact ivPost_mk rfl rfl hI
        · intro D x w' hD hI hw hcl
          have d9 : x 9 = .pointer (some ⟨wr.heap.size, 2, none⟩) := (hw 9 rfl).2
          have h11 : D 11 = false := by
            cases h : D 11 with
            | false => rfl
            | true => have := (hcl.at (i := 11) (j := 10) h rfl); rw [hD] at this; cases this
          have hI2 : RR wa.heap.size wb.heap.size W9 s A E A' E' (D 5) (D 11) w' := hI
          rw [h11] at hI2
          clear h11
          have m := (hI2.cell hgl hgb 2).trans g2
          clear hw
          go_wp2_with fail
          exact ivPost_mk rfl rfl hI
        · intro D x w' hD hI hw hcl
          have d6 : x 6 = .pointer (some ⟨wb.heap.size, 0, none⟩) := (hw 6 rfl).2
          have d8 : x 8 = .int .i64 le := (hw 8 rfl).2
          have d10 : x 10 = .int .i64 mo := (hw 10 rfl).2
          clear hw
          have hI1 : RR wa.heap.size wb.heap.size W9 s A E A' E' (D 5) (D 11) w' := hI
          rw [hD] at hI1
          go_wp2_with (go_at_call 15; refine (C2 w' hI1.q).mono ?_; rintro e w2 ⟨rfl, hq2, hk2⟩)
          exact ivPost_mk rfl rfl (RR.two hI1 hcs hbc hq2 hk2)
        · intro D x w' hD hI hw hcl
          have d5 : x 5 = .int .i64 R := (hw 5 rfl).2
          have d11 : x 11 = .int .i64 R := (hw 11 rfl).2
          clear hw
          go_wp2_with fail
          exact ivPost_mk rfl rfl hI
        · intro D x w' hD hI hw hcl
          have d12 : x 12 = .bool true := (hw 12 rfl).2
          clear hw
          go_wp2_with fail
          exact ivPost_mk rfl rfl hI
      case refine_1 => exact ⟨⟨rfl, rfl, rfl, Nat.le_refl _, fun _ _ _ => rfl⟩, hRW, hQW⟩
      case refine_3 =>
        intro W1 hI x hx
        have hI2 : RR wa.heap.size wb.heap.size W9 s A E A' E' true true W1 := hI
        have hR1 : RAt wa.heap.size W1 s A' E' := hI2.r
        have hQ1 : QAt wb.heap.size W1 s A' E' := hI2.q
        have hbel1 : Below w.heap.size w W1 := hbelW.trans (hI2.k.below hwa (Nat.le_of_lt (Nat.lt_of_le_of_lt hwa hbc)))
        have dl : x 13 = .bool true := hx 13 (by decide)
        clear hI hI2 hx hRW hQW hR hQ
        obtain ⟨hcb, hfb⟩ := beyond_cells (W := W1)
        have hRlt := hR1.lt
        have hQlt := hQ1.lt
        have q1 := hQ1.c1; have q2 := hQ1.c2
        have CA := fun (nx : Beyond W1) => rat_below _ nx.x s A' E' (hR1.below nx.h hRlt)
        have CE := fun (nx : Beyond W1) => rerr_below _ nx.x s A' E' (hR1.below nx.h hRlt)
        have CD := fun (nx : Beyond W1) => rend_any _ nx.x s A' E' (hR1.below nx.h hRlt)
        have CQ := fun (nx : Beyond W1) => qend_any _ nx.x s A' E' (hQ1.below nx.h hQlt)
        go_wp2
        refine wp_region_below (by kernel_rfl) (by kernel_rfl) ?_
        repeat (go_big_quiet_step (first | (go_at_call 22; exact quiet_below (CA _)) | (go_at_call 23; exact quiet_below (CE _)) | (go_at_call 24; exact quiet_below (CD _)) | (go_at_call 25; exact quiet_below (CQ _))))
        intro w9 hw9
        have hb9 := beyond_below hw9
        have hR9 := hR1.below hb9 hRlt
        have hQ9 := hQ1.below hb9 hQlt
        have hbel9 : Below w.heap.size w w9 := hbel1.trans (hb9.mono hbel1.size)
        clear hw9
        go_wp2
        go_roundw
        case rel => exact ⟨k + 1, A', E', by omega, hR9, hQ9, hP', hbel9, by go_num⟩
        case measure => (simp [intOf]) <;> omega
    have e0 : (kd == 0) = false := beq_eq_false_iff_ne.2 h0
    by_cases h1 : kd = 1
    · subst h1
      go_wp2
      refine wp_nameR _ (fun W9 hW => ?_)
      have hbA : Below wr.heap.size wr W9 := by rw [hW]; exact Below.alloc (Below.refl _ _) (Nat.le_refl _) _
      have hgh : W9.heap[wr.heap.size]? = some (.cells #[.int .i64 1, .int .i64 le, .int .i64 mo] 38 (0, 0)) := by rw [hW]; show (wr.heap.push _)[wr.heap.size]? = _; rw [Array.getElem?_push_size]
      have g1 : W9.cell? ⟨wr.heap.size, 1, none⟩ = some (.int .i64 le) := cell_heap hgh 1
      have g2 : W9.cell? ⟨wr.heap.size, 2, none⟩ = some (.int .i64 mo) := cell_heap hgh 2
      have hgl : wr.heap.size < W9.heap.size := (Array.getElem?_eq_some_iff.1 hgh).1
      have hgb : wr.heap.size ≠ wa.heap.size := by have := hR.lt; omega
      have hRW := hR.below hbA hR.lt
      have hQW := hQ.below hbA hQ.lt
      have hcs : wb.heap.size ≤ W9.heap.size := Nat.le_of_lt hQW.lt
      have hbelW : Below w.heap.size w W9 := hbel.trans (hbA.mono hbel.size)
      clear hW hgh
      obtain ⟨⟨R, A', E'⟩, hG⟩ : ∃ t, textG s A E mo = t := ⟨_, rfl⟩
      have C1 := fun W h => rtext_all wa.heap.size W s A E mo h hs9
      have C2 := fun W h => qtext_all wb.heap.size W s A E mo h hs9
      have hP' : 0 ≤ A' ∧ A' ≤ s.size := by have := textG_in (err := E) (most := mo) hP; rw [hG] at this; exact this
      simp only [hG] at C1 C2
      refine wp_region_vals [.pointer (some ⟨wa.heap.size, 0, none⟩), .pointer (some ⟨wr.heap.size, 2, none⟩), .int .i64 mo, .string R, .pointer (some ⟨wb.heap.size, 0, none⟩), .pointer (some ⟨wr.heap.size, 2, none⟩), .int .i64 mo, .string R, .bool true, .bool true] (fun D => RR wa.heap.size wb.heap.size W9 s A E A' E' (D 3) (D 7)) (by kernel_rfl) (by kernel_rfl) (by kernel_rfl) (by kernel_rfl) (fun x => by simp only [fillFrom, Act.put, List.setIfInBounds_toArray, List.set_cons_succ, List.set_cons_zero, Nat.zero_add, Nat.reduceAdd]; rfl) ?_ ?_ ?_
      case refine_2 =>
        refine ⟨?_, ?_, ?_, ?_, ?_, ?_, ?_, ?_, ?_, ?_, trivial⟩
        · intro D x w' hD hI hw hcl
          clear hw
          go_wp2_with fail
          exact ivPost_mk rfl rfl hI
        · intro D x w' hD hI hw hcl
          clear hw
          go_wp2_with fail
          exact ivPost_mk rfl rfl hI
        · intro D x w' hD hI hw hcl
          have d1 : x 1 = .pointer (some ⟨wr.heap.size, 2, none⟩) := (hw 1 rfl).2
          have h11 : D 7 = false := by
            cases h : D 7 with
            | false => rfl
            | true => have := (hcl.at (i := 3) (j := 2) (hcl.at (i := 7) (j := 3) h rfl) rfl); rw [hD] at this; cases this
          have hI2 : RR wa.heap.size wb.heap.size W9 s A E A' E' (D 3) (D 7) w' := hI
          rw [h11] at hI2
          clear h11
          have m := (hI2.cell hgl hgb 2).trans g2
          clear hw
          go_wp2_with fail
          exact ivPost_mk rfl rfl hI
        · intro D x w' hD hI hw hcl
          have d0 : x 0 = .pointer (some ⟨wa.heap.size, 0, none⟩) := (hw 0 rfl).2
          have d2 : x 2 = .int .i64 mo := (hw 2 rfl).2
          clear hw
          have hI1 : RR wa.heap.size wb.heap.size W9 s A E A' E' (D 3) (D 7) w' := hI
          rw [hD] at hI1
          go_wp2_with (go_at_call 16; refine (C1 w' hI1.r).mono ?_; rintro e w2 ⟨rfl, hr2, hk2⟩)
          exact ivPost_mk rfl rfl (RR.one hI1 hcs hbc hr2 hk2)
        · intro D x w' hD hI hw hcl
          clear hw
          go_wp2_with fail
          exact ivPost_mk rfl rfl hI
        · intro D x w' hD hI hw hcl
          clear hw
          go_wp2_with fail
          exact ivPost_mk rfl rfl hI
        · intro D x w' hD hI hw hcl
          have d5 : x 5 = .pointer (some ⟨wr.heap.size, 2, none⟩) := (hw 5 rfl).2
          have h11 : D 7 = false := by
            cases h : D 7 with
            | false => rfl
            | true => have := (hcl.at (i := 7) (j := 6) h rfl); rw [hD] at this; cases this
          have hI2 : RR wa.heap.size wb.heap.size W9 s A E A' E' (D 3) (D 7) w' := hI
          rw [h11] at hI2
          clear h11
          have m := (hI2.cell hgl hgb 2).trans g2
          clear hw
          go_wp2_with fail
          exact ivPost_mk rfl rfl hI
        · intro D x w' hD hI hw hcl
          have d4 : x 4 = .pointer (some ⟨wb.heap.size, 0, none⟩) := (hw 4 rfl).2
          have d6 : x 6 = .int .i64 mo := (hw 6 rfl).2
          clear hw
          have hI1 : RR wa.heap.size wb.heap.size W9 s A E A' E' (D 3) (D 7) w' := hI
          rw [hD] at hI1
          go_wp2_with (go_at_call 17; refine (C2 w' hI1.q).mono ?_; rintro e w2 ⟨rfl, hq2, hk2⟩)
          exact ivPost_mk rfl rfl (RR.two hI1 hcs hbc hq2 hk2)
        · intro D x w' hD hI hw hcl
          have d3 : x 3 = .string R := (hw 3 rfl).2
          have d7 : x 7 = .string R := (hw 7 rfl).2
          clear hw
          go_wp2_with fail
          exact ivPost_mk rfl rfl hI
        · intro D x w' hD hI hw hcl
          have d8 : x 8 = .bool true := (hw 8 rfl).2
          clear hw
          go_wp2_with fail
          exact ivPost_mk rfl rfl hI
      case refine_1 => exact ⟨⟨rfl, rfl, rfl, Nat.le_refl _, fun _ _ _ => rfl⟩, hRW, hQW⟩
      case refine_3 =>
        intro W1 hI x hx
        have hI2 : RR wa.heap.size wb.heap.size W9 s A E A' E' true true W1 := hI
        have hR1 : RAt wa.heap.size W1 s A' E' := hI2.r
        have hQ1 : QAt wb.heap.size W1 s A' E' := hI2.q
        have hbel1 : Below w.heap.size w W1 := hbelW.trans (hI2.k.below hwa (Nat.le_of_lt (Nat.lt_of_le_of_lt hwa hbc)))
        have dl : x 9 = .bool true := hx 9 (by decide)
        clear hI hI2 hx hRW hQW hR hQ
        obtain ⟨hcb, hfb⟩ := beyond_cells (W := W1)
        have hRlt := hR1.lt
        have hQlt := hQ1.lt
        have q1 := hQ1.c1; have q2 := hQ1.c2
        have CA := fun (nx : Beyond W1) => rat_below _ nx.x s A' E' (hR1.below nx.h hRlt)
        have CE := fun (nx : Beyond W1) => rerr_below _ nx.x s A' E' (hR1.below nx.h hRlt)
        have CD := fun (nx : Beyond W1) => rend_any _ nx.x s A' E' (hR1.below nx.h hRlt)
        have CQ := fun (nx : Beyond W1) => qend_any _ nx.x s A' E' (hQ1.below nx.h hQlt)
        go_wp2
        refine wp_region_below (by kernel_rfl) (by kernel_rfl) ?_
        repeat (go_big_quiet_step (first | (go_at_call 22; exact quiet_below (CA _)) | (go_at_call 23; exact quiet_below (CE _)) | (go_at_call 24; exact quiet_below (CD _)) | (go_at_call 25; exact quiet_below (CQ _))))
        intro w9 hw9
        have hb9 := beyond_below hw9
        have hR9 := hR1.below hb9 hRlt
        have hQ9 := hQ1.below hb9 hQlt
        have hbel9 : Below w.heap.size w w9 := hbel1.trans (hb9.mono hbel1.size)
        clear hw9
        go_wp2
        go_roundw
        case rel => exact ⟨k + 1, A', E', by omega, hR9, hQ9, hP', hbel9, by go_num⟩
        case measure => (simp [intOf]) <;> omega
    have e1 : (kd == 1) = false := beq_eq_false_iff_ne.2 h1
    by_cases h2 : kd = 2
    · subst h2
      obtain ⟨⟨R, A', E'⟩, hG⟩ : ∃ t, hashG s A E = t := ⟨_, rfl⟩
      obtain ⟨hl9, hle9, hRl⟩ := hashG_hrow (err := E) hP
      have hP' : 0 ≤ A' ∧ A' ≤ s.size := by have := hashG_in (err := E) hP; rw [hG] at this; exact this
      have C1 := fun W h => rhash_all wa.heap.size W s A E h hs9 hP
      have C2 := fun W h => qhash_all wb.heap.size W s A E h hs9 hP
      rw [hG] at hRl
      simp only at hRl
      subst hRl
      simp only [hG] at C1 C2
      have hEQ : ∀ W, (Op.equalIn 10000 42 (.agg (hrow hl9)) (.agg (hrow hl9))).run Try.prog W = .ok true W := fun W => by rw [run_equal_hash W _ hl9 hl9 hle9 hle9 Try.underlying42 Try.underlying5 (by kernel_rfl)]; simp
      have hbA : Below wr.heap.size wr (wr.alloc (.cells #[.int .i64 2, .int .i64 le, .int .i64 mo] 38)) := Below.alloc (Below.refl _ _) (Nat.le_refl _) _
      go_upto_region 21 with (first | (go_at_call 18; refine (C1 _ (hR.below hbA hR.lt)).mono ?_; rintro e w1 ⟨rfl, hr1, hk1⟩; have hQk := (hQ.below hbA hQ.lt).kept hk1 (Nat.ne_of_gt hbc)) | (go_at_call 19; refine (C2 _ hQk).mono ?_; rintro e W1 ⟨rfl, hq2, hk2⟩))
      have hR1 : RAt wa.heap.size W1 s A' E' := hr1.below hk2 hbc
      have hQ1 : QAt wb.heap.size W1 s A' E' := hq2
      have hbel1 : Below w.heap.size w W1 := ((hbel.trans (hbA.mono hbel.size)).trans (hk1.below hwa (Nat.le_trans hbel.size hbA.size))).trans (hk2.mono (Nat.le_of_lt (Nat.lt_of_le_of_lt hwa hbc)))
      obtain ⟨hcb, hfb⟩ := beyond_cells (W := W1)
      have hRlt := hR1.lt
      have hQlt := hQ1.lt
      have q1 := hQ1.c1; have q2 := hQ1.c2
      have CA := fun (nx : Beyond W1) => rat_below _ nx.x s A' E' (hR1.below nx.h hRlt)
      have CE := fun (nx : Beyond W1) => rerr_below _ nx.x s A' E' (hR1.below nx.h hRlt)
      have CD := fun (nx : Beyond W1) => rend_any _ nx.x s A' E' (hR1.below nx.h hRlt)
      have CQ := fun (nx : Beyond W1) => qend_any _ nx.x s A' E' (hQ1.below nx.h hQlt)
      go_wp2
      refine wp_region_below (by kernel_rfl) (by kernel_rfl) ?_
      repeat (go_big_quiet_step (first | (go_at_call 22; exact quiet_below (CA _)) | (go_at_call 23; exact quiet_below (CE _)) | (go_at_call 24; exact quiet_below (CD _)) | (go_at_call 25; exact quiet_below (CQ _))))
      intro w9 hw9
      have hb9 := beyond_below hw9
      have hR9 := hR1.below hb9 hRlt
      have hQ9 := hQ1.below hb9 hQlt
      have hbel9 : Below w.heap.size w w9 := hbel1.trans (hb9.mono hbel1.size)
      clear hw9
      go_wp2
      go_roundw
      case rel => exact ⟨k + 1, A', E', by omega, hR9, hQ9, hP', hbel9, by go_num⟩
      case measure => (simp [intOf]) <;> omega
    have e2 : (kd == 2) = false := beq_eq_false_iff_ne.2 h2
    go_wp2
    refine wp_nameR _ (fun W9 hW => ?_)
    have hbA : Below wr.heap.size wr W9 := by rw [hW]; exact Below.alloc (Below.refl _ _) (Nat.le_refl _) _
    have hgh : W9.heap[wr.heap.size]? = some (.cells #[.int .i64 kd, .int .i64 le, .int .i64 mo] 38 (0, 0)) := by rw [hW]; show (wr.heap.push _)[wr.heap.size]? = _; rw [Array.getElem?_push_size]
    have g1 : W9.cell? ⟨wr.heap.size, 1, none⟩ = some (.int .i64 le) := cell_heap hgh 1
    have g2 : W9.cell? ⟨wr.heap.size, 2, none⟩ = some (.int .i64 mo) := cell_heap hgh 2
    have hgl : wr.heap.size < W9.heap.size := (Array.getElem?_eq_some_iff.1 hgh).1
    have hgb : wr.heap.size ≠ wa.heap.size := by have := hR.lt; omega
    have hRW := hR.below hbA hR.lt
    have hQW := hQ.below hbA hQ.lt
    have hcs : wb.heap.size ≤ W9.heap.size := Nat.le_of_lt hQW.lt
    have hbelW : Below w.heap.size w W9 := hbel.trans (hbA.mono hbel.size)
    clear hW hgh
    obtain ⟨⟨R, A', E'⟩, hG⟩ : ∃ t, countG s A E mo = t := ⟨_, rfl⟩
    have C1 := fun W h => rcount_all wa.heap.size W s A E mo h hs9
    have C2 := fun W h => qcount_all wb.heap.size W s A E mo h hs9
    have hP' : 0 ≤ A' ∧ A' ≤ s.size := by have := countG_in (err := E) (most := mo) hP; rw [hG] at this; exact this
    simp only [hG] at C1 C2
    refine wp_region_vals [.pointer (some ⟨wa.heap.size, 0, none⟩), .pointer (some ⟨wr.heap.size, 2, none⟩), .int .i64 mo, .int .i64 R, .pointer (some ⟨wb.heap.size, 0, none⟩), .pointer (some ⟨wr.heap.size, 2, none⟩), .int .i64 mo, .int .i64 R, .bool true, .bool true] (fun D => RR wa.heap.size wb.heap.size W9 s A E A' E' (D 3) (D 7)) (by kernel_rfl) (by kernel_rfl) (by kernel_rfl) (by kernel_rfl) (fun x => by simp only [fillFrom, Act.put, List.setIfInBounds_toArray, List.set_cons_succ, List.set_cons_zero, Nat.zero_add, Nat.reduceAdd]; rfl) ?_ ?_ ?_
    case refine_2 =>
      refine ⟨?_, ?_, ?_, ?_, ?_, ?_, ?_, ?_, ?_, ?_, trivial⟩
      · intro D x w' hD hI hw hcl
        clear hw
        go_wp2_with fail
        exact ivPost_mk rfl rfl hI
      · intro D x w' hD hI hw hcl
        clear hw
        go_wp2_with fail
        exact ivPost_mk rfl rfl hI
      · intro D x w' hD hI hw hcl
        have d1 : x 1 = .pointer (some ⟨wr.heap.size, 2, none⟩) := (hw 1 rfl).2
        have h11 : D 7 = false := by
          cases h : D 7 with
          | false => rfl
          | true => have := (hcl.at (i := 3) (j := 2) (hcl.at (i := 7) (j := 3) h rfl) rfl); rw [hD] at this; cases this
        have hI2 : RR wa.heap.size wb.heap.size W9 s A E A' E' (D 3) (D 7) w' := hI
        rw [h11] at hI2
        clear h11
        have m := (hI2.cell hgl hgb 2).trans g2
        clear hw
        go_wp2_with fail
        exact ivPost_mk rfl rfl hI
      · intro D x w' hD hI hw hcl
        have d0 : x 0 = .pointer (some ⟨wa.heap.size, 0, none⟩) := (hw 0 rfl).2
        have d2 : x 2 = .int .i64 mo := (hw 2 rfl).2
        clear hw
        have hI1 : RR wa.heap.size wb.heap.size W9 s A E A' E' (D 3) (D 7) w' := hI
        rw [hD] at hI1
        go_wp2_with (go_at_call 20; refine (C1 w' hI1.r).mono ?_; rintro e w2 ⟨rfl, hr2, hk2⟩)
        exact ivPost_mk rfl rfl (RR.one hI1 hcs hbc hr2 hk2)
      · intro D x w' hD hI hw hcl
        clear hw
        go_wp2_with fail
        exact ivPost_mk rfl rfl hI
      · intro D x w' hD hI hw hcl
        clear hw
        go_wp2_with fail
        exact ivPost_mk rfl rfl hI
      · intro D x w' hD hI hw hcl
        have d5 : x 5 = .pointer (some ⟨wr.heap.size, 2, none⟩) := (hw 5 rfl).2
        have h11 : D 7 = false := by
          cases h : D 7 with
          | false => rfl
          | true => have := (hcl.at (i := 7) (j := 6) h rfl); rw [hD] at this; cases this
        have hI2 : RR wa.heap.size wb.heap.size W9 s A E A' E' (D 3) (D 7) w' := hI
        rw [h11] at hI2
        clear h11
        have m := (hI2.cell hgl hgb 2).trans g2
        clear hw
        go_wp2_with fail
        exact ivPost_mk rfl rfl hI
      · intro D x w' hD hI hw hcl
        have d4 : x 4 = .pointer (some ⟨wb.heap.size, 0, none⟩) := (hw 4 rfl).2
        have d6 : x 6 = .int .i64 mo := (hw 6 rfl).2
        clear hw
        have hI1 : RR wa.heap.size wb.heap.size W9 s A E A' E' (D 3) (D 7) w' := hI
        rw [hD] at hI1
        go_wp2_with (go_at_call 21; refine (C2 w' hI1.q).mono ?_; rintro e w2 ⟨rfl, hq2, hk2⟩)
        exact ivPost_mk rfl rfl (RR.two hI1 hcs hbc hq2 hk2)
      · intro D x w' hD hI hw hcl
        have d3 : x 3 = .int .i64 R := (hw 3 rfl).2
        have d7 : x 7 = .int .i64 R := (hw 7 rfl).2
        clear hw
        go_wp2_with fail
        exact ivPost_mk rfl rfl hI
      · intro D x w' hD hI hw hcl
        have d8 : x 8 = .bool true := (hw 8 rfl).2
        clear hw
        go_wp2_with fail
        exact ivPost_mk rfl rfl hI
    case refine_1 => exact ⟨⟨rfl, rfl, rfl, Nat.le_refl _, fun _ _ _ => rfl⟩, hRW, hQW⟩
    case refine_3 =>
      intro W1 hI x hx
      have hI2 : RR wa.heap.size wb.heap.size W9 s A E A' E' true true W1 := hI
      have hR1 : RAt wa.heap.size W1 s A' E' := hI2.r
      have hQ1 : QAt wb.heap.size W1 s A' E' := hI2.q
      have hbel1 : Below w.heap.size w W1 := hbelW.trans (hI2.k.below hwa (Nat.le_of_lt (Nat.lt_of_le_of_lt hwa hbc)))
      have dl : x 9 = .bool true := hx 9 (by decide)
      clear hI hI2 hx hRW hQW hR hQ
      obtain ⟨hcb, hfb⟩ := beyond_cells (W := W1)
      have hRlt := hR1.lt
      have hQlt := hQ1.lt
      have q1 := hQ1.c1; have q2 := hQ1.c2
      have CA := fun (nx : Beyond W1) => rat_below _ nx.x s A' E' (hR1.below nx.h hRlt)
      have CE := fun (nx : Beyond W1) => rerr_below _ nx.x s A' E' (hR1.below nx.h hRlt)
      have CD := fun (nx : Beyond W1) => rend_any _ nx.x s A' E' (hR1.below nx.h hRlt)
      have CQ := fun (nx : Beyond W1) => qend_any _ nx.x s A' E' (hQ1.below nx.h hQlt)
      go_wp2
      refine wp_region_below (by kernel_rfl) (by kernel_rfl) ?_
      repeat (go_big_quiet_step (first | (go_at_call 22; exact quiet_below (CA _)) | (go_at_call 23; exact quiet_below (CE _)) | (go_at_call 24; exact quiet_below (CD _)) | (go_at_call 25; exact quiet_below (CQ _))))
      intro w9 hw9
      have hb9 := beyond_below hw9
      have hR9 := hR1.below hb9 hRlt
      have hQ9 := hQ1.below hb9 hQlt
      have hbel9 : Below w.heap.size w w9 := hbel1.trans (hb9.mono hbel1.size)
      clear hw9
      go_wp2
      go_roundw
      case rel => exact ⟨k + 1, A', E', by omega, hR9, hQ9, hP', hbel9, by go_num⟩
      case measure => (simp [intOf]) <;> omega
end Go.Proofs.Ytngohpkkajcalaa
