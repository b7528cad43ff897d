/- Blocks: May, Encode; light ones; what the chapter's examples fix. -/
import Derived.Test.YtcbacchelabljaaBlkM
import Derived.Test.YtcbacchelabljaaBlkOpen
import Derived.Deep.MidRow
import Derived.LoopTactic
import Derived.BigFrame
import Derived.WalkKit
import Derived.ProofKit
import Derived.Handy
import Derived.Below
import Derived.Lib.Hide
import Derived.IntWalk
import Derived.Outline
import Derived.WalkLawsBesides
import Derived.WalkSpells
namespace Go.Proofs.Ytcbacchelabljaa
open Go.RowKit
attribute [local go_sem] strV
set_option linter.unusedVariables false
theorem heap_push (w : World) (cur : Array Value) (e : TypeId) : (w.alloc (.cells cur e)).heap[w.heap.size]? = some (.cells cur e (0, 0)) := by
  show (w.heap.push _)[w.heap.size]? = _
  rw [Array.getElem?_push_size]
theorem ev_range {w : World} {a : Option Addr} {es : List Ev} (h : RowAt w a (es.flatMap Ev.cells)) {k : Nat} (hk : k < es.length) :
    ∃ b off, a = some ⟨b, off, none⟩ ∧ b < w.heap.size ∧ w.rangeAt b (off + k * 13) es[k].cells := by
  obtain ⟨b, off, ha, hb, hc⟩ := ev_at h hk
  refine ⟨b, off, ha, hb, fun j v hv => ?_⟩
  have hj : j < 13 := by have := (List.getElem?_eq_some_iff.1 hv).1; rwa [Ev.cells_len] at this
  rw [hc j hj, hv]
theorem all_take {es : List Ev} {k : Nat} (hk : k < es.length) : (es.take (k + 1)).all mayEv = ((es.take k).all mayEv && mayEv es[k]) := by
  rw [List.take_add_one, List.all_append, List.getElem?_eq_getElem hk]; simp
theorem all_bad {es : List Ev} {k : Nat} (hk : k < es.length) (h : mayEv es[k] = false) : es.all mayEv = false := by
  rw [List.all_eq_false]; exact ⟨_, List.getElem_mem hk, by rw [h]; decide⟩
set_option maxRecDepth 100000 in
set_option maxHeartbeats 6400000 in
theorem mayBlk_any (ch : ByteArray) (ht tm : Int) (a : Option Addr) (n cap : Nat) (es : List Ev) (w : World) (hch : ch.size ≤ maxLen) (hr : RowAt w a (es.flatMap Ev.cells)) (hn : es.length = n) (hcap : n ≤ cap) (hcm : cap ≤ maxLen) (hq : ∀ e ∈ es, e.small) :
    Calls Try.prog 15 #[.agg #[.string ch, .int .i64 ht, .int .i64 tm, .slice a n cap]] w fun e w' => e = .returned (.bool (mayBlk ⟨ch, ht, tm, es⟩)) ∧ Below w.heap.size w w' := by
  have hg0 := heap_push w #[.string ch, .int .i64 ht, .int .i64 tm, .slice a n cap] 24
  have hbA : Below w.heap.size w (w.alloc (.cells #[.string ch, .int .i64 ht, .int .i64 tm, .slice a n cap] 24)) := Below.alloc (Below.refl _ _) (Nat.le_refl _) _
  have CN := fun W => name_any ch W hch
  have HN := Lib.hid hn
  have HM : Hid (mayBlk ⟨ch, ht, tm, es⟩ = (nameP ch.data.toList && decide (1 ≤ ht) && decide (ht ≤ 1099511627776) && decide (0 ≤ tm) && decide (tm ≤ 1099511627776) && decide (n ≤ 1073741824) && es.all mayEv)) := Lib.hid (by unfold mayBlk hdBlk; simp only [hn])
  clear hn
  obtain ⟨R, hR⟩ : ∃ R, mayBlk ⟨ch, ht, tm, es⟩ = R := ⟨_, rfl⟩
  rw [hR] at HM ⊢
  clear hR
  cases hnm : nameP ch.data.toList
  · rw [hnm] at HM CN
    have hR := HM.out
    simp only [Bool.false_and] at hR
    subst hR
    go_enter Try.func15, Try.ntmps15
    go_upto_region 1 with fail
    refine wp_nameE _ (fun W1 hX => ?_)
    have hg : W1.heap[w.heap.size]? = some (.cells #[.string ch, .int .i64 ht, .int .i64 tm, .slice a n cap] 24 (0, 0)) := by rw [hX]; exact hg0
    have hbel : Below w.heap.size w W1 := by rw [hX]; exact hbA
    clear hX hg0 hbA
    have q0 := cell_heap hg 0; have q1 := cell_heap hg 1; have q2 := cell_heap hg 2; have q3 := cell_heap hg 3
    go_wp2_with (go_at_call 41; refine (CN _).mono ?_; rintro e wn ⟨rfl, hwn⟩; obtain rfl : _ = wn := hwn.symm)
    go_ret
    exact ⟨rfl, hbel⟩
  rw [hnm] at HM CN
  by_cases c0 : ht < 1
  · have d0 : decide (ht < 1) = true := decide_eq_true (by omega)
    have hR := HM.out
    rw [show decide (1 ≤ ht) = false from decide_eq_false (by omega)] at hR
    simp only [Bool.and_false, Bool.false_and] at hR
    subst hR
    go_enter Try.func15, Try.ntmps15
    go_upto_region 1 with fail
    refine wp_nameE _ (fun W1 hX => ?_)
    have hg : W1.heap[w.heap.size]? = some (.cells #[.string ch, .int .i64 ht, .int .i64 tm, .slice a n cap] 24 (0, 0)) := by rw [hX]; exact hg0
    have hbel : Below w.heap.size w W1 := by rw [hX]; exact hbA
    clear hX hg0 hbA
    have q0 := cell_heap hg 0; have q1 := cell_heap hg 1; have q2 := cell_heap hg 2; have q3 := cell_heap hg 3
    go_wp2_with (go_at_call 41; refine (CN _).mono ?_; rintro e wn ⟨rfl, hwn⟩; obtain rfl : _ = wn := hwn.symm)
    go_ret
    exact ⟨rfl, hbel⟩
  have d0 : decide (ht < 1) = false := decide_eq_false (by omega)
  rw [show decide (1 ≤ ht) = true from decide_eq_true (by omega)] at HM
  by_cases c1 : 1099511627776 < ht
  · have d1 : decide (1099511627776 < ht) = true := decide_eq_true (by omega)
    have hR := HM.out
    rw [show decide (ht ≤ 1099511627776) = false from decide_eq_false (by omega)] at hR
    simp only [Bool.and_false, Bool.false_and] at hR
    subst hR
    go_enter Try.func15, Try.ntmps15
    go_upto_region 1 with fail
    refine wp_nameE _ (fun W1 hX => ?_)
    have hg : W1.heap[w.heap.size]? = some (.cells #[.string ch, .int .i64 ht, .int .i64 tm, .slice a n cap] 24 (0, 0)) := by rw [hX]; exact hg0
    have hbel : Below w.heap.size w W1 := by rw [hX]; exact hbA
    clear hX hg0 hbA
    have q0 := cell_heap hg 0; have q1 := cell_heap hg 1; have q2 := cell_heap hg 2; have q3 := cell_heap hg 3
    go_wp2_with (go_at_call 41; refine (CN _).mono ?_; rintro e wn ⟨rfl, hwn⟩; obtain rfl : _ = wn := hwn.symm)
    go_ret
    exact ⟨rfl, hbel⟩
  have d1 : decide (1099511627776 < ht) = false := decide_eq_false (by omega)
  rw [show decide (ht ≤ 1099511627776) = true from decide_eq_true (by omega)] at HM
  by_cases c2 : tm < 0
  · have d2 : decide (tm < 0) = true := decide_eq_true (by omega)
    have hR := HM.out
    rw [show decide (0 ≤ tm) = false from decide_eq_false (by omega)] at hR
    simp only [Bool.and_false, Bool.false_and] at hR
    subst hR
    go_enter Try.func15, Try.ntmps15
    go_upto_region 1 with fail
    refine wp_nameE _ (fun W1 hX => ?_)
    have hg : W1.heap[w.heap.size]? = some (.cells #[.string ch, .int .i64 ht, .int .i64 tm, .slice a n cap] 24 (0, 0)) := by rw [hX]; exact hg0
    have hbel : Below w.heap.size w W1 := by rw [hX]; exact hbA
    clear hX hg0 hbA
    have q0 := cell_heap hg 0; have q1 := cell_heap hg 1; have q2 := cell_heap hg 2; have q3 := cell_heap hg 3
    go_wp2_with (go_at_call 41; refine (CN _).mono ?_; rintro e wn ⟨rfl, hwn⟩; obtain rfl : _ = wn := hwn.symm)
    go_ret
    exact ⟨rfl, hbel⟩
  have d2 : decide (tm < 0) = false := decide_eq_false (by omega)
  rw [show decide (0 ≤ tm) = true from decide_eq_true (by omega)] at HM
  by_cases c3 : 1099511627776 < tm
  · have d3 : decide (1099511627776 < tm) = true := decide_eq_true (by omega)
    have hR := HM.out
    rw [show decide (tm ≤ 1099511627776) = false from decide_eq_false (by omega)] at hR
    simp only [Bool.and_false, Bool.false_and] at hR
    subst hR
    go_enter Try.func15, Try.ntmps15
    go_upto_region 1 with fail
    refine wp_nameE _ (fun W1 hX => ?_)
    have hg : W1.heap[w.heap.size]? = some (.cells #[.string ch, .int .i64 ht, .int .i64 tm, .slice a n cap] 24 (0, 0)) := by rw [hX]; exact hg0
    have hbel : Below w.heap.size w W1 := by rw [hX]; exact hbA
    clear hX hg0 hbA
    have q0 := cell_heap hg 0; have q1 := cell_heap hg 1; have q2 := cell_heap hg 2; have q3 := cell_heap hg 3
    go_wp2_with (go_at_call 41; refine (CN _).mono ?_; rintro e wn ⟨rfl, hwn⟩; obtain rfl : _ = wn := hwn.symm)
    go_ret
    exact ⟨rfl, hbel⟩
  have d3 : decide (1099511627776 < tm) = false := decide_eq_false (by omega)
  rw [show decide (tm ≤ 1099511627776) = true from decide_eq_true (by omega)] at HM
  by_cases c4 : 1073741824 < n
  · have d4 : decide (1073741824 < (n : Int)) = true := decide_eq_true (by omega)
    have hR := HM.out
    rw [show decide (n ≤ 1073741824) = false from decide_eq_false (by omega)] at hR
    simp only [Bool.and_false, Bool.false_and] at hR
    subst hR
    go_enter Try.func15, Try.ntmps15
    go_upto_region 1 with fail
    refine wp_nameE _ (fun W1 hX => ?_)
    have hg : W1.heap[w.heap.size]? = some (.cells #[.string ch, .int .i64 ht, .int .i64 tm, .slice a n cap] 24 (0, 0)) := by rw [hX]; exact hg0
    have hbel : Below w.heap.size w W1 := by rw [hX]; exact hbA
    clear hX hg0 hbA
    have q0 := cell_heap hg 0; have q1 := cell_heap hg 1; have q2 := cell_heap hg 2; have q3 := cell_heap hg 3
    go_wp2_with (go_at_call 41; refine (CN _).mono ?_; rintro e wn ⟨rfl, hwn⟩; obtain rfl : _ = wn := hwn.symm)
    go_ret
    exact ⟨rfl, hbel⟩
  have d4 : decide (1073741824 < (n : Int)) = false := decide_eq_false (by omega)
  rw [show decide (n ≤ 1073741824) = true from decide_eq_true (by omega)] at HM
  simp only [Bool.true_and] at HM
  go_enter Try.func15, Try.ntmps15
  go_upto_region 1 with fail
  refine wp_nameE _ (fun W1 hX => ?_)
  have hg : W1.heap[w.heap.size]? = some (.cells #[.string ch, .int .i64 ht, .int .i64 tm, .slice a n cap] 24 (0, 0)) := by rw [hX]; exact hg0
  have hbel : Below w.heap.size w W1 := by rw [hX]; exact hbA
  clear hX hg0 hbA
  have q0 := cell_heap hg 0; have q1 := cell_heap hg 1; have q2 := cell_heap hg 2; have q3 := cell_heap hg 3
  go_upto_region 4 with (go_at_call 41; refine (CN _).mono ?_; rintro e wn ⟨rfl, hwn⟩; obtain rfl : _ = wn := hwn.symm)
  clear q0 q1 q2 q3 hg
  go_loopw [38] (fun i wr => ∃ k : Nat, k ≤ n ∧ Hid ((es.take k).all mayEv = true) ∧ i = .int .i64 k ∧ Below w.heap.size w wr) (fun i _ => n - (intOf i).toNat)
  case atStart => exact ⟨0, Nat.zero_le _, Lib.hid rfl, rfl, hbel⟩
  case round =>
    clear hbel
    obtain ⟨k, hk, HA, rfl, hbel⟩ := hrel
    by_cases hlt : k < n
    · have e1 : decide ((k : Int) < (n : Int)) = true := decide_eq_true (by omega)
      have e1n : decide (k < n) = true := decide_eq_true hlt
      have hkl : k < es.length := by rw [HN.out]; exact hlt
      obtain ⟨b, off, rfl, hb, hrg⟩ := ev_range (hr.below hbel) hkl
      have hsm := hq _ (List.getElem_mem hkl)
      have hta := all_take hkl
      have hbd := fun h => all_bad hkl h
      obtain ⟨⟨kd, sp, sc, dp, dc, sq, da, th, ta, ack, ep, ec, eh⟩, hp⟩ : ∃ p, es[k] = p := ⟨_, rfl⟩
      rw [hp] at hrg hsm hta hbd
      obtain ⟨s1, s2, s3⟩ := hsm
      simp only at s1 s2 s3
      have hrg : wr.rangeAt b (off + k * 13) [.int .i64 kd, .string sp, .int .i64 sc, .string dp, .int .i64 dc, .int .i64 sq, .string da, .int .i64 th, .int .i64 ta, .string ack, .string ep, .int .i64 ec, .int .i64 eh] := hrg
      have CM := fun W => mayEv_any kd sp sc dp dc sq da th ta ack ep ec eh W s1 s2 s3
      obtain ⟨mb, hmb⟩ : ∃ m, mayEv ⟨kd, sp, sc, dp, dc, sq, da, th, ta, ack, ep, ec, eh⟩ = m := ⟨_, rfl⟩
      rw [hmb] at hta hbd
      simp only [hmb] at CM
      have n0 : (0 : Int) ≤ (k : Int) := by omega
      have n1 : (k : Int) < (n : Int) := by omega
      have n2 : ((k : Nat) : Int).toNat = k := by omega
      have HTA := Lib.hid hta
      clear hmb hta hp
      go_upto_region 6 with (first | (refine wpList_load_mid rfl 43 (.tmp 40) rfl b _ rfl _ _ hrg Try.underlying43 rfl (by kernel_rfl) ?_) | (refine wpList_storeRowTo rfl (.tmp 4) (.tmp 41) 43 rfl (by kernel_rfl) rfl (by rfl) (heap_push _ _ _) rfl (Ev.row_one _ _ _ _ _ _ _ _ _ _ _ _ _) ?_))
      refine wp_nameE _ (fun W6 hX => ?_)
      have hE : W6.heap[wr.heap.size]? = some (.cells #[.int .i64 kd, .string sp, .int .i64 sc, .string dp, .int .i64 dc, .int .i64 sq, .string da, .int .i64 th, .int .i64 ta, .string ack, .string ep, .int .i64 ec, .int .i64 eh] 43 (0, 0)) := by rw [hX]; first | exact setRow_heap _ _ _ _ _ _ (heap_push _ _ _) | exact heap_push _ _ _
      have hb6 : Below wr.heap.size wr W6 := by rw [hX]; first | exact below_setRow (Below.alloc (Below.refl _ _) (Nat.le_refl _) _) (Nat.le_refl _) _ | exact Below.alloc (Below.refl _ _) (Nat.le_refl _) _
      have hbel6 := hbel.trans (hb6.mono hbel.size)
      clear hX hb6 hrg
      have q0 := cell_heap hE 0; have q1 := cell_heap hE 1; have q2 := cell_heap hE 2; have q3 := cell_heap hE 3; have q4 := cell_heap hE 4; have q5 := cell_heap hE 5; have q6 := cell_heap hE 6; have q7 := cell_heap hE 7; have q8 := cell_heap hE 8; have q9 := cell_heap hE 9; have q10 := cell_heap hE 10; have q11 := cell_heap hE 11; have q12 := cell_heap hE 12
      cases mb
      · have hR := HM.out
        rw [hbd rfl] at hR
        subst hR
        go_wp2_with (go_at_call 43; refine (CM _).mono ?_; rintro e wm ⟨rfl, hbm⟩)
        go_ret
        exact ⟨rfl, hbel6.trans (hbm.mono hbel6.size)⟩
      · go_wp2_with (go_at_call 43; refine (CM _).mono ?_; rintro e wm ⟨rfl, hbm⟩)
        go_roundw
        case rel => exact ⟨k + 1, by omega, Lib.hid (by rw [HTA.out, HA.out]; rfl), by go_num, hbel6.trans (hbm.mono hbel6.size)⟩
        case measure => (simp [intOf]) <;> omega
    · have e1 : decide ((k : Int) < (n : Int)) = false := decide_eq_false (by omega)
      have e1n : decide (k < n) = false := decide_eq_false hlt
      have hA := HA.out
      rw [List.take_of_length_le (by rw [HN.out]; omega)] at hA
      have hR := HM.out
      rw [hA] at hR
      subst hR
      clear hA
      go_wp2
      go_ret
      exact ⟨rfl, hbel⟩
def lightBlk (ch : ByteArray) (es : List Ev) : Bool := decide ((ch.size : Int) ≤ 60) && lightL es
set_option maxRecDepth 100000 in
set_option maxHeartbeats 6400000 in
theorem lightBlk_any (ch : ByteArray) (ht tm : Int) (a : Option Addr) (n cap : Nat) (es : List Ev) (w : World) (hr : RowAt w a (es.flatMap Ev.cells)) (hn : es.length = n) :
    Calls Try.prog 8 #[.agg #[.string ch, .int .i64 ht, .int .i64 tm, .slice a n cap]] w fun e w' => e = .returned (.bool (lightBlk ch es)) ∧ Below w.heap.size w w' := by
  have hg0 := heap_push w #[.string ch, .int .i64 ht, .int .i64 tm, .slice a n cap] 24
  have hbA : Below w.heap.size w (w.alloc (.cells #[.string ch, .int .i64 ht, .int .i64 tm, .slice a n cap] 24)) := Below.alloc (Below.refl _ _) (Nat.le_refl _) _
  have CL := fun W h => lightL_any a n cap es W h hn
  unfold lightBlk
  obtain ⟨l, hl⟩ : ∃ l, lightL es = l := ⟨_, rfl⟩
  simp only [hl] at CL ⊢
  cases c : decide ((ch.size : Int) ≤ 60)
  all_goals
    go_enter Try.func8, Try.ntmps8
    go_upto_region 1 with fail
    refine wp_nameE _ (fun W1 hX => ?_)
    have hg : W1.heap[w.heap.size]? = some (.cells #[.string ch, .int .i64 ht, .int .i64 tm, .slice a n cap] 24 (0, 0)) := by rw [hX]; exact hg0
    have hbel : Below w.heap.size w W1 := by rw [hX]; exact hbA
    clear hX hg0 hbA
    have q0 := cell_heap hg 0; have q1 := cell_heap hg 1; have q2 := cell_heap hg 2; have q3 := cell_heap hg 3
    go_wp2_with (go_at_call 19; refine (CL _ (hr.below hbel)).mono ?_; rintro e wl ⟨rfl, hb⟩; have hbel := hbel.trans (hb.mono hbel.size))
    go_ret
    exact ⟨rfl, hbel⟩
end Go.Proofs.Ytcbacchelabljaa
