/- The document's steps and prices. -/
import Derived.Test.YthipnkbfdkmhaaaGF
import Derived.Test.YthipnkbfdkmhaaaMsg8
import Derived.BigRegion
import Derived.RegionTactic
import Derived.BigQuiet
import Derived.Deep.QuietTactic
import Derived.Deep.MidRow
import Derived.LoopTactic
import Derived.BigFrame
import Derived.WalkKit
import Derived.ProofKit
import Derived.Handy
import Derived.Below
import Derived.Lib.Hide
import Derived.IntWalk
import Derived.Outline
import Derived.WalkLawsBesides
import Derived.WalkSpells
namespace Go.Proofs.Ythipnkbfdkmhaaa
open Go.RowKit
attribute [local go_sem] strV
set_option linter.unusedVariables false
set_option maxRecDepth 100000 in
set_option maxHeartbeats 4000000 in
theorem refSteps_any (ct : Int) (a : Option Addr) (n cap : Nat) (xs : List LeafV) (w : World) (h : LvsAt w a xs) (hn : xs.length = n) (hn5 : n ≤ 5) (hp : ∀ x ∈ xs, x.path.length ≤ 40) :
    Calls Try.prog 84 #[.agg #[.int .i64 ct, .slice a n cap]] w fun e w' => e = .returned (.int .i64 (stepsD xs : Nat)) ∧ Below w.heap.size w w' := by
  have HN := Lib.hid hn
  obtain ⟨r, hr⟩ : ∃ r, stepsD xs = r := ⟨_, rfl⟩
  rw [hr]
  have HF : Hid (n + (xs.map fun x => x.path.length).sum = r) := Lib.hid (by rw [← hr, ← hn]; rfl)
  clear hr hn
  have hg0 := heap_push w #[.int .i64 ct, .slice a n cap] 32
  have hbA : Below w.heap.size w (w.alloc (.cells #[.int .i64 ct, .slice a n cap] 32)) := Below.alloc (Below.refl _ _) (Nat.le_refl _) _
  go_enter Try.func84, Try.ntmps84
  go_upto_region 1 with fail
  refine wp_nameE _ (fun W1 hX => ?_)
  have hg : W1.heap[w.heap.size]? = some (.cells #[.int .i64 ct, .slice a n cap] 32 (0, 0)) := by rw [hX]; exact hg0
  have hbel : Below w.heap.size w W1 := by rw [hX]; exact hbA
  clear hX hg0 hbA
  have q0 := cell_heap hg 0; have q1 := cell_heap hg 1
  go_upto_region 3 with fail
  go_loopw [3, 4] (fun s i wr => ∃ k t : Nat, k ≤ n ∧ i = .int .i64 k ∧ s = .int .i64 t ∧ Hid (t = n + ((xs.take k).map fun x => x.path.length).sum) ∧ t ≤ 5 + 40 * k ∧ wr = W1) (fun _ i _ => n - (intOf i).toNat)
  case atStart => exact ⟨0, n, Nat.zero_le _, rfl, rfl, Lib.hid (by simp), by omega, rfl⟩
  case round =>
    obtain ⟨k, t, hk, rfl, rfl, HT, ht, rfl⟩ := hrel
    by_cases hlt : k < n
    · have d1 : decide ((k : Int) < (n : Int)) = true := decide_eq_true (by omega)
      have d1n : decide (k < n) = true := decide_eq_true hlt
      have hkl : k < xs.length := by rw [HN.out]; exact hlt
      obtain ⟨b1, o1, rfl, hb1, hg1⟩ := lv_range (h.row.below hbel) hkl
      have ok1 := (h.each _ (List.getElem_mem hkl)).below hbel
      have hp40 := hp _ (List.getElem_mem hkl)
      have hstep := sum_take hkl
      obtain ⟨⟨key, val, idx, pa, pn, pc, path⟩, hp9⟩ : ∃ p, xs[k] = p := ⟨_, rfl⟩
      rw [hp9] at hg1 ok1 hstep hp40
      have u3 := hg1 3 _ rfl
      have hpl : path.length = pn := ok1.len
      simp only [hpl] at hstep hp40
      have HS : Hid (t + pn = n + ((xs.take (k + 1)).map fun x => x.path.length).sum) := Lib.hid (by rw [hstep, HT.out]; omega)
      have n0 : (0 : Int) ≤ (k : Int) := by omega
      have n1' : (k : Int) < (n : Int) := by omega
      have n2' : ((k : Nat) : Int).toNat = k := by omega
      have n3 : (t : Int) ≤ 1000 := by omega
      have n4 : (pn : Int) ≤ 40 := by omega
      clear hp9 ok1 hpl hstep hg1
      go_wp2
      go_roundw
      case rel => exact ⟨k + 1, t + pn, by omega, by go_num, by go_num, HS, by omega, by first | rfl | trivial⟩
      case measure => (simp [intOf]) <;> omega
    · have d9 : decide ((k : Int) < (n : Int)) = false := decide_eq_false (by omega)
      have d9n : decide (k < n) = false := decide_eq_false hlt
      obtain rfl : t = r := by rw [← HF.out, HT.out, List.take_of_length_le (by rw [HN.out]; omega)]
      go_wp2
      go_ret
      exact ⟨rfl, hbel⟩
theorem msgS_true {m : MsgV} (h : mayMsgB m = true) : msgS m = ⟨(msgBy m).toArray⟩ := by unfold msgS; rw [h]; rfl
theorem msgS_false {m : MsgV} (h : mayMsgB m = false) : msgS m = ⟨#[]⟩ := by unfold msgS; rw [h]; rfl
theorem size_pos {m : MsgV} (h : mayMsgB m = true) : 0 < (msgS m).size := by
  rw [msgS_true h, bytes_size]
  obtain ⟨k1, k5, _⟩ := may_kd h
  rw [msgBy_d k1 k5]
  unfold msgDB
  have hg : 0 < (putL m.d.kd).length := by
    have he : encB m.d.kd = true := by
      show encB m.kd = true
      unfold encB
      simp only [decide_eq_true_eq]
      omega
    unfold putL
    rw [he, if_pos rfl]
    exact grp_pos _ _
  rw [List.length_append]
  omega
set_option maxRecDepth 100000 in
set_option maxHeartbeats 4000000 in
theorem refPrice_any (m : MsgV) (w : World) (hm : m.ok w) (hl : lightM m = true) :
    Calls Try.prog 35 #[.agg m.row] w fun e w' => e = .returned (.int .i64 (priceM m)) ∧ Below w.heap.size w w' := by
  obtain ⟨_, l2, l3⟩ := light_msg hl
  obtain ⟨p1, p2, p3⟩ := light_pf l2
  obtain ⟨c1, c2, c3⟩ := light_pf l3
  have CE := fun W (hb : Below w.heap.size w W) => refEncMsg_any m W (hm.below hb)
  have hsl := msgS_le m
  cases hM : mayMsgB m
  · rw [show encMsg m = .tuple #[.string ⟨#[]⟩, .int .i64 1] by unfold encMsg; rw [hM]; rfl] at CE
    rw [show priceM m = 0 by unfold priceM; rw [msgS_false hM]; rfl]
    clear hM
    go_enter Try.func35, Try.ntmps35
    go_upto_region 1 with fail
    refine wp_nameE _ (fun W1 hX => ?_)
    have hg : W1.heap[w.heap.size]? = some (.cells m.row 34 (0, 0)) := by rw [hX]; exact heap_push _ _ _
    have hbel : Below w.heap.size w W1 := by rw [hX]; exact Below.alloc (Below.refl _ _) (Nat.le_refl _) _
    clear hX
    have hgl : w.heap.size < W1.heap.size := (Array.getElem?_eq_some_iff.1 hg).1
    obtain ⟨q0, q1, q2, q3, q4, q5, q6, q7, q8, q9, q10, q11, q12, q13, q14, q15, q16, q17⟩ := msg_cells hg
    go_wp2_with (first | (refine wpList_load_mid rfl 34 (.tmp 1) rfl w.heap.size 0 rfl m.row.toList _ (rangeAt_row5 hg) Try.underlying34 rfl (msg_info _) ?_; rw [Array.toArray_toList]) | (go_at_call 20; refine (CE _ hbel).mono ?_; rintro e w2 ⟨rfl, hb⟩; have hg := cells_of hg hb hgl; have hgl := Nat.lt_of_lt_of_le hgl hb.size; have hbel := hbel.trans (hb.mono hbel.size); obtain ⟨q0, q1, q2, q3, q4, q5, q6, q7, q8, q9, q10, q11, q12, q13, q14, q15, q16, q17⟩ := msg_cells hg; clear hb))
    go_ret
    exact ⟨rfl, hbel⟩
  · rw [show encMsg m = .tuple #[.string (msgS m), .int .i64 0] by rw [msgS_true hM]; unfold encMsg; rw [hM]; rfl] at CE
    have hpos := size_pos hM
    have CP := fun W (hb : Below w.heap.size w W) => refSteps_any m.pct m.pa m.pn m.pc m.pxs W (hm.p.below hb) hm.plen (by rw [← hm.plen]; exact p1) p2
    have CC := fun W (hb : Below w.heap.size w W) => refSteps_any m.cct m.ca m.cn m.cc m.cxs W (hm.c.below hb) hm.clen (by rw [← hm.clen]; exact c1) c2
    obtain ⟨a, ea⟩ : ∃ s, stepsD m.pxs = s := ⟨_, rfl⟩
    obtain ⟨b, eb⟩ : ∃ s, stepsD m.cxs = s := ⟨_, rfl⟩
    obtain ⟨S, eS⟩ : ∃ S, msgS m = S := ⟨_, rfl⟩
    rw [show priceM m = 1000 + 3 * (S.size : Int) + 50 * ((a : Int) + (b : Int)) by unfold priceM; rw [eS, ea, eb, if_neg (by rw [← eS]; omega)]]
    rw [eS] at CE hsl hpos
    rw [ea] at p3
    rw [eb] at c3
    simp only [ea] at CP
    simp only [eb] at CC
    clear hM ea eb eS l2 l3 hl p1 p2 c1 c2
    go_enter Try.func35, Try.ntmps35
    go_upto_region 1 with fail
    refine wp_nameE _ (fun W1 hX => ?_)
    have hg : W1.heap[w.heap.size]? = some (.cells m.row 34 (0, 0)) := by rw [hX]; exact heap_push _ _ _
    have hbel : Below w.heap.size w W1 := by rw [hX]; exact Below.alloc (Below.refl _ _) (Nat.le_refl _) _
    clear hX
    have hgl : w.heap.size < W1.heap.size := (Array.getElem?_eq_some_iff.1 hg).1
    obtain ⟨q0, q1, q2, q3, q4, q5, q6, q7, q8, q9, q10, q11, q12, q13, q14, q15, q16, q17⟩ := msg_cells hg
    go_upto_region 4 with (first | (refine wpList_load_mid rfl 34 (.tmp 1) rfl w.heap.size 0 rfl m.row.toList _ (rangeAt_row5 hg) Try.underlying34 rfl (msg_info _) ?_; rw [Array.toArray_toList]) | (go_at_call 20; refine (CE _ hbel).mono ?_; rintro e w2 ⟨rfl, hb⟩; have hg := cells_of hg hb hgl; have hgl := Nat.lt_of_lt_of_le hgl hb.size; have hbel := hbel.trans (hb.mono hbel.size); obtain ⟨q0, q1, q2, q3, q4, q5, q6, q7, q8, q9, q10, q11, q12, q13, q14, q15, q16, q17⟩ := msg_cells hg; clear hb))
    have z : ∀ n : Beyond w2, n.x.cell? ⟨w.heap.size, 46, none⟩ = some (.int .i64 m.pct) ∧ n.x.cell? ⟨w.heap.size, 47, none⟩ = some (.slice m.pa m.pn m.pc) ∧ n.x.cell? ⟨w.heap.size, 48, none⟩ = some (.int .i64 m.cct) ∧ n.x.cell? ⟨w.heap.size, 49, none⟩ = some (.slice m.ca m.cn m.cc) := fun n => by
      have h := msg_cells (cells_of hg n.h hgl)
      exact ⟨h.2.2.2.2.2.2.2.2.2.2.2.2.2.2.1, h.2.2.2.2.2.2.2.2.2.2.2.2.2.2.2.1, h.2.2.2.2.2.2.2.2.2.2.2.2.2.2.2.2.1, h.2.2.2.2.2.2.2.2.2.2.2.2.2.2.2.2.2⟩
    have z0 := fun n => (z n).1
    have z1 := fun n => (z n).2.1
    have z2 := fun n => (z n).2.2.1
    have z3 := fun n => (z n).2.2.2
    clear z
    refine wp_region_below (by kernel_rfl) (by kernel_rfl) ?_
    repeat (go_big_quiet_step (first | (go_at_call 84; with_reducible exact quiet_below (CP _ (hbel.trans ((Beyond.h _).mono hbel.size)))) | (go_at_call 84; with_reducible exact quiet_below (CC _ (hbel.trans ((Beyond.h _).mono hbel.size))))))
    intro w9 hw9
    have hb := beyond_below hw9
    have hbel := hbel.trans (hb.mono hbel.size)
    go_wp2
    go_ret
    exact ⟨by first | rfl | simp, hbel⟩
end Go.Proofs.Ythipnkbfdkmhaaa
