/- Messages that may be; messages that are light. -/
import Derived.Test.YthipnkbfdkmhaaaMsg3
import Derived.Test.YthipnkbfdkmhaaaMsg2
import Derived.Test.YthipnkbfdkmhaaaSC
import Derived.Test.YthipnkbfdkmhaaaPf2
import Derived.BigQuiet
import Derived.WalkKit
import Derived.ProofKit
import Derived.Handy
import Derived.Below
import Derived.Lib.Hide
import Derived.IntWalk
import Derived.Outline
import Derived.WalkLawsBesides
import Derived.WalkSpells
namespace Go.Proofs.Ythipnkbfdkmhaaa
open Go.RowKit
attribute [local go_sem] strV
set_option linter.unusedVariables false

def lightP (sp dp da : ByteArray) : Bool := decide ((sp.size : Int) ≤ 60) && decide ((dp.size : Int) ≤ 60) && decide ((da.size : Int) ≤ 600)
set_option maxRecDepth 100000 in
set_option maxHeartbeats 1600000 in
theorem lightP_any (sp : ByteArray) (sc : Int) (dp : ByteArray) (dc sq : Int) (da : ByteArray) (th ta : Int) (w : World) :
    Calls Try.prog 46 #[.agg #[.string sp, .int .i64 sc, .string dp, .int .i64 dc, .int .i64 sq, .string da, .int .i64 th, .int .i64 ta]] w fun e w' => e = .returned (.bool (lightP sp dp da)) ∧ Below w.heap.size w w' := by
  unfold lightP
  cases x1 : decide ((sp.size : Int) ≤ 60)
  all_goals cases x2 : decide ((dp.size : Int) ≤ 60)
  all_goals
    go_enter Try.func46, Try.ntmps46
    go_wp2
    go_ret
    exact ⟨by first | rfl | (simp; done), Below.alloc (Below.refl _ _) (Nat.le_refl _) _⟩
def lightM (m : MsgV) : Bool := lightP m.sp m.dp m.da && decide ((m.ack.size : Int) ≤ 100) && lightPf m.pxs && lightPf m.cxs
def heightB (h : Int) : Bool := decide (1 ≤ h) && decide (h ≤ 1099511627776)
def restB (m : MsgV) : Bool :=
  if m.kd = 1 then heightB m.hh && decide (0 ≤ m.ht) && decide (m.ht ≤ 1099511627776)
  else !((m.kd == 3) && ((m.ack.toList == []) || decide (32 < (m.ack.size : Int)))) && mayK m.sp m.sc m.dp m.dc m.sq m.da m.th m.ta && heightB m.he && decide (0 ≤ m.nx) && decide (m.nx ≤ 1099511627777) && mayPfB m.pct m.pxs && mayPfB m.cct m.cxs
def mayMsgB (m : MsgV) : Bool := !decide (m.kd < 1) && !decide (5 < m.kd) && msgB m m.plain && restB m
theorem height_any (h : Int) (w : World) : Calls Try.prog 52 #[.int .i64 h] w fun e w' => e = .returned (.bool (heightB h)) ∧ w = w' := by
  unfold heightB
  cases x1 : decide (1 ≤ h)
  all_goals
    go_enter Try.func52, Try.ntmps52
    go_wp2
    go_ret
    exact ⟨by first | rfl | (simp; done), rfl⟩
theorem quiet_load {P : Program} {o : Oper} {a : Act} {C : World → Prop} {K : Act → Prop} {v : Value} (t : TypeId) (p : Operand) {ad : Value} (hop : o.op = Op.load t p) (hp : a.eval p = ad)
    (hl : ∀ w, C w → (Instr.loadAt t ad).run P w = .ok v w) (h : K (a.put o.dst v)) : o.quiet P a C K := by
  refine ⟨v, fun w hw => ?_, h⟩
  unfold Oper.quietAt
  have := hl w hw
  simp [execOp, hop, hp, this, Result.andThen, Oper.quietUpon]
  try exact hw
theorem load_msg {W : World} {g : Nat} {m : MsgV} (hg : W.heap[g]? = some (.cells m.row 34 (0, 0))) (hgl : g < W.heap.size) (n : Beyond W) : (Instr.loadAt 34 (.pointer (some ⟨g, 0, none⟩))).run Try.prog n.x = .ok (.agg m.row) n.x := by
  have hg2 := cells_of hg n.h hgl
  have := run_loadAt_mid (P := Try.prog) n.x g 0 34 m.row.toList _ (rangeAt_row5 hg2) Try.underlying34 rfl (msg_info _)
  rw [Array.toArray_toList] at this
  exact this
set_option maxRecDepth 100000 in
set_option maxHeartbeats 4000000 in
theorem lightM_any (m : MsgV) (w : World) (hm : m.ok w) :
    Calls Try.prog 15 #[.agg m.row] w fun e w' => e = .returned (.bool (lightM m)) ∧ Below w.heap.size w w' := by
  obtain ⟨k0, e0⟩ : ∃ b, lightP m.sp m.dp m.da = b := ⟨_, rfl⟩
  obtain ⟨k1, e1⟩ : ∃ b, decide ((m.ack.size : Int) ≤ 100) = b := ⟨_, rfl⟩
  obtain ⟨k2, e2⟩ : ∃ b, lightPf m.pxs = b := ⟨_, rfl⟩
  obtain ⟨k3, e3⟩ : ∃ b, lightPf m.cxs = b := ⟨_, rfl⟩
  have hS : lightM m = (k0 && k1 && k2 && k3) := by unfold lightM; simp only [e0, e1, e2, e3]
  obtain ⟨r, hr⟩ : ∃ r, (k0 && k1 && k2 && k3) = r := ⟨_, rfl⟩
  rw [hS, hr]
  have CL := fun W => lightP_any m.sp m.sc m.dp m.dc m.sq m.da m.th m.ta W
  have CP := fun W (hb : Below w.heap.size w W) => lightPf_any m.pct m.pa m.pn m.pc m.pxs W (hm.p.below hb) hm.plen (Nat.le_trans hm.pcap hm.pcM)
  have CC := fun W (hb : Below w.heap.size w W) => lightPf_any m.cct m.ca m.cn m.cc m.cxs W (hm.c.below hb) hm.clen (Nat.le_trans hm.ccap hm.ccM)
  simp only [e0] at CL
  simp only [e2] at CP
  simp only [e3] at CC
  have HR := Lib.hid hr
  clear hS hr e0 e2 e3
  go_enter Try.func15, Try.ntmps15
  go_upto_region 1 with fail
  refine wp_nameE _ (fun W1 hX => ?_)
  have hg : W1.heap[w.heap.size]? = some (.cells m.row 34 (0, 0)) := by rw [hX]; exact heap_push _ _ _
  have hbel : Below w.heap.size w W1 := by rw [hX]; exact Below.alloc (Below.refl _ _) (Nat.le_refl _) _
  clear hX
  have hgl : w.heap.size < W1.heap.size := (Array.getElem?_eq_some_iff.1 hg).1
  obtain ⟨q0, q1, q2, q3, q4, q5, q6, q7, q8, q9, q10, q11, q12, q13, q14, q15, q16, q17⟩ := msg_cells hg
  cases k0
  · obtain rfl : false = r := by rw [← HR.out]; simp
    go_wp2_with (first | (go_at_call 46; first | ((with_reducible refine (CL _).mono ?_); rintro e w2 ⟨rfl, hb⟩; have hg := cells_of hg hb hgl; have hgl := Nat.lt_of_lt_of_le hgl hb.size; have hbel := hbel.trans (hb.mono hbel.size); obtain ⟨q0, q1, q2, q3, q4, q5, q6, q7, q8, q9, q10, q11, q12, q13, q14, q15, q16, q17⟩ := msg_cells hg; clear hb)) | (go_at_call 47; first | ((with_reducible refine (CP _ hbel).mono ?_); rintro e w2 ⟨rfl, hb⟩; have hg := cells_of hg hb hgl; have hgl := Nat.lt_of_lt_of_le hgl hb.size; have hbel := hbel.trans (hb.mono hbel.size); obtain ⟨q0, q1, q2, q3, q4, q5, q6, q7, q8, q9, q10, q11, q12, q13, q14, q15, q16, q17⟩ := msg_cells hg; clear hb) | ((with_reducible refine (CC _ hbel).mono ?_); rintro e w2 ⟨rfl, hb⟩; have hg := cells_of hg hb hgl; have hgl := Nat.lt_of_lt_of_le hgl hb.size; have hbel := hbel.trans (hb.mono hbel.size); obtain ⟨q0, q1, q2, q3, q4, q5, q6, q7, q8, q9, q10, q11, q12, q13, q14, q15, q16, q17⟩ := msg_cells hg; clear hb)))
    go_ret
    exact ⟨rfl, hbel⟩
  cases k1
  · obtain rfl : false = r := by rw [← HR.out]; simp
    go_wp2_with (first | (go_at_call 46; first | ((with_reducible refine (CL _).mono ?_); rintro e w2 ⟨rfl, hb⟩; have hg := cells_of hg hb hgl; have hgl := Nat.lt_of_lt_of_le hgl hb.size; have hbel := hbel.trans (hb.mono hbel.size); obtain ⟨q0, q1, q2, q3, q4, q5, q6, q7, q8, q9, q10, q11, q12, q13, q14, q15, q16, q17⟩ := msg_cells hg; clear hb)) | (go_at_call 47; first | ((with_reducible refine (CP _ hbel).mono ?_); rintro e w2 ⟨rfl, hb⟩; have hg := cells_of hg hb hgl; have hgl := Nat.lt_of_lt_of_le hgl hb.size; have hbel := hbel.trans (hb.mono hbel.size); obtain ⟨q0, q1, q2, q3, q4, q5, q6, q7, q8, q9, q10, q11, q12, q13, q14, q15, q16, q17⟩ := msg_cells hg; clear hb) | ((with_reducible refine (CC _ hbel).mono ?_); rintro e w2 ⟨rfl, hb⟩; have hg := cells_of hg hb hgl; have hgl := Nat.lt_of_lt_of_le hgl hb.size; have hbel := hbel.trans (hb.mono hbel.size); obtain ⟨q0, q1, q2, q3, q4, q5, q6, q7, q8, q9, q10, q11, q12, q13, q14, q15, q16, q17⟩ := msg_cells hg; clear hb)))
    go_ret
    exact ⟨rfl, hbel⟩
  cases k2
  · obtain rfl : false = r := by rw [← HR.out]; simp
    go_wp2_with (first | (go_at_call 46; first | ((with_reducible refine (CL _).mono ?_); rintro e w2 ⟨rfl, hb⟩; have hg := cells_of hg hb hgl; have hgl := Nat.lt_of_lt_of_le hgl hb.size; have hbel := hbel.trans (hb.mono hbel.size); obtain ⟨q0, q1, q2, q3, q4, q5, q6, q7, q8, q9, q10, q11, q12, q13, q14, q15, q16, q17⟩ := msg_cells hg; clear hb)) | (go_at_call 47; first | ((with_reducible refine (CP _ hbel).mono ?_); rintro e w2 ⟨rfl, hb⟩; have hg := cells_of hg hb hgl; have hgl := Nat.lt_of_lt_of_le hgl hb.size; have hbel := hbel.trans (hb.mono hbel.size); obtain ⟨q0, q1, q2, q3, q4, q5, q6, q7, q8, q9, q10, q11, q12, q13, q14, q15, q16, q17⟩ := msg_cells hg; clear hb) | ((with_reducible refine (CC _ hbel).mono ?_); rintro e w2 ⟨rfl, hb⟩; have hg := cells_of hg hb hgl; have hgl := Nat.lt_of_lt_of_le hgl hb.size; have hbel := hbel.trans (hb.mono hbel.size); obtain ⟨q0, q1, q2, q3, q4, q5, q6, q7, q8, q9, q10, q11, q12, q13, q14, q15, q16, q17⟩ := msg_cells hg; clear hb)))
    go_ret
    exact ⟨rfl, hbel⟩
  obtain rfl : k3 = r := by rw [← HR.out]; simp
  go_wp2_with (first | (go_at_call 46; first | ((with_reducible refine (CL _).mono ?_); rintro e w2 ⟨rfl, hb⟩; have hg := cells_of hg hb hgl; have hgl := Nat.lt_of_lt_of_le hgl hb.size; have hbel := hbel.trans (hb.mono hbel.size); obtain ⟨q0, q1, q2, q3, q4, q5, q6, q7, q8, q9, q10, q11, q12, q13, q14, q15, q16, q17⟩ := msg_cells hg; clear hb)) | (go_at_call 47; first | ((with_reducible refine (CP _ hbel).mono ?_); rintro e w2 ⟨rfl, hb⟩; have hg := cells_of hg hb hgl; have hgl := Nat.lt_of_lt_of_le hgl hb.size; have hbel := hbel.trans (hb.mono hbel.size); obtain ⟨q0, q1, q2, q3, q4, q5, q6, q7, q8, q9, q10, q11, q12, q13, q14, q15, q16, q17⟩ := msg_cells hg; clear hb) | ((with_reducible refine (CC _ hbel).mono ?_); rintro e w2 ⟨rfl, hb⟩; have hg := cells_of hg hb hgl; have hgl := Nat.lt_of_lt_of_le hgl hb.size; have hbel := hbel.trans (hb.mono hbel.size); obtain ⟨q0, q1, q2, q3, q4, q5, q6, q7, q8, q9, q10, q11, q12, q13, q14, q15, q16, q17⟩ := msg_cells hg; clear hb)))
  go_ret
  exact ⟨rfl, hbel⟩
set_option maxRecDepth 100000 in
set_option maxHeartbeats 4000000 in
theorem msgMay_any (m : MsgV) (w : World) (hm : m.ok w) :
    Calls Try.prog 17 #[.agg m.row] w fun e w' => e = .returned (.bool (mayMsgB m)) ∧ Below w.heap.size w w' := by
  obtain ⟨k0, e0⟩ : ∃ b, decide (m.kd < 1) = b := ⟨_, rfl⟩
  obtain ⟨k1, e1⟩ : ∃ b, decide (5 < m.kd) = b := ⟨_, rfl⟩
  obtain ⟨k2, e2⟩ : ∃ b, msgB m m.plain = b := ⟨_, rfl⟩
  obtain ⟨r, hr0⟩ : ∃ r, restB m = r := ⟨_, rfl⟩
  have hS : mayMsgB m = (!k0 && !k1 && k2 && r) := by unfold mayMsgB; simp only [e0, e1, e2, hr0]
  rw [hS]
  have HR0 := Lib.hid hr0
  clear hS hr0
  have CM := fun W (hb : Below w.heap.size w W) => msgSame_any m m.plain W (hm.below hb) (MsgV.plain_ok (hm.below hb))
  simp only [e2] at CM
  clear e2
  go_enter Try.func17, Try.ntmps17
  go_upto_region 1 with fail
  refine wp_nameE _ (fun W1 hX => ?_)
  have hg : W1.heap[w.heap.size]? = some (.cells m.row 34 (0, 0)) := by rw [hX]; exact heap_push _ _ _
  have hbel : Below w.heap.size w W1 := by rw [hX]; exact Below.alloc (Below.refl _ _) (Nat.le_refl _) _
  clear hX
  have hgl : w.heap.size < W1.heap.size := (Array.getElem?_eq_some_iff.1 hg).1
  obtain ⟨q0, q1, q2, q3, q4, q5, q6, q7, q8, q9, q10, q11, q12, q13, q14, q15, q16, q17⟩ := msg_cells hg
  have CPn : ∀ n : Beyond W1, Calls Try.prog 51 #[.agg m.row] n.x fun e w' => e = .returned (.agg m.plain.row) ∧ ∃ m : Beyond W1, w' = m.x := fun n => quiet_below (plain_any m n.x)
  have CMn : ∀ n : Beyond W1, Calls Try.prog 19 #[.agg m.row, .agg m.plain.row] n.x fun e w' => e = .returned (.bool k2) ∧ ∃ m : Beyond W1, w' = m.x := fun n => quiet_below (CM n.x (hbel.trans (n.h.mono hbel.size)))
  have lm := fun n => load_msg hg hgl n
  have z0 : ∀ n : Beyond W1, n.x.cell? ⟨w.heap.size, 0, none⟩ = some (.int .i64 m.kd) := fun n => (msg_cells (cells_of hg n.h hgl)).1
  cases k0
  case true =>
    refine wp_region_below (by kernel_rfl) (by kernel_rfl) ?_
    repeat (first | (go_big_quiet_want; refine quiet_load (v := .agg m.row) 34 (.tmp 1) rfl (by rfl) (by rintro _ ⟨n, rfl⟩; exact lm n) ?_; simp only [Act.put, List.setIfInBounds_toArray, List.set_cons_succ, List.set_cons_zero]; go_big_quiet_on) | go_big_quiet_step (first | (go_at_call 51; with_reducible exact CPn _) | (go_at_call 19; with_reducible exact CMn _)))
    intro w9 hw9
    have hb := beyond_below hw9
    have hg := cells_of hg hb hgl
    have hgl := Nat.lt_of_lt_of_le hgl hb.size
    have hbel := hbel.trans (hb.mono hbel.size)
    obtain ⟨q0, q1, q2, q3, q4, q5, q6, q7, q8, q9, q10, q11, q12, q13, q14, q15, q16, q17⟩ := msg_cells hg
    clear hb
    clear CPn CMn lm CM hw9 z0
    go_wp2
    go_ret
    exact ⟨by first | rfl | simp, hbel⟩
  cases k1
  case true =>
    refine wp_region_below (by kernel_rfl) (by kernel_rfl) ?_
    repeat (first | (go_big_quiet_want; refine quiet_load (v := .agg m.row) 34 (.tmp 1) rfl (by rfl) (by rintro _ ⟨n, rfl⟩; exact lm n) ?_; simp only [Act.put, List.setIfInBounds_toArray, List.set_cons_succ, List.set_cons_zero]; go_big_quiet_on) | go_big_quiet_step (first | (go_at_call 51; with_reducible exact CPn _) | (go_at_call 19; with_reducible exact CMn _)))
    intro w9 hw9
    have hb := beyond_below hw9
    have hg := cells_of hg hb hgl
    have hgl := Nat.lt_of_lt_of_le hgl hb.size
    have hbel := hbel.trans (hb.mono hbel.size)
    obtain ⟨q0, q1, q2, q3, q4, q5, q6, q7, q8, q9, q10, q11, q12, q13, q14, q15, q16, q17⟩ := msg_cells hg
    clear hb
    clear CPn CMn lm CM hw9 z0
    go_wp2
    go_ret
    exact ⟨by first | rfl | simp, hbel⟩
  cases k2
  case false =>
    refine wp_region_below (by kernel_rfl) (by kernel_rfl) ?_
    repeat (first | (go_big_quiet_want; refine quiet_load (v := .agg m.row) 34 (.tmp 1) rfl (by rfl) (by rintro _ ⟨n, rfl⟩; exact lm n) ?_; simp only [Act.put, List.setIfInBounds_toArray, List.set_cons_succ, List.set_cons_zero]; go_big_quiet_on) | go_big_quiet_step (first | (go_at_call 51; with_reducible exact CPn _) | (go_at_call 19; with_reducible exact CMn _)))
    intro w9 hw9
    have hb := beyond_below hw9
    have hg := cells_of hg hb hgl
    have hgl := Nat.lt_of_lt_of_le hgl hb.size
    have hbel := hbel.trans (hb.mono hbel.size)
    obtain ⟨q0, q1, q2, q3, q4, q5, q6, q7, q8, q9, q10, q11, q12, q13, q14, q15, q16, q17⟩ := msg_cells hg
    clear hb
    clear CPn CMn lm CM hw9 z0
    go_wp2
    go_ret
    exact ⟨by first | rfl | simp, hbel⟩
  refine wp_region_below (by kernel_rfl) (by kernel_rfl) ?_
  repeat (first | (go_big_quiet_want; refine quiet_load (v := .agg m.row) 34 (.tmp 1) rfl (by rfl) (by rintro _ ⟨n, rfl⟩; exact lm n) ?_; simp only [Act.put, List.setIfInBounds_toArray, List.set_cons_succ, List.set_cons_zero]; go_big_quiet_on) | go_big_quiet_step (first | (go_at_call 51; with_reducible exact CPn _) | (go_at_call 19; with_reducible exact CMn _)))
  intro w9 hw9
  have hb := beyond_below hw9
  have hg := cells_of hg hb hgl
  have hgl := Nat.lt_of_lt_of_le hgl hb.size
  have hbel := hbel.trans (hb.mono hbel.size)
  obtain ⟨q0, q1, q2, q3, q4, q5, q6, q7, q8, q9, q10, q11, q12, q13, q14, q15, q16, q17⟩ := msg_cells hg
  clear hb
  clear CPn CMn lm CM hw9 z0
  go_upto_region 3 with fail
  by_cases h1 : m.kd = 1
  · have d1 : (m.kd == 1) = true := by rw [h1]; rfl
    obtain ⟨k4, e4⟩ : ∃ b, heightB m.hh = b := ⟨_, rfl⟩
    obtain ⟨k5, e5⟩ : ∃ b, decide (0 ≤ m.ht) = b := ⟨_, rfl⟩
    obtain ⟨k6, e6⟩ : ∃ b, decide (m.ht ≤ 1099511627776) = b := ⟨_, rfl⟩
    have CH := fun W => height_any m.hh W
    simp only [e4] at CH
    have HR : Hid ((k4 && k5 && k6) = r) := Lib.hid (by rw [← HR0.out]; unfold restB; rw [if_pos h1]; simp only [e4, e5, e6])
    clear e4 h1 HR0
    cases k4
    · obtain rfl : false = r := by rw [← HR.out]; simp
      go_wp2_with (go_at_call 52; first | ((with_reducible refine (CH _).mono ?_); rintro e w2 ⟨rfl, rfl⟩))
      go_ret
      exact ⟨by first | rfl | simp, hbel⟩
    cases k5
    · obtain rfl : false = r := by rw [← HR.out]; simp
      go_wp2_with (go_at_call 52; first | ((with_reducible refine (CH _).mono ?_); rintro e w2 ⟨rfl, rfl⟩))
      go_ret
      exact ⟨by first | rfl | simp, hbel⟩
    obtain rfl : k6 = r := by rw [← HR.out]; simp
    go_wp2_with (go_at_call 52; first | ((with_reducible refine (CH _).mono ?_); rintro e w2 ⟨rfl, rfl⟩))
    go_ret
    exact ⟨by first | rfl | simp, hbel⟩
  have d1 : (m.kd == 1) = false := beq_eq_false_iff_ne.2 h1
  obtain ⟨k3, e3⟩ : ∃ b, (m.kd == 3) = b := ⟨_, rfl⟩
  obtain ⟨k4, e4⟩ : ∃ b, (m.ack.toList == []) = b := ⟨_, rfl⟩
  obtain ⟨k5, e5⟩ : ∃ b, decide (32 < (m.ack.size : Int)) = b := ⟨_, rfl⟩
  obtain ⟨k6, e6⟩ : ∃ b, mayK m.sp m.sc m.dp m.dc m.sq m.da m.th m.ta = b := ⟨_, rfl⟩
  obtain ⟨k7, e7⟩ : ∃ b, heightB m.he = b := ⟨_, rfl⟩
  obtain ⟨k8, e8⟩ : ∃ b, decide (0 ≤ m.nx) = b := ⟨_, rfl⟩
  obtain ⟨k9, e9⟩ : ∃ b, decide (m.nx ≤ 1099511627777) = b := ⟨_, rfl⟩
  obtain ⟨k10, e10⟩ : ∃ b, mayPfB m.pct m.pxs = b := ⟨_, rfl⟩
  obtain ⟨k11, e11⟩ : ∃ b, mayPfB m.cct m.cxs = b := ⟨_, rfl⟩
  have CA := fun W => hasAck_any m.kd W
  have CK := fun W => mayPk_any m.sp m.sc m.dp m.dc m.sq m.da m.th m.ta W hm.spM hm.dpM
  have CH := fun W => height_any m.he W
  have CP := fun W (hb : Below w.heap.size w W) => mayPf_any m.pct m.pa m.pn m.pc m.pxs W (hm.p.below hb) hm.plen (Nat.le_trans hm.pcap hm.pcM)
  have CC := fun W (hb : Below w.heap.size w W) => mayPf_any m.cct m.ca m.cn m.cc m.cxs W (hm.c.below hb) hm.clen (Nat.le_trans hm.ccap hm.ccM)
  simp only [e3] at CA
  simp only [e6] at CK
  simp only [e7] at CH
  simp only [e10] at CP
  simp only [e11] at CC
  have HR : Hid ((!(k3 && (k4 || k5)) && k6 && k7 && k8 && k9 && k10 && k11) = r) := Lib.hid (by rw [← HR0.out]; unfold restB; rw [if_neg h1]; simp only [e3, e4, e5, e6, e7, e8, e9, e10, e11])
  clear HR0 e3 e6 e7 e10 e11 h1 e0 e1
  go_upto_region 5 with fail
  cases k3
  case true =>
    cases k4
    case true =>
      obtain rfl : false = r := by rw [← HR.out]; simp
      go_wp2_with (first | (go_at_call 53; first | ((with_reducible refine (CA _).mono ?_); rintro e w2 ⟨rfl, rfl⟩)) | (go_at_call 54; first | ((with_reducible refine (CK _).mono ?_); rintro e w2 ⟨rfl, hb⟩; have hg := cells_of hg hb hgl; have hgl := Nat.lt_of_lt_of_le hgl hb.size; have hbel := hbel.trans (hb.mono hbel.size); obtain ⟨q0, q1, q2, q3, q4, q5, q6, q7, q8, q9, q10, q11, q12, q13, q14, q15, q16, q17⟩ := msg_cells hg; clear hb)) | (go_at_call 52; first | ((with_reducible refine (CH _).mono ?_); rintro e w2 ⟨rfl, rfl⟩)) | (go_at_call 55; first | ((with_reducible refine (CP _ hbel).mono ?_); rintro e w2 ⟨rfl, hb⟩; have hg := cells_of hg hb hgl; have hgl := Nat.lt_of_lt_of_le hgl hb.size; have hbel := hbel.trans (hb.mono hbel.size); obtain ⟨q0, q1, q2, q3, q4, q5, q6, q7, q8, q9, q10, q11, q12, q13, q14, q15, q16, q17⟩ := msg_cells hg; clear hb) | ((with_reducible refine (CC _ hbel).mono ?_); rintro e w2 ⟨rfl, hb⟩; have hg := cells_of hg hb hgl; have hgl := Nat.lt_of_lt_of_le hgl hb.size; have hbel := hbel.trans (hb.mono hbel.size); obtain ⟨q0, q1, q2, q3, q4, q5, q6, q7, q8, q9, q10, q11, q12, q13, q14, q15, q16, q17⟩ := msg_cells hg; clear hb)))
      go_ret
      exact ⟨by first | rfl | simp, hbel⟩
    cases k5
    case true =>
      obtain rfl : false = r := by rw [← HR.out]; simp
      go_wp2_with (first | (go_at_call 53; first | ((with_reducible refine (CA _).mono ?_); rintro e w2 ⟨rfl, rfl⟩)) | (go_at_call 54; first | ((with_reducible refine (CK _).mono ?_); rintro e w2 ⟨rfl, hb⟩; have hg := cells_of hg hb hgl; have hgl := Nat.lt_of_lt_of_le hgl hb.size; have hbel := hbel.trans (hb.mono hbel.size); obtain ⟨q0, q1, q2, q3, q4, q5, q6, q7, q8, q9, q10, q11, q12, q13, q14, q15, q16, q17⟩ := msg_cells hg; clear hb)) | (go_at_call 52; first | ((with_reducible refine (CH _).mono ?_); rintro e w2 ⟨rfl, rfl⟩)) | (go_at_call 55; first | ((with_reducible refine (CP _ hbel).mono ?_); rintro e w2 ⟨rfl, hb⟩; have hg := cells_of hg hb hgl; have hgl := Nat.lt_of_lt_of_le hgl hb.size; have hbel := hbel.trans (hb.mono hbel.size); obtain ⟨q0, q1, q2, q3, q4, q5, q6, q7, q8, q9, q10, q11, q12, q13, q14, q15, q16, q17⟩ := msg_cells hg; clear hb) | ((with_reducible refine (CC _ hbel).mono ?_); rintro e w2 ⟨rfl, hb⟩; have hg := cells_of hg hb hgl; have hgl := Nat.lt_of_lt_of_le hgl hb.size; have hbel := hbel.trans (hb.mono hbel.size); obtain ⟨q0, q1, q2, q3, q4, q5, q6, q7, q8, q9, q10, q11, q12, q13, q14, q15, q16, q17⟩ := msg_cells hg; clear hb)))
      go_ret
      exact ⟨by first | rfl | simp, hbel⟩
    cases k6
    · obtain rfl : false = r := by rw [← HR.out]; simp
      go_wp2_with (first | (go_at_call 53; first | ((with_reducible refine (CA _).mono ?_); rintro e w2 ⟨rfl, rfl⟩)) | (go_at_call 54; first | ((with_reducible refine (CK _).mono ?_); rintro e w2 ⟨rfl, hb⟩; have hg := cells_of hg hb hgl; have hgl := Nat.lt_of_lt_of_le hgl hb.size; have hbel := hbel.trans (hb.mono hbel.size); obtain ⟨q0, q1, q2, q3, q4, q5, q6, q7, q8, q9, q10, q11, q12, q13, q14, q15, q16, q17⟩ := msg_cells hg; clear hb)) | (go_at_call 52; first | ((with_reducible refine (CH _).mono ?_); rintro e w2 ⟨rfl, rfl⟩)) | (go_at_call 55; first | ((with_reducible refine (CP _ hbel).mono ?_); rintro e w2 ⟨rfl, hb⟩; have hg := cells_of hg hb hgl; have hgl := Nat.lt_of_lt_of_le hgl hb.size; have hbel := hbel.trans (hb.mono hbel.size); obtain ⟨q0, q1, q2, q3, q4, q5, q6, q7, q8, q9, q10, q11, q12, q13, q14, q15, q16, q17⟩ := msg_cells hg; clear hb) | ((with_reducible refine (CC _ hbel).mono ?_); rintro e w2 ⟨rfl, hb⟩; have hg := cells_of hg hb hgl; have hgl := Nat.lt_of_lt_of_le hgl hb.size; have hbel := hbel.trans (hb.mono hbel.size); obtain ⟨q0, q1, q2, q3, q4, q5, q6, q7, q8, q9, q10, q11, q12, q13, q14, q15, q16, q17⟩ := msg_cells hg; clear hb)))
      go_ret
      exact ⟨by first | rfl | simp, hbel⟩
    cases k7
    · obtain rfl : false = r := by rw [← HR.out]; simp
      go_wp2_with (first | (go_at_call 53; first | ((with_reducible refine (CA _).mono ?_); rintro e w2 ⟨rfl, rfl⟩)) | (go_at_call 54; first | ((with_reducible refine (CK _).mono ?_); rintro e w2 ⟨rfl, hb⟩; have hg := cells_of hg hb hgl; have hgl := Nat.lt_of_lt_of_le hgl hb.size; have hbel := hbel.trans (hb.mono hbel.size); obtain ⟨q0, q1, q2, q3, q4, q5, q6, q7, q8, q9, q10, q11, q12, q13, q14, q15, q16, q17⟩ := msg_cells hg; clear hb)) | (go_at_call 52; first | ((with_reducible refine (CH _).mono ?_); rintro e w2 ⟨rfl, rfl⟩)) | (go_at_call 55; first | ((with_reducible refine (CP _ hbel).mono ?_); rintro e w2 ⟨rfl, hb⟩; have hg := cells_of hg hb hgl; have hgl := Nat.lt_of_lt_of_le hgl hb.size; have hbel := hbel.trans (hb.mono hbel.size); obtain ⟨q0, q1, q2, q3, q4, q5, q6, q7, q8, q9, q10, q11, q12, q13, q14, q15, q16, q17⟩ := msg_cells hg; clear hb) | ((with_reducible refine (CC _ hbel).mono ?_); rintro e w2 ⟨rfl, hb⟩; have hg := cells_of hg hb hgl; have hgl := Nat.lt_of_lt_of_le hgl hb.size; have hbel := hbel.trans (hb.mono hbel.size); obtain ⟨q0, q1, q2, q3, q4, q5, q6, q7, q8, q9, q10, q11, q12, q13, q14, q15, q16, q17⟩ := msg_cells hg; clear hb)))
      go_ret
      exact ⟨by first | rfl | simp, hbel⟩
    cases k8
    · obtain rfl : false = r := by rw [← HR.out]; simp
      go_wp2_with (first | (go_at_call 53; first | ((with_reducible refine (CA _).mono ?_); rintro e w2 ⟨rfl, rfl⟩)) | (go_at_call 54; first | ((with_reducible refine (CK _).mono ?_); rintro e w2 ⟨rfl, hb⟩; have hg := cells_of hg hb hgl; have hgl := Nat.lt_of_lt_of_le hgl hb.size; have hbel := hbel.trans (hb.mono hbel.size); obtain ⟨q0, q1, q2, q3, q4, q5, q6, q7, q8, q9, q10, q11, q12, q13, q14, q15, q16, q17⟩ := msg_cells hg; clear hb)) | (go_at_call 52; first | ((with_reducible refine (CH _).mono ?_); rintro e w2 ⟨rfl, rfl⟩)) | (go_at_call 55; first | ((with_reducible refine (CP _ hbel).mono ?_); rintro e w2 ⟨rfl, hb⟩; have hg := cells_of hg hb hgl; have hgl := Nat.lt_of_lt_of_le hgl hb.size; have hbel := hbel.trans (hb.mono hbel.size); obtain ⟨q0, q1, q2, q3, q4, q5, q6, q7, q8, q9, q10, q11, q12, q13, q14, q15, q16, q17⟩ := msg_cells hg; clear hb) | ((with_reducible refine (CC _ hbel).mono ?_); rintro e w2 ⟨rfl, hb⟩; have hg := cells_of hg hb hgl; have hgl := Nat.lt_of_lt_of_le hgl hb.size; have hbel := hbel.trans (hb.mono hbel.size); obtain ⟨q0, q1, q2, q3, q4, q5, q6, q7, q8, q9, q10, q11, q12, q13, q14, q15, q16, q17⟩ := msg_cells hg; clear hb)))
      go_ret
      exact ⟨by first | rfl | simp, hbel⟩
    cases k9
    · obtain rfl : false = r := by rw [← HR.out]; simp
      go_wp2_with (first | (go_at_call 53; first | ((with_reducible refine (CA _).mono ?_); rintro e w2 ⟨rfl, rfl⟩)) | (go_at_call 54; first | ((with_reducible refine (CK _).mono ?_); rintro e w2 ⟨rfl, hb⟩; have hg := cells_of hg hb hgl; have hgl := Nat.lt_of_lt_of_le hgl hb.size; have hbel := hbel.trans (hb.mono hbel.size); obtain ⟨q0, q1, q2, q3, q4, q5, q6, q7, q8, q9, q10, q11, q12, q13, q14, q15, q16, q17⟩ := msg_cells hg; clear hb)) | (go_at_call 52; first | ((with_reducible refine (CH _).mono ?_); rintro e w2 ⟨rfl, rfl⟩)) | (go_at_call 55; first | ((with_reducible refine (CP _ hbel).mono ?_); rintro e w2 ⟨rfl, hb⟩; have hg := cells_of hg hb hgl; have hgl := Nat.lt_of_lt_of_le hgl hb.size; have hbel := hbel.trans (hb.mono hbel.size); obtain ⟨q0, q1, q2, q3, q4, q5, q6, q7, q8, q9, q10, q11, q12, q13, q14, q15, q16, q17⟩ := msg_cells hg; clear hb) | ((with_reducible refine (CC _ hbel).mono ?_); rintro e w2 ⟨rfl, hb⟩; have hg := cells_of hg hb hgl; have hgl := Nat.lt_of_lt_of_le hgl hb.size; have hbel := hbel.trans (hb.mono hbel.size); obtain ⟨q0, q1, q2, q3, q4, q5, q6, q7, q8, q9, q10, q11, q12, q13, q14, q15, q16, q17⟩ := msg_cells hg; clear hb)))
      go_ret
      exact ⟨by first | rfl | simp, hbel⟩
    cases k10
    · obtain rfl : false = r := by rw [← HR.out]; simp
      go_wp2_with (first | (go_at_call 53; first | ((with_reducible refine (CA _).mono ?_); rintro e w2 ⟨rfl, rfl⟩)) | (go_at_call 54; first | ((with_reducible refine (CK _).mono ?_); rintro e w2 ⟨rfl, hb⟩; have hg := cells_of hg hb hgl; have hgl := Nat.lt_of_lt_of_le hgl hb.size; have hbel := hbel.trans (hb.mono hbel.size); obtain ⟨q0, q1, q2, q3, q4, q5, q6, q7, q8, q9, q10, q11, q12, q13, q14, q15, q16, q17⟩ := msg_cells hg; clear hb)) | (go_at_call 52; first | ((with_reducible refine (CH _).mono ?_); rintro e w2 ⟨rfl, rfl⟩)) | (go_at_call 55; first | ((with_reducible refine (CP _ hbel).mono ?_); rintro e w2 ⟨rfl, hb⟩; have hg := cells_of hg hb hgl; have hgl := Nat.lt_of_lt_of_le hgl hb.size; have hbel := hbel.trans (hb.mono hbel.size); obtain ⟨q0, q1, q2, q3, q4, q5, q6, q7, q8, q9, q10, q11, q12, q13, q14, q15, q16, q17⟩ := msg_cells hg; clear hb) | ((with_reducible refine (CC _ hbel).mono ?_); rintro e w2 ⟨rfl, hb⟩; have hg := cells_of hg hb hgl; have hgl := Nat.lt_of_lt_of_le hgl hb.size; have hbel := hbel.trans (hb.mono hbel.size); obtain ⟨q0, q1, q2, q3, q4, q5, q6, q7, q8, q9, q10, q11, q12, q13, q14, q15, q16, q17⟩ := msg_cells hg; clear hb)))
      go_ret
      exact ⟨by first | rfl | simp, hbel⟩
    obtain rfl : k11 = r := by rw [← HR.out]; simp
    go_wp2_with (first | (go_at_call 53; first | ((with_reducible refine (CA _).mono ?_); rintro e w2 ⟨rfl, rfl⟩)) | (go_at_call 54; first | ((with_reducible refine (CK _).mono ?_); rintro e w2 ⟨rfl, hb⟩; have hg := cells_of hg hb hgl; have hgl := Nat.lt_of_lt_of_le hgl hb.size; have hbel := hbel.trans (hb.mono hbel.size); obtain ⟨q0, q1, q2, q3, q4, q5, q6, q7, q8, q9, q10, q11, q12, q13, q14, q15, q16, q17⟩ := msg_cells hg; clear hb)) | (go_at_call 52; first | ((with_reducible refine (CH _).mono ?_); rintro e w2 ⟨rfl, rfl⟩)) | (go_at_call 55; first | ((with_reducible refine (CP _ hbel).mono ?_); rintro e w2 ⟨rfl, hb⟩; have hg := cells_of hg hb hgl; have hgl := Nat.lt_of_lt_of_le hgl hb.size; have hbel := hbel.trans (hb.mono hbel.size); obtain ⟨q0, q1, q2, q3, q4, q5, q6, q7, q8, q9, q10, q11, q12, q13, q14, q15, q16, q17⟩ := msg_cells hg; clear hb) | ((with_reducible refine (CC _ hbel).mono ?_); rintro e w2 ⟨rfl, hb⟩; have hg := cells_of hg hb hgl; have hgl := Nat.lt_of_lt_of_le hgl hb.size; have hbel := hbel.trans (hb.mono hbel.size); obtain ⟨q0, q1, q2, q3, q4, q5, q6, q7, q8, q9, q10, q11, q12, q13, q14, q15, q16, q17⟩ := msg_cells hg; clear hb)))
    go_ret
    exact ⟨by first | rfl | simp, hbel⟩
  cases k6
  · obtain rfl : false = r := by rw [← HR.out]; simp
    go_wp2_with (first | (go_at_call 53; first | ((with_reducible refine (CA _).mono ?_); rintro e w2 ⟨rfl, rfl⟩)) | (go_at_call 54; first | ((with_reducible refine (CK _).mono ?_); rintro e w2 ⟨rfl, hb⟩; have hg := cells_of hg hb hgl; have hgl := Nat.lt_of_lt_of_le hgl hb.size; have hbel := hbel.trans (hb.mono hbel.size); obtain ⟨q0, q1, q2, q3, q4, q5, q6, q7, q8, q9, q10, q11, q12, q13, q14, q15, q16, q17⟩ := msg_cells hg; clear hb)) | (go_at_call 52; first | ((with_reducible refine (CH _).mono ?_); rintro e w2 ⟨rfl, rfl⟩)) | (go_at_call 55; first | ((with_reducible refine (CP _ hbel).mono ?_); rintro e w2 ⟨rfl, hb⟩; have hg := cells_of hg hb hgl; have hgl := Nat.lt_of_lt_of_le hgl hb.size; have hbel := hbel.trans (hb.mono hbel.size); obtain ⟨q0, q1, q2, q3, q4, q5, q6, q7, q8, q9, q10, q11, q12, q13, q14, q15, q16, q17⟩ := msg_cells hg; clear hb) | ((with_reducible refine (CC _ hbel).mono ?_); rintro e w2 ⟨rfl, hb⟩; have hg := cells_of hg hb hgl; have hgl := Nat.lt_of_lt_of_le hgl hb.size; have hbel := hbel.trans (hb.mono hbel.size); obtain ⟨q0, q1, q2, q3, q4, q5, q6, q7, q8, q9, q10, q11, q12, q13, q14, q15, q16, q17⟩ := msg_cells hg; clear hb)))
    go_ret
    exact ⟨by first | rfl | simp, hbel⟩
  cases k7
  · obtain rfl : false = r := by rw [← HR.out]; simp
    go_wp2_with (first | (go_at_call 53; first | ((with_reducible refine (CA _).mono ?_); rintro e w2 ⟨rfl, rfl⟩)) | (go_at_call 54; first | ((with_reducible refine (CK _).mono ?_); rintro e w2 ⟨rfl, hb⟩; have hg := cells_of hg hb hgl; have hgl := Nat.lt_of_lt_of_le hgl hb.size; have hbel := hbel.trans (hb.mono hbel.size); obtain ⟨q0, q1, q2, q3, q4, q5, q6, q7, q8, q9, q10, q11, q12, q13, q14, q15, q16, q17⟩ := msg_cells hg; clear hb)) | (go_at_call 52; first | ((with_reducible refine (CH _).mono ?_); rintro e w2 ⟨rfl, rfl⟩)) | (go_at_call 55; first | ((with_reducible refine (CP _ hbel).mono ?_); rintro e w2 ⟨rfl, hb⟩; have hg := cells_of hg hb hgl; have hgl := Nat.lt_of_lt_of_le hgl hb.size; have hbel := hbel.trans (hb.mono hbel.size); obtain ⟨q0, q1, q2, q3, q4, q5, q6, q7, q8, q9, q10, q11, q12, q13, q14, q15, q16, q17⟩ := msg_cells hg; clear hb) | ((with_reducible refine (CC _ hbel).mono ?_); rintro e w2 ⟨rfl, hb⟩; have hg := cells_of hg hb hgl; have hgl := Nat.lt_of_lt_of_le hgl hb.size; have hbel := hbel.trans (hb.mono hbel.size); obtain ⟨q0, q1, q2, q3, q4, q5, q6, q7, q8, q9, q10, q11, q12, q13, q14, q15, q16, q17⟩ := msg_cells hg; clear hb)))
    go_ret
    exact ⟨by first | rfl | simp, hbel⟩
  cases k8
  · obtain rfl : false = r := by rw [← HR.out]; simp
    go_wp2_with (first | (go_at_call 53; first | ((with_reducible refine (CA _).mono ?_); rintro e w2 ⟨rfl, rfl⟩)) | (go_at_call 54; first | ((with_reducible refine (CK _).mono ?_); rintro e w2 ⟨rfl, hb⟩; have hg := cells_of hg hb hgl; have hgl := Nat.lt_of_lt_of_le hgl hb.size; have hbel := hbel.trans (hb.mono hbel.size); obtain ⟨q0, q1, q2, q3, q4, q5, q6, q7, q8, q9, q10, q11, q12, q13, q14, q15, q16, q17⟩ := msg_cells hg; clear hb)) | (go_at_call 52; first | ((with_reducible refine (CH _).mono ?_); rintro e w2 ⟨rfl, rfl⟩)) | (go_at_call 55; first | ((with_reducible refine (CP _ hbel).mono ?_); rintro e w2 ⟨rfl, hb⟩; have hg := cells_of hg hb hgl; have hgl := Nat.lt_of_lt_of_le hgl hb.size; have hbel := hbel.trans (hb.mono hbel.size); obtain ⟨q0, q1, q2, q3, q4, q5, q6, q7, q8, q9, q10, q11, q12, q13, q14, q15, q16, q17⟩ := msg_cells hg; clear hb) | ((with_reducible refine (CC _ hbel).mono ?_); rintro e w2 ⟨rfl, hb⟩; have hg := cells_of hg hb hgl; have hgl := Nat.lt_of_lt_of_le hgl hb.size; have hbel := hbel.trans (hb.mono hbel.size); obtain ⟨q0, q1, q2, q3, q4, q5, q6, q7, q8, q9, q10, q11, q12, q13, q14, q15, q16, q17⟩ := msg_cells hg; clear hb)))
    go_ret
    exact ⟨by first | rfl | simp, hbel⟩
  cases k9
  · obtain rfl : false = r := by rw [← HR.out]; simp
    go_wp2_with (first | (go_at_call 53; first | ((with_reducible refine (CA _).mono ?_); rintro e w2 ⟨rfl, rfl⟩)) | (go_at_call 54; first | ((with_reducible refine (CK _).mono ?_); rintro e w2 ⟨rfl, hb⟩; have hg := cells_of hg hb hgl; have hgl := Nat.lt_of_lt_of_le hgl hb.size; have hbel := hbel.trans (hb.mono hbel.size); obtain ⟨q0, q1, q2, q3, q4, q5, q6, q7, q8, q9, q10, q11, q12, q13, q14, q15, q16, q17⟩ := msg_cells hg; clear hb)) | (go_at_call 52; first | ((with_reducible refine (CH _).mono ?_); rintro e w2 ⟨rfl, rfl⟩)) | (go_at_call 55; first | ((with_reducible refine (CP _ hbel).mono ?_); rintro e w2 ⟨rfl, hb⟩; have hg := cells_of hg hb hgl; have hgl := Nat.lt_of_lt_of_le hgl hb.size; have hbel := hbel.trans (hb.mono hbel.size); obtain ⟨q0, q1, q2, q3, q4, q5, q6, q7, q8, q9, q10, q11, q12, q13, q14, q15, q16, q17⟩ := msg_cells hg; clear hb) | ((with_reducible refine (CC _ hbel).mono ?_); rintro e w2 ⟨rfl, hb⟩; have hg := cells_of hg hb hgl; have hgl := Nat.lt_of_lt_of_le hgl hb.size; have hbel := hbel.trans (hb.mono hbel.size); obtain ⟨q0, q1, q2, q3, q4, q5, q6, q7, q8, q9, q10, q11, q12, q13, q14, q15, q16, q17⟩ := msg_cells hg; clear hb)))
    go_ret
    exact ⟨by first | rfl | simp, hbel⟩
  cases k10
  · obtain rfl : false = r := by rw [← HR.out]; simp
    go_wp2_with (first | (go_at_call 53; first | ((with_reducible refine (CA _).mono ?_); rintro e w2 ⟨rfl, rfl⟩)) | (go_at_call 54; first | ((with_reducible refine (CK _).mono ?_); rintro e w2 ⟨rfl, hb⟩; have hg := cells_of hg hb hgl; have hgl := Nat.lt_of_lt_of_le hgl hb.size; have hbel := hbel.trans (hb.mono hbel.size); obtain ⟨q0, q1, q2, q3, q4, q5, q6, q7, q8, q9, q10, q11, q12, q13, q14, q15, q16, q17⟩ := msg_cells hg; clear hb)) | (go_at_call 52; first | ((with_reducible refine (CH _).mono ?_); rintro e w2 ⟨rfl, rfl⟩)) | (go_at_call 55; first | ((with_reducible refine (CP _ hbel).mono ?_); rintro e w2 ⟨rfl, hb⟩; have hg := cells_of hg hb hgl; have hgl := Nat.lt_of_lt_of_le hgl hb.size; have hbel := hbel.trans (hb.mono hbel.size); obtain ⟨q0, q1, q2, q3, q4, q5, q6, q7, q8, q9, q10, q11, q12, q13, q14, q15, q16, q17⟩ := msg_cells hg; clear hb) | ((with_reducible refine (CC _ hbel).mono ?_); rintro e w2 ⟨rfl, hb⟩; have hg := cells_of hg hb hgl; have hgl := Nat.lt_of_lt_of_le hgl hb.size; have hbel := hbel.trans (hb.mono hbel.size); obtain ⟨q0, q1, q2, q3, q4, q5, q6, q7, q8, q9, q10, q11, q12, q13, q14, q15, q16, q17⟩ := msg_cells hg; clear hb)))
    go_ret
    exact ⟨by first | rfl | simp, hbel⟩
  obtain rfl : k11 = r := by rw [← HR.out]; simp
  go_wp2_with (first | (go_at_call 53; first | ((with_reducible refine (CA _).mono ?_); rintro e w2 ⟨rfl, rfl⟩)) | (go_at_call 54; first | ((with_reducible refine (CK _).mono ?_); rintro e w2 ⟨rfl, hb⟩; have hg := cells_of hg hb hgl; have hgl := Nat.lt_of_lt_of_le hgl hb.size; have hbel := hbel.trans (hb.mono hbel.size); obtain ⟨q0, q1, q2, q3, q4, q5, q6, q7, q8, q9, q10, q11, q12, q13, q14, q15, q16, q17⟩ := msg_cells hg; clear hb)) | (go_at_call 52; first | ((with_reducible refine (CH _).mono ?_); rintro e w2 ⟨rfl, rfl⟩)) | (go_at_call 55; first | ((with_reducible refine (CP _ hbel).mono ?_); rintro e w2 ⟨rfl, hb⟩; have hg := cells_of hg hb hgl; have hgl := Nat.lt_of_lt_of_le hgl hb.size; have hbel := hbel.trans (hb.mono hbel.size); obtain ⟨q0, q1, q2, q3, q4, q5, q6, q7, q8, q9, q10, q11, q12, q13, q14, q15, q16, q17⟩ := msg_cells hg; clear hb) | ((with_reducible refine (CC _ hbel).mono ?_); rintro e w2 ⟨rfl, hb⟩; have hg := cells_of hg hb hgl; have hgl := Nat.lt_of_lt_of_le hgl hb.size; have hbel := hbel.trans (hb.mono hbel.size); obtain ⟨q0, q1, q2, q3, q4, q5, q6, q7, q8, q9, q10, q11, q12, q13, q14, q15, q16, q17⟩ := msg_cells hg; clear hb)))
  go_ret
  exact ⟨by first | rfl | simp, hbel⟩
end Go.Proofs.Ythipnkbfdkmhaaa
