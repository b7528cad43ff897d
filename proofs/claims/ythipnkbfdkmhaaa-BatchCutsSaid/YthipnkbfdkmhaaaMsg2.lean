/- Messages that are the same. -/
import Derived.Test.YthipnkbfdkmhaaaMsg1
import Derived.WalkKit
import Derived.ProofKit
import Derived.Handy
import Derived.Below
import Derived.Lib.Hide
import Derived.IntWalk
import Derived.Outline
import Derived.WalkLawsBesides
import Derived.WalkSpells
namespace Go.Proofs.Ythipnkbfdkmhaaa
open Go.RowKit
attribute [local go_sem] strV
set_option linter.unusedVariables false

def msgB (m n : MsgV) : Bool := (m.kd == n.kd) && hdB m.hh m.ht m.rt n.hh n.ht n.rt && pkB8 m.sp n.sp m.sc n.sc m.dp n.dp m.dc n.dc m.sq n.sq m.da n.da m.th n.th m.ta n.ta && (m.ack.toList == n.ack.toList) && (m.nx == n.nx) && (m.he == n.he) && pfB m.pct n.pct m.pxs n.pxs && pfB m.cct n.cct m.cxs n.cxs
theorem hd_info (h t : Int) (q : H32) : (Try.prog.info? 25).map (·.size) = some (hdL h t q).length := by rw [hdL_len]; kernel_rfl
set_option maxRecDepth 100000 in
set_option maxHeartbeats 4000000 in
theorem msgSame_any (m n : MsgV) (w : World) (hm : m.ok w) (hn : n.ok w) :
    Calls Try.prog 19 #[.agg m.row, .agg n.row] w fun e w' => e = .returned (.bool (msgB m n)) ∧ Below w.heap.size w w' := by
  have hg0 := al2_0 w (.cells m.row 34) (.cells n.row 34)
  have hh0 := al2_1 w (.cells m.row 34) (.cells n.row 34)
  have hbA := al2_below w (.cells m.row 34) (.cells n.row 34)
  have CE1 := fun W (hb : Below w.heap.size w W) => pfSame_any m.pct m.pa m.pn m.pc m.pxs n.pct n.pa n.pn n.pc n.pxs W (hm.p.below hb) (hn.p.below hb) hm.plen hn.plen (Nat.le_trans hm.pcap hm.pcM) (Nat.le_trans hn.pcap hn.pcM)
  have CE2 := fun W (hb : Below w.heap.size w W) => pfSame_any m.cct m.ca m.cn m.cc m.cxs n.cct n.ca n.cn n.cc n.cxs W (hm.c.below hb) (hn.c.below hb) hm.clen hn.clen (Nat.le_trans hm.ccap hm.ccM) (Nat.le_trans hn.ccap hn.ccM)
  have hE1 := run_equal_hdr m.hh m.ht m.rt n.hh n.ht n.rt
  have hE2 := run_equal_pk8 m.sp n.sp m.sc n.sc m.dp n.dp m.dc n.dc m.sq n.sq m.da n.da m.th n.th m.ta n.ta
  obtain ⟨k0, e0⟩ : ∃ b, (m.kd == n.kd) = b := ⟨_, rfl⟩
  obtain ⟨k1, e1⟩ : ∃ b, hdB m.hh m.ht m.rt n.hh n.ht n.rt = b := ⟨_, rfl⟩
  obtain ⟨k2, e2⟩ : ∃ b, pkB8 m.sp n.sp m.sc n.sc m.dp n.dp m.dc n.dc m.sq n.sq m.da n.da m.th n.th m.ta n.ta = b := ⟨_, rfl⟩
  obtain ⟨k3, e3⟩ : ∃ b, (m.ack.toList == n.ack.toList) = b := ⟨_, rfl⟩
  obtain ⟨k4, e4⟩ : ∃ b, (m.nx == n.nx) = b := ⟨_, rfl⟩
  obtain ⟨k5, e5⟩ : ∃ b, (m.he == n.he) = b := ⟨_, rfl⟩
  obtain ⟨k6, e6⟩ : ∃ b, pfB m.pct n.pct m.pxs n.pxs = b := ⟨_, rfl⟩
  obtain ⟨k7, e7⟩ : ∃ b, pfB m.cct n.cct m.cxs n.cxs = b := ⟨_, rfl⟩
  have hS : msgB m n = (k0 && k1 && k2 && k3 && k4 && k5 && k6 && k7) := by unfold msgB; simp only [e0, e1, e2, e3, e4, e5, e6, e7]
  obtain ⟨r, hr⟩ : ∃ r, (k0 && k1 && k2 && k3 && k4 && k5 && k6 && k7) = r := ⟨_, rfl⟩
  rw [hS, hr]
  simp only [e1] at hE1
  simp only [e2] at hE2
  simp only [e6] at CE1
  simp only [e7] at CE2
  have HR := Lib.hid hr
  clear hS hr e1 e2 e6 e7
  go_enter Try.func19, Try.ntmps19
  go_upto_region 1 with fail
  refine wp_nameE _ (fun W1 hX => ?_)
  have hg : W1.heap[w.heap.size]? = some (.cells m.row 34 (0, 0)) := by rw [hX]; exact hg0
  have hh : W1.heap[w.heap.size + 1]? = some (.cells n.row 34 (0, 0)) := by rw [hX]; exact hh0
  have hbel : Below w.heap.size w W1 := by rw [hX]; exact hbA
  clear hX hg0 hh0 hbA
  have hgl : w.heap.size < W1.heap.size := (Array.getElem?_eq_some_iff.1 hg).1
  have hhl : w.heap.size + 1 < W1.heap.size := (Array.getElem?_eq_some_iff.1 hh).1
  have hdg := msg_header hg
  have hdh := msg_header hh
  obtain ⟨q0, q1, q2, q3, q4, q5, q6, q7, q8, q9, q10, q11, q12, q13, q14, q15, q16, q17⟩ := msg_cells hg
  obtain ⟨r0, r1, r2, r3, r4, r5, r6, r7, r8, r9, r10, r11, r12, r13, r14, r15, r16, r17⟩ := msg_cells hh
  cases k0
  · obtain rfl : false = r := by rw [← HR.out]; simp
    go_wp2_with fail
    go_ret
    exact ⟨rfl, hbel⟩
  cases k1
  · obtain rfl : false = r := by rw [← HR.out]; simp
    go_wp2_with (first | (refine wpList_load_midG 25 (.tmp 11) rfl w.heap.size 1 rfl (hdL m.hh m.ht m.rt) _ hdg Try.underlying25 rfl (hd_info _ _ _) (by first | rfl | (simp [Region.wanted, yielded]; done)) ?_) | (refine wpList_load_midG 25 (.tmp 13) rfl (w.heap.size + 1) 1 rfl (hdL n.hh n.ht n.rt) _ hdh Try.underlying25 rfl (hd_info _ _ _) (by first | rfl | (simp [Region.wanted, yielded]; done)) ?_))
    go_ret
    exact ⟨rfl, hbel⟩
  cases k2
  · obtain rfl : false = r := by rw [← HR.out]; simp
    go_wp2_with (first | (refine wpList_load_midG 25 (.tmp 11) rfl w.heap.size 1 rfl (hdL m.hh m.ht m.rt) _ hdg Try.underlying25 rfl (hd_info _ _ _) (by first | rfl | (simp [Region.wanted, yielded]; done)) ?_) | (refine wpList_load_midG 25 (.tmp 13) rfl (w.heap.size + 1) 1 rfl (hdL n.hh n.ht n.rt) _ hdh Try.underlying25 rfl (hd_info _ _ _) (by first | rfl | (simp [Region.wanted, yielded]; done)) ?_))
    go_ret
    exact ⟨rfl, hbel⟩
  cases k3
  · obtain rfl : false = r := by rw [← HR.out]; simp
    go_wp2_with (first | (refine wpList_load_midG 25 (.tmp 11) rfl w.heap.size 1 rfl (hdL m.hh m.ht m.rt) _ hdg Try.underlying25 rfl (hd_info _ _ _) (by first | rfl | (simp [Region.wanted, yielded]; done)) ?_) | (refine wpList_load_midG 25 (.tmp 13) rfl (w.heap.size + 1) 1 rfl (hdL n.hh n.ht n.rt) _ hdh Try.underlying25 rfl (hd_info _ _ _) (by first | rfl | (simp [Region.wanted, yielded]; done)) ?_))
    go_ret
    exact ⟨rfl, hbel⟩
  cases k4
  · obtain rfl : false = r := by rw [← HR.out]; simp
    go_wp2_with (first | (refine wpList_load_midG 25 (.tmp 11) rfl w.heap.size 1 rfl (hdL m.hh m.ht m.rt) _ hdg Try.underlying25 rfl (hd_info _ _ _) (by first | rfl | (simp [Region.wanted, yielded]; done)) ?_) | (refine wpList_load_midG 25 (.tmp 13) rfl (w.heap.size + 1) 1 rfl (hdL n.hh n.ht n.rt) _ hdh Try.underlying25 rfl (hd_info _ _ _) (by first | rfl | (simp [Region.wanted, yielded]; done)) ?_))
    go_ret
    exact ⟨rfl, hbel⟩
  cases k5
  · obtain rfl : false = r := by rw [← HR.out]; simp
    go_wp2_with (first | (refine wpList_load_midG 25 (.tmp 11) rfl w.heap.size 1 rfl (hdL m.hh m.ht m.rt) _ hdg Try.underlying25 rfl (hd_info _ _ _) (by first | rfl | (simp [Region.wanted, yielded]; done)) ?_) | (refine wpList_load_midG 25 (.tmp 13) rfl (w.heap.size + 1) 1 rfl (hdL n.hh n.ht n.rt) _ hdh Try.underlying25 rfl (hd_info _ _ _) (by first | rfl | (simp [Region.wanted, yielded]; done)) ?_))
    go_ret
    exact ⟨rfl, hbel⟩
  cases k6
  · obtain rfl : false = r := by rw [← HR.out]; simp
    go_wp2_with (first | (refine wpList_load_midG 25 (.tmp 11) rfl w.heap.size 1 rfl (hdL m.hh m.ht m.rt) _ hdg Try.underlying25 rfl (hd_info _ _ _) (by first | rfl | (simp [Region.wanted, yielded]; done)) ?_) | (refine wpList_load_midG 25 (.tmp 13) rfl (w.heap.size + 1) 1 rfl (hdL n.hh n.ht n.rt) _ hdh Try.underlying25 rfl (hd_info _ _ _) (by first | rfl | (simp [Region.wanted, yielded]; done)) ?_) | (go_at_call 59; first | ((with_reducible refine (CE1 _ hbel).mono ?_); rintro e w2 ⟨rfl, hb⟩; have hg := cells_of hg hb hgl; have hh := cells_of hh hb hhl; have hgl := Nat.lt_of_lt_of_le hgl hb.size; have hhl := Nat.lt_of_lt_of_le hhl hb.size; have hbel := hbel.trans (hb.mono hbel.size); obtain ⟨q0, q1, q2, q3, q4, q5, q6, q7, q8, q9, q10, q11, q12, q13, q14, q15, q16, q17⟩ := msg_cells hg; obtain ⟨r0, r1, r2, r3, r4, r5, r6, r7, r8, r9, r10, r11, r12, r13, r14, r15, r16, r17⟩ := msg_cells hh; clear hb) | ((with_reducible refine (CE2 _ hbel).mono ?_); rintro e w2 ⟨rfl, hb⟩; have hg := cells_of hg hb hgl; have hh := cells_of hh hb hhl; have hgl := Nat.lt_of_lt_of_le hgl hb.size; have hhl := Nat.lt_of_lt_of_le hhl hb.size; have hbel := hbel.trans (hb.mono hbel.size); obtain ⟨q0, q1, q2, q3, q4, q5, q6, q7, q8, q9, q10, q11, q12, q13, q14, q15, q16, q17⟩ := msg_cells hg; obtain ⟨r0, r1, r2, r3, r4, r5, r6, r7, r8, r9, r10, r11, r12, r13, r14, r15, r16, r17⟩ := msg_cells hh; clear hb)))
    go_ret
    exact ⟨rfl, hbel⟩
  obtain rfl : k7 = r := by rw [← HR.out]; simp
  go_wp2_with (first | (refine wpList_load_midG 25 (.tmp 11) rfl w.heap.size 1 rfl (hdL m.hh m.ht m.rt) _ hdg Try.underlying25 rfl (hd_info _ _ _) (by first | rfl | (simp [Region.wanted, yielded]; done)) ?_) | (refine wpList_load_midG 25 (.tmp 13) rfl (w.heap.size + 1) 1 rfl (hdL n.hh n.ht n.rt) _ hdh Try.underlying25 rfl (hd_info _ _ _) (by first | rfl | (simp [Region.wanted, yielded]; done)) ?_) | (go_at_call 59; first | ((with_reducible refine (CE1 _ hbel).mono ?_); rintro e w2 ⟨rfl, hb⟩; have hg := cells_of hg hb hgl; have hh := cells_of hh hb hhl; have hgl := Nat.lt_of_lt_of_le hgl hb.size; have hhl := Nat.lt_of_lt_of_le hhl hb.size; have hbel := hbel.trans (hb.mono hbel.size); obtain ⟨q0, q1, q2, q3, q4, q5, q6, q7, q8, q9, q10, q11, q12, q13, q14, q15, q16, q17⟩ := msg_cells hg; obtain ⟨r0, r1, r2, r3, r4, r5, r6, r7, r8, r9, r10, r11, r12, r13, r14, r15, r16, r17⟩ := msg_cells hh; clear hb) | ((with_reducible refine (CE2 _ hbel).mono ?_); rintro e w2 ⟨rfl, hb⟩; have hg := cells_of hg hb hgl; have hh := cells_of hh hb hhl; have hgl := Nat.lt_of_lt_of_le hgl hb.size; have hhl := Nat.lt_of_lt_of_le hhl hb.size; have hbel := hbel.trans (hb.mono hbel.size); obtain ⟨q0, q1, q2, q3, q4, q5, q6, q7, q8, q9, q10, q11, q12, q13, q14, q15, q16, q17⟩ := msg_cells hg; obtain ⟨r0, r1, r2, r3, r4, r5, r6, r7, r8, r9, r10, r11, r12, r13, r14, r15, r16, r17⟩ := msg_cells hh; clear hb)))
  go_ret
  exact ⟨rfl, hbel⟩
end Go.Proofs.Ythipnkbfdkmhaaa
