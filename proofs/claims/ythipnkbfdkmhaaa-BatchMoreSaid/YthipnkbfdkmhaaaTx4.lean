/- The document's messages that are the same; lists of messages. -/
import Derived.Test.YthipnkbfdkmhaaaTx3
import Derived.Test.YthipnkbfdkmhaaaMsgD
import Derived.Test.YthipnkbfdkmhaaaMsg4
import Derived.BigRegion
import Derived.RegionTactic
import Derived.BigQuiet
import Derived.Deep.QuietTactic
import Derived.Deep.MidRow
import Derived.LoopTactic
import Derived.BigFrame
import Derived.WalkKit
import Derived.ProofKit
import Derived.Handy
import Derived.Below
import Derived.Lib.Hide
import Derived.IntWalk
import Derived.Outline
import Derived.WalkLawsBesides
import Derived.WalkSpells
namespace Go.Proofs.Ythipnkbfdkmhaaa
open Go.RowKit
attribute [local go_sem] strV
set_option linter.unusedVariables false
set_option maxRecDepth 100000 in
set_option maxHeartbeats 4000000 in
theorem refSameMsg_any (m n : MsgV) (w : World) (hm : m.ok w) (hn : n.ok w) :
    Calls Try.prog 23 #[.agg m.row, .agg n.row] w fun e w' => e = .returned (.bool (msgB m n)) ∧ Below w.heap.size w w' := by
  have hg0 := al2_0 w (.cells m.row 34) (.cells n.row 34)
  have hh0 := al2_1 w (.cells m.row 34) (.cells n.row 34)
  have hbA := al2_below w (.cells m.row 34) (.cells n.row 34)
  have CE1 := fun W (hb : Below w.heap.size w W) => refSamePf_any m.pct m.pa m.pn m.pc m.pxs n.pct n.pa n.pn n.pc n.pxs W (hm.p.below hb) (hn.p.below hb) hm.plen hn.plen (Nat.le_trans hm.pcap hm.pcM) (Nat.le_trans hn.pcap hn.pcM)
  have CE2 := fun W (hb : Below w.heap.size w W) => refSamePf_any m.cct m.ca m.cn m.cc m.cxs n.cct n.ca n.cn n.cc n.cxs W (hm.c.below hb) (hn.c.below hb) hm.clen hn.clen (Nat.le_trans hm.ccap hm.ccM) (Nat.le_trans hn.ccap hn.ccM)
  have hE1 := run_equal_hdr m.hh m.ht m.rt n.hh n.ht n.rt
  have hE2 := run_equal_pk8 m.sp n.sp m.sc n.sc m.dp n.dp m.dc n.dc m.sq n.sq m.da n.da m.th n.th m.ta n.ta
  obtain ⟨k0, e0⟩ : ∃ b, (m.kd == n.kd) = b := ⟨_, rfl⟩
  obtain ⟨k1, e1⟩ : ∃ b, hdB m.hh m.ht m.rt n.hh n.ht n.rt = b := ⟨_, rfl⟩
  obtain ⟨k2, e2⟩ : ∃ b, pkB8 m.sp n.sp m.sc n.sc m.dp n.dp m.dc n.dc m.sq n.sq m.da n.da m.th n.th m.ta n.ta = b := ⟨_, rfl⟩
  obtain ⟨k3, e3⟩ : ∃ b, (m.ack.toList == n.ack.toList) = b := ⟨_, rfl⟩
  obtain ⟨k4, e4⟩ : ∃ b, (m.nx == n.nx) = b := ⟨_, rfl⟩
  obtain ⟨k5, e5⟩ : ∃ b, (m.he == n.he) = b := ⟨_, rfl⟩
  obtain ⟨k6, e6⟩ : ∃ b, pfB m.pct n.pct m.pxs n.pxs = b := ⟨_, rfl⟩
  obtain ⟨k7, e7⟩ : ∃ b, pfB m.cct n.cct m.cxs n.cxs = b := ⟨_, rfl⟩
  have hS : msgB m n = (k0 && k1 && k2 && k3 && k4 && k5 && k6 && k7) := by unfold msgB; simp only [e0, e1, e2, e3, e4, e5, e6, e7]
  obtain ⟨r, hr⟩ : ∃ r, (k0 && k1 && k2 && k3 && k4 && k5 && k6 && k7) = r := ⟨_, rfl⟩
  rw [hS, hr]
  simp only [e1] at hE1
  simp only [e2] at hE2
  simp only [e6] at CE1
  simp only [e7] at CE2
  have HR := Lib.hid hr
  clear hS hr e1 e2 e6 e7
  go_enter Try.func23, Try.ntmps23
  go_upto_region 1 with fail
  refine wp_nameE _ (fun W1 hX => ?_)
  have hg : W1.heap[w.heap.size]? = some (.cells m.row 34 (0, 0)) := by rw [hX]; exact hg0
  have hh : W1.heap[w.heap.size + 1]? = some (.cells n.row 34 (0, 0)) := by rw [hX]; exact hh0
  have hbel : Below w.heap.size w W1 := by rw [hX]; exact hbA
  clear hX hg0 hh0 hbA
  have hgl : w.heap.size < W1.heap.size := (Array.getElem?_eq_some_iff.1 hg).1
  have hhl : w.heap.size + 1 < W1.heap.size := (Array.getElem?_eq_some_iff.1 hh).1
  have hdg := msg_header hg
  have hdh := msg_header hh
  obtain ⟨q0, q1, q2, q3, q4, q5, q6, q7, q8, q9, q10, q11, q12, q13, q14, q15, q16, q17⟩ := msg_cells hg
  obtain ⟨r0, r1, r2, r3, r4, r5, r6, r7, r8, r9, r10, r11, r12, r13, r14, r15, r16, r17⟩ := msg_cells hh
  cases k0
  · obtain rfl : false = r := by rw [← HR.out]; simp
    go_wp2_with fail
    go_ret
    exact ⟨rfl, hbel⟩
  cases k1
  · obtain rfl : false = r := by rw [← HR.out]; simp
    go_wp2_with (first | (refine wpList_load_midG 25 (.tmp 11) rfl w.heap.size 1 rfl (hdL m.hh m.ht m.rt) _ hdg Try.underlying25 rfl (hd_info _ _ _) (by first | rfl | (simp [Region.wanted, yielded]; done)) ?_) | (refine wpList_load_midG 25 (.tmp 13) rfl (w.heap.size + 1) 1 rfl (hdL n.hh n.ht n.rt) _ hdh Try.underlying25 rfl (hd_info _ _ _) (by first | rfl | (simp [Region.wanted, yielded]; done)) ?_))
    go_ret
    exact ⟨rfl, hbel⟩
  cases k2
  · obtain rfl : false = r := by rw [← HR.out]; simp
    go_wp2_with (first | (refine wpList_load_midG 25 (.tmp 11) rfl w.heap.size 1 rfl (hdL m.hh m.ht m.rt) _ hdg Try.underlying25 rfl (hd_info _ _ _) (by first | rfl | (simp [Region.wanted, yielded]; done)) ?_) | (refine wpList_load_midG 25 (.tmp 13) rfl (w.heap.size + 1) 1 rfl (hdL n.hh n.ht n.rt) _ hdh Try.underlying25 rfl (hd_info _ _ _) (by first | rfl | (simp [Region.wanted, yielded]; done)) ?_))
    go_ret
    exact ⟨rfl, hbel⟩
  cases k3
  · obtain rfl : false = r := by rw [← HR.out]; simp
    go_wp2_with (first | (refine wpList_load_midG 25 (.tmp 11) rfl w.heap.size 1 rfl (hdL m.hh m.ht m.rt) _ hdg Try.underlying25 rfl (hd_info _ _ _) (by first | rfl | (simp [Region.wanted, yielded]; done)) ?_) | (refine wpList_load_midG 25 (.tmp 13) rfl (w.heap.size + 1) 1 rfl (hdL n.hh n.ht n.rt) _ hdh Try.underlying25 rfl (hd_info _ _ _) (by first | rfl | (simp [Region.wanted, yielded]; done)) ?_))
    go_ret
    exact ⟨rfl, hbel⟩
  cases k4
  · obtain rfl : false = r := by rw [← HR.out]; simp
    go_wp2_with (first | (refine wpList_load_midG 25 (.tmp 11) rfl w.heap.size 1 rfl (hdL m.hh m.ht m.rt) _ hdg Try.underlying25 rfl (hd_info _ _ _) (by first | rfl | (simp [Region.wanted, yielded]; done)) ?_) | (refine wpList_load_midG 25 (.tmp 13) rfl (w.heap.size + 1) 1 rfl (hdL n.hh n.ht n.rt) _ hdh Try.underlying25 rfl (hd_info _ _ _) (by first | rfl | (simp [Region.wanted, yielded]; done)) ?_))
    go_ret
    exact ⟨rfl, hbel⟩
  cases k5
  · obtain rfl : false = r := by rw [← HR.out]; simp
    go_wp2_with (first | (refine wpList_load_midG 25 (.tmp 11) rfl w.heap.size 1 rfl (hdL m.hh m.ht m.rt) _ hdg Try.underlying25 rfl (hd_info _ _ _) (by first | rfl | (simp [Region.wanted, yielded]; done)) ?_) | (refine wpList_load_midG 25 (.tmp 13) rfl (w.heap.size + 1) 1 rfl (hdL n.hh n.ht n.rt) _ hdh Try.underlying25 rfl (hd_info _ _ _) (by first | rfl | (simp [Region.wanted, yielded]; done)) ?_))
    go_ret
    exact ⟨rfl, hbel⟩
  cases k6
  · obtain rfl : false = r := by rw [← HR.out]; simp
    go_wp2_with (first | (refine wpList_load_midG 25 (.tmp 11) rfl w.heap.size 1 rfl (hdL m.hh m.ht m.rt) _ hdg Try.underlying25 rfl (hd_info _ _ _) (by first | rfl | (simp [Region.wanted, yielded]; done)) ?_) | (refine wpList_load_midG 25 (.tmp 13) rfl (w.heap.size + 1) 1 rfl (hdL n.hh n.ht n.rt) _ hdh Try.underlying25 rfl (hd_info _ _ _) (by first | rfl | (simp [Region.wanted, yielded]; done)) ?_) | (go_at_call 74; first | ((with_reducible refine (CE1 _ hbel).mono ?_); rintro e w2 ⟨rfl, hb⟩; have hg := cells_of hg hb hgl; have hh := cells_of hh hb hhl; have hgl := Nat.lt_of_lt_of_le hgl hb.size; have hhl := Nat.lt_of_lt_of_le hhl hb.size; have hbel := hbel.trans (hb.mono hbel.size); obtain ⟨q0, q1, q2, q3, q4, q5, q6, q7, q8, q9, q10, q11, q12, q13, q14, q15, q16, q17⟩ := msg_cells hg; obtain ⟨r0, r1, r2, r3, r4, r5, r6, r7, r8, r9, r10, r11, r12, r13, r14, r15, r16, r17⟩ := msg_cells hh; clear hb) | ((with_reducible refine (CE2 _ hbel).mono ?_); rintro e w2 ⟨rfl, hb⟩; have hg := cells_of hg hb hgl; have hh := cells_of hh hb hhl; have hgl := Nat.lt_of_lt_of_le hgl hb.size; have hhl := Nat.lt_of_lt_of_le hhl hb.size; have hbel := hbel.trans (hb.mono hbel.size); obtain ⟨q0, q1, q2, q3, q4, q5, q6, q7, q8, q9, q10, q11, q12, q13, q14, q15, q16, q17⟩ := msg_cells hg; obtain ⟨r0, r1, r2, r3, r4, r5, r6, r7, r8, r9, r10, r11, r12, r13, r14, r15, r16, r17⟩ := msg_cells hh; clear hb)))
    go_ret
    exact ⟨rfl, hbel⟩
  obtain rfl : k7 = r := by rw [← HR.out]; simp
  go_wp2_with (first | (refine wpList_load_midG 25 (.tmp 11) rfl w.heap.size 1 rfl (hdL m.hh m.ht m.rt) _ hdg Try.underlying25 rfl (hd_info _ _ _) (by first | rfl | (simp [Region.wanted, yielded]; done)) ?_) | (refine wpList_load_midG 25 (.tmp 13) rfl (w.heap.size + 1) 1 rfl (hdL n.hh n.ht n.rt) _ hdh Try.underlying25 rfl (hd_info _ _ _) (by first | rfl | (simp [Region.wanted, yielded]; done)) ?_) | (go_at_call 74; first | ((with_reducible refine (CE1 _ hbel).mono ?_); rintro e w2 ⟨rfl, hb⟩; have hg := cells_of hg hb hgl; have hh := cells_of hh hb hhl; have hgl := Nat.lt_of_lt_of_le hgl hb.size; have hhl := Nat.lt_of_lt_of_le hhl hb.size; have hbel := hbel.trans (hb.mono hbel.size); obtain ⟨q0, q1, q2, q3, q4, q5, q6, q7, q8, q9, q10, q11, q12, q13, q14, q15, q16, q17⟩ := msg_cells hg; obtain ⟨r0, r1, r2, r3, r4, r5, r6, r7, r8, r9, r10, r11, r12, r13, r14, r15, r16, r17⟩ := msg_cells hh; clear hb) | ((with_reducible refine (CE2 _ hbel).mono ?_); rintro e w2 ⟨rfl, hb⟩; have hg := cells_of hg hb hgl; have hh := cells_of hh hb hhl; have hgl := Nat.lt_of_lt_of_le hgl hb.size; have hhl := Nat.lt_of_lt_of_le hhl hb.size; have hbel := hbel.trans (hb.mono hbel.size); obtain ⟨q0, q1, q2, q3, q4, q5, q6, q7, q8, q9, q10, q11, q12, q13, q14, q15, q16, q17⟩ := msg_cells hg; obtain ⟨r0, r1, r2, r3, r4, r5, r6, r7, r8, r9, r10, r11, r12, r13, r14, r15, r16, r17⟩ := msg_cells hh; clear hb)))
  go_ret
  exact ⟨rfl, hbel⟩

theorem load_msg_mid {W : World} {b off : Nat} {m : MsgV} (hg : W.rangeAt b off m.row.toList) (hb : b < W.heap.size) (n : Beyond W) :
    (Instr.loadAt 34 (.pointer (some ⟨b, off, none⟩))).run Try.prog n.x = .ok (.agg m.row) n.x := by
  have hg2 : n.x.rangeAt b off m.row.toList := fun j v hv => by rw [n.h.cell (p := ⟨b, off + j, none⟩) hb]; exact hg j v hv
  have := run_loadAt_mid (P := Try.prog) n.x b off 34 m.row.toList _ hg2 Try.underlying34 rfl (msg_info _)
  rw [Array.toArray_toList] at this
  exact this
def lightMs (ms : List MsgV) : Bool := decide (ms.length ≤ 70) && ms.all lightM
set_option maxRecDepth 100000 in
set_option maxHeartbeats 4000000 in
theorem lightMs_any (a : Option Addr) (n cap : Nat) (ms : List MsgV) (w : World) (hr : RowAt w a (ms.flatMap MsgV.cellsL)) (hok : ∀ m ∈ ms, m.ok w) (hn : ms.length = n) :
    Calls Try.prog 27 #[.slice a n cap] w fun e w' => e = .returned (.bool (lightMs ms)) ∧ Below w.heap.size w w' := by
  have HN := Lib.hid hn
  obtain ⟨r, hr9⟩ : ∃ r, lightMs ms = r := ⟨_, rfl⟩
  rw [hr9]
  have HR := Lib.hid hr9
  clear hr9 hn
  by_cases h70 : 70 < n
  · have d70 : decide (70 < (n : Int)) = true := decide_eq_true (by omega)
    have d70n : decide (70 < n) = true := decide_eq_true h70
    obtain rfl : false = r := by rw [← HR.out]; unfold lightMs; rw [HN.out, decide_eq_false (by omega)]; rfl
    go_enter Try.func27, Try.ntmps27
    go_wp2
    go_ret
    exact ⟨rfl, Below.refl _ _⟩
  have d70 : decide (70 < (n : Int)) = false := decide_eq_false (by omega)
  have d70n : decide (70 < n) = false := decide_eq_false h70
  have HR : Hid (ms.all lightM = r) := Lib.hid (by rw [← HR.out]; unfold lightMs; rw [HN.out, decide_eq_true (by omega)]; rfl)
  go_enter Try.func27, Try.ntmps27
  go_upto_region 4 with fail
  go_loopw [3] (fun i wr => ∃ k : Nat, k ≤ n ∧ i = .int .i64 k ∧ Hid ((ms.take k).all lightM = true) ∧ Below w.heap.size w wr) (fun i _ => n - (intOf i).toNat)
  case atStart => exact ⟨0, Nat.zero_le _, rfl, Lib.hid rfl, Below.refl _ _⟩
  case round =>
    obtain ⟨k, hk, rfl, HA, hbel⟩ := hrel
    by_cases hlt : k < n
    · have d1 : decide ((k : Int) < (n : Int)) = true := decide_eq_true (by omega)
      have d1n : decide (k < n) = true := decide_eq_true hlt
      have hkl : k < ms.length := by rw [HN.out]; exact hlt
      obtain ⟨b1, o1, rfl, hb1, hg1⟩ := msg_range (hr.below hbel) hkl
      have ok1 := (hok _ (List.getElem_mem hkl)).below hbel
      have hta := all_takeL (p := lightM) hkl
      have hbd := fun h => all_badL (p := lightM) hkl h
      obtain ⟨m, hm9⟩ : ∃ m, ms[k] = m := ⟨_, rfl⟩
      rw [hm9] at hg1 ok1 hta hbd
      have CL := lightM_any m wr ok1
      have HTA := Lib.hid hta
      clear hm9 hta
      have n0 : (0 : Int) ≤ (k : Int) := by omega
      have n1' : (k : Int) < (n : Int) := by omega
      have n2' : ((k : Nat) : Int).toNat = k := by omega
      obtain ⟨kl, el⟩ : ∃ b, lightM m = b := ⟨_, rfl⟩
      simp only [el] at CL
      rw [el] at hbd HTA
      clear el
      cases kl
      · obtain rfl : false = r := by rw [← HR.out, hbd rfl]
        go_wp2_with (first | (refine wpList_load_mid rfl 34 (.tmp 15) rfl b1 _ rfl m.row.toList _ hg1 Try.underlying34 rfl (msg_info _) ?_; rw [Array.toArray_toList]) | (go_at_call 15; refine CL.mono ?_; rintro e w6 ⟨rfl, hb6⟩; have hbel := hbel.trans (hb6.mono hbel.size)))
        go_ret
        exact ⟨rfl, hbel⟩
      · go_wp2_with (first | (refine wpList_load_mid rfl 34 (.tmp 15) rfl b1 _ rfl m.row.toList _ hg1 Try.underlying34 rfl (msg_info _) ?_; rw [Array.toArray_toList]) | (go_at_call 15; refine CL.mono ?_; rintro e w6 ⟨rfl, hb6⟩; have hbel := hbel.trans (hb6.mono hbel.size)))
        go_roundw
        case rel => exact ⟨k + 1, by omega, by go_num, Lib.hid (by rw [HTA.out, HA.out]; rfl), hbel⟩
        case measure => (simp [intOf]) <;> omega
    · have d9 : decide ((k : Int) < (n : Int)) = false := decide_eq_false (by omega)
      have d9n : decide (k < n) = false := decide_eq_false hlt
      have hA := HA.out
      rw [List.take_of_length_le (by rw [HN.out]; omega), HR.out] at hA
      subst hA
      go_wp2
      go_ret
      exact ⟨rfl, hbel⟩
def msgsB : List MsgV → List MsgV → Bool
  | [], [] => true
  | x :: l, y :: m => msgB x y && msgsB l m
  | _, _ => false
theorem msgsB_iff : ∀ l m : List MsgV, msgsB l m = true ↔ l.map MsgV.d = m.map MsgV.d
  | [], [] => by simp [msgsB]
  | [], _ :: _ => by simp [msgsB]
  | _ :: _, [] => by simp [msgsB]
  | x :: l, y :: m => by
    rw [List.map_cons, List.map_cons, List.cons.injEq, ← msgsB_iff l m, ← msgB_iff]
    simp [msgsB]
theorem msgsB_ne {l m : List MsgV} (h : l.map MsgV.d ≠ m.map MsgV.d) : msgsB l m = false := by
  cases h9 : msgsB l m
  · rfl
  · exact absurd ((msgsB_iff _ _).1 h9) h
set_option maxRecDepth 100000 in
set_option maxHeartbeats 6400000 in
theorem msgs_any (a1 a2 : Option Addr) (n1 n2 c1 c2 : Nat) (es fs : List MsgV) (w : World) (h1 : RowAt w a1 (es.flatMap MsgV.cellsL)) (h2 : RowAt w a2 (fs.flatMap MsgV.cellsL)) (o1 : ∀ m ∈ es, m.ok w) (o2 : ∀ m ∈ fs, m.ok w) (hn : es.length = n1) (hm : fs.length = n2) (hnm : n1 ≤ maxLen) :
    Calls Try.prog 32 #[.slice a1 n1 c1, .slice a2 n2 c2] w fun e w' => e = .returned (.bool (msgsB es fs)) ∧ Below w.heap.size w w' := by
  by_cases hnn : n1 = n2
  rotate_left
  · have e0 : ((n1 : Int) != (n2 : Int)) = true := by simpa using fun h => hnn (by omega)
    have e0n : (n1 != n2) = true := by simpa using hnn
    rw [msgsB_ne (fun q => hnn (by have := congrArg List.length q; rw [List.length_map, List.length_map] at this; omega))]
    clear hn hm hnn
    go_enter Try.func32, Try.ntmps32
    go_wp2
    go_ret
    exact ⟨rfl, Below.refl _ _⟩
  subst hnn
  unfold maxLen at hnm
  obtain ⟨r, hF⟩ : ∃ r, msgsB es fs = r := ⟨_, rfl⟩
  rw [hF]
  have HF := Lib.hid hF
  have HN := Lib.hid hn
  have HM := Lib.hid hm
  clear hF hn hm
  have e0 : ((n1 : Int) != (n1 : Int)) = false := by simp
  have e0n : (n1 != n1) = false := by simp
  go_enter Try.func32, Try.ntmps32
  go_upto_region 4 with fail
  go_loopw [5] (fun i wr => ∃ k : Nat, k ≤ n1 ∧ i = .int .i64 k ∧ Hid ((es.take k).map MsgV.d = (fs.take k).map MsgV.d) ∧ Below w.heap.size w wr) (fun i _ => n1 - (intOf i).toNat)
  case atStart => exact ⟨0, Nat.zero_le _, rfl, Lib.hid rfl, Below.refl _ _⟩
  case round =>
    obtain ⟨k, hk, rfl, HT, hbel⟩ := hrel
    by_cases hlt : k < n1
    · have d1 : decide ((k : Int) < (n1 : Int)) = true := decide_eq_true (by omega)
      have d1n : decide (k < n1) = true := decide_eq_true hlt
      have hkl : k < es.length := by rw [HN.out]; exact hlt
      have hkm : k < fs.length := by rw [HM.out]; exact hlt
      obtain ⟨b1, f1, rfl, hb1, hg1⟩ := msg_range (h1.below hbel) hkl
      obtain ⟨b2, f2, rfl, hb2, hg2⟩ := msg_range (h2.below hbel) hkm
      have ok1 := (o1 _ (List.getElem_mem hkl)).below hbel
      have ok2 := (o2 _ (List.getElem_mem hkm)).below hbel
      obtain ⟨m, hp⟩ : ∃ p, es[k] = p := ⟨_, rfl⟩
      obtain ⟨m2, hp2⟩ : ∃ p, fs[k] = p := ⟨_, rfl⟩
      rw [hp] at hg1 ok1
      rw [hp2] at hg2 ok2
      have n0 : (0 : Int) ≤ (k : Int) := by omega
      have n1' : (k : Int) < (n1 : Int) := by omega
      have n2' : ((k : Nat) : Int).toNat = k := by omega
      obtain ⟨eb, heb⟩ : ∃ b, msgB m m2 = b := ⟨_, rfl⟩
      have hend : eb = false → r = false := fun q => by
        subst q
        rw [← HF.out]
        refine msgsB_ne (fun q9 => ?_)
        have h9 : (es.map MsgV.d)[k]'(by rw [List.length_map]; exact hkl) = (fs.map MsgV.d)[k]'(by rw [List.length_map]; exact hkm) := by simp only [q9]
        rw [List.getElem_map, List.getElem_map, hp, hp2] at h9
        rw [(msgB_iff _ _).2 h9] at heb
        cases heb
      have hnext : eb = true → Hid ((es.take (k + 1)).map MsgV.d = (fs.take (k + 1)).map MsgV.d) := fun q => by
        subst q
        refine Lib.hid ?_
        rw [List.take_succ_eq_append_getElem hkl, List.take_succ_eq_append_getElem hkm, List.map_append, List.map_append, HT.out, hp, hp2, List.map_singleton, List.map_singleton, (msgB_iff _ _).1 heb]
      have CSn : ∀ n : Beyond wr, Calls Try.prog 23 #[.agg m.row, .agg m2.row] n.x fun e w' => e = .returned (.bool eb) ∧ ∃ m : Beyond wr, w' = m.x := fun n => quiet_below (heb ▸ refSameMsg_any m m2 n.x (ok1.below n.h) (ok2.below n.h))
      have l1 := fun n => load_msg_mid hg1 hb1 n
      have l2 := fun n => load_msg_mid hg2 hb2 n
      clear heb hp hp2 hg1 hg2
      go_upto_region 6 with fail
      refine wp_region_below (by kernel_rfl) (by kernel_rfl) ?_
      cases eb
      · obtain rfl := hend rfl
        repeat (first | (go_big_quiet_want; refine hload9 (v := .agg m.row) 34 (.tmp 19) rfl (by rfl) (by rintro _ ⟨n, rfl⟩; exact l1 n) ?_; simp only [Act.put, List.setIfInBounds_toArray, List.set_cons_succ, List.set_cons_zero]; go_big_quiet_on) | (go_big_quiet_want; refine hload9 (v := .agg m2.row) 34 (.tmp 23) rfl (by rfl) (by rintro _ ⟨n, rfl⟩; exact l2 n) ?_; simp only [Act.put, List.setIfInBounds_toArray, List.set_cons_succ, List.set_cons_zero]; go_big_quiet_on) | (go_big_quiet_step ((go_at_call 23; with_reducible exact CSn _))))
        intro w9 hw9
        have hb9 := beyond_below hw9
        go_wp2
        go_ret
        exact ⟨rfl, hbel.trans (hb9.mono hbel.size)⟩
      · have HS := hnext rfl
        clear hend hnext
        repeat (first | (go_big_quiet_want; refine hload9 (v := .agg m.row) 34 (.tmp 19) rfl (by rfl) (by rintro _ ⟨n, rfl⟩; exact l1 n) ?_; simp only [Act.put, List.setIfInBounds_toArray, List.set_cons_succ, List.set_cons_zero]; go_big_quiet_on) | (go_big_quiet_want; refine hload9 (v := .agg m2.row) 34 (.tmp 23) rfl (by rfl) (by rintro _ ⟨n, rfl⟩; exact l2 n) ?_; simp only [Act.put, List.setIfInBounds_toArray, List.set_cons_succ, List.set_cons_zero]; go_big_quiet_on) | (go_big_quiet_step ((go_at_call 23; with_reducible exact CSn _))))
        intro w9 hw9
        have hb9 := beyond_below hw9
        go_wp2
        go_roundw
        case rel => exact ⟨k + 1, by omega, by go_num, HS, hbel.trans (hb9.mono hbel.size)⟩
        case measure => (simp [intOf]) <;> omega
    · have d1 : decide ((k : Int) < (n1 : Int)) = false := decide_eq_false (by omega)
      have d1n : decide (k < n1) = false := decide_eq_false hlt
      have hgood : r = true := by
        have := HT.out
        rw [List.take_of_length_le (by rw [HN.out]; omega), List.take_of_length_le (by rw [HM.out]; omega)] at this
        rw [← HF.out]; exact (msgsB_iff _ _).2 this
      subst hgood
      go_wp2
      go_ret
      exact ⟨rfl, hbel⟩
end Go.Proofs.Ythipnkbfdkmhaaa
