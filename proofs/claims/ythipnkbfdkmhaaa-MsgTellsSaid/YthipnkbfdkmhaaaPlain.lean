/- Messages without the fields of other kinds, their proofs copied. -/
import Derived.Test.YthipnkbfdkmhaaaClone
import Derived.Test.YthipnkbfdkmhaaaMsg11
import Derived.Deep.MidRow
import Derived.WalkKit
import Derived.ProofKit
import Derived.Handy
import Derived.Below
import Derived.Lib.Hide
import Derived.IntWalk
import Derived.Outline
import Derived.WalkLawsBesides
import Derived.WalkSpells
namespace Go.Proofs.Ythipnkbfdkmhaaa
open Go.RowKit
attribute [local go_sem] strV
set_option linter.unusedVariables false
theorem put_p (m : MsgV) (ct : Int) (a : Option Addr) (n c : Nat) (xs : List LeafV) : (m.row.setIfInBounds 46 (.int .i64 ct)).setIfInBounds 47 (.slice a n c) = ({ m with pct := ct, pa := a, pn := n, pc := c, pxs := xs } : MsgV).row := by
  rw [MsgV.row_split, MsgV.row_split, back_set _ _ m.front_len 11, back_set _ _ m.front_len 12]
  rfl
theorem put_c (m : MsgV) (ct : Int) (a : Option Addr) (n c : Nat) (xs : List LeafV) : (m.row.setIfInBounds 48 (.int .i64 ct)).setIfInBounds 49 (.slice a n c) = ({ m with cct := ct, ca := a, cn := n, cc := c, cxs := xs } : MsgV).row := by
  rw [MsgV.row_split, MsgV.row_split, back_set _ _ m.front_len 13, back_set _ _ m.front_len 14]
  rfl
/-- Few leaves, short ways. -/
def smallL (xs : List LeafD) : Prop := xs.length ≤ 1000 ∧ ∀ x ∈ xs, x.path.length ≤ 1000
def MsgD.small (m : MsgD) : Prop := smallL m.p.xs ∧ smallL m.c.xs
theorem smallL_nil : smallL [] := ⟨Nat.zero_le _, fun x h => by cases h⟩
theorem smallL_v {xs : List LeafV} (h : smallL (xs.map LeafV.d)) : xs.length ≤ 1000 ∧ ∀ x ∈ xs, x.path.length ≤ 1000 := ⟨by have := h.1; rwa [List.length_map] at this, fun x hx => h.2 x.d (List.mem_map_of_mem hx)⟩
theorem small_plain {m : MsgV} (h : m.d.small) : m.plain.d.small := by
  unfold MsgV.plain
  split
  · exact ⟨smallL_nil, smallL_nil⟩
  · split
    · refine ⟨h.1, ?_⟩
      by_cases h5 : m.kd = 5
      · simp only [MsgV.d, h5, if_true]; exact h.2
      · simp only [MsgV.d, h5, if_false]; exact smallL_nil
    · exact ⟨smallL_nil, smallL_nil⟩
/-- Behind msg.Plain. -/
def plainPost (m : MsgV) (w : World) (e : Ending) (w' : World) : Prop :=
  ∃ q : MsgV, e = .returned (.agg q.row) ∧ q.ok w' ∧ q.d = m.plain.d ∧ Below w.heap.size w w'
set_option maxRecDepth 100000 in
set_option maxHeartbeats 6400000 in
theorem msgPlain_any (m : MsgV) (w : World) (hm : m.ok w) (hs : m.d.small) :
    Calls Try.prog 24 #[.agg m.row] w fun e w' => plainPost m w e w' := by
  have CP := fun W => plain_any m W
  have hqok := MsgV.plain_ok hm
  have hqs := small_plain hs
  have HPD : Hid (m.plain.d = m.plain.d) := Lib.hid rfl
  obtain ⟨q, hq⟩ : ∃ q, m.plain = q := ⟨_, rfl⟩
  rw [hq] at hqok hqs
  simp only [hq] at CP
  have HQ := Lib.hid hq
  clear hq HPD
  have hp0 := al2_0 w (.cells m.row 34) (.cells #[.int .i64 0, .int .i64 0, .int .i64 0, .int .u8 0, .int .u8 0, .int .u8 0, .int .u8 0, .int .u8 0, .int .u8 0, .int .u8 0, .int .u8 0, .int .u8 0, .int .u8 0, .int .u8 0, .int .u8 0, .int .u8 0, .int .u8 0, .int .u8 0, .int .u8 0, .int .u8 0, .int .u8 0, .int .u8 0, .int .u8 0, .int .u8 0, .int .u8 0, .int .u8 0, .int .u8 0, .int .u8 0, .int .u8 0, .int .u8 0, .int .u8 0, .int .u8 0, .int .u8 0, .int .u8 0, .int .u8 0, .string ⟨#[]⟩, .int .i64 0, .string ⟨#[]⟩, .int .i64 0, .int .i64 0, .string ⟨#[]⟩, .int .i64 0, .int .i64 0, .string ⟨#[]⟩, .int .i64 0, .int .i64 0, .int .i64 0, .slice none 0 0, .int .i64 0, .slice none 0 0] 34)
  have hz0 := al2_1 w (.cells m.row 34) (.cells #[.int .i64 0, .int .i64 0, .int .i64 0, .int .u8 0, .int .u8 0, .int .u8 0, .int .u8 0, .int .u8 0, .int .u8 0, .int .u8 0, .int .u8 0, .int .u8 0, .int .u8 0, .int .u8 0, .int .u8 0, .int .u8 0, .int .u8 0, .int .u8 0, .int .u8 0, .int .u8 0, .int .u8 0, .int .u8 0, .int .u8 0, .int .u8 0, .int .u8 0, .int .u8 0, .int .u8 0, .int .u8 0, .int .u8 0, .int .u8 0, .int .u8 0, .int .u8 0, .int .u8 0, .int .u8 0, .int .u8 0, .string ⟨#[]⟩, .int .i64 0, .string ⟨#[]⟩, .int .i64 0, .int .i64 0, .string ⟨#[]⟩, .int .i64 0, .int .i64 0, .string ⟨#[]⟩, .int .i64 0, .int .i64 0, .int .i64 0, .slice none 0 0, .int .i64 0, .slice none 0 0] 34)
  have hbA := al2_below w (.cells m.row 34) (.cells #[.int .i64 0, .int .i64 0, .int .i64 0, .int .u8 0, .int .u8 0, .int .u8 0, .int .u8 0, .int .u8 0, .int .u8 0, .int .u8 0, .int .u8 0, .int .u8 0, .int .u8 0, .int .u8 0, .int .u8 0, .int .u8 0, .int .u8 0, .int .u8 0, .int .u8 0, .int .u8 0, .int .u8 0, .int .u8 0, .int .u8 0, .int .u8 0, .int .u8 0, .int .u8 0, .int .u8 0, .int .u8 0, .int .u8 0, .int .u8 0, .int .u8 0, .int .u8 0, .int .u8 0, .int .u8 0, .int .u8 0, .string ⟨#[]⟩, .int .i64 0, .string ⟨#[]⟩, .int .i64 0, .int .i64 0, .string ⟨#[]⟩, .int .i64 0, .int .i64 0, .string ⟨#[]⟩, .int .i64 0, .int .i64 0, .int .i64 0, .slice none 0 0, .int .i64 0, .slice none 0 0] 34)
  go_enter Try.func24, Try.ntmps24
  go_upto_region 1 with fail
  refine wp_nameE _ (fun W1 hX => ?_)
  have hg : W1.heap[w.heap.size]? = some (.cells m.row 34 (0, 0)) := by rw [hX]; exact hp0
  have hZ : W1.heap[w.heap.size + 1]? = some (.cells (MsgV.zero 0).row 34 (0, 0)) := by rw [hX, ← zero_row]; exact hz0
  have hbel : Below w.heap.size w W1 := by rw [hX]; exact hbA
  clear hX hp0 hz0 hbA
  have hzl : w.heap.size + 1 < W1.heap.size := (Array.getElem?_eq_some_iff.1 hZ).1
  go_upto_region 2 with (first | (refine wpList_load_mid rfl 34 (.tmp 1) rfl w.heap.size 0 rfl m.row.toList _ (rangeAt_row5 hg) Try.underlying34 rfl (msg_info _) ?_; rw [Array.toArray_toList]) | (go_at_call 51; refine (CP _).mono ?_; rintro e w2 ⟨rfl, hb⟩; have hZ := cells_of hZ hb hzl; have hzl := Nat.lt_of_lt_of_le hzl hb.size; have hbel := hbel.trans (hb.mono hbel.size); clear hb) | (refine wpList_storeRowTo (Z := q.row) rfl (.tmp 3) (.tmp 5) 34 rfl (by rw [MsgV.row_size]; kernel_rfl) rfl (by rfl) (heap_push _ _ _) (by first | rfl | (simp only [MsgV.row_size]; done) | (rw [MsgV.row_size]; rfl)) (MsgV.row_one _) ?_))
  refine wp_nameE _ (fun W3 hX => ?_)
  have hb : Below w2.heap.size w2 W3 := by rw [hX]; exact below_setRow (Below.alloc (Below.refl _ _) (Nat.le_refl _) _) (Nat.le_refl _) _
  have hG : W3.heap[w2.heap.size]? = some (.cells q.row 34 (0, 0)) := by rw [hX]; exact setRow_heap _ _ _ _ _ _ (heap_push _ _ _)
  have hZ := cells_of hZ hb hzl
  have hbel := hbel.trans (hb.mono hbel.size)
  have hqok := hqok.below hbel
  clear hX hb CP
  obtain ⟨g, hgg⟩ : ∃ g, w2.heap.size = g := ⟨_, rfl⟩
  rw [hgg] at hzl hG
  simp only [hgg]
  clear hgg
  have hgl : g < W3.heap.size := (Array.getElem?_eq_some_iff.1 hG).1
  obtain ⟨q0, q1, q2, q3, q4, q5, q6, q7, q8, q9, q10, q11, q12, q13, q14, q15, q16, q17⟩ := msg_cells hG
  obtain ⟨s1, s2⟩ := smallL_v hqs.1
  obtain ⟨s3, s4⟩ := smallL_v hqs.2
  have CC := fun W (hb : Below W3.heap.size W3 W) => clone_any q.pct q.pa q.pn q.pc q.pxs W (hqok.p.below hb) hqok.plen (by rw [← hqok.plen]; exact s1) s2
  have f46 := frozen_heap hG 46
  have f47 := frozen_heap hG 47
  have hfr := fun W (hb : Below W3.heap.size W3 W) (k : Nat) => frozen_heap (cells_of hG hb hgl) k
  have hcl := fun W (hb : Below W3.heap.size W3 W) => msg_cells (cells_of hG hb hgl)
  go_upto_region 3 with (go_at_call 75; refine (CC _ (Below.refl _ _)).mono ?_; rintro e w4 ⟨pa, pn, pc, pxs, rfl, hpd, hL, hpn, hpc, hpM, hb⟩; have f46 := hfr _ hb 46; have f47 := hfr _ hb 47; obtain ⟨q0, q1, q2, q3, q4, q5, q6, q7, q8, q9, q10, q11, q12, q13, q14, q15, q16, q17⟩ := hcl _ hb)
  refine wp_nameE _ (fun W5 hX => ?_)
  have hG9 := cells_of hG hb hgl
  have hZ9 := cells_of hZ hb (by omega)
  have hG5 : W5.heap[g]? = some (.cells ({ q with pct := q.pct, pa := pa, pn := pn, pc := pc, pxs := pxs } : MsgV).row 34 (0, 0)) := by rw [hX, ← put_p]; exact row_put5 (row_put5 hG9)
  have hZ5 : W5.heap[w.heap.size + 1]? = some (.cells (MsgV.zero 0).row 34 (0, 0)) := by rw [hX]; exact row_oth (row_oth hZ9 (by omega)) (by omega)
  have hb5 : Below g W3 W5 := by rw [hX]; exact (((hb.mono (Nat.le_of_lt hgl)).setCell (p := ⟨g, 46, none⟩) (Nat.le_refl _) _).setCell (p := ⟨g, 47, none⟩) (Nat.le_refl _) _)
  have hL5 : lvsHeld W5 W3.heap.size pa pxs := by rw [hX]; exact (hL.same (SameT.put hgl) (SameT.put hgl)).same (SameT.put hgl) (SameT.put hgl)
  have hq5 : q.ok w := HQ.out ▸ MsgV.plain_ok hm
  clear hX hG hZ hb hG9 hZ9 CC f46 f47 hfr hcl hL q0 q1 q2 q3 q4 q5 q6 q7 q8 q9 q10 q11 q12 q13 q14 q15 q16 q17
  obtain ⟨B, hBB⟩ : ∃ B, W3.heap.size = B := ⟨_, rfl⟩
  rw [hBB] at hL5 hgl
  have hbel5 := hbel.trans (hb5.mono (by omega))
  have hqok5 := hq5.below hbel5
  clear hqok hbel hb5 hBB
  have hgl5 : g < W5.heap.size := (Array.getElem?_eq_some_iff.1 hG5).1
  obtain ⟨q0, q1, q2, q3, q4, q5, q6, q7, q8, q9, q10, q11, q12, q13, q14, q15, q16, q17⟩ := msg_cells hG5
  simp only at q0 q1 q2 q3 q4 q5 q6 q7 q8 q9 q10 q11 q12 q13 q14 q15 q16 q17
  have CC := fun W (hb : Below W5.heap.size W5 W) => clone_any q.cct q.ca q.cn q.cc q.cxs W (hqok5.c.below hb) hqok5.clen (by rw [← hqok5.clen]; exact s3) s4
  have hfr := fun W (hb : Below W5.heap.size W5 W) (k : Nat) => frozen_heap (cells_of hG5 hb hgl5) k
  have hcl := fun W (hb : Below W5.heap.size W5 W) => msg_cells (cells_of hG5 hb hgl5)
  simp only at hcl
  have f48 := frozen_heap hG5 48
  have f49 := frozen_heap hG5 49
  go_upto_region 4 with (go_at_call 75; refine (CC _ (Below.refl _ _)).mono ?_; rintro e w6 ⟨ca, cn, cc, cxs, rfl, hcd, hM, hcn, hcc, hcM, hb⟩; have f48 := hfr _ hb 48; have f49 := hfr _ hb 49; obtain ⟨q0, q1, q2, q3, q4, q5, q6, q7, q8, q9, q10, q11, q12, q13, q14, q15, q16, q17⟩ := hcl _ hb)
  refine wp_nameE _ (fun W7 hX => ?_)
  have hG9 := cells_of hG5 hb hgl5
  have hZ9 := cells_of hZ5 hb (by omega)
  have hG7 : W7.heap[g]? = some (.cells ({ q with pct := q.pct, pa := pa, pn := pn, pc := pc, pxs := pxs, cct := q.cct, ca := ca, cn := cn, cc := cc, cxs := cxs } : MsgV).row 34 (0, 0)) := by rw [hX]; exact (row_put5 (row_put5 hG9)).trans (by rw [put_c _ _ _ _ _ cxs])
  have hZ7 : W7.heap[w.heap.size + 1]? = some (.cells (MsgV.zero 0).row 34 (0, 0)) := by rw [hX]; exact row_oth (row_oth hZ9 (by omega)) (by omega)
  have hb7 : Below g W5 W7 := by rw [hX]; exact (((hb.mono (Nat.le_of_lt hgl5)).setCell (p := ⟨g, 48, none⟩) (Nat.le_refl _) _).setCell (p := ⟨g, 49, none⟩) (Nat.le_refl _) _)
  have hL7 : lvsHeld W7 B pa pxs := by rw [hX]; exact ((hL5.same (SameT.below hb) (SameT.below hb)).same (SameT.put hgl) (SameT.put hgl)).same (SameT.put hgl) (SameT.put hgl)
  have hM7 : lvsHeld W7 W5.heap.size ca cxs := by rw [hX]; exact (hM.same (SameT.put hgl5) (SameT.put hgl5)).same (SameT.put hgl5) (SameT.put hgl5)
  have hbel7 := hbel5.trans (hb7.mono (by omega))
  clear hX hG5 hZ5 hb hG9 hZ9 CC f48 f49 hfr hcl hL5 hM q0 q1 q2 q3 q4 q5 q6 q7 q8 q9 q10 q11 q12 q13 q14 q15 q16 q17 hbel5 hqok5 hb7
  obtain ⟨RW, hRW⟩ : ∃ r : MsgV, ({ q with pct := q.pct, pa := pa, pn := pn, pc := pc, pxs := pxs, cct := q.cct, ca := ca, cn := cn, cc := cc, cxs := cxs } : MsgV) = r := ⟨_, rfl⟩
  rw [hRW] at hG7
  have HRW := Lib.hid hRW
  clear hRW
  go_wp2_with (first | (refine wpList_load_mid rfl 34 (.tmp 3) rfl g 0 rfl RW.row.toList _ (rangeAt_row5 hG7) Try.underlying34 rfl (msg_info _) ?_; rw [Array.toArray_toList]) | (refine wpList_storeRowTo (Z := RW.row) rfl (.tmp 2) (.tmp 14) 34 rfl (by rw [MsgV.row_size]; kernel_rfl) rfl (by rfl) hZ7 (by first | rfl | (simp only [MsgV.row_size]; done) | (rw [MsgV.row_size]; rfl)) (MsgV.row_one _) ?_))
  have hZ2 := setRow_heap _ _ _ RW.row _ _ hZ7
  have hrd := run_loadVar_mid (P := Try.prog) _ (w.heap.size + 1) 0 34 RW.row.toList _ (rangeAt_row5 hZ2) Try.underlying34 rfl (msg_info _)
  rw [Array.toArray_toList] at hrd
  refine bodyPost_ret (v := .agg RW.row) ?_ rfl ?_
  · simp [results, Try.results24, asAddr]
    exact hrd
  have hL9 := hL7.same (SameT.setRow (cs := RW.row) (show w.heap.size + 1 < B by omega)) (SameT.setRow (by omega))
  have hM9 := hM7.same (SameT.setRow (cs := RW.row) (show w.heap.size + 1 < W5.heap.size by omega)) (SameT.setRow (by omega))
  have hRW := HRW.out
  subst hRW
  refine ⟨_, rfl, ⟨hL9.at, hpn, hpc, hpM, hM9.at, hcn, hcc, hcM, hq5.spM, hq5.dpM⟩, ?_, below_setRow hbel7 (Nat.le_succ _) _⟩
  rw [HQ.out]
  unfold MsgV.d
  simp only [hpd, hcd]
end Go.Proofs.Ythipnkbfdkmhaaa
