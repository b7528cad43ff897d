/- Cutting messages into transactions: no groups. -/
import Derived.Test.YthipnkbfdkmhaaaBt3
import Derived.BigRegion
import Derived.RegionTactic
import Derived.BigQuiet
import Derived.Deep.QuietTactic
import Derived.Deep.MidRow
import Derived.LoopTactic
import Derived.BigFrame
import Derived.Maps.OwnOps
import Derived.Deep.AppendLies
import Derived.WalkKit
import Derived.ProofKit
import Derived.Handy
import Derived.Below
import Derived.Lib.Hide
import Derived.IntWalk
import Derived.Outline
import Derived.WalkLawsBesides
import Derived.WalkSpells
namespace Go.Proofs.Ythipnkbfdkmhaaa
open Go.RowKit
attribute [local go_sem] strV
set_option linter.unusedVariables false
set_option maxRecDepth 100000 in
set_option maxHeartbeats 40000000 in
theorem bt_cut2 (lg lb lc : Int) (a : Option Addr) (n cap : Nat) (up : List MsgV) (b : Option Addr) (n2 cap2 : Nat) (ms : List MsgV) (c : Option Addr) (n3 cap3 : Nat) (gs : List Int) (w : World)
    (hu : RowAt w a (up.flatMap MsgV.cellsL)) (hun : up.length = n) (huo : ∀ m ∈ up, m.ok w) (hul : ∀ m ∈ up, lightM m = true)
    (hr : RowAt w b (ms.flatMap MsgV.cellsL)) (hn : ms.length = n2) (hok : ∀ m ∈ ms, m.ok w) (hl : ∀ m ∈ ms, lightM m = true) (h70 : n2 ≤ 70)
    (hg : RowAt w c (gs.map (Value.int .i64))) (hgn : gs.length = n3) (hgw : ∀ z ∈ gs, (Lit.int .i64 z).wf = true) (hgl9 : ¬ gs.length = ms.length) :
    Calls Try.prog 39 #[.agg #[.int .i64 (lg), .int .i64 (lb), .int .i64 (lc)], .slice a n cap, .slice b n2 cap2, .slice c n3 cap3] w fun e w' => cutPost (lg, lb, lc) up ms gs w e w' := by
  have HN := Lib.hid hn
  have HGN := Lib.hid hgn
  have HGL := Lib.hid hgl9
  have hmm := @run_makeMap Try.prog
  have CB := fun W (hb : Below w.heap.size w W) => bt_begin a n cap up W (hu.below hb) (fun m hm => (huo m hm).below hb) hun hul
  have hfo := beginL_ok hul
  obtain ⟨⟨⟨f1, f2, f3⟩, poss⟩, hB⟩ : ∃ x, beginL up = x := ⟨_, rfl⟩
  simp only [hB] at CB hfo
  have HB := Lib.hid hB
  have HFO := Lib.hid hfo
  clear hB hfo hn hgn hu huo hul hun hgl9
  have hz0 := heap_push w #[.int .i64 (lg), .int .i64 (lb), .int .i64 (lc)] 58
  have hb0 : Below w.heap.size w (w.alloc (.cells #[.int .i64 (lg), .int .i64 (lb), .int .i64 (lc)] 58)) := Below.alloc (Below.refl _ _) (Nat.le_refl _) _
  go_enter Try.func39, Try.ntmps39
  go_upto_region 3 with fail
  refine wp_nameE _ (fun W1 hX => ?_)
  have hL : W1.heap[w.heap.size]? = some (.cells #[.int .i64 (lg), .int .i64 (lb), .int .i64 (lc)] 58 (0, 0)) := by rw [hX]; exact hz0
  have hbel : Below w.heap.size w W1 := by rw [hX]; exact hb0
  clear hX hz0 hb0
  have hLl : w.heap.size < W1.heap.size := (Array.getElem?_eq_some_iff.1 hL).1
  go_upto_region 4 with (go_at_call 85; refine (CB _ hbel).mono ?_; rintro e w3 ⟨rfl, hb⟩; have hL := cells_of hL hb hLl; have hLl := Nat.lt_of_lt_of_le hLl hb.size; have hbel := hbel.trans (hb.mono hbel.size); clear hb)
  have hq := heap_push w3 #[.int .i64 (f1), .int .i64 (f2), .int .i64 (f3)] 113
  have hb3 : Below w3.heap.size w3 (w3.alloc (.cells #[.int .i64 (f1), .int .i64 (f2), .int .i64 (f3)] 113)) := Below.alloc (Below.refl _ _) (Nat.le_refl _) _
  refine wp_nameE _ (fun W4 hX => ?_)
  have hF : W4.heap[w3.heap.size]? = some (.cells #[.int .i64 (f1), .int .i64 (f2), .int .i64 (f3)] 113 (0, 0)) := by rw [hX]; exact hq
  have hL : W4.heap[w.heap.size]? = some (.cells #[.int .i64 (lg), .int .i64 (lb), .int .i64 (lc)] 58 (0, 0)) := by rw [hX]; exact cells_of hL hb3 hLl
  have hbel : Below w.heap.size w W4 := by rw [hX]; exact hbel.trans (hb3.mono hbel.size)
  clear hX hq hb3 CB
  obtain ⟨gf, hgf⟩ : ∃ g, w3.heap.size = g := ⟨_, rfl⟩
  rw [hgf] at hF hLl
  simp only [hgf]
  clear hgf
  have hFl : gf < W4.heap.size := (Array.getElem?_eq_some_iff.1 hF).1
  go_upto_region 5 with (refine wpList_load_mid rfl 113 (.tmp 12) rfl gf 0 rfl (#[.int .i64 (f1), .int .i64 (f2), .int .i64 (f3)] : Array Value).toList _ (rangeAt_row5 hF) Try.underlying113 rfl (by rfl) ?_; rw [Array.toArray_toList])
  have hq := heap_push W4 #[.int .i64 (f1), .int .i64 (f2), .int .i64 (f3)] 113
  have hb3 : Below W4.heap.size W4 (W4.alloc (.cells #[.int .i64 (f1), .int .i64 (f2), .int .i64 (f3)] 113)) := Below.alloc (Below.refl _ _) (Nat.le_refl _) _
  refine wp_nameE _ (fun W5 hX => ?_)
  have hC : W5.heap[W4.heap.size]? = some (.cells #[.int .i64 (f1), .int .i64 (f2), .int .i64 (f3)] 113 (0, 0)) := by rw [hX]; exact hq
  have hF : W5.heap[gf]? = some (.cells #[.int .i64 (f1), .int .i64 (f2), .int .i64 (f3)] 113 (0, 0)) := by rw [hX]; exact cells_of hF hb3 hFl
  have hL : W5.heap[w.heap.size]? = some (.cells #[.int .i64 (lg), .int .i64 (lb), .int .i64 (lc)] 58 (0, 0)) := by rw [hX]; exact cells_of hL hb3 (by omega)
  have hbel : Below w.heap.size w W5 := by rw [hX]; exact hbel.trans (hb3.mono hbel.size)
  clear hX hq hb3
  obtain ⟨gc, hgc⟩ : ∃ g, W4.heap.size = g := ⟨_, rfl⟩
  rw [hgc] at hC hFl
  simp only [hgc]
  clear hgc
  have hCl : gc < W5.heap.size := (Array.getElem?_eq_some_iff.1 hC).1
  have hm0 := World.ownsMap_made (H := Unit) W5 Try.prog 3 (plainElem Try.prog 3)
  have hb3 : Below W5.heap.size W5 (W5.alloc (.map #[] 0)) := Below.alloc (Below.refl _ _) (Nat.le_refl _) _
  go_upto_region 7 with fail
  refine wp_nameE _ (fun W6 hX => ?_)
  have hM : W6.ownsMap (H := Unit) Try.prog 3 (plainElem Try.prog 3) W5.heap.size 0 (.map []) := by rw [hX]; exact hm0
  have hC : W6.heap[gc]? = some (.cells #[.int .i64 (f1), .int .i64 (f2), .int .i64 (f3)] 113 (0, 0)) := by rw [hX]; exact cells_of hC hb3 hCl
  have hF : W6.heap[gf]? = some (.cells #[.int .i64 (f1), .int .i64 (f2), .int .i64 (f3)] 113 (0, 0)) := by rw [hX]; exact cells_of hF hb3 (by omega)
  have hL : W6.heap[w.heap.size]? = some (.cells #[.int .i64 (lg), .int .i64 (lb), .int .i64 (lc)] 58 (0, 0)) := by rw [hX]; exact cells_of hL hb3 (by omega)
  have hbel : Below w.heap.size w W6 := by rw [hX]; exact hbel.trans (hb3.mono hbel.size)
  clear hX hm0 hb3 hmm
  obtain ⟨gm, hgm⟩ : ∃ g, W5.heap.size = g := ⟨_, rfl⟩
  rw [hgm] at hM hCl
  simp only [hgm]
  clear hgm
  have hMl := hM.lt
  obtain ⟨base, hbase⟩ : ∃ b, W6.heap.size = b := ⟨_, rfl⟩
  rw [hbase] at hMl
  go_loopw [10, 11, 30] (fun tv sv i wr => ∃ (k : Nat) (vs : List Value) (S : CutS) (D : DataW Unit), k ≤ n2 ∧ i = .int .i64 k ∧ Hid (S = cutK (lg, lb, lc) up gs ms k) ∧ Nest wr base tv sv vs S.txs S.sk ∧ wr.heap[w.heap.size]? = some (.cells #[.int .i64 (lg), .int .i64 (lb), .int .i64 (lc)] 58 (0, 0)) ∧ wr.heap[gf]? = some (.cells #[.int .i64 (f1), .int .i64 (f2), .int .i64 (f3)] 113 (0, 0)) ∧ wr.heap[gc]? = some (.cells #[.int .i64 (S.cur.1), .int .i64 (S.cur.2.1), .int .i64 (S.cur.2.2)] 113 (0, 0)) ∧ wr.ownsMap Try.prog 3 (plainElem Try.prog 3) gm k D ∧ Hid (∀ z, D.atKey (.int .i64 z) (.lit (.int .i64 0)) = .lit (.int .i64 (S.br.count z : Nat))) ∧ Hid (curOk S.cur k) ∧ Hid (S.sk.length ≤ k ∧ S.txs.length ≤ k ∧ S.br.length ≤ k ∧ ∀ zs ∈ S.txs, zs.length ≤ k) ∧ base ≤ wr.heap.size ∧ Below w.heap.size w wr) (fun _ _ i _ => n2 - (intOf i).toNat)
  case atStart => exact ⟨0, [], ⟨[], [], (f1, f2, f3), []⟩, .map [], Nat.zero_le _, rfl, Lib.hid (by unfold cutK; rw [HB.out]), Nest.nil _ _, hL, hF, hC, hM, Lib.hid (fun z => rfl), HFO, Lib.hid ⟨Nat.le_refl _, Nat.le_refl _, Nat.le_refl _, fun zs h => by cases h⟩, by omega, hbel⟩
  case round =>
    clear hbel hL hF hC hM
    obtain ⟨k, vs, S, D, hk, rfl, HS, hN, hL, hF, hC, hM, HD, HC, HZ, hbw, hbel⟩ := hrel
    by_cases hlt : k < n2
    rotate_left
    · have d9 : decide ((k : Int) < (n2 : Int)) = false := decide_eq_false (by omega)
      have d9n : decide (k < n2) = false := decide_eq_false hlt
      have hkn : k = ms.length := by rw [HN.out]; omega
      go_wp2
      go_returns
      exact ⟨_, _, vs, base, rfl, by unfold cutF; rw [← hkn, ← HS.out]; exact hN, by omega, hbel⟩
    have d1 : decide ((k : Int) < (n2 : Int)) = true := decide_eq_true (by omega)
    have d1n : decide (k < n2) = true := decide_eq_true hlt
    have hkl : k < ms.length := by rw [HN.out]; exact hlt
    obtain ⟨b1, o1, rfl, hb1, hg1⟩ := msg_range (hr.below hbel) hkl
    have ok1 := (hok _ (List.getElem_mem hkl)).below hbel
    have hl1 := hl _ (List.getElem_mem hkl)
    have hkm := List.getElem?_eq_getElem hkl
    obtain ⟨m, hm9⟩ : ∃ m, ms[k] = m := ⟨_, rfl⟩
    rw [hm9] at hg1 ok1 hl1 hkm
    have HST : Hid (cutK (lg, lb, lc) up gs ms (k + 1) = cutStep (lg, lb, lc) (f1, f2, f3) poss (groupF gs ms.length k) S k m) := Lib.hid (by
      show (match ms[k]? with | some m => cutStep (lg, lb, lc) (beginL up).1 (beginL up).2 (groupF gs ms.length k) (cutK (lg, lb, lc) up gs ms k) k m | none => cutK (lg, lb, lc) up gs ms k) = _
      rw [hkm, HB.out, ← HS.out])
    clear hm9 hkm
    have n0 : (0 : Int) ≤ (k : Int) := by omega
    have n1' : (k : Int) < (n2 : Int) := by omega
    have n2' : ((k : Nat) : Int).toNat = k := by omega
    go_upto_region 9 with (first | (refine wpList_load_mid rfl 34 (.tmp 33) rfl b1 _ rfl m.row.toList _ hg1 Try.underlying34 rfl (msg_info _) ?_; rw [Array.toArray_toList]) | (refine wpList_storeRowTo (Z := m.row) rfl (.tmp 17) (.tmp 34) 34 rfl (by rw [MsgV.row_size]; kernel_rfl) rfl (by rfl) (heap_push _ _ _) (by rw [MsgV.row_size]; rfl) (MsgV.row_one _) ?_))
    refine wp_nameE _ (fun W7 hX => ?_)
    have hb7 : Below wr.heap.size wr W7 := by rw [hX]; exact below_setRow (Below.alloc (Below.refl _ _) (Nat.le_refl _) _) (Nat.le_refl _) _
    have hx : W7.heap[wr.heap.size]? = some (.cells m.row 34 (0, 0)) := by rw [hX]; exact setRow_heap _ _ _ _ _ _ (heap_push _ _ _)
    clear hX hg1
    have hN := hN.below hb7
    have hL := cells_of hL hb7 (by omega)
    have hF := cells_of hF hb7 (by omega)
    have hC := cells_of hC hb7 (by omega)
    have hM := hM.kept (grown_below hb7) (by simp)
    have ok1 := ok1.below hb7
    have hbel := hbel.trans (hb7.mono hbel.size)
    have hbx := hbw
    have hbw := Nat.le_trans hbw hb7.size
    obtain ⟨gx, hgx⟩ : ∃ g, wr.heap.size = g := ⟨_, rfl⟩
    rw [hgx] at hx hbx
    simp only [hgx]
    clear hgx hb7
    obtain ⟨G, hG⟩ : ∃ g, groupF gs ms.length k = g := ⟨_, rfl⟩
    rw [hG] at HST
    by_cases hgl : gs.length = ms.length
    · exact absurd hgl HGL.out
    · obtain rfl : (0 : Int) = G := by rw [← hG]; unfold groupF; rw [if_neg hgl]
      have e1 : ((n3 : Int) == (n2 : Int)) = false := by rw [beq_eq_false_iff_ne]; have := HN.out; have := HGN.out; omega
      have e1n : (n3 == n2) = false := by rw [beq_eq_false_iff_ne]; have := HN.out; have := HGN.out; omega
      have hGw : (Lit.int .i64 (0 : Int)).wf = true := by decide
      clear hG
      have CW := fun W (hb : Below W7.heap.size W7 W) => bt_weigh m W (ok1.below hb) hl1
      have hzr := wB_rng m
      have hpr := price_rng hl1
      obtain ⟨z, hz⟩ : ∃ z, wB m = z := ⟨_, rfl⟩
      obtain ⟨p, hp⟩ : ∃ z, priceM m = z := ⟨_, rfl⟩
      obtain ⟨km, hkm⟩ : ∃ z, mayMsgB m = z := ⟨_, rfl⟩
      simp only [hz, hp, hkm] at CW
      rw [hz] at hzr
      rw [hp] at hpr
      have HW := Lib.hid (show wL m = (1, z, p) by unfold wL; rw [hz, hp])
      have HKM := Lib.hid hkm
      clear hz hp hkm
      have hxl : gx < W7.heap.size := (Array.getElem?_eq_some_iff.1 hx).1
      have hb0 := Below.refl W7.heap.size W7
      go_upto_region 13 with (first | (refine wpList_load_mid rfl 34 (.tmp 17) rfl gx 0 rfl m.row.toList _ (rangeAt_row5 hx) Try.underlying34 rfl (msg_info _) ?_; rw [Array.toArray_toList]) | (go_at_call 86; refine (CW _ hb0).mono ?_; rintro e w8 ⟨rfl, hb8⟩))
      clear e1 e1n
      have hq := heap_push w8 #[.int .i64 (1), .int .i64 (z), .int .i64 (p)] 113
      have hb9 : Below w8.heap.size w8 (w8.alloc (.cells #[.int .i64 (1), .int .i64 (z), .int .i64 (p)] 113)) := Below.alloc (Below.refl _ _) (Nat.le_refl _) _
      refine wp_nameE _ (fun W9 hX => ?_)
      rw [← hX] at hq hb9
      clear hX
      have hb79 : Below W7.heap.size W7 W9 := hb8.trans (hb9.mono hb8.size)
      have hN0 := hN
      have hN := hN.below hb79
      have hL := cells_of hL hb79 (by omega)
      have hF := cells_of hF hb79 (by omega)
      have hC := cells_of hC hb79 (by omega)
      have hM := hM.kept (grown_below hb79) (by simp)
      have hbel := hbel.trans (hb79.mono hbel.size)
      have hbw := Nat.le_trans hbw hb79.size
      have hbq : base ≤ w8.heap.size := by have := hb8.size; omega
      have htl := fun j hj => Nat.lt_of_lt_of_le (hN0.o.lt j hj).2 hb8.size
      obtain ⟨gq, hgq⟩ : ∃ g, w8.heap.size = g := ⟨_, rfl⟩
      rw [hgq] at hq hbq
      simp only [hgq] at htl ⊢
      clear hN0 hgq hb8 hb9 hb79 hx hxl CW hb0 ok1
      have hql : gq < W9.heap.size := (Array.getElem?_eq_some_iff.1 hq).1
      have hkey : keyOf Try.prog 3 (.int .i64 (0 : Int)) = some (.int .i64 (0 : Int)) := Maps.keyOf_int_mk Try.underlying3 hGw
      obtain ⟨i0, hi, hzI, hsI, hbI⟩ := info_parts Try.infoI
      have hFl9 : gf < W9.heap.size := (Array.getElem?_eq_some_iff.1 hF).1
      have hLl9 : w.heap.size < W9.heap.size := (Array.getElem?_eq_some_iff.1 hL).1
      cases poss
      case false =>
        refine wp_region_facts [Fact.eq (.bool false), Fact.eq (.bool true), Fact.eq (.bool true), Fact.any, Fact.any, Fact.eq (.bool true), Fact.eq (.bool true), Fact.any, Fact.any, Fact.any, Fact.any, Fact.any, Fact.any, Fact.eq (.bool true), Fact.eq (.bool true), Fact.any, Fact.any, Fact.any, Fact.any, Fact.eq (.bool true)] (by kernel_rfl) (by kernel_rfl) (by kernel_rfl) (by kernel_rfl) (fun x => by simp only [fillFrom, Act.put, List.setIfInBounds_toArray, List.set_cons_succ, List.set_cons_zero]; rfl) ?_ ?_
        · refine ⟨?_, ?_, ?_, ?_, ?_, ?_, ?_, ?_, ?_, ?_, ?_, ?_, ?_, ?_, ?_, ?_, ?_, ?_, ?_, ?_, trivial⟩
          · intro x w' hbw hd
            clear hd
            go_wp2_with fail
            exact frPost_mk rfl (by repeat (first | assumption | exact Below.refl _ _ | refine bch ?_ (by assumption) | refine Below.alloc ?_ (by simp) _)) rfl
          · intro x w' hbw hd
            have d0 : x 0 = .bool false := hd 0 rfl
            clear hd
            go_wp2_with fail
            exact frPost_mk rfl (by repeat (first | assumption | exact Below.refl _ _ | refine bch ?_ (by assumption) | refine Below.alloc ?_ (by simp) _)) rfl
          · intro x w' hbw hd
            have d1 : x 1 = .bool true := hd 1 rfl
            clear hd
            go_wp2_with fail
            exact frPost_mk rfl (by repeat (first | assumption | exact Below.refl _ _ | refine bch ?_ (by assumption) | refine Below.alloc ?_ (by simp) _)) rfl
          · intro x w' hbw hd
            have d2 : x 2 = .bool true := hd 2 rfl
            clear hd
            go_wp2_with fail
            first | exact frPost_mk rfl (by repeat (first | assumption | exact Below.refl _ _ | refine bch ?_ (by assumption) | refine Below.alloc ?_ (by simp) _)) trivial | exact ⟨rfl, rfl, Below.refl _ _, trivial⟩
          · intro x w' hbw hd
            have d2 : x 2 = .bool true := hd 2 rfl
            skip
            clear hd
            go_wp2_with fail
            first | exact frPost_mk rfl (by repeat (first | assumption | exact Below.refl _ _ | refine bch ?_ (by assumption) | refine Below.alloc ?_ (by simp) _)) trivial | exact ⟨rfl, rfl, Below.refl _ _, trivial⟩
          · intro x w' hbw hd
            have d2 : x 2 = .bool true := hd 2 rfl
            skip
            clear hd
            go_wp2_with fail
            exact frPost_mk rfl (by repeat (first | assumption | exact Below.refl _ _ | refine bch ?_ (by assumption) | refine Below.alloc ?_ (by simp) _)) rfl
          · intro x w' hbw hd
            have d5 : x 5 = .bool true := hd 5 rfl
            clear hd
            go_wp2_with fail
            exact frPost_mk rfl (by repeat (first | assumption | exact Below.refl _ _ | refine bch ?_ (by assumption) | refine Below.alloc ?_ (by simp) _)) rfl
          · intro x w' hbw hd
            have d6 : x 6 = .bool true := hd 6 rfl
            clear hd
            go_wp2_with fail
            first | exact frPost_mk rfl (by repeat (first | assumption | exact Below.refl _ _ | refine bch ?_ (by assumption) | refine Below.alloc ?_ (by simp) _)) trivial | exact ⟨rfl, rfl, Below.refl _ _, trivial⟩
          · intro x w' hbw hd
            have d6 : x 6 = .bool true := hd 6 rfl
            clear hd
            go_wp2_with fail
            first | exact frPost_mk rfl (by repeat (first | assumption | exact Below.refl _ _ | refine bch ?_ (by assumption) | refine Below.alloc ?_ (by simp) _)) trivial | exact ⟨rfl, rfl, Below.refl _ _, trivial⟩
          · intro x w' hbw hd
            have d6 : x 6 = .bool true := hd 6 rfl
            skip
            skip
            clear hd
            go_wp2_with (first | fail)
            first | exact frPost_mk rfl (by repeat (first | assumption | exact Below.refl _ _ | refine bch ?_ (by assumption) | refine Below.alloc ?_ (by simp) _)) trivial | exact ⟨rfl, rfl, Below.refl _ _, trivial⟩
          · intro x w' hbw hd
            have d6 : x 6 = .bool true := hd 6 rfl
            clear hd
            go_wp2_with fail
            first | exact frPost_mk rfl (by repeat (first | assumption | exact Below.refl _ _ | refine bch ?_ (by assumption) | refine Below.alloc ?_ (by simp) _)) trivial | exact ⟨rfl, rfl, Below.refl _ _, trivial⟩
          · intro x w' hbw hd
            have d6 : x 6 = .bool true := hd 6 rfl
            skip
            skip
            clear hd
            go_wp2_with (first | fail)
            first | exact frPost_mk rfl (by repeat (first | assumption | exact Below.refl _ _ | refine bch ?_ (by assumption) | refine Below.alloc ?_ (by simp) _)) trivial | exact ⟨rfl, rfl, Below.refl _ _, trivial⟩
          · intro x w' hbw hd
            have d6 : x 6 = .bool true := hd 6 rfl
            skip
            clear hd
            go_wp2_with fail
            first | exact frPost_mk rfl (by repeat (first | assumption | exact Below.refl _ _ | refine bch ?_ (by assumption) | refine Below.alloc ?_ (by simp) _)) trivial | exact ⟨rfl, rfl, Below.refl _ _, trivial⟩
          · intro x w' hbw hd
            have d6 : x 6 = .bool true := hd 6 rfl
            skip
            clear hd
            go_wp2_with fail
            exact frPost_mk rfl (by repeat (first | assumption | exact Below.refl _ _ | refine bch ?_ (by assumption) | refine Below.alloc ?_ (by simp) _)) rfl
          · intro x w' hbw hd
            have d13 : x 13 = .bool true := hd 13 rfl
            clear hd
            go_wp2_with fail
            exact frPost_mk rfl (by repeat (first | assumption | exact Below.refl _ _ | refine bch ?_ (by assumption) | refine Below.alloc ?_ (by simp) _)) rfl
          · intro x w' hbw hd
            have d14 : x 14 = .bool true := hd 14 rfl
            clear hd
            go_wp2_with fail
            first | exact frPost_mk rfl (by repeat (first | assumption | exact Below.refl _ _ | refine bch ?_ (by assumption) | refine Below.alloc ?_ (by simp) _)) trivial | exact ⟨rfl, rfl, Below.refl _ _, trivial⟩
          · intro x w' hbw hd
            have d14 : x 14 = .bool true := hd 14 rfl
            clear hd
            go_wp2_with fail
            first | exact frPost_mk rfl (by repeat (first | assumption | exact Below.refl _ _ | refine bch ?_ (by assumption) | refine Below.alloc ?_ (by simp) _)) trivial | exact ⟨rfl, rfl, Below.refl _ _, trivial⟩
          · intro x w' hbw hd
            have d14 : x 14 = .bool true := hd 14 rfl
            skip
            skip
            clear hd
            go_wp2_with fail
            first | exact frPost_mk rfl (by repeat (first | assumption | exact Below.refl _ _ | refine bch ?_ (by assumption) | refine Below.alloc ?_ (by simp) _)) trivial | exact ⟨rfl, rfl, Below.refl _ _, trivial⟩
          · intro x w' hbw hd
            have d14 : x 14 = .bool true := hd 14 rfl
            skip
            clear hd
            go_wp2_with fail
            first | exact frPost_mk rfl (by repeat (first | assumption | exact Below.refl _ _ | refine bch ?_ (by assumption) | refine Below.alloc ?_ (by simp) _)) trivial | exact ⟨rfl, rfl, Below.refl _ _, trivial⟩
          · intro x w' hbw hd
            have d14 : x 14 = .bool true := hd 14 rfl
            skip
            clear hd
            go_wp2_with fail
            exact frPost_mk rfl (by repeat (first | assumption | exact Below.refl _ _ | refine bch ?_ (by assumption) | refine Below.alloc ?_ (by simp) _)) rfl
        intro x wf hbw9 hd
        have d19 : x 19 = .bool true := hd 19 (by decide)
        clear hd
        simp only [Nat.zero_add, Nat.reduceAdd, d19]
        have hN := hN.below hbw9
        have hL := cells_of hL hbw9 (by omega)
        have hF := cells_of hF hbw9 (by omega)
        have hC := cells_of hC hbw9 (by omega)
        have hM := hM.kept (grown_below hbw9) (by simp)
        have hbel := hbel.trans (hbw9.mono hbel.size)
        have hbw := Nat.le_trans hbw hbw9.size
        have hout : cutOut (lg, lb, lc) (f1, f2, f3) false (0 : Int) S.br m = true := by unfold cutOut; rfl
        have hst := HST.out
        unfold cutStep at hst
        rw [if_pos hout] at hst
        have HST := Lib.hid hst
        clear hst hout hbw9
        have hb10 : Below wf.heap.size wf (wf.alloc (.cells #[.int .i64 (k : Int)] 3)) := Below.alloc (Below.refl _ _) (Nat.le_refl _) _
        have hN := hN.below hb10
        have hL := cells_of hL hb10 (by omega)
        have hF := cells_of hF hb10 (by omega)
        have hC := cells_of hC hb10 (by omega)
        have hM := hM.kept (grown_below hb10) (by simp)
        have hbel := hbel.trans (hb10.mono hbel.size)
        have hbw := Nat.le_trans hbw hb10.size
        have hkw : (Lit.int .i64 (k : Int)).wf = true := wf_i64 (by omega) (by omega)
        have hsk : S.sk.length ≤ 70 := by have := HZ.out.1; omega
        clear hb10
        go_upto_region 15 with (at_builtin; refine wpList_append_own_at _ rfl (.tmp 70) (.tmp 72) 59 rfl base 3 i0 (.int .i64 0) 1 8 Try.underlying59 hi hzI hsI hbI rfl (by decide) _ _ _ rfl hN.s.1 ⟨wf.heap.size, 0, none⟩ 1 1 [.int .i64 (k : Int)] rfl rfl (cell_one_new _ _ _) (fun u hu => by rw [List.mem_singleton.1 hu]; rfl) (by unfold maxLen; omega) (by omega) hbw ?_; intro sv' w10 hown10 hgr10 _ hat10)
        have h63 : (S.sk.length : Nat) + 1 ≤ 71 := by omega
        have low := hN.s.1.lt
        have hL := grown_at hgr10 hL (fun e => by have := (low _ e.symm).1; omega)
        have hF := grown_at hgr10 hF (fun e => by have := (low _ e.symm).1; omega)
        have hC := grown_at hgr10 hC (fun e => by have := (low _ e.symm).1; omega)
        have hM := hM.kept hgr10 (fun e => by have := (low _ e.symm).1; omega)
        have hbel := hbel.grown hgr10 hbel.size (fun j hj => by have := (low j hj).1; omega)
        have hN := hN.skip hkw hown10 hgr10 hat10
        have hbw := Nat.le_trans hbw hgr10.size
        clear hown10 hgr10 hat10 low hq
        have hG0 : ¬ (0 : Int) < 0 := by decide
        have dG : decide (0 < (0 : Int)) = false := decide_eq_false hG0
        rw [if_neg hG0] at HST
        go_wp2
        go_roundw
        case rel =>
          refine ⟨k + 1, vs, ⟨S.txs, S.sk ++ [(k : Int)], S.cur, S.br⟩, D, by omega, by go_num, (Hid.sym' HST), hN, hL, hF, hC, hM.mono (Nat.le_succ _), HD, Lib.hid ?_, Lib.hid ?_, hbw, hbel⟩
          · exact HC.out.mono
          · have q := HZ.out
            refine ⟨by simp; omega, by show S.txs.length ≤ _; omega, by show S.br.length ≤ _; omega, fun zs9 h9 => by have := q.2.2.2 zs9 h9; omega⟩
        case measure => (simp [intOf]) <;> omega
      case true =>
        cases km
        case false =>
          refine wp_region_facts [Fact.eq (.bool true), Fact.eq (.bool false), Fact.eq (.bool false), Fact.eq (.bool false), Fact.eq (.bool true), Fact.eq (.bool true), Fact.eq (.bool true), Fact.any, Fact.any, Fact.any, Fact.any, Fact.any, Fact.any, Fact.eq (.bool true), Fact.eq (.bool true), Fact.any, Fact.any, Fact.any, Fact.any, Fact.eq (.bool true)] (by kernel_rfl) (by kernel_rfl) (by kernel_rfl) (by kernel_rfl) (fun x => by simp only [fillFrom, Act.put, List.setIfInBounds_toArray, List.set_cons_succ, List.set_cons_zero]; rfl) ?_ ?_
          · refine ⟨?_, ?_, ?_, ?_, ?_, ?_, ?_, ?_, ?_, ?_, ?_, ?_, ?_, ?_, ?_, ?_, ?_, ?_, ?_, ?_, trivial⟩
            · intro x w' hbw hd
              clear hd
              go_wp2_with fail
              exact frPost_mk rfl (by repeat (first | assumption | exact Below.refl _ _ | refine bch ?_ (by assumption) | refine Below.alloc ?_ (by simp) _)) rfl
            · intro x w' hbw hd
              have d0 : x 0 = .bool true := hd 0 rfl
              clear hd
              go_wp2_with fail
              exact frPost_mk rfl (by repeat (first | assumption | exact Below.refl _ _ | refine bch ?_ (by assumption) | refine Below.alloc ?_ (by simp) _)) rfl
            · intro x w' hbw hd
              have d1 : x 1 = .bool false := hd 1 rfl
              clear hd
              go_wp2_with fail
              exact frPost_mk rfl (by repeat (first | assumption | exact Below.refl _ _ | refine bch ?_ (by assumption) | refine Below.alloc ?_ (by simp) _)) rfl
            · intro x w' hbw hd
              have d2 : x 2 = .bool false := hd 2 rfl
              clear hd
              go_wp2_with fail
              exact frPost_mk rfl (by repeat (first | assumption | exact Below.refl _ _ | refine bch ?_ (by assumption) | refine Below.alloc ?_ (by simp) _)) rfl
            · intro x w' hbw hd
              have d2 : x 2 = .bool false := hd 2 rfl
              have d3 : x 3 = .bool false := hd 3 rfl
              clear hd
              go_wp2_with fail
              exact frPost_mk rfl (by repeat (first | assumption | exact Below.refl _ _ | refine bch ?_ (by assumption) | refine Below.alloc ?_ (by simp) _)) rfl
            · intro x w' hbw hd
              have d2 : x 2 = .bool false := hd 2 rfl
              have d4 : x 4 = .bool true := hd 4 rfl
              clear hd
              go_wp2_with fail
              exact frPost_mk rfl (by repeat (first | assumption | exact Below.refl _ _ | refine bch ?_ (by assumption) | refine Below.alloc ?_ (by simp) _)) rfl
            · intro x w' hbw hd
              have d5 : x 5 = .bool true := hd 5 rfl
              clear hd
              go_wp2_with fail
              exact frPost_mk rfl (by repeat (first | assumption | exact Below.refl _ _ | refine bch ?_ (by assumption) | refine Below.alloc ?_ (by simp) _)) rfl
            · intro x w' hbw hd
              have d6 : x 6 = .bool true := hd 6 rfl
              clear hd
              go_wp2_with fail
              first | exact frPost_mk rfl (by repeat (first | assumption | exact Below.refl _ _ | refine bch ?_ (by assumption) | refine Below.alloc ?_ (by simp) _)) trivial | exact ⟨rfl, rfl, Below.refl _ _, trivial⟩
            · intro x w' hbw hd
              have d6 : x 6 = .bool true := hd 6 rfl
              clear hd
              go_wp2_with fail
              first | exact frPost_mk rfl (by repeat (first | assumption | exact Below.refl _ _ | refine bch ?_ (by assumption) | refine Below.alloc ?_ (by simp) _)) trivial | exact ⟨rfl, rfl, Below.refl _ _, trivial⟩
            · intro x w' hbw hd
              have d6 : x 6 = .bool true := hd 6 rfl
              skip
              skip
              clear hd
              go_wp2_with (first | fail)
              first | exact frPost_mk rfl (by repeat (first | assumption | exact Below.refl _ _ | refine bch ?_ (by assumption) | refine Below.alloc ?_ (by simp) _)) trivial | exact ⟨rfl, rfl, Below.refl _ _, trivial⟩
            · intro x w' hbw hd
              have d6 : x 6 = .bool true := hd 6 rfl
              clear hd
              go_wp2_with fail
              first | exact frPost_mk rfl (by repeat (first | assumption | exact Below.refl _ _ | refine bch ?_ (by assumption) | refine Below.alloc ?_ (by simp) _)) trivial | exact ⟨rfl, rfl, Below.refl _ _, trivial⟩
            · intro x w' hbw hd
              have d6 : x 6 = .bool true := hd 6 rfl
              skip
              skip
              clear hd
              go_wp2_with (first | fail)
              first | exact frPost_mk rfl (by repeat (first | assumption | exact Below.refl _ _ | refine bch ?_ (by assumption) | refine Below.alloc ?_ (by simp) _)) trivial | exact ⟨rfl, rfl, Below.refl _ _, trivial⟩
            · intro x w' hbw hd
              have d6 : x 6 = .bool true := hd 6 rfl
              skip
              clear hd
              go_wp2_with fail
              first | exact frPost_mk rfl (by repeat (first | assumption | exact Below.refl _ _ | refine bch ?_ (by assumption) | refine Below.alloc ?_ (by simp) _)) trivial | exact ⟨rfl, rfl, Below.refl _ _, trivial⟩
            · intro x w' hbw hd
              have d6 : x 6 = .bool true := hd 6 rfl
              skip
              clear hd
              go_wp2_with fail
              exact frPost_mk rfl (by repeat (first | assumption | exact Below.refl _ _ | refine bch ?_ (by assumption) | refine Below.alloc ?_ (by simp) _)) rfl
            · intro x w' hbw hd
              have d13 : x 13 = .bool true := hd 13 rfl
              clear hd
              go_wp2_with fail
              exact frPost_mk rfl (by repeat (first | assumption | exact Below.refl _ _ | refine bch ?_ (by assumption) | refine Below.alloc ?_ (by simp) _)) rfl
            · intro x w' hbw hd
              have d14 : x 14 = .bool true := hd 14 rfl
              clear hd
              go_wp2_with fail
              first | exact frPost_mk rfl (by repeat (first | assumption | exact Below.refl _ _ | refine bch ?_ (by assumption) | refine Below.alloc ?_ (by simp) _)) trivial | exact ⟨rfl, rfl, Below.refl _ _, trivial⟩
            · intro x w' hbw hd
              have d14 : x 14 = .bool true := hd 14 rfl
              clear hd
              go_wp2_with fail
              first | exact frPost_mk rfl (by repeat (first | assumption | exact Below.refl _ _ | refine bch ?_ (by assumption) | refine Below.alloc ?_ (by simp) _)) trivial | exact ⟨rfl, rfl, Below.refl _ _, trivial⟩
            · intro x w' hbw hd
              have d14 : x 14 = .bool true := hd 14 rfl
              skip
              skip
              clear hd
              go_wp2_with fail
              first | exact frPost_mk rfl (by repeat (first | assumption | exact Below.refl _ _ | refine bch ?_ (by assumption) | refine Below.alloc ?_ (by simp) _)) trivial | exact ⟨rfl, rfl, Below.refl _ _, trivial⟩
            · intro x w' hbw hd
              have d14 : x 14 = .bool true := hd 14 rfl
              skip
              clear hd
              go_wp2_with fail
              first | exact frPost_mk rfl (by repeat (first | assumption | exact Below.refl _ _ | refine bch ?_ (by assumption) | refine Below.alloc ?_ (by simp) _)) trivial | exact ⟨rfl, rfl, Below.refl _ _, trivial⟩
            · intro x w' hbw hd
              have d14 : x 14 = .bool true := hd 14 rfl
              skip
              clear hd
              go_wp2_with fail
              exact frPost_mk rfl (by repeat (first | assumption | exact Below.refl _ _ | refine bch ?_ (by assumption) | refine Below.alloc ?_ (by simp) _)) rfl
          intro x wf hbw9 hd
          have d19 : x 19 = .bool true := hd 19 (by decide)
          clear hd
          simp only [Nat.zero_add, Nat.reduceAdd, d19]
          have hN := hN.below hbw9
          have hL := cells_of hL hbw9 (by omega)
          have hF := cells_of hF hbw9 (by omega)
          have hC := cells_of hC hbw9 (by omega)
          have hM := hM.kept (grown_below hbw9) (by simp)
          have hbel := hbel.trans (hbw9.mono hbel.size)
          have hbw := Nat.le_trans hbw hbw9.size
          have hout : cutOut (lg, lb, lc) (f1, f2, f3) true (0 : Int) S.br m = true := by unfold cutOut; rw [HKM.out]; rfl
          have hst := HST.out
          unfold cutStep at hst
          rw [if_pos hout] at hst
          have HST := Lib.hid hst
          clear hst hout hbw9
          have hb10 : Below wf.heap.size wf (wf.alloc (.cells #[.int .i64 (k : Int)] 3)) := Below.alloc (Below.refl _ _) (Nat.le_refl _) _
          have hN := hN.below hb10
          have hL := cells_of hL hb10 (by omega)
          have hF := cells_of hF hb10 (by omega)
          have hC := cells_of hC hb10 (by omega)
          have hM := hM.kept (grown_below hb10) (by simp)
          have hbel := hbel.trans (hb10.mono hbel.size)
          have hbw := Nat.le_trans hbw hb10.size
          have hkw : (Lit.int .i64 (k : Int)).wf = true := wf_i64 (by omega) (by omega)
          have hsk : S.sk.length ≤ 70 := by have := HZ.out.1; omega
          clear hb10
          go_upto_region 15 with (at_builtin; refine wpList_append_own_at _ rfl (.tmp 70) (.tmp 72) 59 rfl base 3 i0 (.int .i64 0) 1 8 Try.underlying59 hi hzI hsI hbI rfl (by decide) _ _ _ rfl hN.s.1 ⟨wf.heap.size, 0, none⟩ 1 1 [.int .i64 (k : Int)] rfl rfl (cell_one_new _ _ _) (fun u hu => by rw [List.mem_singleton.1 hu]; rfl) (by unfold maxLen; omega) (by omega) hbw ?_; intro sv' w10 hown10 hgr10 _ hat10)
          have h63 : (S.sk.length : Nat) + 1 ≤ 71 := by omega
          have low := hN.s.1.lt
          have hL := grown_at hgr10 hL (fun e => by have := (low _ e.symm).1; omega)
          have hF := grown_at hgr10 hF (fun e => by have := (low _ e.symm).1; omega)
          have hC := grown_at hgr10 hC (fun e => by have := (low _ e.symm).1; omega)
          have hM := hM.kept hgr10 (fun e => by have := (low _ e.symm).1; omega)
          have hbel := hbel.grown hgr10 hbel.size (fun j hj => by have := (low j hj).1; omega)
          have hN := hN.skip hkw hown10 hgr10 hat10
          have hbw := Nat.le_trans hbw hgr10.size
          clear hown10 hgr10 hat10 low hq
          have hG0 : ¬ (0 : Int) < 0 := by decide
          have dG : decide (0 < (0 : Int)) = false := decide_eq_false hG0
          rw [if_neg hG0] at HST
          go_wp2
          go_roundw
          case rel =>
            refine ⟨k + 1, vs, ⟨S.txs, S.sk ++ [(k : Int)], S.cur, S.br⟩, D, by omega, by go_num, (Hid.sym' HST), hN, hL, hF, hC, hM.mono (Nat.le_succ _), HD, Lib.hid ?_, Lib.hid ?_, hbw, hbel⟩
            · exact HC.out.mono
            · have q := HZ.out
              refine ⟨by simp; omega, by show S.txs.length ≤ _; omega, by show S.br.length ≤ _; omega, fun zs9 h9 => by have := q.2.2.2 zs9 h9; omega⟩
          case measure => (simp [intOf]) <;> omega
        case true =>
          have CA := fun W => bt_and f1 f2 f3 1 z p W (HFO.out.small (by omega)).1 (HFO.out.small (by omega)).2.1 (HFO.out.small (by omega)).2.2 ⟨by decide, by decide⟩ ⟨by omega, by omega⟩ ⟨by omega, by omega⟩
          have CI := fun W => bt_within (f1 + 1) (f2 + z) (f3 + p) lg lb lc W
          obtain ⟨fi, hfi⟩ : ∃ x, withinB (f1 + 1) (f2 + z) (f3 + p) lg lb lc = x := ⟨_, rfl⟩
          simp only [hfi] at CI
          have HFI : Hid (inL (lg, lb, lc) (addL (f1, f2, f3) (wL m)) = fi) := Lib.hid (by rw [HW.out]; exact hfi)
          clear hfi
          cases fi
          case false =>
            refine wp_region_facts [Fact.eq (.bool true), Fact.eq (.bool false), Fact.eq (.bool false), Fact.eq (.bool true), Fact.eq (.bool false), Fact.eq (.bool false), Fact.eq (.bool false), Fact.eq (.agg #[.int .i64 (f1), .int .i64 (f2), .int .i64 (f3)]), Fact.eq (.agg #[.int .i64 (1), .int .i64 (z), .int .i64 (p)]), Fact.eq (.agg #[.int .i64 (f1 + 1), .int .i64 (f2 + z), .int .i64 (f3 + p)]), Fact.eq (.agg #[.int .i64 (lg), .int .i64 (lb), .int .i64 (lc)]), Fact.eq (.bool false), Fact.eq (.bool true), Fact.eq (.bool true), Fact.eq (.bool true), Fact.any, Fact.any, Fact.any, Fact.any, Fact.eq (.bool true)] (by kernel_rfl) (by kernel_rfl) (by kernel_rfl) (by kernel_rfl) (fun x => by simp only [fillFrom, Act.put, List.setIfInBounds_toArray, List.set_cons_succ, List.set_cons_zero]; rfl) ?_ ?_
            · refine ⟨?_, ?_, ?_, ?_, ?_, ?_, ?_, ?_, ?_, ?_, ?_, ?_, ?_, ?_, ?_, ?_, ?_, ?_, ?_, ?_, trivial⟩
              · intro x w' hbw hd
                clear hd
                go_wp2_with fail
                exact frPost_mk rfl (by repeat (first | assumption | exact Below.refl _ _ | refine bch ?_ (by assumption) | refine Below.alloc ?_ (by simp) _)) rfl
              · intro x w' hbw hd
                have d0 : x 0 = .bool true := hd 0 rfl
                clear hd
                go_wp2_with fail
                exact frPost_mk rfl (by repeat (first | assumption | exact Below.refl _ _ | refine bch ?_ (by assumption) | refine Below.alloc ?_ (by simp) _)) rfl
              · intro x w' hbw hd
                have d1 : x 1 = .bool false := hd 1 rfl
                clear hd
                go_wp2_with fail
                exact frPost_mk rfl (by repeat (first | assumption | exact Below.refl _ _ | refine bch ?_ (by assumption) | refine Below.alloc ?_ (by simp) _)) rfl
              · intro x w' hbw hd
                have d2 : x 2 = .bool false := hd 2 rfl
                clear hd
                go_wp2_with fail
                exact frPost_mk rfl (by repeat (first | assumption | exact Below.refl _ _ | refine bch ?_ (by assumption) | refine Below.alloc ?_ (by simp) _)) rfl
              · intro x w' hbw hd
                have d2 : x 2 = .bool false := hd 2 rfl
                have d3 : x 3 = .bool true := hd 3 rfl
                clear hd
                go_wp2_with fail
                exact frPost_mk rfl (by repeat (first | assumption | exact Below.refl _ _ | refine bch ?_ (by assumption) | refine Below.alloc ?_ (by simp) _)) rfl
              · intro x w' hbw hd
                have d2 : x 2 = .bool false := hd 2 rfl
                have d4 : x 4 = .bool false := hd 4 rfl
                clear hd
                go_wp2_with fail
                exact frPost_mk rfl (by repeat (first | assumption | exact Below.refl _ _ | refine bch ?_ (by assumption) | refine Below.alloc ?_ (by simp) _)) rfl
              · intro x w' hbw hd
                have d5 : x 5 = .bool false := hd 5 rfl
                clear hd
                go_wp2_with fail
                exact frPost_mk rfl (by repeat (first | assumption | exact Below.refl _ _ | refine bch ?_ (by assumption) | refine Below.alloc ?_ (by simp) _)) rfl
              · intro x w' hbw hd
                have d6 : x 6 = .bool false := hd 6 rfl
                clear hd
                have hFr := cells_of hF hbw hFl9
                go_wp2_with (first | (refine wpList_load_midG 113 (.tmp 12) rfl gf 0 rfl (#[.int .i64 (f1), .int .i64 (f2), .int .i64 (f3)] : Array Value).toList _ (rangeAt_row5 hFr) Try.underlying113 rfl (by rfl) (by first | rfl | (simp [Region.wanted, yielded, *]; done)) ?_; rw [Array.toArray_toList]))
                exact frPost_mk rfl (by repeat (first | assumption | exact Below.refl _ _ | refine bch ?_ (by assumption) | refine Below.alloc ?_ (by simp) _)) rfl
              · intro x w' hbw hd
                have d6 : x 6 = .bool false := hd 6 rfl
                clear hd
                have hqr := cells_of hq hbw hql
                go_wp2_with (first | (refine wpList_load_midG 113 (.tmp 19) rfl gq 0 rfl (#[.int .i64 (1), .int .i64 (z), .int .i64 (p)] : Array Value).toList _ (rangeAt_row5 hqr) Try.underlying113 rfl (by rfl) (by first | rfl | (simp [Region.wanted, yielded, *]; done)) ?_; rw [Array.toArray_toList]))
                exact frPost_mk rfl (by repeat (first | assumption | exact Below.refl _ _ | refine bch ?_ (by assumption) | refine Below.alloc ?_ (by simp) _)) rfl
              · intro x w' hbw hd
                have d6 : x 6 = .bool false := hd 6 rfl
                have d7 : x 7 = .agg #[.int .i64 (f1), .int .i64 (f2), .int .i64 (f3)] := hd 7 rfl
                have d8 : x 8 = .agg #[.int .i64 (1), .int .i64 (z), .int .i64 (p)] := hd 8 rfl
                clear hd
                go_wp2_with (first | (go_at_call 87; refine (CA _).mono ?_; rintro e wx ⟨rfl, hbx⟩))
                exact frPost_mk rfl (by repeat (first | assumption | exact Below.refl _ _ | refine bch ?_ (by assumption) | refine Below.alloc ?_ (by simp) _)) rfl
              · intro x w' hbw hd
                have d6 : x 6 = .bool false := hd 6 rfl
                clear hd
                have hLr := cells_of hL hbw hLl9
                go_wp2_with (first | (refine wpList_load_midG 58 (.tmp 4) rfl w.heap.size 0 rfl (#[.int .i64 (lg), .int .i64 (lb), .int .i64 (lc)] : Array Value).toList _ (rangeAt_row5 hLr) Try.underlying58 rfl (by rfl) (by first | rfl | (simp [Region.wanted, yielded, *]; done)) ?_; rw [Array.toArray_toList]))
                exact frPost_mk rfl (by repeat (first | assumption | exact Below.refl _ _ | refine bch ?_ (by assumption) | refine Below.alloc ?_ (by simp) _)) rfl
              · intro x w' hbw hd
                have d6 : x 6 = .bool false := hd 6 rfl
                have d9 : x 9 = .agg #[.int .i64 (f1 + 1), .int .i64 (f2 + z), .int .i64 (f3 + p)] := hd 9 rfl
                have d10 : x 10 = .agg #[.int .i64 (lg), .int .i64 (lb), .int .i64 (lc)] := hd 10 rfl
                clear hd
                go_wp2_with (first | (go_at_call 88; refine (CI _).mono ?_; rintro e wx ⟨rfl, hbx⟩))
                exact frPost_mk rfl (by repeat (first | assumption | exact Below.refl _ _ | refine bch ?_ (by assumption) | refine Below.alloc ?_ (by simp) _)) rfl
              · intro x w' hbw hd
                have d6 : x 6 = .bool false := hd 6 rfl
                have d11 : x 11 = .bool false := hd 11 rfl
                clear hd
                go_wp2_with fail
                exact frPost_mk rfl (by repeat (first | assumption | exact Below.refl _ _ | refine bch ?_ (by assumption) | refine Below.alloc ?_ (by simp) _)) rfl
              · intro x w' hbw hd
                have d6 : x 6 = .bool false := hd 6 rfl
                have d12 : x 12 = .bool true := hd 12 rfl
                clear hd
                go_wp2_with fail
                exact frPost_mk rfl (by repeat (first | assumption | exact Below.refl _ _ | refine bch ?_ (by assumption) | refine Below.alloc ?_ (by simp) _)) rfl
              · intro x w' hbw hd
                have d13 : x 13 = .bool true := hd 13 rfl
                clear hd
                go_wp2_with fail
                exact frPost_mk rfl (by repeat (first | assumption | exact Below.refl _ _ | refine bch ?_ (by assumption) | refine Below.alloc ?_ (by simp) _)) rfl
              · intro x w' hbw hd
                have d14 : x 14 = .bool true := hd 14 rfl
                clear hd
                go_wp2_with fail
                first | exact frPost_mk rfl (by repeat (first | assumption | exact Below.refl _ _ | refine bch ?_ (by assumption) | refine Below.alloc ?_ (by simp) _)) trivial | exact ⟨rfl, rfl, Below.refl _ _, trivial⟩
              · intro x w' hbw hd
                have d14 : x 14 = .bool true := hd 14 rfl
                clear hd
                go_wp2_with fail
                first | exact frPost_mk rfl (by repeat (first | assumption | exact Below.refl _ _ | refine bch ?_ (by assumption) | refine Below.alloc ?_ (by simp) _)) trivial | exact ⟨rfl, rfl, Below.refl _ _, trivial⟩
              · intro x w' hbw hd
                have d14 : x 14 = .bool true := hd 14 rfl
                skip
                skip
                clear hd
                go_wp2_with fail
                first | exact frPost_mk rfl (by repeat (first | assumption | exact Below.refl _ _ | refine bch ?_ (by assumption) | refine Below.alloc ?_ (by simp) _)) trivial | exact ⟨rfl, rfl, Below.refl _ _, trivial⟩
              · intro x w' hbw hd
                have d14 : x 14 = .bool true := hd 14 rfl
                skip
                clear hd
                go_wp2_with fail
                first | exact frPost_mk rfl (by repeat (first | assumption | exact Below.refl _ _ | refine bch ?_ (by assumption) | refine Below.alloc ?_ (by simp) _)) trivial | exact ⟨rfl, rfl, Below.refl _ _, trivial⟩
              · intro x w' hbw hd
                have d14 : x 14 = .bool true := hd 14 rfl
                skip
                clear hd
                go_wp2_with fail
                exact frPost_mk rfl (by repeat (first | assumption | exact Below.refl _ _ | refine bch ?_ (by assumption) | refine Below.alloc ?_ (by simp) _)) rfl
            intro x wf hbw9 hd
            have d19 : x 19 = .bool true := hd 19 (by decide)
            clear hd
            simp only [Nat.zero_add, Nat.reduceAdd, d19]
            have hN := hN.below hbw9
            have hL := cells_of hL hbw9 (by omega)
            have hF := cells_of hF hbw9 (by omega)
            have hC := cells_of hC hbw9 (by omega)
            have hM := hM.kept (grown_below hbw9) (by simp)
            have hbel := hbel.trans (hbw9.mono hbel.size)
            have hbw := Nat.le_trans hbw hbw9.size
            have hout : cutOut (lg, lb, lc) (f1, f2, f3) true (0 : Int) S.br m = true := by unfold cutOut; rw [HKM.out, HFI.out]; rfl
            have hst := HST.out
            unfold cutStep at hst
            rw [if_pos hout] at hst
            have HST := Lib.hid hst
            clear hst hout hbw9
            have hb10 : Below wf.heap.size wf (wf.alloc (.cells #[.int .i64 (k : Int)] 3)) := Below.alloc (Below.refl _ _) (Nat.le_refl _) _
            have hN := hN.below hb10
            have hL := cells_of hL hb10 (by omega)
            have hF := cells_of hF hb10 (by omega)
            have hC := cells_of hC hb10 (by omega)
            have hM := hM.kept (grown_below hb10) (by simp)
            have hbel := hbel.trans (hb10.mono hbel.size)
            have hbw := Nat.le_trans hbw hb10.size
            have hkw : (Lit.int .i64 (k : Int)).wf = true := wf_i64 (by omega) (by omega)
            have hsk : S.sk.length ≤ 70 := by have := HZ.out.1; omega
            clear hb10
            go_upto_region 15 with (at_builtin; refine wpList_append_own_at _ rfl (.tmp 70) (.tmp 72) 59 rfl base 3 i0 (.int .i64 0) 1 8 Try.underlying59 hi hzI hsI hbI rfl (by decide) _ _ _ rfl hN.s.1 ⟨wf.heap.size, 0, none⟩ 1 1 [.int .i64 (k : Int)] rfl rfl (cell_one_new _ _ _) (fun u hu => by rw [List.mem_singleton.1 hu]; rfl) (by unfold maxLen; omega) (by omega) hbw ?_; intro sv' w10 hown10 hgr10 _ hat10)
            have h63 : (S.sk.length : Nat) + 1 ≤ 71 := by omega
            have low := hN.s.1.lt
            have hL := grown_at hgr10 hL (fun e => by have := (low _ e.symm).1; omega)
            have hF := grown_at hgr10 hF (fun e => by have := (low _ e.symm).1; omega)
            have hC := grown_at hgr10 hC (fun e => by have := (low _ e.symm).1; omega)
            have hM := hM.kept hgr10 (fun e => by have := (low _ e.symm).1; omega)
            have hbel := hbel.grown hgr10 hbel.size (fun j hj => by have := (low j hj).1; omega)
            have hN := hN.skip hkw hown10 hgr10 hat10
            have hbw := Nat.le_trans hbw hgr10.size
            clear hown10 hgr10 hat10 low hq
            have hG0 : ¬ (0 : Int) < 0 := by decide
            have dG : decide (0 < (0 : Int)) = false := decide_eq_false hG0
            rw [if_neg hG0] at HST
            go_wp2
            go_roundw
            case rel =>
              refine ⟨k + 1, vs, ⟨S.txs, S.sk ++ [(k : Int)], S.cur, S.br⟩, D, by omega, by go_num, (Hid.sym' HST), hN, hL, hF, hC, hM.mono (Nat.le_succ _), HD, Lib.hid ?_, Lib.hid ?_, hbw, hbel⟩
              · exact HC.out.mono
              · have q := HZ.out
                refine ⟨by simp; omega, by show S.txs.length ≤ _; omega, by show S.br.length ≤ _; omega, fun zs9 h9 => by have := q.2.2.2 zs9 h9; omega⟩
            case measure => (simp [intOf]) <;> omega
          case true =>
            have HDG := HD.out (0 : Int)
            obtain ⟨cnt, hcnt⟩ : ∃ c, S.br.count (0 : Int) = c := ⟨_, rfl⟩
            rw [hcnt] at HDG
            obtain ⟨cb, hcb⟩ : ∃ x, decide (0 < cnt) = x := ⟨_, rfl⟩
            have HCB : Hid (decide (0 < S.br.count (0 : Int)) = cb) := Lib.hid (by rw [hcnt]; exact hcb)
            have hcbi : decide ((0 : Int) < (cnt : Int)) = cb := by rw [← hcb]; by_cases h9 : 0 < cnt <;> simp [h9]
            clear hcnt
            refine wp_region_facts [Fact.eq (.bool true), Fact.eq (.bool false), Fact.eq (.bool false), Fact.eq (.bool true), Fact.eq (.bool false), Fact.eq (.bool false), Fact.eq (.bool false), Fact.eq (.agg #[.int .i64 (f1), .int .i64 (f2), .int .i64 (f3)]), Fact.eq (.agg #[.int .i64 (1), .int .i64 (z), .int .i64 (p)]), Fact.eq (.agg #[.int .i64 (f1 + 1), .int .i64 (f2 + z), .int .i64 (f3 + p)]), Fact.eq (.agg #[.int .i64 (lg), .int .i64 (lb), .int .i64 (lc)]), Fact.eq (.bool true), Fact.eq (.bool false), Fact.eq (.bool false), Fact.eq (.bool false), Fact.eq (.map (some gm)), Fact.eq (.int .i64 (0 : Int)), Fact.eq (.int .i64 (cnt : Nat)), Fact.eq (.bool cb), Fact.eq (.bool cb)] (by kernel_rfl) (by kernel_rfl) (by kernel_rfl) (by kernel_rfl) (fun x => by simp only [fillFrom, Act.put, List.setIfInBounds_toArray, List.set_cons_succ, List.set_cons_zero]; rfl) ?_ ?_
            · refine ⟨?_, ?_, ?_, ?_, ?_, ?_, ?_, ?_, ?_, ?_, ?_, ?_, ?_, ?_, ?_, ?_, ?_, ?_, ?_, ?_, trivial⟩
              · intro x w' hbw hd
                clear hd
                go_wp2_with fail
                exact frPost_mk rfl (by repeat (first | assumption | exact Below.refl _ _ | refine bch ?_ (by assumption) | refine Below.alloc ?_ (by simp) _)) rfl
              · intro x w' hbw hd
                have d0 : x 0 = .bool true := hd 0 rfl
                clear hd
                go_wp2_with fail
                exact frPost_mk rfl (by repeat (first | assumption | exact Below.refl _ _ | refine bch ?_ (by assumption) | refine Below.alloc ?_ (by simp) _)) rfl
              · intro x w' hbw hd
                have d1 : x 1 = .bool false := hd 1 rfl
                clear hd
                go_wp2_with fail
                exact frPost_mk rfl (by repeat (first | assumption | exact Below.refl _ _ | refine bch ?_ (by assumption) | refine Below.alloc ?_ (by simp) _)) rfl
              · intro x w' hbw hd
                have d2 : x 2 = .bool false := hd 2 rfl
                clear hd
                go_wp2_with fail
                exact frPost_mk rfl (by repeat (first | assumption | exact Below.refl _ _ | refine bch ?_ (by assumption) | refine Below.alloc ?_ (by simp) _)) rfl
              · intro x w' hbw hd
                have d2 : x 2 = .bool false := hd 2 rfl
                have d3 : x 3 = .bool true := hd 3 rfl
                clear hd
                go_wp2_with fail
                exact frPost_mk rfl (by repeat (first | assumption | exact Below.refl _ _ | refine bch ?_ (by assumption) | refine Below.alloc ?_ (by simp) _)) rfl
              · intro x w' hbw hd
                have d2 : x 2 = .bool false := hd 2 rfl
                have d4 : x 4 = .bool false := hd 4 rfl
                clear hd
                go_wp2_with fail
                exact frPost_mk rfl (by repeat (first | assumption | exact Below.refl _ _ | refine bch ?_ (by assumption) | refine Below.alloc ?_ (by simp) _)) rfl
              · intro x w' hbw hd
                have d5 : x 5 = .bool false := hd 5 rfl
                clear hd
                go_wp2_with fail
                exact frPost_mk rfl (by repeat (first | assumption | exact Below.refl _ _ | refine bch ?_ (by assumption) | refine Below.alloc ?_ (by simp) _)) rfl
              · intro x w' hbw hd
                have d6 : x 6 = .bool false := hd 6 rfl
                clear hd
                have hFr := cells_of hF hbw hFl9
                go_wp2_with (first | (refine wpList_load_midG 113 (.tmp 12) rfl gf 0 rfl (#[.int .i64 (f1), .int .i64 (f2), .int .i64 (f3)] : Array Value).toList _ (rangeAt_row5 hFr) Try.underlying113 rfl (by rfl) (by first | rfl | (simp [Region.wanted, yielded, *]; done)) ?_; rw [Array.toArray_toList]))
                exact frPost_mk rfl (by repeat (first | assumption | exact Below.refl _ _ | refine bch ?_ (by assumption) | refine Below.alloc ?_ (by simp) _)) rfl
              · intro x w' hbw hd
                have d6 : x 6 = .bool false := hd 6 rfl
                clear hd
                have hqr := cells_of hq hbw hql
                go_wp2_with (first | (refine wpList_load_midG 113 (.tmp 19) rfl gq 0 rfl (#[.int .i64 (1), .int .i64 (z), .int .i64 (p)] : Array Value).toList _ (rangeAt_row5 hqr) Try.underlying113 rfl (by rfl) (by first | rfl | (simp [Region.wanted, yielded, *]; done)) ?_; rw [Array.toArray_toList]))
                exact frPost_mk rfl (by repeat (first | assumption | exact Below.refl _ _ | refine bch ?_ (by assumption) | refine Below.alloc ?_ (by simp) _)) rfl
              · intro x w' hbw hd
                have d6 : x 6 = .bool false := hd 6 rfl
                have d7 : x 7 = .agg #[.int .i64 (f1), .int .i64 (f2), .int .i64 (f3)] := hd 7 rfl
                have d8 : x 8 = .agg #[.int .i64 (1), .int .i64 (z), .int .i64 (p)] := hd 8 rfl
                clear hd
                go_wp2_with (first | (go_at_call 87; refine (CA _).mono ?_; rintro e wx ⟨rfl, hbx⟩))
                exact frPost_mk rfl (by repeat (first | assumption | exact Below.refl _ _ | refine bch ?_ (by assumption) | refine Below.alloc ?_ (by simp) _)) rfl
              · intro x w' hbw hd
                have d6 : x 6 = .bool false := hd 6 rfl
                clear hd
                have hLr := cells_of hL hbw hLl9
                go_wp2_with (first | (refine wpList_load_midG 58 (.tmp 4) rfl w.heap.size 0 rfl (#[.int .i64 (lg), .int .i64 (lb), .int .i64 (lc)] : Array Value).toList _ (rangeAt_row5 hLr) Try.underlying58 rfl (by rfl) (by first | rfl | (simp [Region.wanted, yielded, *]; done)) ?_; rw [Array.toArray_toList]))
                exact frPost_mk rfl (by repeat (first | assumption | exact Below.refl _ _ | refine bch ?_ (by assumption) | refine Below.alloc ?_ (by simp) _)) rfl
              · intro x w' hbw hd
                have d6 : x 6 = .bool false := hd 6 rfl
                have d9 : x 9 = .agg #[.int .i64 (f1 + 1), .int .i64 (f2 + z), .int .i64 (f3 + p)] := hd 9 rfl
                have d10 : x 10 = .agg #[.int .i64 (lg), .int .i64 (lb), .int .i64 (lc)] := hd 10 rfl
                clear hd
                go_wp2_with (first | (go_at_call 88; refine (CI _).mono ?_; rintro e wx ⟨rfl, hbx⟩))
                exact frPost_mk rfl (by repeat (first | assumption | exact Below.refl _ _ | refine bch ?_ (by assumption) | refine Below.alloc ?_ (by simp) _)) rfl
              · intro x w' hbw hd
                have d6 : x 6 = .bool false := hd 6 rfl
                have d11 : x 11 = .bool true := hd 11 rfl
                clear hd
                go_wp2_with fail
                exact frPost_mk rfl (by repeat (first | assumption | exact Below.refl _ _ | refine bch ?_ (by assumption) | refine Below.alloc ?_ (by simp) _)) rfl
              · intro x w' hbw hd
                have d6 : x 6 = .bool false := hd 6 rfl
                have d12 : x 12 = .bool false := hd 12 rfl
                clear hd
                go_wp2_with fail
                exact frPost_mk rfl (by repeat (first | assumption | exact Below.refl _ _ | refine bch ?_ (by assumption) | refine Below.alloc ?_ (by simp) _)) rfl
              · intro x w' hbw hd
                have d13 : x 13 = .bool false := hd 13 rfl
                clear hd
                go_wp2_with fail
                exact frPost_mk rfl (by repeat (first | assumption | exact Below.refl _ _ | refine bch ?_ (by assumption) | refine Below.alloc ?_ (by simp) _)) rfl
              · intro x w' hbw hd
                have d14 : x 14 = .bool false := hd 14 rfl
                clear hd
                go_wp2_with fail
                exact frPost_mk rfl (by repeat (first | assumption | exact Below.refl _ _ | refine bch ?_ (by assumption) | refine Below.alloc ?_ (by simp) _)) rfl
              · intro x w' hbw hd
                have d14 : x 14 = .bool false := hd 14 rfl
                clear hd
                go_wp2_with fail
                exact frPost_mk rfl (by repeat (first | assumption | exact Below.refl _ _ | refine bch ?_ (by assumption) | refine Below.alloc ?_ (by simp) _)) rfl
              · intro x w' hbw hd
                have d14 : x 14 = .bool false := hd 14 rfl
                have d15 : x 15 = .map (some gm) := hd 15 rfl
                have d16 : x 16 = .int .i64 (0 : Int) := hd 16 rfl
                clear hd
                obtain ⟨cv, hrun, hat, hwc⟩ := (hM.kept (grown_below hbw) (by simp)).lookup_int bt_keyed Try.underlying116 Try.underlying3 (bt_zero _) hkey
                obtain rfl : cv = (cnt : Nat) := by have h9 := hat.symm.trans HDG; injection h9 with h9; injection h9
                go_wp2_with fail
                exact frPost_mk rfl (by repeat (first | assumption | exact Below.refl _ _ | refine bch ?_ (by assumption) | refine Below.alloc ?_ (by simp) _)) rfl
              · intro x w' hbw hd
                have d14 : x 14 = .bool false := hd 14 rfl
                have d17 : x 17 = .int .i64 (cnt : Nat) := hd 17 rfl
                clear hd
                go_wp2_with fail
                exact frPost_mk rfl (by repeat (first | assumption | exact Below.refl _ _ | refine bch ?_ (by assumption) | refine Below.alloc ?_ (by simp) _)) rfl
              · intro x w' hbw hd
                have d14 : x 14 = .bool false := hd 14 rfl
                have d18 : x 18 = .bool cb := hd 18 rfl
                clear hd
                go_wp2_with fail
                exact frPost_mk rfl (by repeat (first | assumption | exact Below.refl _ _ | refine bch ?_ (by assumption) | refine Below.alloc ?_ (by simp) _)) rfl
            intro x wf hbw9 hd
            have d19 : x 19 = .bool cb := hd 19 (by decide)
            clear hd
            simp only [Nat.zero_add, Nat.reduceAdd, d19]
            clear hcb hcbi HDG
            cases cb
            case true =>
              have hN := hN.below hbw9
              have hL := cells_of hL hbw9 (by omega)
              have hF := cells_of hF hbw9 (by omega)
              have hC := cells_of hC hbw9 (by omega)
              have hM := hM.kept (grown_below hbw9) (by simp)
              have hbel := hbel.trans (hbw9.mono hbel.size)
              have hbw := Nat.le_trans hbw hbw9.size
              have hout : cutOut (lg, lb, lc) (f1, f2, f3) true (0 : Int) S.br m = true := by unfold cutOut; rw [HKM.out, HFI.out, HCB.out]; rfl
              have hst := HST.out
              unfold cutStep at hst
              rw [if_pos hout] at hst
              have HST := Lib.hid hst
              clear hst hout hbw9
              have hb10 : Below wf.heap.size wf (wf.alloc (.cells #[.int .i64 (k : Int)] 3)) := Below.alloc (Below.refl _ _) (Nat.le_refl _) _
              have hN := hN.below hb10
              have hL := cells_of hL hb10 (by omega)
              have hF := cells_of hF hb10 (by omega)
              have hC := cells_of hC hb10 (by omega)
              have hM := hM.kept (grown_below hb10) (by simp)
              have hbel := hbel.trans (hb10.mono hbel.size)
              have hbw := Nat.le_trans hbw hb10.size
              have hkw : (Lit.int .i64 (k : Int)).wf = true := wf_i64 (by omega) (by omega)
              have hsk : S.sk.length ≤ 70 := by have := HZ.out.1; omega
              clear hb10
              go_upto_region 15 with (at_builtin; refine wpList_append_own_at _ rfl (.tmp 70) (.tmp 72) 59 rfl base 3 i0 (.int .i64 0) 1 8 Try.underlying59 hi hzI hsI hbI rfl (by decide) _ _ _ rfl hN.s.1 ⟨wf.heap.size, 0, none⟩ 1 1 [.int .i64 (k : Int)] rfl rfl (cell_one_new _ _ _) (fun u hu => by rw [List.mem_singleton.1 hu]; rfl) (by unfold maxLen; omega) (by omega) hbw ?_; intro sv' w10 hown10 hgr10 _ hat10)
              have h63 : (S.sk.length : Nat) + 1 ≤ 71 := by omega
              have low := hN.s.1.lt
              have hL := grown_at hgr10 hL (fun e => by have := (low _ e.symm).1; omega)
              have hF := grown_at hgr10 hF (fun e => by have := (low _ e.symm).1; omega)
              have hC := grown_at hgr10 hC (fun e => by have := (low _ e.symm).1; omega)
              have hM := hM.kept hgr10 (fun e => by have := (low _ e.symm).1; omega)
              have hbel := hbel.grown hgr10 hbel.size (fun j hj => by have := (low j hj).1; omega)
              have hN := hN.skip hkw hown10 hgr10 hat10
              have hbw := Nat.le_trans hbw hgr10.size
              clear hown10 hgr10 hat10 low hq
              have hG0 : ¬ (0 : Int) < 0 := by decide
              have dG : decide (0 < (0 : Int)) = false := decide_eq_false hG0
              rw [if_neg hG0] at HST
              go_wp2
              go_roundw
              case rel =>
                refine ⟨k + 1, vs, ⟨S.txs, S.sk ++ [(k : Int)], S.cur, S.br⟩, D, by omega, by go_num, (Hid.sym' HST), hN, hL, hF, hC, hM.mono (Nat.le_succ _), HD, Lib.hid ?_, Lib.hid ?_, hbw, hbel⟩
                · exact HC.out.mono
                · have q := HZ.out
                  refine ⟨by simp; omega, by show S.txs.length ≤ _; omega, by show S.br.length ≤ _; omega, fun zs9 h9 => by have := q.2.2.2 zs9 h9; omega⟩
              case measure => (simp [intOf]) <;> omega
            case false =>
              have hN := hN.below hbw9
              have hL := cells_of hL hbw9 (by omega)
              have hF := cells_of hF hbw9 (by omega)
              have hC := cells_of hC hbw9 (by omega)
              have hq := cells_of hq hbw9 hql
              have hM := hM.kept (grown_below hbw9) (by simp)
              have hbel := hbel.trans (hbw9.mono hbel.size)
              have hbw := Nat.le_trans hbw hbw9.size
              have hout : ¬ cutOut (lg, lb, lc) (f1, f2, f3) true (0 : Int) S.br m = true := by unfold cutOut; rw [HKM.out, HFI.out, HCB.out]; decide
              have hst := HST.out
              unfold cutStep at hst
              rw [if_neg hout] at hst
              have HST := Lib.hid hst
              clear hst hout hbw9 hql
              have hkw : (Lit.int .i64 (k : Int)).wf = true := wf_i64 (by omega) (by omega)
              obtain ⟨iS, hiS, hzS, hsS, hbS⟩ := info_parts Try.infoS
              obtain ⟨ta, tcap, htv, _⟩ := own_slice hN.o
              subst htv
              by_cases hv0 : vs.length = 0
              · have dv : ((vs.length : Int) == 0) = true := by rw [beq_iff_eq]; omega
                have dvn : (vs.length == 0) = true := by rw [beq_iff_eq]; exact hv0
                have hS0 : S.txs = [] := List.eq_nil_of_length_eq_zero (by rw [← hN.len]; exact hv0)
                have hb10 : Below wf.heap.size wf (wf.alloc (.cells #[.slice none 0 0] 59)) := Below.alloc (Below.refl _ _) (Nat.le_refl _) _
                have hN := hN.below hb10
                have hL := cells_of hL hb10 (by omega)
                have hF := cells_of hF hb10 (by omega)
                have hC := cells_of hC hb10 (by omega)
                have hq := cells_of hq hb10 (Array.getElem?_eq_some_iff.1 hq).1
                have hM := hM.kept (grown_below hb10) (by simp)
                have hbel := hbel.trans (hb10.mono hbel.size)
                have hbw := Nat.le_trans hbw hb10.size
                have hvl : vs.length ≤ 70 := by rw [hN.len]; have := HZ.out.2.1; omega
                clear hb10
                go_upto_region 22 with (at_builtin; refine wpList_append_own_at _ rfl (.tmp 83) (.tmp 84) 60 rfl base 59 iS (.slice none 0 0) 1 24 Try.underlying60 hiS hzS hsS hbS rfl (by decide) _ _ _ rfl hN.o ⟨wf.heap.size, 0, none⟩ 1 1 [.slice none 0 0] rfl rfl (cell_one_new _ _ _) (fun u hu => by rw [List.mem_singleton.1 hu]; rfl) (by unfold maxLen; omega) (by omega) hbw ?_; intro tv' w10 hown10 hgr10 _ hat10)
                have low := hN.o.lt
                have hL := grown_at hgr10 hL (fun e => by have := (low _ e.symm).1; omega)
                have hF := grown_at hgr10 hF (fun e => by have := (low _ e.symm).1; omega)
                have hC := grown_at hgr10 hC (fun e => by have := (low _ e.symm).1; omega)
                have hM := hM.kept hgr10 (fun e => by have := (low _ e.symm).1; omega)
                have hbel := hbel.grown hgr10 hbel.size (fun j hj => by have := (low j hj).1; omega)
                have hq := grown_at hgr10 hq (fun e => by have := htl _ e.symm; omega)
                have hN := hN.opened hown10 hgr10 hat10
                have hbw := Nat.le_trans hbw hgr10.size
                clear low hown10 hgr10 hat10 htl
                have CA2 := fun W => bt_and (S.cur.1) (S.cur.2.1) (S.cur.2.2) 1 z p W (HC.out.small (by omega)).1 (HC.out.small (by omega)).2.1 (HC.out.small (by omega)).2.2 ⟨by decide, by decide⟩ ⟨by omega, by omega⟩ ⟨by omega, by omega⟩
                
                go_upto_region 23 with (first | (refine wpList_load_mid rfl 113 (.tmp 14) rfl gc 0 rfl (#[.int .i64 (S.cur.1), .int .i64 (S.cur.2.1), .int .i64 (S.cur.2.2)] : Array Value).toList _ (rangeAt_row5 hC) Try.underlying113 rfl (by rfl) ?_; rw [Array.toArray_toList]) | (refine wpList_load_mid rfl 113 (.tmp 19) rfl gq 0 rfl (#[.int .i64 (1), .int .i64 (z), .int .i64 (p)] : Array Value).toList _ (rangeAt_row5 hq) Try.underlying113 rfl (by rfl) ?_; rw [Array.toArray_toList]) | (go_at_call 87; refine (CA2 _).mono ?_; rintro e w12 ⟨rfl, hb12⟩; have hN := hN.below hb12; have hL := cells_of hL hb12 (by omega); have hF := cells_of hF hb12 (by omega); have hC := cells_of hC hb12 (by omega); have hM := hM.kept (grown_below hb12) (by simp); have hbel := hbel.trans (hb12.mono hbel.size); have hbw := Nat.le_trans hbw hb12.size; clear hb12) | (refine wpList_storeRowTo (Z := #[.int .i64 (S.cur.1 + 1), .int .i64 (S.cur.2.1 + z), .int .i64 (S.cur.2.2 + p)]) rfl (.tmp 14) (.tmp 98) 113 rfl (by kernel_rfl) rfl (by rfl) hC rfl (ld_one _ _ _) ?_))
                refine wp_nameE _ (fun W13 hX => ?_)
                have hN := hN.setRow (g := gc) (by omega) #[.int .i64 (S.cur.1 + 1), .int .i64 (S.cur.2.1 + z), .int .i64 (S.cur.2.2 + p)]
                rw [← hX] at hN
                have hL : W13.heap[w.heap.size]? = some (.cells #[.int .i64 (lg), .int .i64 (lb), .int .i64 (lc)] 58 (0, 0)) := by rw [hX]; exact (setRow_other _ _ _ _ (by omega)).trans hL
                have hF : W13.heap[gf]? = some (.cells #[.int .i64 (f1), .int .i64 (f2), .int .i64 (f3)] 113 (0, 0)) := by rw [hX]; exact (setRow_other _ _ _ _ (by omega)).trans hF
                have hC : W13.heap[gc]? = some (.cells #[.int .i64 (S.cur.1 + 1), .int .i64 (S.cur.2.1 + z), .int .i64 (S.cur.2.2 + p)] 113 (0, 0)) := by rw [hX]; exact setRow_heap _ _ _ _ _ _ hC
                have hM : W13.ownsMap Try.prog 3 (plainElem Try.prog 3) gm k D := by rw [hX]; exact hM.kept (row := some gc) ⟨rfl, rfl, rfl, by rw [setRow_size]; exact Nat.le_refl _, fun i9 _ hne => setRow_other _ _ _ _ (fun e => hne (by rw [e]))⟩ (fun e => by have := Option.some.inj e; omega)
                have hbel : Below w.heap.size w W13 := by rw [hX]; exact below_setRow hbel (by omega) _
                have hbw : base ≤ W13.heap.size := by rw [hX, setRow_size]; exact hbw
                clear hX CA2
                obtain ⟨k9, hk9⟩ : ∃ k9, (vs ++ [Value.slice none 0 0]).length = k9 + 1 := ⟨(vs ++ [Value.slice none 0 0]).length - 1, by rw [List.length_append, List.length_singleton]; rfl⟩
                obtain ⟨g, tcap9, htv, hgb, hgl⟩ := hN.o.form (by omega)
                subst htv
                have hk9l : k9 ≤ 70 := by rw [List.length_append, List.length_singleton] at hk9; omega
                obtain ⟨v, hv⟩ : ∃ v, (vs ++ [Value.slice none 0 0])[k9]? = some v := ⟨_, List.getElem?_eq_getElem (by omega)⟩
                obtain ⟨zs, hz, hi9⟩ := hN.ivl hv
                have hzl : zs.length ≤ 70 := by
                  rcases List.mem_append.1 (List.mem_of_getElem? hz) with h9 | h9
                  · have := HZ.out.2.2.2 zs h9; omega
                  · rw [List.mem_singleton.1 h9]; exact Nat.zero_le _
                have ho := hN.o
                rw [hk9] at ho
                have hc9 : W13.cell? ⟨g, k9, none⟩ = some v := (ho.cellAt k9 (by omega)).trans hv
                simp only [hk9] at hN ⊢
                have hb14 : Below W13.heap.size W13 (W13.alloc (.cells #[.int .i64 (k : Int)] 3)) := Below.alloc (Below.refl _ _) (Nat.le_refl _) _
                have hN14 := hN.below hb14
                have hL := cells_of hL hb14 (by omega)
                have hF := cells_of hF hb14 (by omega)
                have hC := cells_of hC hb14 (by omega)
                have hM := hM.kept (grown_below hb14) (by simp)
                have hbel := hbel.trans (hb14.mono hbel.size)
                have hbw := Nat.le_trans hbw hb14.size
                have q0 : (0 : Int) ≤ (k9 : Int) := by omega
                have q1 : (k9 : Int) < (k9 : Int) + 1 := by omega
                have q2 : (k9 : Int) + 1 - 1 = (k9 : Int) := by omega
                have q3 : ((k9 + 1 : Nat) : Int) - 1 = (k9 : Int) := by omega
                have q4 : ((k9 : Nat) : Int).toNat = k9 := by omega
                obtain ⟨i0, hi, hzI, hsI, hbI⟩ := info_parts Try.infoI
                go_upto_region 24 with (at_builtin; refine wpList_append_own_at _ rfl (.tmp 108) (.tmp 110) 59 rfl base 3 i0 (.int .i64 0) 1 8 Try.underlying59 hi hzI hsI hbI rfl (by decide) _ _ _ rfl (hN14.i k9 v zs hv hz).1 ⟨W13.heap.size, 0, none⟩ 1 1 [.int .i64 (k : Int)] rfl rfl (cell_one_new _ _ _) (fun u hu => by rw [List.mem_singleton.1 hu]; rfl) (by unfold maxLen; omega) (by omega) hbw ?_; intro v' w15 hown15 hgr15 _ hat15; obtain ⟨a15, cap15, hv15, _⟩ := own_slice hown15; subst hv15; have o15 := hN14.o.kept hgr15 (hN14.d2 k9 v hv).symm.off; rw [hk9] at o15; have hfz := o15.frozenAt k9; have hck := (o15.cellAt k9 (by omega)).trans hv)
                have hg16 := (o15.stored k9 (.slice a15 (zs.length + 1) cap15)).2
                have hN := hN14.push rfl hk9.symm hv hz hkw hown15 hgr15 hat15
                have lowv := (hN14.i k9 v zs hv hz).1.lt
                have hL := grown_at hg16 (grown_at hgr15 hL (fun e => by have := (lowv _ e.symm).1; omega)) (fun e => by have := Option.some.inj e; omega)
                have hF := grown_at hg16 (grown_at hgr15 hF (fun e => by have := (lowv _ e.symm).1; omega)) (fun e => by have := Option.some.inj e; omega)
                have hC := grown_at hg16 (grown_at hgr15 hC (fun e => by have := (lowv _ e.symm).1; omega)) (fun e => by have := Option.some.inj e; omega)
                have hM := (hM.kept hgr15 (fun e => by have := (lowv _ e.symm).1; omega)).kept hg16 (fun e => by have := Option.some.inj e; omega)
                have hbel := (hbel.grown hgr15 hbel.size (fun j hj => by have := (lowv j hj).1; omega)).grown hg16 (by have := hgr15.size; have := hbel.size; omega) (fun j hj => by cases hj; omega)
                have hbw := Nat.le_trans (Nat.le_trans hbw hgr15.size) hg16.size
                rw [if_pos hS0] at HST
                have hT9 : (S.txs ++ [[]]).set k9 (zs ++ [(k : Int)]) = [[(k : Int)]] := by
                  have : k9 = 0 := by rw [List.length_append, List.length_singleton] at hk9; omega
                  subst this
                  rw [hS0] at hz ⊢
                  simp at hz
                  subst hz
                  rfl
                rw [hT9] at hN
                go_wp2
                go_roundw
                case rel =>
                  refine ⟨k + 1, _, ⟨[[(k : Int)]], S.sk, addL S.cur (wL m), S.br⟩, D, by omega, by go_num, Hid.sym' HST, hN, hL, hF, by rw [HW.out]; exact hC, hM.mono (Nat.le_succ _), HD, Lib.hid (by rw [HW.out]; exact HC.out.add hzr hpr), Lib.hid ?_, hbw, hbel⟩
                  have q9 := HZ.out
                  refine ⟨by show S.sk.length ≤ _; omega, by show 1 ≤ _; omega, by show S.br.length ≤ _; omega, fun zs9 h9 => by rw [List.mem_singleton.1 h9]; show 1 ≤ _; omega⟩
                case measure => (simp [intOf]) <;> omega
              · have dv : ((vs.length : Int) == 0) = false := by rw [beq_eq_false_iff_ne]; omega
                have dvn : (vs.length == 0) = false := by rw [beq_eq_false_iff_ne]; exact hv0
                have hS0 : S.txs ≠ [] := fun e => hv0 (by rw [hN.len, e]; rfl)
                rw [if_neg hS0] at HST
                have CA3 := fun W => bt_and S.cur.1 S.cur.2.1 S.cur.2.2 1 z p W (HC.out.small (by omega)).1 (HC.out.small (by omega)).2.1 (HC.out.small (by omega)).2.2 ⟨by decide, by decide⟩ ⟨by omega, by omega⟩ ⟨by omega, by omega⟩
                have CI3 := fun W => bt_within (S.cur.1 + 1) (S.cur.2.1 + z) (S.cur.2.2 + p) lg lb lc W
                obtain ⟨f9, hf9⟩ : ∃ x, withinB (S.cur.1 + 1) (S.cur.2.1 + z) (S.cur.2.2 + p) lg lb lc = x := ⟨_, rfl⟩
                simp only [hf9] at CI3
                have HF9 : Hid (inL (lg, lb, lc) (addL S.cur (wL m)) = f9) := Lib.hid (by rw [HW.out]; exact hf9)
                clear hf9
                go_upto_region 19 with fail
                refine wp_nameE _ (fun W17 hX17 => ?_)
                rw [← hX17] at hN hL hF hC hq hM hbel hbw
                clear hX17
                have hLl7 := (Array.getElem?_eq_some_iff.1 hL).1
                have hCl7 := (Array.getElem?_eq_some_iff.1 hC).1
                have hql7 := (Array.getElem?_eq_some_iff.1 hq).1
                refine wp_region_facts [Fact.eq (.agg #[.int .i64 (S.cur.1), .int .i64 (S.cur.2.1), .int .i64 (S.cur.2.2)]), Fact.eq (.agg #[.int .i64 (1), .int .i64 (z), .int .i64 (p)]), Fact.eq (.agg #[.int .i64 (S.cur.1 + 1), .int .i64 (S.cur.2.1 + z), .int .i64 (S.cur.2.2 + p)]), Fact.eq (.agg #[.int .i64 (lg), .int .i64 (lb), .int .i64 (lc)]), Fact.eq (.bool f9), Fact.eq (.bool (!f9))] (by kernel_rfl) (by kernel_rfl) (by kernel_rfl) (by kernel_rfl) (fun x => by simp only [fillFrom, Act.put, List.setIfInBounds_toArray, List.set_cons_succ, List.set_cons_zero]; rfl) ?_ ?_
                · refine ⟨?_, ?_, ?_, ?_, ?_, ?_, trivial⟩
                  · intro x w' hbw hd
                    clear hd
                    have hCr := cells_of hC hbw hCl7
                    go_wp2_with (first | (refine wpList_load_mid rfl 113 (.tmp 14) rfl gc 0 rfl (#[.int .i64 (S.cur.1), .int .i64 (S.cur.2.1), .int .i64 (S.cur.2.2)] : Array Value).toList _ (rangeAt_row5 hCr) Try.underlying113 rfl (by rfl) ?_; rw [Array.toArray_toList]))
                    exact frPost_mk rfl (by repeat (first | assumption | exact Below.refl _ _ | refine bch ?_ (by assumption) | refine Below.alloc ?_ (by simp) _)) rfl
                  · intro x w' hbw hd
                    clear hd
                    have hqr := cells_of hq hbw hql7
                    go_wp2_with (first | (refine wpList_load_mid rfl 113 (.tmp 19) rfl gq 0 rfl (#[.int .i64 (1), .int .i64 (z), .int .i64 (p)] : Array Value).toList _ (rangeAt_row5 hqr) Try.underlying113 rfl (by rfl) ?_; rw [Array.toArray_toList]))
                    exact frPost_mk rfl (by repeat (first | assumption | exact Below.refl _ _ | refine bch ?_ (by assumption) | refine Below.alloc ?_ (by simp) _)) rfl
                  · intro x w' hbw hd
                    have d0 : x 0 = .agg #[.int .i64 (S.cur.1), .int .i64 (S.cur.2.1), .int .i64 (S.cur.2.2)] := hd 0 rfl
                    have d1 : x 1 = .agg #[.int .i64 (1), .int .i64 (z), .int .i64 (p)] := hd 1 rfl
                    clear hd
                    go_wp2_with (first | (go_at_call 87; refine (CA3 _).mono ?_; rintro e wx ⟨rfl, hbx⟩))
                    exact frPost_mk rfl (by repeat (first | assumption | exact Below.refl _ _ | refine bch ?_ (by assumption) | refine Below.alloc ?_ (by simp) _)) rfl
                  · intro x w' hbw hd
                    clear hd
                    have hLr := cells_of hL hbw hLl7
                    go_wp2_with (first | (refine wpList_load_mid rfl 58 (.tmp 4) rfl w.heap.size 0 rfl (#[.int .i64 (lg), .int .i64 (lb), .int .i64 (lc)] : Array Value).toList _ (rangeAt_row5 hLr) Try.underlying58 rfl (by rfl) ?_; rw [Array.toArray_toList]))
                    exact frPost_mk rfl (by repeat (first | assumption | exact Below.refl _ _ | refine bch ?_ (by assumption) | refine Below.alloc ?_ (by simp) _)) rfl
                  · intro x w' hbw hd
                    have d2 : x 2 = .agg #[.int .i64 (S.cur.1 + 1), .int .i64 (S.cur.2.1 + z), .int .i64 (S.cur.2.2 + p)] := hd 2 rfl
                    have d3 : x 3 = .agg #[.int .i64 (lg), .int .i64 (lb), .int .i64 (lc)] := hd 3 rfl
                    clear hd
                    go_wp2_with (first | (go_at_call 88; refine (CI3 _).mono ?_; rintro e wx ⟨rfl, hbx⟩))
                    exact frPost_mk rfl (by repeat (first | assumption | exact Below.refl _ _ | refine bch ?_ (by assumption) | refine Below.alloc ?_ (by simp) _)) rfl
                  · intro x w' hbw hd
                    have d4 : x 4 = .bool f9 := hd 4 rfl
                    clear hd
                    go_wp2_with fail
                    exact frPost_mk rfl (by repeat (first | assumption | exact Below.refl _ _ | refine bch ?_ (by assumption) | refine Below.alloc ?_ (by simp) _)) rfl
                intro x19 wg hbw19 hd
                have d5 : x19 5 = .bool (!f9) := hd 5 (by decide)
                clear hd
                simp only [Nat.zero_add, Nat.reduceAdd, d5]
                have hN := hN.below hbw19
                have hL := cells_of hL hbw19 (by omega)
                have hF := cells_of hF hbw19 (by omega)
                have hC := cells_of hC hbw19 (by omega)
                have hq := cells_of hq hbw19 hql7
                have hM := hM.kept (grown_below hbw19) (by simp)
                have hbel := hbel.trans (hbw19.mono hbel.size)
                have hbw := Nat.le_trans hbw hbw19.size
                cases f9
                case true =>
                  have CA2 := fun W => bt_and (S.cur.1) (S.cur.2.1) (S.cur.2.2) 1 z p W (HC.out.small (by omega)).1 (HC.out.small (by omega)).2.1 (HC.out.small (by omega)).2.2 ⟨by decide, by decide⟩ ⟨by omega, by omega⟩ ⟨by omega, by omega⟩
                  
                  go_upto_region 23 with (first | (refine wpList_load_mid rfl 113 (.tmp 14) rfl gc 0 rfl (#[.int .i64 (S.cur.1), .int .i64 (S.cur.2.1), .int .i64 (S.cur.2.2)] : Array Value).toList _ (rangeAt_row5 hC) Try.underlying113 rfl (by rfl) ?_; rw [Array.toArray_toList]) | (refine wpList_load_mid rfl 113 (.tmp 19) rfl gq 0 rfl (#[.int .i64 (1), .int .i64 (z), .int .i64 (p)] : Array Value).toList _ (rangeAt_row5 hq) Try.underlying113 rfl (by rfl) ?_; rw [Array.toArray_toList]) | (go_at_call 87; refine (CA2 _).mono ?_; rintro e w12 ⟨rfl, hb12⟩; have hN := hN.below hb12; have hL := cells_of hL hb12 (by omega); have hF := cells_of hF hb12 (by omega); have hC := cells_of hC hb12 (by omega); have hM := hM.kept (grown_below hb12) (by simp); have hbel := hbel.trans (hb12.mono hbel.size); have hbw := Nat.le_trans hbw hb12.size; clear hb12) | (refine wpList_storeRowTo (Z := #[.int .i64 (S.cur.1 + 1), .int .i64 (S.cur.2.1 + z), .int .i64 (S.cur.2.2 + p)]) rfl (.tmp 14) (.tmp 98) 113 rfl (by kernel_rfl) rfl (by rfl) hC rfl (ld_one _ _ _) ?_))
                  refine wp_nameE _ (fun W13 hX => ?_)
                  have hN := hN.setRow (g := gc) (by omega) #[.int .i64 (S.cur.1 + 1), .int .i64 (S.cur.2.1 + z), .int .i64 (S.cur.2.2 + p)]
                  rw [← hX] at hN
                  have hL : W13.heap[w.heap.size]? = some (.cells #[.int .i64 (lg), .int .i64 (lb), .int .i64 (lc)] 58 (0, 0)) := by rw [hX]; exact (setRow_other _ _ _ _ (by omega)).trans hL
                  have hF : W13.heap[gf]? = some (.cells #[.int .i64 (f1), .int .i64 (f2), .int .i64 (f3)] 113 (0, 0)) := by rw [hX]; exact (setRow_other _ _ _ _ (by omega)).trans hF
                  have hC : W13.heap[gc]? = some (.cells #[.int .i64 (S.cur.1 + 1), .int .i64 (S.cur.2.1 + z), .int .i64 (S.cur.2.2 + p)] 113 (0, 0)) := by rw [hX]; exact setRow_heap _ _ _ _ _ _ hC
                  have hM : W13.ownsMap Try.prog 3 (plainElem Try.prog 3) gm k D := by rw [hX]; exact hM.kept (row := some gc) ⟨rfl, rfl, rfl, by rw [setRow_size]; exact Nat.le_refl _, fun i9 _ hne => setRow_other _ _ _ _ (fun e => hne (by rw [e]))⟩ (fun e => by have := Option.some.inj e; omega)
                  have hbel : Below w.heap.size w W13 := by rw [hX]; exact below_setRow hbel (by omega) _
                  have hbw : base ≤ W13.heap.size := by rw [hX, setRow_size]; exact hbw
                  clear hX CA2
                  obtain ⟨k9, hk9⟩ : ∃ k9, vs.length = k9 + 1 := ⟨vs.length - 1, by omega⟩
                  obtain ⟨g, tcap9, htv, hgb, hgl⟩ := hN.o.form (by omega)
                  simp only [Value.slice.injEq, true_and] at htv
                  obtain ⟨rfl, rfl⟩ := htv
                  have hk9l : k9 ≤ 70 := by have := hN.len; have := HZ.out.2.1; omega
                  obtain ⟨v, hv⟩ : ∃ v, vs[k9]? = some v := ⟨_, List.getElem?_eq_getElem (by omega)⟩
                  obtain ⟨zs, hz, hi9⟩ := hN.ivl hv
                  have hzl : zs.length ≤ 70 := by have := HZ.out.2.2.2 zs (List.mem_of_getElem? hz); omega
                  have ho := hN.o
                  rw [hk9] at ho
                  have hc9 : W13.cell? ⟨g, k9, none⟩ = some v := (ho.cellAt k9 (by omega)).trans hv
                  simp only [hk9] at hN ⊢
                  have hb14 : Below W13.heap.size W13 (W13.alloc (.cells #[.int .i64 (k : Int)] 3)) := Below.alloc (Below.refl _ _) (Nat.le_refl _) _
                  have hN14 := hN.below hb14
                  have hL := cells_of hL hb14 (by omega)
                  have hF := cells_of hF hb14 (by omega)
                  have hC := cells_of hC hb14 (by omega)
                  have hM := hM.kept (grown_below hb14) (by simp)
                  have hbel := hbel.trans (hb14.mono hbel.size)
                  have hbw := Nat.le_trans hbw hb14.size
                  have q0 : (0 : Int) ≤ (k9 : Int) := by omega
                  have q1 : (k9 : Int) < (k9 : Int) + 1 := by omega
                  have q2 : (k9 : Int) + 1 - 1 = (k9 : Int) := by omega
                  have q3 : ((k9 + 1 : Nat) : Int) - 1 = (k9 : Int) := by omega
                  have q4 : ((k9 : Nat) : Int).toNat = k9 := by omega
                  obtain ⟨i0, hi, hzI, hsI, hbI⟩ := info_parts Try.infoI
                  go_upto_region 24 with (at_builtin; refine wpList_append_own_at _ rfl (.tmp 108) (.tmp 110) 59 rfl base 3 i0 (.int .i64 0) 1 8 Try.underlying59 hi hzI hsI hbI rfl (by decide) _ _ _ rfl (hN14.i k9 v zs hv hz).1 ⟨W13.heap.size, 0, none⟩ 1 1 [.int .i64 (k : Int)] rfl rfl (cell_one_new _ _ _) (fun u hu => by rw [List.mem_singleton.1 hu]; rfl) (by unfold maxLen; omega) (by omega) hbw ?_; intro v' w15 hown15 hgr15 _ hat15; obtain ⟨a15, cap15, hv15, _⟩ := own_slice hown15; subst hv15; have o15 := hN14.o.kept hgr15 (hN14.d2 k9 v hv).symm.off; rw [hk9] at o15; have hfz := o15.frozenAt k9; have hck := (o15.cellAt k9 (by omega)).trans hv)
                  have hg16 := (o15.stored k9 (.slice a15 (zs.length + 1) cap15)).2
                  have hN := hN14.push rfl hk9.symm hv hz hkw hown15 hgr15 hat15
                  have lowv := (hN14.i k9 v zs hv hz).1.lt
                  have hL := grown_at hg16 (grown_at hgr15 hL (fun e => by have := (lowv _ e.symm).1; omega)) (fun e => by have := Option.some.inj e; omega)
                  have hF := grown_at hg16 (grown_at hgr15 hF (fun e => by have := (lowv _ e.symm).1; omega)) (fun e => by have := Option.some.inj e; omega)
                  have hC := grown_at hg16 (grown_at hgr15 hC (fun e => by have := (lowv _ e.symm).1; omega)) (fun e => by have := Option.some.inj e; omega)
                  have hM := (hM.kept hgr15 (fun e => by have := (lowv _ e.symm).1; omega)).kept hg16 (fun e => by have := Option.some.inj e; omega)
                  have hbel := (hbel.grown hgr15 hbel.size (fun j hj => by have := (lowv j hj).1; omega)).grown hg16 (by have := hgr15.size; have := hbel.size; omega) (fun j hj => by cases hj; omega)
                  have hbw := Nat.le_trans (Nat.le_trans hbw hgr15.size) hg16.size
                  have hTl : S.txs.length = k9 + 1 := hN14.len.symm.trans hk9
                  have hT9 : S.txs.set k9 (zs ++ [(k : Int)]) = putLast S.txs k := putLast_set hTl hz _
                  have hmem9 := HZ.out.2.2.2
                  have hTL : (putLast S.txs (k : Int)).length ≤ k + 1 := by rw [← hT9, List.length_set]; have := HZ.out.2.1; omega
                  have hTM : ∀ zs9 ∈ putLast S.txs (k : Int), zs9.length ≤ k + 1 := fun zs9 h9 => by
                    rw [← hT9] at h9
                    rcases List.mem_or_eq_of_mem_set h9 with h9 | h9
                    · have := hmem9 zs9 h9; omega
                    · rw [h9, List.length_append, List.length_singleton]; have := hmem9 zs (List.mem_of_getElem? hz); omega
                  rw [hT9] at hN
                  rw [if_pos HF9.out] at HST
                  go_wp2
                  go_roundw
                  case rel =>
                    refine ⟨k + 1, _, ⟨putLast S.txs (k : Int), S.sk, addL S.cur (wL m), S.br⟩, D, by omega, by go_num, Hid.sym' HST, hN, hL, hF, by rw [HW.out]; exact hC, hM.mono (Nat.le_succ _), HD, Lib.hid (by rw [HW.out]; exact HC.out.add hzr hpr), Lib.hid ?_, hbw, hbel⟩
                    have q9 := HZ.out
                    exact ⟨by show S.sk.length ≤ _; omega, hTL, by show S.br.length ≤ _; omega, hTM⟩
                  case measure => (simp [intOf]) <;> omega
                case false =>
                  rw [if_neg (by rw [HF9.out]; decide)] at HST
                  go_upto_region 21 with (first | (go_at_call 89; refine (bt_empty _).mono ?_; rintro e w20 ⟨rfl, hb20⟩; have hq := cells_of hq hb20 (Array.getElem?_eq_some_iff.1 hq).1; have hN := hN.below hb20; have hL := cells_of hL hb20 (by omega); have hF := cells_of hF hb20 (by omega); have hC := cells_of hC hb20 (by omega); have hM := hM.kept (grown_below hb20) (by simp); have hbel := hbel.trans (hb20.mono hbel.size); have hbw := Nat.le_trans hbw hb20.size; clear hb20) | (refine wpList_storeRowTo (Z := #[.int .i64 (0), .int .i64 (1), .int .i64 (0)]) rfl (.tmp 14) (.tmp 92) 113 rfl (by kernel_rfl) rfl (by rfl) hC rfl (ld_one _ _ _) ?_))
                  refine wp_nameE _ (fun W21 hX => ?_)
                  have hN := hN.setRow (g := gc) (by omega) #[.int .i64 (0), .int .i64 (1), .int .i64 (0)]
                  rw [← hX] at hN
                  have hL : W21.heap[w.heap.size]? = some (.cells #[.int .i64 (lg), .int .i64 (lb), .int .i64 (lc)] 58 (0, 0)) := by rw [hX]; exact (setRow_other _ _ _ _ (by omega)).trans hL
                  have hF : W21.heap[gf]? = some (.cells #[.int .i64 (f1), .int .i64 (f2), .int .i64 (f3)] 113 (0, 0)) := by rw [hX]; exact (setRow_other _ _ _ _ (by omega)).trans hF
                  have hC : W21.heap[gc]? = some (.cells #[.int .i64 (0), .int .i64 (1), .int .i64 (0)] 113 (0, 0)) := by rw [hX]; exact setRow_heap _ _ _ _ _ _ hC
                  have hq : W21.heap[gq]? = some (.cells #[.int .i64 (1), .int .i64 (z), .int .i64 (p)] 113 (0, 0)) := by rw [hX]; exact (setRow_other _ _ _ _ (by omega)).trans hq
                  have hM : W21.ownsMap Try.prog 3 (plainElem Try.prog 3) gm k D := by rw [hX]; exact hM.kept (row := some gc) ⟨rfl, rfl, rfl, by rw [setRow_size]; exact Nat.le_refl _, fun i9 _ hne => setRow_other _ _ _ _ (fun e => hne (by rw [e]))⟩ (fun e => by have := Option.some.inj e; omega)
                  have hbel : Below w.heap.size w W21 := by rw [hX]; exact below_setRow hbel (by omega) _
                  have hbw : base ≤ W21.heap.size := by rw [hX, setRow_size]; exact hbw
                  clear hX
                  have hb10 : Below W21.heap.size W21 (W21.alloc (.cells #[.slice none 0 0] 59)) := Below.alloc (Below.refl _ _) (Nat.le_refl _) _
                  have hN := hN.below hb10
                  have hL := cells_of hL hb10 (by omega)
                  have hF := cells_of hF hb10 (by omega)
                  have hC := cells_of hC hb10 (by omega)
                  have hq := cells_of hq hb10 (Array.getElem?_eq_some_iff.1 hq).1
                  have hM := hM.kept (grown_below hb10) (by simp)
                  have hbel := hbel.trans (hb10.mono hbel.size)
                  have hbw := Nat.le_trans hbw hb10.size
                  have hvl : vs.length ≤ 70 := by rw [hN.len]; have := HZ.out.2.1; omega
                  clear hb10
                  go_upto_region 22 with (at_builtin; refine wpList_append_own_at _ rfl (.tmp 93) (.tmp 94) 60 rfl base 59 iS (.slice none 0 0) 1 24 Try.underlying60 hiS hzS hsS hbS rfl (by decide) _ _ _ rfl hN.o ⟨W21.heap.size, 0, none⟩ 1 1 [.slice none 0 0] rfl rfl (cell_one_new _ _ _) (fun u hu => by rw [List.mem_singleton.1 hu]; rfl) (by unfold maxLen; omega) (by omega) hbw ?_; intro tv' w10 hown10 hgr10 _ hat10)
                  have low := hN.o.lt
                  have hL := grown_at hgr10 hL (fun e => by have := (low _ e.symm).1; omega)
                  have hF := grown_at hgr10 hF (fun e => by have := (low _ e.symm).1; omega)
                  have hC := grown_at hgr10 hC (fun e => by have := (low _ e.symm).1; omega)
                  have hM := hM.kept hgr10 (fun e => by have := (low _ e.symm).1; omega)
                  have hbel := hbel.grown hgr10 hbel.size (fun j hj => by have := (low j hj).1; omega)
                  have hq := grown_at hgr10 hq (fun e => by have := htl _ e.symm; omega)
                  have hN := hN.opened hown10 hgr10 hat10
                  have hbw := Nat.le_trans hbw hgr10.size
                  clear low hown10 hgr10 hat10 htl
                  have CA2 := fun W => bt_and (0) (1) (0) 1 z p W ((curOk.empty k).small (by omega)).1 ((curOk.empty k).small (by omega)).2.1 ((curOk.empty k).small (by omega)).2.2 ⟨by decide, by decide⟩ ⟨by omega, by omega⟩ ⟨by omega, by omega⟩
                  simp only [Int.zero_add] at CA2
                  go_upto_region 23 with (first | (refine wpList_load_mid rfl 113 (.tmp 14) rfl gc 0 rfl (#[.int .i64 (0), .int .i64 (1), .int .i64 (0)] : Array Value).toList _ (rangeAt_row5 hC) Try.underlying113 rfl (by rfl) ?_; rw [Array.toArray_toList]) | (refine wpList_load_mid rfl 113 (.tmp 19) rfl gq 0 rfl (#[.int .i64 (1), .int .i64 (z), .int .i64 (p)] : Array Value).toList _ (rangeAt_row5 hq) Try.underlying113 rfl (by rfl) ?_; rw [Array.toArray_toList]) | (go_at_call 87; refine (CA2 _).mono ?_; rintro e w12 ⟨rfl, hb12⟩; have hN := hN.below hb12; have hL := cells_of hL hb12 (by omega); have hF := cells_of hF hb12 (by omega); have hC := cells_of hC hb12 (by omega); have hM := hM.kept (grown_below hb12) (by simp); have hbel := hbel.trans (hb12.mono hbel.size); have hbw := Nat.le_trans hbw hb12.size; clear hb12) | (refine wpList_storeRowTo (Z := #[.int .i64 (1), .int .i64 (1 + z), .int .i64 (p)]) rfl (.tmp 14) (.tmp 98) 113 rfl (by kernel_rfl) rfl (by rfl) hC rfl (ld_one _ _ _) ?_))
                  refine wp_nameE _ (fun W13 hX => ?_)
                  have hN := hN.setRow (g := gc) (by omega) #[.int .i64 (1), .int .i64 (1 + z), .int .i64 (p)]
                  rw [← hX] at hN
                  have hL : W13.heap[w.heap.size]? = some (.cells #[.int .i64 (lg), .int .i64 (lb), .int .i64 (lc)] 58 (0, 0)) := by rw [hX]; exact (setRow_other _ _ _ _ (by omega)).trans hL
                  have hF : W13.heap[gf]? = some (.cells #[.int .i64 (f1), .int .i64 (f2), .int .i64 (f3)] 113 (0, 0)) := by rw [hX]; exact (setRow_other _ _ _ _ (by omega)).trans hF
                  have hC : W13.heap[gc]? = some (.cells #[.int .i64 (1), .int .i64 (1 + z), .int .i64 (p)] 113 (0, 0)) := by rw [hX]; exact setRow_heap _ _ _ _ _ _ hC
                  have hM : W13.ownsMap Try.prog 3 (plainElem Try.prog 3) gm k D := by rw [hX]; exact hM.kept (row := some gc) ⟨rfl, rfl, rfl, by rw [setRow_size]; exact Nat.le_refl _, fun i9 _ hne => setRow_other _ _ _ _ (fun e => hne (by rw [e]))⟩ (fun e => by have := Option.some.inj e; omega)
                  have hbel : Below w.heap.size w W13 := by rw [hX]; exact below_setRow hbel (by omega) _
                  have hbw : base ≤ W13.heap.size := by rw [hX, setRow_size]; exact hbw
                  clear hX CA2
                  obtain ⟨k9, hk9⟩ : ∃ k9, (vs ++ [Value.slice none 0 0]).length = k9 + 1 := ⟨(vs ++ [Value.slice none 0 0]).length - 1, by rw [List.length_append, List.length_singleton]; rfl⟩
                  obtain ⟨g, tcap9, htv, hgb, hgl⟩ := hN.o.form (by omega)
                  subst htv
                  have hk9l : k9 ≤ 70 := by rw [List.length_append, List.length_singleton] at hk9; omega
                  obtain ⟨v, hv⟩ : ∃ v, (vs ++ [Value.slice none 0 0])[k9]? = some v := ⟨_, List.getElem?_eq_getElem (by omega)⟩
                  obtain ⟨zs, hz, hi9⟩ := hN.ivl hv
                  have hzl : zs.length ≤ 70 := by
                    rcases List.mem_append.1 (List.mem_of_getElem? hz) with h9 | h9
                    · have := HZ.out.2.2.2 zs h9; omega
                    · rw [List.mem_singleton.1 h9]; exact Nat.zero_le _
                  have ho := hN.o
                  rw [hk9] at ho
                  have hc9 : W13.cell? ⟨g, k9, none⟩ = some v := (ho.cellAt k9 (by omega)).trans hv
                  simp only [hk9] at hN ⊢
                  have hb14 : Below W13.heap.size W13 (W13.alloc (.cells #[.int .i64 (k : Int)] 3)) := Below.alloc (Below.refl _ _) (Nat.le_refl _) _
                  have hN14 := hN.below hb14
                  have hL := cells_of hL hb14 (by omega)
                  have hF := cells_of hF hb14 (by omega)
                  have hC := cells_of hC hb14 (by omega)
                  have hM := hM.kept (grown_below hb14) (by simp)
                  have hbel := hbel.trans (hb14.mono hbel.size)
                  have hbw := Nat.le_trans hbw hb14.size
                  have q0 : (0 : Int) ≤ (k9 : Int) := by omega
                  have q1 : (k9 : Int) < (k9 : Int) + 1 := by omega
                  have q2 : (k9 : Int) + 1 - 1 = (k9 : Int) := by omega
                  have q3 : ((k9 + 1 : Nat) : Int) - 1 = (k9 : Int) := by omega
                  have q4 : ((k9 : Nat) : Int).toNat = k9 := by omega
                  obtain ⟨i0, hi, hzI, hsI, hbI⟩ := info_parts Try.infoI
                  go_upto_region 24 with (at_builtin; refine wpList_append_own_at _ rfl (.tmp 108) (.tmp 110) 59 rfl base 3 i0 (.int .i64 0) 1 8 Try.underlying59 hi hzI hsI hbI rfl (by decide) _ _ _ rfl (hN14.i k9 v zs hv hz).1 ⟨W13.heap.size, 0, none⟩ 1 1 [.int .i64 (k : Int)] rfl rfl (cell_one_new _ _ _) (fun u hu => by rw [List.mem_singleton.1 hu]; rfl) (by unfold maxLen; omega) (by omega) hbw ?_; intro v' w15 hown15 hgr15 _ hat15; obtain ⟨a15, cap15, hv15, _⟩ := own_slice hown15; subst hv15; have o15 := hN14.o.kept hgr15 (hN14.d2 k9 v hv).symm.off; rw [hk9] at o15; have hfz := o15.frozenAt k9; have hck := (o15.cellAt k9 (by omega)).trans hv)
                  have hg16 := (o15.stored k9 (.slice a15 (zs.length + 1) cap15)).2
                  have hN := hN14.push rfl hk9.symm hv hz hkw hown15 hgr15 hat15
                  have lowv := (hN14.i k9 v zs hv hz).1.lt
                  have hL := grown_at hg16 (grown_at hgr15 hL (fun e => by have := (lowv _ e.symm).1; omega)) (fun e => by have := Option.some.inj e; omega)
                  have hF := grown_at hg16 (grown_at hgr15 hF (fun e => by have := (lowv _ e.symm).1; omega)) (fun e => by have := Option.some.inj e; omega)
                  have hC := grown_at hg16 (grown_at hgr15 hC (fun e => by have := (lowv _ e.symm).1; omega)) (fun e => by have := Option.some.inj e; omega)
                  have hM := (hM.kept hgr15 (fun e => by have := (lowv _ e.symm).1; omega)).kept hg16 (fun e => by have := Option.some.inj e; omega)
                  have hbel := (hbel.grown hgr15 hbel.size (fun j hj => by have := (lowv j hj).1; omega)).grown hg16 (by have := hgr15.size; have := hbel.size; omega) (fun j hj => by cases hj; omega)
                  have hbw := Nat.le_trans (Nat.le_trans hbw hgr15.size) hg16.size
                  have hT9 : (S.txs ++ [[]]).set k9 (zs ++ [(k : Int)]) = S.txs ++ [[(k : Int)]] := by
                    have h9 : k9 = S.txs.length := by have q8 := hN14.len; rw [List.length_append, List.length_append] at q8; rw [List.length_append, List.length_singleton] at hk9; simp at q8; omega
                    subst h9
                    rw [List.getElem?_append_right (Nat.le_refl _), Nat.sub_self] at hz
                    obtain rfl := Option.some.inj hz
                    rw [List.set_append_right _ _ (Nat.le_refl _), Nat.sub_self]
                    rfl
                  have hmem9 := HZ.out.2.2.2
                  rw [hT9] at hN
                  go_wp2
                  go_roundw
                  case rel =>
                    refine ⟨k + 1, _, ⟨S.txs ++ [[(k : Int)]], S.sk, addL (0, 1, 0) (wL m), S.br⟩, D, by omega, by go_num, Hid.sym' HST, hN, hL, hF, by rw [HW.out]; simp only [addL, Int.zero_add]; exact hC, hM.mono (Nat.le_succ _), HD, Lib.hid (by rw [HW.out]; exact (curOk.empty k).add hzr hpr), Lib.hid ?_, hbw, hbel⟩
                    have q9 := HZ.out
                    refine ⟨by show S.sk.length ≤ _; omega, by show (S.txs ++ [[(k : Int)]]).length ≤ _; rw [List.length_append, List.length_singleton]; omega, by show S.br.length ≤ _; omega, fun zs9 h9 => ?_⟩
                    rcases List.mem_append.1 h9 with h9 | h9
                    · have := hmem9 zs9 h9; omega
                    · rw [List.mem_singleton.1 h9]; show 1 ≤ _; omega
                  case measure => (simp [intOf]) <;> omega
end Go.Proofs.Ythipnkbfdkmhaaa
