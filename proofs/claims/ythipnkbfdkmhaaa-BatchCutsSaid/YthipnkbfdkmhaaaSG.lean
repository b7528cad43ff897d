/- The document's proofs and messages that are the same; lists of messages. The document's messages that are the same; lists of messages. -/
import Derived.Test.YthipnkbfdkmhaaaMsg2
import Derived.Test.YthipnkbfdkmhaaaSE
import Derived.BigRegion
import Derived.RegionTactic
import Derived.BigQuiet
import Derived.Deep.QuietTactic
import Derived.Deep.MidRow
import Derived.LoopTactic
import Derived.BigFrame
import Derived.Deep.CutRange
import Derived.WalkKit
import Derived.ProofKit
import Derived.Handy
import Derived.Below
import Derived.Lib.Hide
import Derived.IntWalk
import Derived.Outline
import Derived.WalkLawsBesides
import Derived.WalkSpells
import Derived.Test.YthipnkbfdkmhaaaSD
import Derived.Test.YthipnkbfdkmhaaaMsg4
namespace Go.Proofs.Ythipnkbfdkmhaaa
open Go.RowKit
attribute [local go_sem] strV
set_option linter.unusedVariables false
theorem leafB_split (x y : LeafV) : leafB x y = ((x.key.toList == y.key.toList) && (x.val.toList == y.val.toList) && (x.idx == y.idx) && hsB x.path y.path) := rfl
set_option maxRecDepth 100000 in
set_option maxHeartbeats 12800000 in
theorem refSamePf_any (ct : Int) (a1 : Option Addr) (n1 c1 : Nat) (es : List LeafV) (ct2 : Int) (a2 : Option Addr) (n2 c2 : Nat) (fs : List LeafV) (w : World) (h1 : LvsAt w a1 es) (h2 : LvsAt w a2 fs) (hn : es.length = n1) (hm : fs.length = n2) (hnm : n1 ≤ maxLen) (hmm : n2 ≤ maxLen) :
    Calls Try.prog 74 #[.agg #[.int .i64 ct, .slice a1 n1 c1], .agg #[.int .i64 ct2, .slice a2 n2 c2]] w fun e w' => e = .returned (.bool (pfB ct ct2 es fs)) ∧ Below w.heap.size w w' := by
  obtain ⟨k0, e0⟩ : ∃ b, (ct == ct2) = b := ⟨_, rfl⟩
  have hp0 := al2_0 w (.cells #[.int .i64 ct, .slice a1 n1 c1] 32) (.cells #[.int .i64 ct2, .slice a2 n2 c2] 32)
  have hq0 := al2_1 w (.cells #[.int .i64 ct, .slice a1 n1 c1] 32) (.cells #[.int .i64 ct2, .slice a2 n2 c2] 32)
  have hbA := al2_below w (.cells #[.int .i64 ct, .slice a1 n1 c1] 32) (.cells #[.int .i64 ct2, .slice a2 n2 c2] 32)
  have e0' : (ct != ct2) = !k0 := by rw [← e0]; rfl
  obtain ⟨r, hr⟩ : ∃ r, pfB ct ct2 es fs = r := ⟨_, rfl⟩
  have HR : Hid ((k0 && lvsB es fs) = r) := Lib.hid (by rw [← hr, ← e0]; rfl)
  rw [hr]
  have HN := Lib.hid hn
  have HM := Lib.hid hm
  clear hr hn hm
  unfold maxLen at hnm hmm
  have CB : n1 ≠ n2 → lvsB es fs = false := fun h => lvsB_ne (fun q => h (by have := congrArg List.length q; rw [List.length_map, List.length_map, HN.out, HM.out] at this; omega))
  go_enter Try.func74, Try.ntmps74
  go_upto_region 1 with fail
  refine wp_nameE _ (fun W1 hX => ?_)
  have hp : W1.heap[w.heap.size]? = some (.cells #[.int .i64 ct, .slice a1 n1 c1] 32 (0, 0)) := by rw [hX]; exact hp0
  have hq : W1.heap[w.heap.size + 1]? = some (.cells #[.int .i64 ct2, .slice a2 n2 c2] 32 (0, 0)) := by rw [hX]; exact hq0
  have hb1 : Below w.heap.size w W1 := by rw [hX]; exact hbA
  clear hX hp0 hq0 hbA
  have hpl : w.heap.size < W1.heap.size := (Array.getElem?_eq_some_iff.1 hp).1
  have hql : w.heap.size + 1 < W1.heap.size := (Array.getElem?_eq_some_iff.1 hq).1
  have p0 := cell_heap hp 0; have p1 := cell_heap hp 1; have q0 := cell_heap hq 0; have q1 := cell_heap hq 1
  cases k0
  · obtain rfl : false = r := by rw [← HR.out]; rfl
    go_wp2
    go_ret
    exact ⟨rfl, hb1⟩
  by_cases hnn : n1 = n2
  rotate_left
  · have e1 : ((n1 : Int) != (n2 : Int)) = true := by simpa using fun h => hnn (by omega)
    have e1n : (n1 != n2) = true := by simpa using hnn
    obtain rfl : false = r := by rw [← HR.out, CB hnn]; rfl
    go_wp2
    go_ret
    exact ⟨rfl, hb1⟩
  subst hnn
  have e1 : ((n1 : Int) != (n1 : Int)) = false := by simp
  have e1n : (n1 != n1) = false := by simp
  have HF : Hid (lvsB es fs = r) := Lib.hid (by rw [← HR.out]; rfl)
  clear CB HR
  go_upto_region 4 with fail
  go_loopw [5] (fun i wr => ∃ k : Nat, k ≤ n1 ∧ i = .int .i64 k ∧ Hid ((es.take k).map LeafV.d = (fs.take k).map LeafV.d) ∧ Below W1.heap.size W1 wr) (fun i _ => n1 - (intOf i).toNat)
  case atStart => exact ⟨0, Nat.zero_le _, rfl, Lib.hid rfl, Below.refl _ _⟩
  case round =>
    obtain ⟨k, hk, rfl, HT, hbW⟩ := hrel
    have hbel := hb1.trans (hbW.mono hb1.size)
    have hp := cells_of hp hbW hpl
    have hq := cells_of hq hbW hql
    clear p0 p1 q0 q1
    have p0 := cell_heap hp 0; have p1 := cell_heap hp 1; have q0 := cell_heap hq 0; have q1 := cell_heap hq 1
    by_cases hlt : k < n1
    · have d1 : decide ((k : Int) < (n1 : Int)) = true := decide_eq_true (by omega)
      have d1n : decide (k < n1) = true := decide_eq_true hlt
      have hkl : k < es.length := by rw [HN.out]; exact hlt
      have hkm : k < fs.length := by rw [HM.out]; exact hlt
      obtain ⟨b1, o1, rfl, hlb1, hg1⟩ := lv_range (h1.row.below hbel) hkl
      obtain ⟨b2, o2, rfl, hlb2, hg2⟩ := lv_range (h2.row.below hbel) hkm
      have ok1 := (h1.each _ (List.getElem_mem hkl)).below hbel
      have ok2 := (h2.each _ (List.getElem_mem hkm)).below hbel
      obtain ⟨⟨key, val, idx, pa, pn, pc, path⟩, hpp⟩ : ∃ p, es[k] = p := ⟨_, rfl⟩
      obtain ⟨⟨key2, val2, idx2, pa2, pn2, pc2, path2⟩, hpp2⟩ : ∃ p, fs[k] = p := ⟨_, rfl⟩
      rw [hpp] at hg1 ok1
      rw [hpp2] at hg2 ok2
      have hg1 : wr.rangeAt b1 (o1 + k * 4) [.string key, .string val, .int .i64 idx, .slice pa pn pc] := hg1
      have hg2 : wr.rangeAt b2 (o2 + k * 4) [.string key2, .string val2, .int .i64 idx2, .slice pa2 pn2 pc2] := hg2
      have n0 : (0 : Int) ≤ (k : Int) := by omega
      have n1' : (k : Int) < (n1 : Int) := by omega
      have n2' : ((k : Nat) : Int).toNat = k := by omega
      have hend : leafB ⟨key, val, idx, pa, pn, pc, path⟩ ⟨key2, val2, idx2, pa2, pn2, pc2, path2⟩ = false → r = false := fun q => by
        rw [← HF.out]
        refine lvsB_ne (fun q9 => ?_)
        have h9 : (es.map LeafV.d)[k]'(by rw [List.length_map]; exact hkl) = (fs.map LeafV.d)[k]'(by rw [List.length_map]; exact hkm) := by simp only [q9]
        rw [List.getElem_map, List.getElem_map, hpp, hpp2] at h9
        rw [leafB_iff.2 h9] at q
        cases q
      have hnext : leafB ⟨key, val, idx, pa, pn, pc, path⟩ ⟨key2, val2, idx2, pa2, pn2, pc2, path2⟩ = true → Hid ((es.take (k + 1)).map LeafV.d = (fs.take (k + 1)).map LeafV.d) := fun q => by
        refine Lib.hid ?_
        rw [List.take_succ_eq_append_getElem hkl, List.take_succ_eq_append_getElem hkm, List.map_append, List.map_append, HT.out, hpp, hpp2, List.map_singleton, List.map_singleton, leafB_iff.1 q]
      rw [leafB_split] at hend hnext
      simp only at hend hnext
      have HEND := Lib.hid hend
      have HNEXT := Lib.hid hnext
      clear hend hnext
      have u0 := hg1 0 _ rfl; have u1 := hg1 1 _ rfl; have u2 := hg1 2 _ rfl; have u3 := hg1 3 _ rfl
      have v0 := hg2 0 _ rfl; have v1 := hg2 1 _ rfl; have v2 := hg2 2 _ rfl; have v3 := hg2 3 _ rfl
      simp only [Nat.add_zero] at u0 v0
      clear hpp hpp2
      obtain ⟨r1, l1, cp1, m1, _, _⟩ := ok1
      obtain ⟨r2, l2, cp2, m2, _, _⟩ := ok2
      simp only at r1 l1 cp1 m1 r2 l2 cp2 m2
      unfold maxLen at m1 m2
      have L1 := Lib.hid l1
      have L2 := Lib.hid l2
      clear l1 l2
      have hlp : w.heap.size < wr.heap.size := Nat.lt_of_lt_of_le hpl hbW.size
      have hlq : w.heap.size + 1 < wr.heap.size := Nat.lt_of_lt_of_le hql hbW.size
      have ne1 : w.heap.size ≠ wr.heap.size := by omega
      have ne2 : w.heap.size + 1 ≠ wr.heap.size := by omega
      have ne3 : b1 ≠ wr.heap.size := by omega
      have ne4 : b2 ≠ wr.heap.size := by omega
      have ne5 : w.heap.size ≠ wr.heap.size + 1 := by omega
      have ne6 : w.heap.size + 1 ≠ wr.heap.size + 1 := by omega
      have ne7 : b1 ≠ wr.heap.size + 1 := by omega
      have ne8 : b2 ≠ wr.heap.size + 1 := by omega
      go_upto_region 6 with fail
      go_cut [6, 7] from 23 to 85 (fun s t wc => ∃ g0 g1 : Nat, s = .pointer (some ⟨g0, 0, none⟩) ∧ t = .pointer (some ⟨g1, 0, none⟩) ∧ wc.heap[g0]? = some (.cells #[.string key, .string val, .int .i64 idx, .slice pa pn pc] 111 (0, 0)) ∧ wc.heap[g1]? = some (.cells #[.string key2, .string val2, .int .i64 idx2, .slice pa2 pn2 pc2] 111 (0, 0)) ∧ Below wr.heap.size wr wc)
      case first =>
        go_region
        · go_wp2
          go_meet
          exact ⟨_, _, rfl, rfl, al2_0 _ _ _, al2_1 _ _ _, (al2_below _ _ _).drew⟩
        · go_wp2
          go_meet
          exact ⟨_, _, rfl, rfl, al2_1 _ _ _, al2_0 _ _ _, (al2_below _ _ _).drew⟩
      case rest =>
        clear ne1 ne2 ne3 ne4 ne5 ne6 ne7 ne8 u0 u1 u2 u3 v0 v1 v2 v3 hg1 hg2
        obtain ⟨g0, g1, rfl, rfl, hx, hy, hb6⟩ := hcut
        have hp := cells_of hp hb6 hlp
        have hq := cells_of hq hb6 hlq
        have r1 := r1.below hb6
        have r2 := r2.below hb6
        have hbel := hbel.trans (hb6.mono hbel.size)
        have hb16 := hbW.trans (hb6.mono hbW.size)
        clear p0 p1 q0 q1 hb6
        have x0 := cell_heap hx 0; have x1 := cell_heap hx 1; have x2 := cell_heap hx 2; have x3 := cell_heap hx 3; have y0 := cell_heap hy 0; have y1 := cell_heap hy 1; have y2 := cell_heap hy 2; have y3 := cell_heap hy 3
        have hxl : g0 < wc.heap.size := (Array.getElem?_eq_some_iff.1 hx).1
        have hyl : g1 < wc.heap.size := (Array.getElem?_eq_some_iff.1 hy).1
        obtain ⟨f0, e2⟩ : ∃ b, (key.toList == key2.toList) = b := ⟨_, rfl⟩
        obtain ⟨f1, e3⟩ : ∃ b, (val.toList == val2.toList) = b := ⟨_, rfl⟩
        obtain ⟨f2, e4⟩ : ∃ b, (idx == idx2) = b := ⟨_, rfl⟩
        have e2' : (key.toList != key2.toList) = !f0 := by rw [← e2]; rfl
        have e3' : (val.toList != val2.toList) = !f1 := by rw [← e3]; rfl
        have e4' : (idx != idx2) = !f2 := by rw [← e4]; rfl
        have hend := HEND.out
        have hnext := HNEXT.out
        rw [e2, e3, e4] at hend hnext
        have HEND := Lib.hid hend
        have HNEXT := Lib.hid hnext
        clear hend hnext
        cases f0
        · obtain rfl := HEND.out rfl
          go_wp2
          go_ret
          exact ⟨rfl, hbel⟩
        cases f1
        · obtain rfl := HEND.out rfl
          go_wp2
          go_ret
          exact ⟨rfl, hbel⟩
        cases f2
        · obtain rfl := HEND.out rfl
          go_wp2
          go_ret
          exact ⟨rfl, hbel⟩
        by_cases hpn : pn = pn2
        rotate_left
        · have e5 : ((pn : Int) != (pn2 : Int)) = true := by simpa using fun h => hpn (by omega)
          have e5n : (pn != pn2) = true := by simpa using hpn
          obtain rfl := HEND.out (by rw [show hsB path path2 = false from decide_eq_false (fun q => hpn (by rw [← L1.out, ← L2.out, q]))]; rfl)
          go_wp2
          go_ret
          exact ⟨rfl, hbel⟩
        subst hpn
        have e5 : ((pn : Int) != (pn : Int)) = false := by simp
        have e5n : (pn != pn) = false := by simp
        have HE : Hid (hsB path path2 = false → r = false) := Lib.hid fun q => HEND.out (by rw [q]; rfl)
        have HX : Hid (hsB path path2 = true → Hid ((es.take (k + 1)).map LeafV.d = (fs.take (k + 1)).map LeafV.d)) := Lib.hid fun q => HNEXT.out (by rw [q]; rfl)
        clear HEND HNEXT
        go_upto_region 10 with fail
        go_loopw [8] (fun i wr => ∃ j : Nat, j ≤ pn ∧ i = .int .i64 j ∧ Hid (path.take j = path2.take j) ∧ Below wc.heap.size wc wr) (fun i _ => pn - (intOf i).toNat)
        case atStart => exact ⟨0, Nat.zero_le _, rfl, Lib.hid rfl, Below.refl _ _⟩
        case round =>
          obtain ⟨j, hj, rfl, HP, hbv⟩ := hrel
          have hbel := hbel.trans (hbv.mono hbel.size)
          have hb16 := hb16.trans (hbv.mono hb16.size)
          have hx := cells_of hx hbv hxl
          have hy := cells_of hy hbv hyl
          have hxl := Nat.lt_of_lt_of_le hxl hbv.size
          have hyl := Nat.lt_of_lt_of_le hyl hbv.size
          clear x0 x1 x2 x3 y0 y1 y2 y3
          have x3 := cell_heap hx 3; have y3 := cell_heap hy 3
          by_cases hjt : j < pn
          · have d2 : decide ((j : Int) < (pn : Int)) = true := decide_eq_true (by omega)
            have d2n : decide (j < pn) = true := decide_eq_true hjt
            have hj1 : j < path.length := by rw [L1.out]; exact hjt
            have hj2 : j < path2.length := by rw [L2.out]; exact hjt
            obtain ⟨b3, o3, rfl, hb3, hg3⟩ := hs_at (r1.below hbv) hj1
            obtain ⟨b4, o4, rfl, hb4, hg4⟩ := hs_at (r2.below hbv) hj2
            have z3 : ∀ n : Beyond wr, n.x.cell? ⟨g0, 3, none⟩ = some (.slice (some ⟨b3, o3, none⟩) pn pc) := fun n => cell_heap (cells_of hx n.h hxl) 3
            have z4 : ∀ n : Beyond wr, n.x.cell? ⟨g1, 3, none⟩ = some (.slice (some ⟨b4, o4, none⟩) pn pc2) := fun n => cell_heap (cells_of hy n.h hyl) 3
            obtain ⟨q, hqq⟩ : ∃ p, path[j] = p := ⟨_, rfl⟩
            obtain ⟨q2, hqq2⟩ : ∃ p, path2[j] = p := ⟨_, rfl⟩
            rw [hqq] at hg3
            rw [hqq2] at hg4
            have l1 := fun m => load_hash_mid hg3 hb3 m
            have l2 := fun m => load_hash_mid hg4 hb4 m
            have hEQ := fun V : World => (run_equal_hash V 23 q.1 q2.1 q.2 q2.2 Try.underlying23 Try.underlying5 (by kernel_rfl) : (Op.equalIn 10000 23 (.agg (hrow q.1)) (.agg (hrow q2.1))).run Try.prog V = .ok (q.1 == q2.1) V)
            obtain ⟨eb, heb⟩ : ∃ b, (q.1 == q2.1) = b := ⟨_, rfl⟩
            simp only [heb] at hEQ
            have m0 : (0 : Int) ≤ (j : Int) := by omega
            have m1' : (j : Int) < (pn : Int) := by omega
            have m2' : ((j : Nat) : Int).toNat = j := by omega
            cases eb
            · obtain rfl := HE.out (by
                unfold hsB
                rw [decide_eq_false_iff_not]
                intro q9
                have : q = q2 := by subst q9; rw [← hqq, ← hqq2]
                subst this
                simp at heb)
              clear heb hqq hqq2 hg3 hg4 HE HX
              go_upto_region 12 with fail
              refine wp_region_below (by kernel_rfl) (by kernel_rfl) ?_
              repeat (first | (go_big_quiet_want; refine hload9 (v := .agg (hrow q.1)) 23 (.tmp 78) rfl (by rfl) (by rintro _ ⟨m, rfl⟩; exact l1 m) ?_; simp only [Act.put, List.setIfInBounds_toArray, List.set_cons_succ, List.set_cons_zero]; go_big_quiet_on) | (go_big_quiet_want; refine hload9 (v := .agg (hrow q2.1)) 23 (.tmp 83) rfl (by rfl) (by rintro _ ⟨m, rfl⟩; exact l2 m) ?_; simp only [Act.put, List.setIfInBounds_toArray, List.set_cons_succ, List.set_cons_zero]; go_big_quiet_on) | (go_big_quiet_step (fail)))
              intro w9 hw9
              have hb9 := beyond_below hw9
              go_wp2
              go_ret
              exact ⟨rfl, hbel.trans (hb9.mono hbel.size)⟩
            · have HS : Hid (path.take (j + 1) = path2.take (j + 1)) := Lib.hid (by rw [List.take_succ_eq_append_getElem hj1, List.take_succ_eq_append_getElem hj2, HP.out, hqq, hqq2, Subtype.ext (beq_iff_eq.1 heb)])
              clear heb hqq hqq2 hg3 hg4 HE HX
              go_upto_region 12 with fail
              refine wp_region_below (by kernel_rfl) (by kernel_rfl) ?_
              repeat (first | (go_big_quiet_want; refine hload9 (v := .agg (hrow q.1)) 23 (.tmp 78) rfl (by rfl) (by rintro _ ⟨m, rfl⟩; exact l1 m) ?_; simp only [Act.put, List.setIfInBounds_toArray, List.set_cons_succ, List.set_cons_zero]; go_big_quiet_on) | (go_big_quiet_want; refine hload9 (v := .agg (hrow q2.1)) 23 (.tmp 83) rfl (by rfl) (by rintro _ ⟨m, rfl⟩; exact l2 m) ?_; simp only [Act.put, List.setIfInBounds_toArray, List.set_cons_succ, List.set_cons_zero]; go_big_quiet_on) | (go_big_quiet_step (fail)))
              intro w9 hw9
              have hb9 := beyond_below hw9
              go_wp2
              go_roundw
              case rel => exact ⟨j + 1, by omega, by go_num, HS, hbv.trans (hb9.mono hbv.size)⟩
              case measure => (simp [intOf]) <;> omega
          · have d2 : decide ((j : Int) < (pn : Int)) = false := decide_eq_false (by omega)
            have d2n : decide (j < pn) = false := decide_eq_false hjt
            have HS := HX.out (by
              have := HP.out
              rw [List.take_of_length_le (by rw [L1.out]; omega), List.take_of_length_le (by rw [L2.out]; omega)] at this
              exact decide_eq_true this)
            clear HE HX
            go_wp2
            go_roundw
            case rel => exact ⟨k + 1, by omega, by go_num, HS, hb16⟩
            case measure => (simp [intOf]) <;> omega
    · have d1 : decide ((k : Int) < (n1 : Int)) = false := decide_eq_false (by omega)
      have d1n : decide (k < n1) = false := decide_eq_false hlt
      have hgood : r = true := by
        have := HT.out
        rw [List.take_of_length_le (by rw [HN.out]; omega), List.take_of_length_le (by rw [HM.out]; omega)] at this
        rw [← HF.out]; exact (lvsB_iff _ _).2 this
      subst hgood
      go_wp2
      go_ret
      exact ⟨rfl, hbel⟩
end Go.Proofs.Ythipnkbfdkmhaaa
namespace Go.Proofs.Ythipnkbfdkmhaaa
open Go.RowKit
attribute [local go_sem] strV
set_option linter.unusedVariables false
set_option maxRecDepth 100000 in
set_option maxHeartbeats 4000000 in
theorem refSameMsg_any (m n : MsgV) (w : World) (hm : m.ok w) (hn : n.ok w) :
    Calls Try.prog 23 #[.agg m.row, .agg n.row] w fun e w' => e = .returned (.bool (msgB m n)) ∧ Below w.heap.size w w' := by
  have hg0 := al2_0 w (.cells m.row 34) (.cells n.row 34)
  have hh0 := al2_1 w (.cells m.row 34) (.cells n.row 34)
  have hbA := al2_below w (.cells m.row 34) (.cells n.row 34)
  have CE1 := fun W (hb : Below w.heap.size w W) => refSamePf_any m.pct m.pa m.pn m.pc m.pxs n.pct n.pa n.pn n.pc n.pxs W (hm.p.below hb) (hn.p.below hb) hm.plen hn.plen (Nat.le_trans hm.pcap hm.pcM) (Nat.le_trans hn.pcap hn.pcM)
  have CE2 := fun W (hb : Below w.heap.size w W) => refSamePf_any m.cct m.ca m.cn m.cc m.cxs n.cct n.ca n.cn n.cc n.cxs W (hm.c.below hb) (hn.c.below hb) hm.clen hn.clen (Nat.le_trans hm.ccap hm.ccM) (Nat.le_trans hn.ccap hn.ccM)
  have hE1 := run_equal_hdr m.hh m.ht m.rt n.hh n.ht n.rt
  have hE2 := run_equal_pk8 m.sp n.sp m.sc n.sc m.dp n.dp m.dc n.dc m.sq n.sq m.da n.da m.th n.th m.ta n.ta
  obtain ⟨k0, e0⟩ : ∃ b, (m.kd == n.kd) = b := ⟨_, rfl⟩
  obtain ⟨k1, e1⟩ : ∃ b, hdB m.hh m.ht m.rt n.hh n.ht n.rt = b := ⟨_, rfl⟩
  obtain ⟨k2, e2⟩ : ∃ b, pkB8 m.sp n.sp m.sc n.sc m.dp n.dp m.dc n.dc m.sq n.sq m.da n.da m.th n.th m.ta n.ta = b := ⟨_, rfl⟩
  obtain ⟨k3, e3⟩ : ∃ b, (m.ack.toList == n.ack.toList) = b := ⟨_, rfl⟩
  obtain ⟨k4, e4⟩ : ∃ b, (m.nx == n.nx) = b := ⟨_, rfl⟩
  obtain ⟨k5, e5⟩ : ∃ b, (m.he == n.he) = b := ⟨_, rfl⟩
  obtain ⟨k6, e6⟩ : ∃ b, pfB m.pct n.pct m.pxs n.pxs = b := ⟨_, rfl⟩
  obtain ⟨k7, e7⟩ : ∃ b, pfB m.cct n.cct m.cxs n.cxs = b := ⟨_, rfl⟩
  have hS : msgB m n = (k0 && k1 && k2 && k3 && k4 && k5 && k6 && k7) := by unfold msgB; simp only [e0, e1, e2, e3, e4, e5, e6, e7]
  obtain ⟨r, hr⟩ : ∃ r, (k0 && k1 && k2 && k3 && k4 && k5 && k6 && k7) = r := ⟨_, rfl⟩
  rw [hS, hr]
  simp only [e1] at hE1
  simp only [e2] at hE2
  simp only [e6] at CE1
  simp only [e7] at CE2
  have HR := Lib.hid hr
  clear hS hr e1 e2 e6 e7
  go_enter Try.func23, Try.ntmps23
  go_upto_region 1 with fail
  refine wp_nameE _ (fun W1 hX => ?_)
  have hg : W1.heap[w.heap.size]? = some (.cells m.row 34 (0, 0)) := by rw [hX]; exact hg0
  have hh : W1.heap[w.heap.size + 1]? = some (.cells n.row 34 (0, 0)) := by rw [hX]; exact hh0
  have hbel : Below w.heap.size w W1 := by rw [hX]; exact hbA
  clear hX hg0 hh0 hbA
  have hgl : w.heap.size < W1.heap.size := (Array.getElem?_eq_some_iff.1 hg).1
  have hhl : w.heap.size + 1 < W1.heap.size := (Array.getElem?_eq_some_iff.1 hh).1
  have hdg := msg_header hg
  have hdh := msg_header hh
  obtain ⟨q0, q1, q2, q3, q4, q5, q6, q7, q8, q9, q10, q11, q12, q13, q14, q15, q16, q17⟩ := msg_cells hg
  obtain ⟨r0, r1, r2, r3, r4, r5, r6, r7, r8, r9, r10, r11, r12, r13, r14, r15, r16, r17⟩ := msg_cells hh
  cases k0
  · obtain rfl : false = r := by rw [← HR.out]; simp
    go_wp2_with fail
    go_ret
    exact ⟨rfl, hbel⟩
  cases k1
  · obtain rfl : false = r := by rw [← HR.out]; simp
    go_wp2_with (first | (refine wpList_load_midG 25 (.tmp 11) rfl w.heap.size 1 rfl (hdL m.hh m.ht m.rt) _ hdg Try.underlying25 rfl (hd_info _ _ _) (by first | rfl | (simp [Region.wanted, yielded]; done)) ?_) | (refine wpList_load_midG 25 (.tmp 13) rfl (w.heap.size + 1) 1 rfl (hdL n.hh n.ht n.rt) _ hdh Try.underlying25 rfl (hd_info _ _ _) (by first | rfl | (simp [Region.wanted, yielded]; done)) ?_))
    go_ret
    exact ⟨rfl, hbel⟩
  cases k2
  · obtain rfl : false = r := by rw [← HR.out]; simp
    go_wp2_with (first | (refine wpList_load_midG 25 (.tmp 11) rfl w.heap.size 1 rfl (hdL m.hh m.ht m.rt) _ hdg Try.underlying25 rfl (hd_info _ _ _) (by first | rfl | (simp [Region.wanted, yielded]; done)) ?_) | (refine wpList_load_midG 25 (.tmp 13) rfl (w.heap.size + 1) 1 rfl (hdL n.hh n.ht n.rt) _ hdh Try.underlying25 rfl (hd_info _ _ _) (by first | rfl | (simp [Region.wanted, yielded]; done)) ?_))
    go_ret
    exact ⟨rfl, hbel⟩
  cases k3
  · obtain rfl : false = r := by rw [← HR.out]; simp
    go_wp2_with (first | (refine wpList_load_midG 25 (.tmp 11) rfl w.heap.size 1 rfl (hdL m.hh m.ht m.rt) _ hdg Try.underlying25 rfl (hd_info _ _ _) (by first | rfl | (simp [Region.wanted, yielded]; done)) ?_) | (refine wpList_load_midG 25 (.tmp 13) rfl (w.heap.size + 1) 1 rfl (hdL n.hh n.ht n.rt) _ hdh Try.underlying25 rfl (hd_info _ _ _) (by first | rfl | (simp [Region.wanted, yielded]; done)) ?_))
    go_ret
    exact ⟨rfl, hbel⟩
  cases k4
  · obtain rfl : false = r := by rw [← HR.out]; simp
    go_wp2_with (first | (refine wpList_load_midG 25 (.tmp 11) rfl w.heap.size 1 rfl (hdL m.hh m.ht m.rt) _ hdg Try.underlying25 rfl (hd_info _ _ _) (by first | rfl | (simp [Region.wanted, yielded]; done)) ?_) | (refine wpList_load_midG 25 (.tmp 13) rfl (w.heap.size + 1) 1 rfl (hdL n.hh n.ht n.rt) _ hdh Try.underlying25 rfl (hd_info _ _ _) (by first | rfl | (simp [Region.wanted, yielded]; done)) ?_))
    go_ret
    exact ⟨rfl, hbel⟩
  cases k5
  · obtain rfl : false = r := by rw [← HR.out]; simp
    go_wp2_with (first | (refine wpList_load_midG 25 (.tmp 11) rfl w.heap.size 1 rfl (hdL m.hh m.ht m.rt) _ hdg Try.underlying25 rfl (hd_info _ _ _) (by first | rfl | (simp [Region.wanted, yielded]; done)) ?_) | (refine wpList_load_midG 25 (.tmp 13) rfl (w.heap.size + 1) 1 rfl (hdL n.hh n.ht n.rt) _ hdh Try.underlying25 rfl (hd_info _ _ _) (by first | rfl | (simp [Region.wanted, yielded]; done)) ?_))
    go_ret
    exact ⟨rfl, hbel⟩
  cases k6
  · obtain rfl : false = r := by rw [← HR.out]; simp
    go_wp2_with (first | (refine wpList_load_midG 25 (.tmp 11) rfl w.heap.size 1 rfl (hdL m.hh m.ht m.rt) _ hdg Try.underlying25 rfl (hd_info _ _ _) (by first | rfl | (simp [Region.wanted, yielded]; done)) ?_) | (refine wpList_load_midG 25 (.tmp 13) rfl (w.heap.size + 1) 1 rfl (hdL n.hh n.ht n.rt) _ hdh Try.underlying25 rfl (hd_info _ _ _) (by first | rfl | (simp [Region.wanted, yielded]; done)) ?_) | (go_at_call 74; first | ((with_reducible refine (CE1 _ hbel).mono ?_); rintro e w2 ⟨rfl, hb⟩; have hg := cells_of hg hb hgl; have hh := cells_of hh hb hhl; have hgl := Nat.lt_of_lt_of_le hgl hb.size; have hhl := Nat.lt_of_lt_of_le hhl hb.size; have hbel := hbel.trans (hb.mono hbel.size); obtain ⟨q0, q1, q2, q3, q4, q5, q6, q7, q8, q9, q10, q11, q12, q13, q14, q15, q16, q17⟩ := msg_cells hg; obtain ⟨r0, r1, r2, r3, r4, r5, r6, r7, r8, r9, r10, r11, r12, r13, r14, r15, r16, r17⟩ := msg_cells hh; clear hb) | ((with_reducible refine (CE2 _ hbel).mono ?_); rintro e w2 ⟨rfl, hb⟩; have hg := cells_of hg hb hgl; have hh := cells_of hh hb hhl; have hgl := Nat.lt_of_lt_of_le hgl hb.size; have hhl := Nat.lt_of_lt_of_le hhl hb.size; have hbel := hbel.trans (hb.mono hbel.size); obtain ⟨q0, q1, q2, q3, q4, q5, q6, q7, q8, q9, q10, q11, q12, q13, q14, q15, q16, q17⟩ := msg_cells hg; obtain ⟨r0, r1, r2, r3, r4, r5, r6, r7, r8, r9, r10, r11, r12, r13, r14, r15, r16, r17⟩ := msg_cells hh; clear hb)))
    go_ret
    exact ⟨rfl, hbel⟩
  obtain rfl : k7 = r := by rw [← HR.out]; simp
  go_wp2_with (first | (refine wpList_load_midG 25 (.tmp 11) rfl w.heap.size 1 rfl (hdL m.hh m.ht m.rt) _ hdg Try.underlying25 rfl (hd_info _ _ _) (by first | rfl | (simp [Region.wanted, yielded]; done)) ?_) | (refine wpList_load_midG 25 (.tmp 13) rfl (w.heap.size + 1) 1 rfl (hdL n.hh n.ht n.rt) _ hdh Try.underlying25 rfl (hd_info _ _ _) (by first | rfl | (simp [Region.wanted, yielded]; done)) ?_) | (go_at_call 74; first | ((with_reducible refine (CE1 _ hbel).mono ?_); rintro e w2 ⟨rfl, hb⟩; have hg := cells_of hg hb hgl; have hh := cells_of hh hb hhl; have hgl := Nat.lt_of_lt_of_le hgl hb.size; have hhl := Nat.lt_of_lt_of_le hhl hb.size; have hbel := hbel.trans (hb.mono hbel.size); obtain ⟨q0, q1, q2, q3, q4, q5, q6, q7, q8, q9, q10, q11, q12, q13, q14, q15, q16, q17⟩ := msg_cells hg; obtain ⟨r0, r1, r2, r3, r4, r5, r6, r7, r8, r9, r10, r11, r12, r13, r14, r15, r16, r17⟩ := msg_cells hh; clear hb) | ((with_reducible refine (CE2 _ hbel).mono ?_); rintro e w2 ⟨rfl, hb⟩; have hg := cells_of hg hb hgl; have hh := cells_of hh hb hhl; have hgl := Nat.lt_of_lt_of_le hgl hb.size; have hhl := Nat.lt_of_lt_of_le hhl hb.size; have hbel := hbel.trans (hb.mono hbel.size); obtain ⟨q0, q1, q2, q3, q4, q5, q6, q7, q8, q9, q10, q11, q12, q13, q14, q15, q16, q17⟩ := msg_cells hg; obtain ⟨r0, r1, r2, r3, r4, r5, r6, r7, r8, r9, r10, r11, r12, r13, r14, r15, r16, r17⟩ := msg_cells hh; clear hb)))
  go_ret
  exact ⟨rfl, hbel⟩

def lightMs (ms : List MsgV) : Bool := decide (ms.length ≤ 70) && ms.all lightM
set_option maxRecDepth 100000 in
set_option maxHeartbeats 4000000 in
theorem lightMs_any (a : Option Addr) (n cap : Nat) (ms : List MsgV) (w : World) (hr : RowAt w a (ms.flatMap MsgV.cellsL)) (hok : ∀ m ∈ ms, m.ok w) (hn : ms.length = n) :
    Calls Try.prog 27 #[.slice a n cap] w fun e w' => e = .returned (.bool (lightMs ms)) ∧ Below w.heap.size w w' := by
  have HN := Lib.hid hn
  obtain ⟨r, hr9⟩ : ∃ r, lightMs ms = r := ⟨_, rfl⟩
  rw [hr9]
  have HR := Lib.hid hr9
  clear hr9 hn
  by_cases h70 : 70 < n
  · have d70 : decide (70 < (n : Int)) = true := decide_eq_true (by omega)
    have d70n : decide (70 < n) = true := decide_eq_true h70
    obtain rfl : false = r := by rw [← HR.out]; unfold lightMs; rw [HN.out, decide_eq_false (by omega)]; rfl
    go_enter Try.func27, Try.ntmps27
    go_wp2
    go_ret
    exact ⟨rfl, Below.refl _ _⟩
  have d70 : decide (70 < (n : Int)) = false := decide_eq_false (by omega)
  have d70n : decide (70 < n) = false := decide_eq_false h70
  have HR : Hid (ms.all lightM = r) := Lib.hid (by rw [← HR.out]; unfold lightMs; rw [HN.out, decide_eq_true (by omega)]; rfl)
  go_enter Try.func27, Try.ntmps27
  go_upto_region 4 with fail
  go_loopw [3] (fun i wr => ∃ k : Nat, k ≤ n ∧ i = .int .i64 k ∧ Hid ((ms.take k).all lightM = true) ∧ Below w.heap.size w wr) (fun i _ => n - (intOf i).toNat)
  case atStart => exact ⟨0, Nat.zero_le _, rfl, Lib.hid rfl, Below.refl _ _⟩
  case round =>
    obtain ⟨k, hk, rfl, HA, hbel⟩ := hrel
    by_cases hlt : k < n
    · have d1 : decide ((k : Int) < (n : Int)) = true := decide_eq_true (by omega)
      have d1n : decide (k < n) = true := decide_eq_true hlt
      have hkl : k < ms.length := by rw [HN.out]; exact hlt
      obtain ⟨b1, o1, rfl, hb1, hg1⟩ := msg_range (hr.below hbel) hkl
      have ok1 := (hok _ (List.getElem_mem hkl)).below hbel
      have hta := all_takeL (p := lightM) hkl
      have hbd := fun h => all_badL (p := lightM) hkl h
      obtain ⟨m, hm9⟩ : ∃ m, ms[k] = m := ⟨_, rfl⟩
      rw [hm9] at hg1 ok1 hta hbd
      have CL := lightM_any m wr ok1
      have HTA := Lib.hid hta
      clear hm9 hta
      have n0 : (0 : Int) ≤ (k : Int) := by omega
      have n1' : (k : Int) < (n : Int) := by omega
      have n2' : ((k : Nat) : Int).toNat = k := by omega
      obtain ⟨kl, el⟩ : ∃ b, lightM m = b := ⟨_, rfl⟩
      simp only [el] at CL
      rw [el] at hbd HTA
      clear el
      cases kl
      · obtain rfl : false = r := by rw [← HR.out, hbd rfl]
        go_wp2_with (first | (refine wpList_load_mid rfl 34 (.tmp 15) rfl b1 _ rfl m.row.toList _ hg1 Try.underlying34 rfl (msg_info _) ?_; rw [Array.toArray_toList]) | (go_at_call 15; refine CL.mono ?_; rintro e w6 ⟨rfl, hb6⟩; have hbel := hbel.trans (hb6.mono hbel.size)))
        go_ret
        exact ⟨rfl, hbel⟩
      · go_wp2_with (first | (refine wpList_load_mid rfl 34 (.tmp 15) rfl b1 _ rfl m.row.toList _ hg1 Try.underlying34 rfl (msg_info _) ?_; rw [Array.toArray_toList]) | (go_at_call 15; refine CL.mono ?_; rintro e w6 ⟨rfl, hb6⟩; have hbel := hbel.trans (hb6.mono hbel.size)))
        go_roundw
        case rel => exact ⟨k + 1, by omega, by go_num, Lib.hid (by rw [HTA.out, HA.out]; rfl), hbel⟩
        case measure => (simp [intOf]) <;> omega
    · have d9 : decide ((k : Int) < (n : Int)) = false := decide_eq_false (by omega)
      have d9n : decide (k < n) = false := decide_eq_false hlt
      have hA := HA.out
      rw [List.take_of_length_le (by rw [HN.out]; omega), HR.out] at hA
      subst hA
      go_wp2
      go_ret
      exact ⟨rfl, hbel⟩
end Go.Proofs.Ythipnkbfdkmhaaa
