/- A leaf out of bytes. -/
import Derived.Test.YthipnkbfdkmhaaaOwn
import Derived.Deep.MidRow
import Derived.LoopTactic
import Derived.BigFrame
import Derived.WalkKit
import Derived.ProofKit
import Derived.Handy
import Derived.Below
import Derived.Lib.Hide
import Derived.IntWalk
import Derived.Outline
import Derived.WalkLawsBesides
import Derived.WalkSpells
namespace Go.Proofs.Ythipnkbfdkmhaaa
open Go.RowKit
attribute [local go_sem] strV
set_option linter.unusedVariables false
theorem lf_one (key val : ByteArray) (idx : Int) (a : Option Addr) (n c : Nat) : (#[.string key, .string val, .int .i64 idx, .slice a n c] : Array Value).all (·.oneCell') = true := leaf_one _ _ _ _ _ _
set_option maxRecDepth 100000 in
set_option maxHeartbeats 6400000 in
theorem readLeaf_any (b : Nat) (w : World) (s : ByteArray) (at_ err : Int) (h : RAt b w s at_ err) (hs : s.size ≤ 1000000000) (hp : 0 ≤ at_ ∧ at_ ≤ s.size) :
    Calls Try.prog 123 #[.pointer (some ⟨b, 0, none⟩)] w fun e w' => ∃ x : LeafV, e = .returned (.agg x.cells.toArray) ∧ x.held w' w.heap.size ∧ x.d = (leafP s at_ err).1 ∧ RAt b w' s (leafP s at_ err).2.1 (leafP s at_ err).2.2 ∧ (0 ≤ (leafP s at_ err).2.1 ∧ (leafP s at_ err).2.1 ≤ s.size) ∧ Kept b w w' := by
  have k1 := textG_size s at_ err 160
  have p1 := textG_in (err := err) (most := 160) hp
  obtain ⟨⟨key, a1, e1⟩, h1⟩ : ∃ t, textG s at_ err 160 = t := ⟨_, rfl⟩
  rw [h1] at k1 p1
  have k2 := textG_size s a1 e1 64
  have p2 := textG_in (err := e1) (most := 64) p1
  obtain ⟨⟨val, a2, e2⟩, h2⟩ : ∃ t, textG s a1 e1 64 = t := ⟨_, rfl⟩
  rw [h2] at k2 p2
  have p3 := numG_in (err := e2) (least := 0) (most := 1073741824) p2
  obtain ⟨⟨idx, a3, e3⟩, h3⟩ : ∃ t, numG s a2 e2 0 1073741824 = t := ⟨_, rfl⟩
  rw [h3] at p3
  have k4 := countG_val (s := s) (a := a3) (e := e3) (m := 30) (by decide)
  have p4 := countG_in (err := e3) (most := 30) p3
  obtain ⟨⟨cn, a4, e4⟩, h4⟩ : ∃ t, countG s a3 e3 30 = t := ⟨_, rfl⟩
  rw [h4] at k4 p4
  simp only at k1 k2 k4 p1 p2 p3 p4
  obtain ⟨N, rfl⟩ : ∃ N : Nat, cn = N := ⟨cn.toNat, by omega⟩
  obtain ⟨⟨hl, a5, e5⟩, h5⟩ : ∃ t, listP hashP N s a4 e4 = t := ⟨_, rfl⟩
  have hE : leafP s at_ err = (⟨key, val, idx, hl⟩, a5, e5) := by unfold leafP mapP lfP seqP tP nP cP mkLf; simp only [h1, h2, h3, h4, Int.toNat_natCast, h5]
  rw [hE]
  have C1 := fun W h => rtext_all b W s at_ err 160 h hs
  have C2 := fun W h => rtext_all b W s a1 e1 64 h hs
  have C3 := fun W h => rnum_all b W s a2 e2 0 1073741824 h hs
  have C4 := fun W h => rcount_all b W s a3 e3 30 h hs
  simp only [h1] at C1
  simp only [h2] at C2
  simp only [h3] at C3
  simp only [h4] at C4
  have H5 := Lib.hid h5
  have HN : Hid (N ≤ 30 ∧ (e4 ≠ 0 → N = 0)) := Lib.hid ⟨by omega, fun q => by have := k4.2.2 q; omega⟩
  have HP4 := Lib.hid p4
  clear h1 h2 h3 h4 h5 hE p1 p2 p3 p4 k4
  have hlt := h.lt
  obtain ⟨i0, hi, hz0', hz1, hz2⟩ := info_parts Try.infoHs
  have hz0 := al2_0 w (.cells #[.string ⟨#[]⟩, .string ⟨#[]⟩, .int .i64 0, .slice none 0 0] 111) (.cells #[.string ⟨#[]⟩, .string ⟨#[]⟩, .int .i64 0, .slice none 0 0] 111)
  have hg0 := al2_1 w (.cells #[.string ⟨#[]⟩, .string ⟨#[]⟩, .int .i64 0, .slice none 0 0] 111) (.cells #[.string ⟨#[]⟩, .string ⟨#[]⟩, .int .i64 0, .slice none 0 0] 111)
  have hbA := al2_below w (.cells #[.string ⟨#[]⟩, .string ⟨#[]⟩, .int .i64 0, .slice none 0 0] 111) (.cells #[.string ⟨#[]⟩, .string ⟨#[]⟩, .int .i64 0, .slice none 0 0] 111)
  go_enter Try.func123, Try.ntmps123
  go_upto_region 2 with fail
  refine wp_nameE _ (fun W2 hW => ?_)
  have hZ : W2.heap[w.heap.size]? = some (.cells #[.string ⟨#[]⟩, .string ⟨#[]⟩, .int .i64 0, .slice none 0 0] 111 (0, 0)) := by rw [hW]; exact hz0
  have hG : W2.heap[w.heap.size + 1]? = some (.cells #[.string ⟨#[]⟩, .string ⟨#[]⟩, .int .i64 0, .slice none 0 0] 111 (0, 0)) := by rw [hW]; exact hg0
  have hb1 : Below w.heap.size w W2 := by rw [hW]; exact hbA
  have hR := h.below hb1 hlt
  have hK : Kept b w W2 := Kept.of hb1
  have hzb : w.heap.size ≠ b := by omega
  have hgb : w.heap.size + 1 ≠ b := by omega
  have hgz : w.heap.size + 1 ≠ w.heap.size := by omega
  clear hW hz0 hg0 hbA hb1 h
  go_upto_region 3 with (go_at_call 103; refine (C1 _ hR).mono ?_; rintro e w1 ⟨rfl, hR, hk⟩; have hG := hk.row5 hG hgb; have hZ := hk.row5 hZ hzb; have hK := hK.trans hk; have qk := cell_heap hG 0; have fk := frozen_heap hG 0)
  refine wp_nameE _ (fun W3 hW => ?_)
  have hR : RAt b W3 s a1 e1 := by rw [hW]; exact hR.put hgb _
  have hG : W3.heap[w.heap.size + 1]? = some (.cells #[.string key, .string ⟨#[]⟩, .int .i64 0, .slice none 0 0] 111 (0, 0)) := by rw [hW]; exact row_put5 hG
  have hZ : W3.heap[w.heap.size]? = some (.cells #[.string ⟨#[]⟩, .string ⟨#[]⟩, .int .i64 0, .slice none 0 0] 111 (0, 0)) := by rw [hW]; exact row_oth hZ hgz
  have hK : Kept b w W3 := by rw [hW]; exact hK.setFar (Nat.le_succ _)
  clear hW qk fk
  go_upto_region 4 with (go_at_call 103; refine (C2 _ hR).mono ?_; rintro e w1 ⟨rfl, hR, hk⟩; have hG := hk.row5 hG hgb; have hZ := hk.row5 hZ hzb; have hK := hK.trans hk; have qk := cell_heap hG 1; have fk := frozen_heap hG 1)
  refine wp_nameE _ (fun W4 hW => ?_)
  have hR : RAt b W4 s a2 e2 := by rw [hW]; exact hR.put hgb _
  have hG : W4.heap[w.heap.size + 1]? = some (.cells #[.string key, .string val, .int .i64 0, .slice none 0 0] 111 (0, 0)) := by rw [hW]; exact row_put5 hG
  have hZ : W4.heap[w.heap.size]? = some (.cells #[.string ⟨#[]⟩, .string ⟨#[]⟩, .int .i64 0, .slice none 0 0] 111 (0, 0)) := by rw [hW]; exact row_oth hZ hgz
  have hK : Kept b w W4 := by rw [hW]; exact hK.setFar (Nat.le_succ _)
  clear hW qk fk
  go_upto_region 5 with (go_at_call 78; refine (C3 _ hR).mono ?_; rintro e w1 ⟨rfl, hR, hk⟩; have hG := hk.row5 hG hgb; have hZ := hk.row5 hZ hzb; have hK := hK.trans hk; have qk := cell_heap hG 2; have fk := frozen_heap hG 2)
  refine wp_nameE _ (fun W5 hW => ?_)
  have hR : RAt b W5 s a3 e3 := by rw [hW]; exact hR.put hgb _
  have hG : W5.heap[w.heap.size + 1]? = some (.cells #[.string key, .string val, .int .i64 idx, .slice none 0 0] 111 (0, 0)) := by rw [hW]; exact row_put5 hG
  have hZ : W5.heap[w.heap.size]? = some (.cells #[.string ⟨#[]⟩, .string ⟨#[]⟩, .int .i64 0, .slice none 0 0] 111 (0, 0)) := by rw [hW]; exact row_oth hZ hgz
  have hK : Kept b w W5 := by rw [hW]; exact hK.setFar (Nat.le_succ _)
  clear hW qk fk
  go_upto_region 6 with (go_at_call 122; refine (C4 _ hR).mono ?_; rintro e w4 ⟨rfl, hR, hk⟩; have hG := hk.row5 hG hgb; have hZ := hk.row5 hZ hzb; have hK := hK.trans hk)
  clear C1 C2 C3 C4
  obtain ⟨base, hbase⟩ : ∃ x, w4.heap.size = x := ⟨_, rfl⟩
  have hgl : w.heap.size + 1 < base := by rw [← hbase]; exact (Array.getElem?_eq_some_iff.1 hG).1
  go_loopw [15] (fun i wr => ∃ (k : Nat) (xs : List H32) (sv : Value) (ak ek : Int), k ≤ N ∧ xs.length = k ∧ Hid (0 ≤ ak ∧ ak ≤ s.size) ∧ Hid (listP hashP N s a4 e4 = (xs ++ (listP hashP (N - k) s ak ek).1, (listP hashP (N - k) s ak ek).2)) ∧ wr.heap[w.heap.size + 1]? = some (.cells #[.string key, .string val, .int .i64 idx, sv] 111 (0, 0)) ∧ wr.ownsRow base 23 32 sv k (xs.flatMap H32.cells) ∧ RAt b wr s ak ek ∧ wr.heap[w.heap.size]? = some (.cells #[.string ⟨#[]⟩, .string ⟨#[]⟩, .int .i64 0, .slice none 0 0] 111 (0, 0)) ∧ base ≤ wr.heap.size ∧ Kept b w wr ∧ i = .int .i64 k) (fun i _ => N - (intOf i).toNat)
  case atStart => exact ⟨0, [], .slice none 0 0, a4, e4, Nat.zero_le _, rfl, HP4, Lib.hid (by simp), hG, ⟨rfl, .inl ⟨rfl, rfl⟩⟩, hR, hZ, by omega, hK, rfl⟩
  case round =>
    clear hG hR hZ hK HP4
    obtain ⟨k, xs, sv, ak, ek, hk, hxl, HP, HL, hG, hown, hR, hZ, hbw, hK, rfl⟩ := hrel
    by_cases hlt : k < N
    · have d1 : decide ((k : Int) < (N : Int)) = true := decide_eq_true (by omega)
      have d1n : decide (k < N) = true := decide_eq_true hlt
      have CN := fun W h => rhash_all b W s ak ek h hs HP.out
      rw [hashP_G HP.out.1] at CN
      have hpn : 0 ≤ (hashP s ak ek).2.1 ∧ (hashP s ak ek).2.1 ≤ s.size := by
        have q := hashG_in (err := ek) HP.out
        rw [hashP_G HP.out.1] at q
        exact q
      obtain ⟨⟨q, an, en⟩, hI⟩ : ∃ x, hashP s ak ek = x := ⟨_, rfl⟩
      have hst := listP_step (P := hashP) hlt hI
      simp only [hI] at CN hpn
      have HST := Lib.hid hst
      have HPN := Lib.hid hpn
      clear hI hst hpn
      have hqs : (hrow q.1).size = 32 := by rw [hrow_size]; exact q.2
      go_upto_region 7 with fail
      refine wp_region_state_chain 5 (by decide) (fun D x W => PushI wr b s (.pointer (some ⟨w.heap.size + 1, 3, none⟩)) sv (.pointer (some ⟨b, 0, none⟩)) ak ek an en (fun v _ => v = .agg (hrow q.1)) (fun _ v W => ∃ g4, v = .slice (some ⟨g4, 0, none⟩) 1 1 ∧ W.heap[g4]? = some (.cells (hrow q.1) 23 (0, 0))) (D 0) (D 1) (D 2) (D 3) (D 4) (x 0) (x 1) (x 2) (x 3) (x 4) W) (by kernel_rfl) (by kernel_rfl) (by kernel_rfl) (by kernel_rfl) (by kernel_rfl) (by kernel_rfl) (by kernel_rfl) (fun x => by simp only [List.take_succ_cons, List.take_zero, fillFrom, Act.put, List.setIfInBounds_toArray, List.set_cons_succ, List.set_cons_zero, Nat.zero_add, Nat.reduceAdd]; rfl) ?_ ?_ ?_
      case refine_1 => exact fun x => ⟨(fun h => by cases h), (fun h => by cases h), (fun h => by cases h), (fun h => by cases h), (fun h => by cases h), hR.drew 1, (Kept.of (Below.refl _ _)).drew 1⟩
      case refine_2 =>
        simp only [List.take_succ_cons, List.take_zero]
        refine ⟨?_, ?_, ?_, ?_, ?_, trivial⟩
        · intro D x w' hD ⟨i0', i1, i2, i3, i4, iR, iK⟩ hw hcl
          clear hw
          go_wp2_with fail
          exact stPost_mk rfl rfl ⟨fun _ => rfl, i1, i2, i3, i4, iR, iK⟩
        · intro D x w' hD ⟨i0', i1, i2, i3, i4, iR, iK⟩ hw hcl
          have d0 := i0' (hw 0 rfl)
          have m := cell_heap (iK.row5 hG hgb) 3
          clear hw
          go_wp2_with fail
          exact stPost_mk rfl rfl ⟨fun h => (by first | rfl | exact i0' h), fun _ => rfl, i2, i3, i4, iR, iK⟩
        · intro D x w' hD ⟨i0', i1, i2, i3, i4, iR, iK⟩ hw hcl
          clear hw
          go_wp2_with fail
          exact stPost_mk rfl rfl ⟨i0', i1, fun _ => rfl, i3, i4, iR, iK⟩
        · intro D x w' hD ⟨i0', i1, i2, i3, i4, iR, iK⟩ hw hcl
          have d2 := i2 (hw 2 rfl)
          have n4 : D 4 = true → False := fun h => by have := hcl.at (i := 4) (j := 3) h rfl; rw [hD] at this; cases this
          clear hw
          rw [hD] at iR
          go_wp2_with (go_at_call 101; refine (CN w' iR).mono ?_; rintro e w2 ⟨rfl, hr2, hk2⟩)
          exact stPost_mk rfl rfl ⟨i0', i1, fun h => (by first | rfl | exact i2 h), fun _ => rfl, fun h => (n4 h).elim, hr2, iK.trans hk2⟩
        · intro D x w' hD ⟨i0', i1, i2, i3, i4, iR, iK⟩ hw hcl
          have h3 := hw 3 rfl
          have d3 := i3 h3
          clear hw
          refine wpList_one rfl (.tmp 20) 109 23 rfl (by exact d3) (one_hash _ hqs _) ?_
          have hb : Below w'.heap.size w' (w'.alloc (.cells (hrow q.1) 23)) := Below.alloc (Below.refl _ _) (Nat.le_refl _) _
          exact ⟨rfl, rfl, i0', i1, i2, i3, fun _ => ⟨w'.heap.size, rfl, heap_push _ _ _⟩, iR.below hb iR.lt, iK.trans (Kept.of hb)⟩
      case refine_3 =>
        rintro w' x ⟨x0, x1, x2, x3, x4, hR, hk2⟩
        have hR : RAt b w' s an en := hR
        replace x0 := x0 rfl; replace x1 := x1 rfl; replace x2 := x2 rfl; replace x3 := x3 rfl
        obtain ⟨g4, x4, hg4⟩ := x4 rfl
        have hG := hk2.row5 hG hgb
        have hZ := hk2.row5 hZ hzb
        have hown := own_far hown (hk2.far (by omega))
        have hbw := Nat.le_trans hbw hk2.size
        have hK := hK.trans hk2
        have hnews : ∀ j u, q.cells[j]? = some u → w'.cell? ((⟨g4, 0, none⟩ : Addr).add j) = some u := fun j u hj => by
          rw [Addr.add_mid, Nat.zero_add, cell_heap hg4, ← hj, show hrow q.1 = q.cells.toArray from rfl, List.getElem?_toArray]
        simp only [x0, x1, x2, x3, x4, List.drop_succ_cons, List.drop_zero]
        clear x0 x1 x2 x3 x4 CN hk2
        have hN30 := HN.out.1
        refine wpList_append_own _ rfl (.tmp 18) (.tmp 21) 109 rfl base 23 i0 (.agg #[.int .u8 0, .int .u8 0, .int .u8 0, .int .u8 0, .int .u8 0, .int .u8 0, .int .u8 0, .int .u8 0, .int .u8 0, .int .u8 0, .int .u8 0, .int .u8 0, .int .u8 0, .int .u8 0, .int .u8 0, .int .u8 0, .int .u8 0, .int .u8 0, .int .u8 0, .int .u8 0, .int .u8 0, .int .u8 0, .int .u8 0, .int .u8 0, .int .u8 0, .int .u8 0, .int .u8 0, .int .u8 0, .int .u8 0, .int .u8 0, .int .u8 0, .int .u8 0]) 32 32 Try.underlying109 hi hz0' hz1 hz2 rfl (by decide) _ _ _ rfl hown ⟨g4, 0, none⟩ 1 1 q.cells rfl (by rw [H32.cells_len]) hnews (Lib.byteCells_one q.1) (by unfold maxLen; omega) (by omega) hbw ?_
        intro v9 w9 hown9 hgr _
        have hb9 : Below base w' w9 := below_grown hown hgr hbw
        clear hgr hnews
        simp only [Act.put, List.setIfInBounds_toArray, List.set_cons_succ, List.set_cons_zero]
        obtain ⟨a9, cap9, hv9, _⟩ := own_slice hown9
        subst hv9
        have hG9 := cells_of hG hb9 hgl
        have hZ9 := cells_of hZ hb9 (by omega)
        have hR9 := hR.below hb9 (by omega)
        have qk := cell_heap hG9 3; have fk := frozen_heap hG9 3
        go_wp2
        go_roundw
        case rel =>
          refine ⟨k + 1, xs ++ [q], .slice a9 (k + 1) cap9, an, en, by omega, by simp [hxl], HPN, Lib.hid (by rw [HL.out, HST.out]; simp), row_put5 hG9, ?_, hR9.put hgb _, row_oth hZ9 hgz, by rw [World.size_setCell]; exact Nat.le_trans hbw hb9.size, (hK.grow hb9 (by omega)).setFar (Nat.le_succ _), by go_num⟩
          · have := own_far (w' := w9.setCell ⟨w.heap.size + 1, 3, none⟩ (.slice a9 (k + 1) cap9)) hown9 (fun j q1 q2 => row_oth' w9 (w.heap.size + 1) 3 j _ (by omega))
            rw [List.flatMap_append, List.flatMap_cons, List.flatMap_nil, List.append_nil]
            exact this
        case measure => (simp [intOf]) <;> omega
    · obtain rfl : k = N := by omega
      have d1 : decide ((k : Int) < (k : Int)) = false := decide_eq_false (by omega)
      have d1n : decide (k < k) = false := decide_eq_false (by omega)
      have qq := HL.out
      rw [H5.out, Nat.sub_self] at qq
      simp only [listP, List.append_nil, Prod.mk.injEq] at qq
      obtain ⟨q1, q2, q3⟩ := qq
      obtain ⟨a, cap, hsv, hrow, hkc, hcm, hab⟩ := own_slice hown
      subst hsv
      have hheld := own_held hown
      clear H5 HL hown
      go_wp2_with (first | (refine wpList_load_mid rfl 111 (.tmp 3) rfl (w.heap.size + 1) 0 rfl _ _ (rangeAt_row5 hG) Try.underlying111 rfl (by kernel_rfl) ?_) | (refine wpList_storeRowTo (Z := #[.string key, .string val, .int .i64 idx, .slice a k cap]) rfl (.tmp 2) (.tmp 25) 111 rfl (by kernel_rfl) rfl (by rfl) hZ rfl (lf_one _ _ _ _ _ _) ?_))
      have hZ2 : (World.setRow _ w.heap.size #[.string key, .string val, .int .i64 idx, .slice a k cap]).heap[w.heap.size]? = some (.cells #[.string key, .string val, .int .i64 idx, .slice a k cap] 111 (0, 0)) := setRow_heap _ _ _ _ _ _ hZ
      have hrd := run_loadVar_mid (P := Try.prog) _ w.heap.size 0 111 (#[.string key, .string val, .int .i64 idx, .slice a k cap] : Array Value).toList _ (rangeAt_row5 hZ2) Try.underlying111 rfl (by kernel_rfl)
      refine bodyPost_ret (v := .agg #[.string key, .string val, .int .i64 idx, .slice a k cap]) ?_ rfl ?_
      · simp [results, Try.results123, asAddr]
        exact hrd
      have hsame : SameT 23 base wr (World.setRow wr w.heap.size #[.string key, .string val, .int .i64 idx, .slice a k cap]) := SameT.setRow (by omega)
      refine ⟨⟨key, val, idx, a, k, cap, xs⟩, rfl, ⟨⟨hrow.same hheld hsame, hxl, hkc, hcm, by unfold maxLen; simp only; omega, by unfold maxLen; simp only; omega⟩, (hheld.same hsame).mono (by omega)⟩, ?_, ?_, ?_, hK.setRow (Nat.le_refl _) _⟩
      · unfold LeafV.d; simp only [q1]
      · simp only [q2, q3]; exact hR.setRow hzb _
      · simp only [q2]; exact HP.out
end Go.Proofs.Ythipnkbfdkmhaaa
