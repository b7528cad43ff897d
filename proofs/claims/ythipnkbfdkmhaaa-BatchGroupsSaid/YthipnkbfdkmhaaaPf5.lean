/- A proof out of bytes. -/
import Derived.Test.YthipnkbfdkmhaaaPf4
import Derived.Deep.MidRow
import Derived.LoopTactic
import Derived.BigFrame
import Derived.WalkKit
import Derived.ProofKit
import Derived.Handy
import Derived.Below
import Derived.Lib.Hide
import Derived.IntWalk
import Derived.Outline
import Derived.WalkLawsBesides
import Derived.WalkSpells
namespace Go.Proofs.Ythipnkbfdkmhaaa
open Go.RowKit
attribute [local go_sem] strV
set_option linter.unusedVariables false
theorem pf_one (ct : Int) (a : Option Addr) (n c : Nat) : (#[.int .i64 ct, .slice a n c] : Array Value).all (·.oneCell') = true := by simp [Value.oneCell']
/-- Behind the reading of a proof: what it returns, where the reader stands. -/
def pfPost (b : Nat) (w : World) (s : ByteArray) (r : PfD × Int × Int) (e : Ending) (w' : World) : Prop :=
  ∃ (a : Option Addr) (n c : Nat) (xs : List LeafV), e = .returned (.agg #[.int .i64 r.1.ct, .slice a n c]) ∧ xs.map LeafV.d = r.1.xs ∧ lvsHeld w' w.heap.size a xs ∧ xs.length = n ∧ n ≤ c ∧ c ≤ maxLen ∧ RAt b w' s r.2.1 r.2.2 ∧ (0 ≤ r.2.1 ∧ r.2.1 ≤ s.size) ∧ Kept b w w'
set_option maxRecDepth 100000 in
set_option maxHeartbeats 6400000 in
theorem pfRead_any (b : Nat) (w : World) (s : ByteArray) (at_ err : Int) (h : RAt b w s at_ err) (hs : s.size ≤ 1000000000) (hp : 0 ≤ at_ ∧ at_ ≤ s.size) :
    Calls Try.prog 104 #[.pointer (some ⟨b, 0, none⟩)] w fun e w' => pfPost b w s (pfP s at_ err) e w' := by
  have p1 := numG_in (err := err) (least := 0) (most := 1073741824) hp
  obtain ⟨⟨ct, a1, e1⟩, h1⟩ : ∃ t, numG s at_ err 0 1073741824 = t := ⟨_, rfl⟩
  rw [h1] at p1
  have k2 := countG_val (s := s) (a := a1) (e := e1) (m := 2) (by decide)
  have p2 := countG_in (err := e1) (most := 2) p1
  obtain ⟨⟨cn, a2, e2⟩, h2⟩ : ∃ t, countG s a1 e1 2 = t := ⟨_, rfl⟩
  rw [h2] at k2 p2
  simp only at k2 p1 p2
  obtain ⟨N, rfl⟩ : ∃ N : Nat, cn = N := ⟨cn.toNat, by omega⟩
  obtain ⟨⟨xl, a5, e5⟩, h5⟩ : ∃ t, listP leafP N s a2 e2 = t := ⟨_, rfl⟩
  have hE : pfP s at_ err = (if e5 = 0 then ⟨ct, xl⟩ else ⟨0, []⟩, a5, e5) := by unfold pfP fixP mapP pfP0 seqP nP cP mkPf; simp only [h1, h2, Int.toNat_natCast, h5]
  rw [hE]
  have C1 := fun W h => rnum_all b W s at_ err 0 1073741824 h hs
  have C2 := fun W h => rcount_all b W s a1 e1 2 h hs
  simp only [h1] at C1
  simp only [h2] at C2
  have H5 := Lib.hid h5
  have HN : Hid (N ≤ 2) := Lib.hid (by omega)
  have HP2 := Lib.hid p2
  clear h1 h2 h5 hE p1 p2 k2
  have hlt := h.lt
  obtain ⟨i0, hi, hz0', hz1, hz2⟩ := info_parts Try.infoLf
  have hz0 := heap_push w #[.int .i64 0, .slice none 0 0] 32
  have hbA : Below w.heap.size w (w.alloc (.cells #[.int .i64 0, .slice none 0 0] 32)) := Below.alloc (Below.refl _ _) (Nat.le_refl _) _
  go_enter Try.func104, Try.ntmps104
  go_upto_region 1 with fail
  refine wp_nameE _ (fun W1 hW => ?_)
  have hZ : W1.heap[w.heap.size]? = some (.cells #[.int .i64 0, .slice none 0 0] 32 (0, 0)) := by rw [hW]; exact hz0
  have hb1 : Below w.heap.size w W1 := by rw [hW]; exact hbA
  have hR := h.below hb1 hlt
  have hK : Kept b w W1 := Kept.of hb1
  have hzb : w.heap.size ≠ b := by omega
  have hzl : w.heap.size < W1.heap.size := (Array.getElem?_eq_some_iff.1 hZ).1
  clear hW hz0 hbA hb1 h
  go_upto_region 2 with (first | (go_at_call 78; refine (C1 _ hR).mono ?_; rintro e w2 ⟨rfl, hR, hk⟩; have hZ := hk.row5 hZ hzb; have hzl := Nat.lt_of_lt_of_le hzl hk.size; have hK := hK.trans hk) | (refine wpList_storeRowTo rfl (.tmp 3) (.tmp 6) 32 rfl (by kernel_rfl) rfl (by rfl) (heap_push _ _ _) rfl (pf_one _ _ _ _) ?_))
  refine wp_nameE _ (fun W3 hX => ?_)
  have hb : Below w2.heap.size w2 W3 := by rw [hX]; first | exact below_setRow (Below.alloc (Below.refl _ _) (Nat.le_refl _) _) (Nat.le_refl _) _ | exact Below.alloc (Below.refl _ _) (Nat.le_refl _) _
  have hG : W3.heap[w2.heap.size]? = some (.cells #[.int .i64 ct, .slice none 0 0] 32 (0, 0)) := by rw [hX]; first | exact setRow_heap _ _ _ _ _ _ (heap_push _ _ _) | exact heap_push _ _ _
  have hR := hR.below hb hR.lt
  have hZ := cells_of hZ hb hzl
  have hK := hK.trans (Kept.of hb)
  have hwz : w.heap.size ≤ w2.heap.size := by omega
  obtain ⟨g, hgg⟩ : ∃ g, w2.heap.size = g := ⟨_, rfl⟩
  rw [hgg] at hG hzl hwz
  simp only [hgg]
  have hgb : g ≠ b := by omega
  have hgz : g ≠ w.heap.size := by omega
  clear hX hgg hb
  go_upto_region 3 with (go_at_call 122; refine (C2 _ hR).mono ?_; rintro e w4 ⟨rfl, hR, hk⟩; have hG := hk.row5 hG hgb; have hZ := hk.row5 hZ hzb; have hK := hK.trans hk)
  clear C1 C2
  obtain ⟨base, hbase⟩ : ∃ x, w4.heap.size = x := ⟨_, rfl⟩
  have hgl : g < base := by rw [← hbase]; exact (Array.getElem?_eq_some_iff.1 hG).1
  go_loopw [9] (fun i wr => ∃ (k : Nat) (xs : List LeafV) (sv : Value) (ak ek : Int), k ≤ N ∧ xs.length = k ∧ Hid (0 ≤ ak ∧ ak ≤ s.size) ∧ Hid (listP leafP N s a2 e2 = (xs.map LeafV.d ++ (listP leafP (N - k) s ak ek).1, (listP leafP (N - k) s ak ek).2)) ∧ wr.heap[g]? = some (.cells #[.int .i64 ct, sv] 32 (0, 0)) ∧ wr.ownsRow base 111 4 sv k (xs.flatMap LeafV.cells) ∧ (∀ x ∈ xs, x.held wr base) ∧ RAt b wr s ak ek ∧ wr.heap[w.heap.size]? = some (.cells #[.int .i64 0, .slice none 0 0] 32 (0, 0)) ∧ base ≤ wr.heap.size ∧ Kept b w wr ∧ i = .int .i64 k) (fun i _ => N - (intOf i).toNat)
  case atStart => exact ⟨0, [], .slice none 0 0, a2, e2, Nat.zero_le _, rfl, HP2, Lib.hid (by simp), hG, ⟨rfl, .inl ⟨rfl, rfl⟩⟩, (fun x h => by cases h), hR, hZ, by omega, hK, rfl⟩
  case round =>
    clear hG hR hZ hK HP2
    obtain ⟨k, xs, sv, ak, ek, hk, hxl, HP, HL, hG, hown, hxs, hR, hZ, hbw, hK, rfl⟩ := hrel
    by_cases hlt : k < N
    · have d1 : decide ((k : Int) < (N : Int)) = true := decide_eq_true (by omega)
      have d1n : decide (k < N) = true := decide_eq_true hlt
      have CN := fun W h => readLeaf_any b W s ak ek h hs HP.out
      obtain ⟨⟨q, an, en⟩, hI⟩ : ∃ x, leafP s ak ek = x := ⟨_, rfl⟩
      have hst := listP_step (P := leafP) hlt hI
      simp only [hI] at CN
      have HST := Lib.hid hst
      clear hI hst
      go_upto_region 4 with fail
      refine wp_region_state_chain 5 (by decide) (fun D x W => PushI wr b s (.pointer (some ⟨g, 1, none⟩)) sv (.pointer (some ⟨b, 0, none⟩)) ak ek an en (fun v W => ∃ y : LeafV, v = .agg y.cells.toArray ∧ y.held W wr.heap.size ∧ y.d = q ∧ 0 ≤ an ∧ an ≤ s.size) (fun _ v W => ∃ (y : LeafV) (g4 : Nat), v = .slice (some ⟨g4, 0, none⟩) 1 1 ∧ W.heap[g4]? = some (.cells y.cells.toArray 111 (0, 0)) ∧ y.held W wr.heap.size ∧ y.d = q ∧ 0 ≤ an ∧ an ≤ s.size) (D 0) (D 1) (D 2) (D 3) (D 4) (x 0) (x 1) (x 2) (x 3) (x 4) W) (by kernel_rfl) (by kernel_rfl) (by kernel_rfl) (by kernel_rfl) (by kernel_rfl) (by kernel_rfl) (by kernel_rfl) (fun x => by simp only [List.take_succ_cons, List.take_zero, fillFrom, Act.put, List.setIfInBounds_toArray, List.set_cons_succ, List.set_cons_zero, Nat.zero_add, Nat.reduceAdd]; rfl) ?_ ?_ ?_
      case refine_1 => exact fun x => ⟨(fun h => by cases h), (fun h => by cases h), (fun h => by cases h), (fun h => by cases h), (fun h => by cases h), hR.drew 1, (Kept.of (Below.refl _ _)).drew 1⟩
      case refine_2 =>
        simp only [List.take_succ_cons, List.take_zero]
        refine ⟨?_, ?_, ?_, ?_, ?_, trivial⟩
        · intro D x w' hD ⟨i0', i1, i2, i3, i4, iR, iK⟩ hw hcl
          clear hw
          go_wp2_with fail
          exact stPost_mk rfl rfl ⟨fun _ => rfl, i1, i2, i3, i4, iR, iK⟩
        · intro D x w' hD ⟨i0', i1, i2, i3, i4, iR, iK⟩ hw hcl
          have d0 := i0' (hw 0 rfl)
          have m := cell_heap (iK.row5 hG hgb) 1
          clear hw
          go_wp2_with fail
          exact stPost_mk rfl rfl ⟨fun h => (by first | rfl | exact i0' h), fun _ => rfl, i2, i3, i4, iR, iK⟩
        · intro D x w' hD ⟨i0', i1, i2, i3, i4, iR, iK⟩ hw hcl
          clear hw
          go_wp2_with fail
          exact stPost_mk rfl rfl ⟨i0', i1, fun _ => rfl, i3, i4, iR, iK⟩
        · intro D x w' hD ⟨i0', i1, i2, i3, i4, iR, iK⟩ hw hcl
          have d2 := i2 (hw 2 rfl)
          have n4 : D 4 = true → False := fun h => by have := hcl.at (i := 4) (j := 3) h rfl; rw [hD] at this; cases this
          clear hw
          rw [hD] at iR
          go_wp2_with (go_at_call 123; refine (CN w' iR).mono ?_; rintro e w2 ⟨y, rfl, hy, hyd, hr2, hpn, hk2⟩)
          exact stPost_mk rfl rfl ⟨i0', i1, fun h => (by first | rfl | exact i2 h), fun _ => (by first | exact ⟨y, rfl, hy.mono iK.size, hyd, hpn⟩ | exact ⟨y, rfl, hy.mono iK.size, hyd⟩), fun h => (n4 h).elim, hr2, iK.trans hk2⟩
        · intro D x w' hD ⟨i0', i1, i2, i3, i4, iR, iK⟩ hw hcl
          have h3 := hw 3 rfl
          obtain ⟨y, d3, hy, hyd, hpn⟩ := i3 h3
          clear hw
          refine wpList_one rfl (.tmp 14) 30 111 rfl (by exact d3) (one_leaf _ rfl _) ?_
          have hb : Below w'.heap.size w' (w'.alloc (.cells y.cells.toArray 111)) := Below.alloc (Below.refl _ _) (Nat.le_refl _) _
          have hy9 := hy.same (SameT.below hb)
          exact ⟨rfl, rfl, i0', i1, i2, fun _ => ⟨y, d3, hy9, hyd, hpn⟩, fun _ => ⟨y, w'.heap.size, rfl, heap_push _ _ _, hy9, hyd, hpn⟩, iR.below hb iR.lt, iK.trans (Kept.of hb)⟩
      case refine_3 =>
        rintro w' x ⟨x0, x1, x2, x3, x4, hR, hk2⟩
        have hR : RAt b w' s an en := hR
        replace x0 := x0 rfl; replace x1 := x1 rfl; replace x2 := x2 rfl
        clear x3
        obtain ⟨y, g4, x4, hg4, hy, hyd, hpn⟩ := x4 rfl
        have HPN := Lib.hid hpn
        have HYD := Lib.hid hyd
        clear hpn hyd
        have hG := hk2.row5 hG hgb
        have hZ := hk2.row5 hZ hzb
        have hown := own_far hown (hk2.far (by omega))
        have hxs : ∀ x ∈ xs, x.held w' base := fun x hx => (hxs x hx).same (SameT.kept hk2 (by omega))
        have hy := hy.mono hbw
        have hbw := Nat.le_trans hbw hk2.size
        have hK := hK.trans hk2
        have hnews : ∀ j u, y.cells[j]? = some u → w'.cell? ((⟨g4, 0, none⟩ : Addr).add j) = some u := fun j u hj => by
          rw [Addr.add_mid, Nat.zero_add, cell_heap hg4, ← hj, List.getElem?_toArray]
        simp only [x0, x1, x2, x4, List.drop_succ_cons, List.drop_zero]
        clear x0 x1 x2 x4 CN hk2
        have hN2 := HN.out
        refine wpList_append_own _ rfl (.tmp 12) (.tmp 15) 30 rfl base 111 i0 (.agg #[.string ⟨#[]⟩, .string ⟨#[]⟩, .int .i64 0, .slice none 0 0]) 4 64 Try.underlying30 hi hz0' hz1 hz2 rfl (by decide) _ _ _ rfl hown ⟨g4, 0, none⟩ 1 1 y.cells rfl (by rw [LeafV.cells_len]) hnews (fun u hu => by simp [LeafV.cells] at hu; rcases hu with rfl | rfl | rfl | rfl <;> rfl) (by unfold maxLen; omega) (by omega) hbw ?_
        intro v9 w9 hown9 hgr _
        have hb9 : Below base w' w9 := below_grown hown hgr hbw
        have hsm : SameT 23 base w' w9 := SameT.grown hown hgr (by decide)
        clear hgr hnews
        simp only [Act.put, List.setIfInBounds_toArray, List.set_cons_succ, List.set_cons_zero]
        obtain ⟨a9, cap9, hv9, _⟩ := own_slice hown9
        subst hv9
        have hG9 := cells_of hG hb9 hgl
        have hZ9 := cells_of hZ hb9 (by omega)
        have hR9 := hR.below hb9 (by omega)
        have hsm9 : SameT 23 base w9 (w9.setCell ⟨g, 1, none⟩ (.slice a9 (k + 1) cap9)) := SameT.put hgl
        have qk := cell_heap hG9 1; have fk := frozen_heap hG9 1
        go_wp2
        go_roundw
        case rel =>
          refine ⟨k + 1, xs ++ [y], .slice a9 (k + 1) cap9, an, en, by omega, by simp [hxl], HPN, Lib.hid (by rw [HL.out, HST.out, ← HYD.out]; simp), row_put5 hG9, ?_, fun x hx => ?_, hR9.put hgb _, row_oth hZ9 hgz, by rw [World.size_setCell]; exact Nat.le_trans hbw hb9.size, (hK.grow hb9 (by omega)).setFar (by omega), by go_num⟩
          · have := own_far (w' := w9.setCell ⟨g, 1, none⟩ (.slice a9 (k + 1) cap9)) hown9 (fun j q1 q2 => row_oth' w9 g 1 j _ (by omega))
            rw [List.flatMap_append, List.flatMap_cons, List.flatMap_nil, List.append_nil]
            exact this
          · rcases List.mem_append.1 hx with q' | q'
            · exact ((hxs x q').same hsm).same hsm9
            · rw [List.mem_singleton.1 q']; exact (hy.same hsm).same hsm9
        case measure => (simp [intOf]) <;> omega
    · obtain rfl : k = N := by omega
      have d1 : decide ((k : Int) < (k : Int)) = false := decide_eq_false (by omega)
      have d1n : decide (k < k) = false := decide_eq_false (by omega)
      have qq := HL.out
      rw [H5.out, Nat.sub_self] at qq
      simp only [listP, List.append_nil, Prod.mk.injEq] at qq
      obtain ⟨q1, q2, q3⟩ := qq
      subst q2 q3
      obtain ⟨a, cap, hsv, hrow, hkc, hcm, hab⟩ := own_slice hown
      subst hsv
      have hheld : lvsHeld wr base a xs := ⟨hrow, own_held hown, hxs⟩
      have CX := rerr_any _ _ _ _ _ hR
      have HQ := Lib.hid q1
      clear H5 HL hown q1
      by_cases hE : a5 = a5 ∧ e5 = 0
      · obtain ⟨_, rfl⟩ := hE
        go_wp2_with (first | (go_at_call 116; refine CX.mono ?_; rintro e wx ⟨rfl, hwx⟩; obtain rfl : _ = wx := hwx.symm) | (refine wpList_load_mid rfl 32 (.tmp 3) rfl g 0 rfl _ _ (rangeAt_row5 hG) Try.underlying32 rfl (by kernel_rfl) ?_) | (refine wpList_storeRowTo (Z := #[.int .i64 ct, .slice a k cap]) rfl (.tmp 2) (.tmp 23) 32 rfl (by kernel_rfl) rfl (by rfl) hZ rfl (pf_one _ _ _ _) ?_))
        have hZ2 : (World.setRow _ w.heap.size #[.int .i64 ct, .slice a k cap]).heap[w.heap.size]? = some (.cells #[.int .i64 ct, .slice a k cap] 32 (0, 0)) := setRow_heap _ _ _ _ _ _ hZ
        have hrd := run_loadVar_mid (P := Try.prog) _ w.heap.size 0 32 (#[.int .i64 ct, .slice a k cap] : Array Value).toList _ (rangeAt_row5 hZ2) Try.underlying32 rfl (by kernel_rfl)
        refine bodyPost_ret (v := .agg #[.int .i64 ct, .slice a k cap]) ?_ rfl ?_
        · simp [results, Try.results104, asAddr]
          exact hrd
        exact ⟨a, k, cap, xs, (by first | rfl | simp only), HQ.out.symm, (hheld.same (SameT.setRow (Nat.lt_trans hzl hgl)) (SameT.setRow (Nat.lt_trans hzl hgl))).mono (Nat.le_trans hwz (Nat.le_of_lt hgl)), hxl, hkc, hcm, hR.setRow hzb _, HP.out, hK.setRow (Nat.le_refl _) _⟩
      · have hE : ¬ e5 = 0 := fun h => hE ⟨rfl, h⟩
        have hE0 : (e5 == 0) = false := beq_eq_false_iff_ne.2 hE
        go_wp2_with (first | (go_at_call 116; refine CX.mono ?_; rintro e wx ⟨rfl, hwx⟩; obtain rfl : _ = wx := hwx.symm) | (refine wpList_storeRowTo (Z := #[.int .i64 0, .slice none 0 0]) rfl (.tmp 2) (.tmp 22) 32 rfl (by kernel_rfl) rfl (by rfl) hZ rfl (pf_one _ _ _ _) ?_))
        have hZ2 : (World.setRow _ w.heap.size #[.int .i64 0, .slice none 0 0]).heap[w.heap.size]? = some (.cells #[.int .i64 0, .slice none 0 0] 32 (0, 0)) := setRow_heap _ _ _ _ _ _ hZ
        have hrd := run_loadVar_mid (P := Try.prog) _ w.heap.size 0 32 (#[.int .i64 0, .slice none 0 0] : Array Value).toList _ (rangeAt_row5 hZ2) Try.underlying32 rfl (by kernel_rfl)
        refine bodyPost_ret (v := .agg #[.int .i64 0, .slice none 0 0]) ?_ rfl ?_
        · simp [results, Try.results104, asAddr]
          exact hrd
        try simp only [if_neg hE]
        exact ⟨none, 0, 0, [], rfl, rfl, lvsHeld.nil _ _, rfl, Nat.le_refl _, Nat.zero_le _, hR.setRow hzb _, HP.out, hK.setRow (Nat.le_refl _) _⟩
end Go.Proofs.Ythipnkbfdkmhaaa
