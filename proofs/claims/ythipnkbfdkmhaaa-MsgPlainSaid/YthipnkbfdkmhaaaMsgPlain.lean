/- MsgPlain walked. -/
import Derived.Test.YthipnkbfdkmhaaaPlain
import Derived.Test.YthipnkbfdkmhaaaMsg13
import Derived.Test.YthipnkbfdkmhaaaPhi
import Derived.Deep.MidRow
import Derived.WalkKit
import Derived.ProofKit
import Derived.Handy
import Derived.Below
import Derived.Lib.Hide
import Derived.IntWalk
import Derived.Outline
import Derived.WalkLawsBesides
import Derived.WalkSpells
namespace Go.Proofs.Ythipnkbfdkmhaaa
open Go.RowKit
attribute [local go_sem] strV
set_option linter.unusedVariables false
theorem put_an (m : MsgV) (ack : ByteArray) (nx : Int) : (m.row.setIfInBounds 43 (.string ack)).setIfInBounds 44 (.int .i64 nx) = ({ m with ack := ack, nx := nx } : MsgV).row := by
  rw [MsgV.row_split, MsgV.row_split, back_set _ _ m.front_len 8, back_set _ _ m.front_len 9]
  rfl
theorem plain_idem (m : MsgV) : m.plain.plain.d = m.plain.d := by
  unfold MsgV.plain
  by_cases k1 : m.kd = 1
  · simp only [if_pos k1]
    rw [if_pos (show (MsgV.zero m.kd).kd = 1 from k1)]
    rfl
  simp only [if_neg k1]
  by_cases k2 : 2 ≤ m.kd ∧ m.kd ≤ 5
  · simp only [if_pos k2]
    rw [if_neg k1]
    unfold MsgV.d
    by_cases k3 : m.kd = 3
    · simp only [k3]; simp
    by_cases k4 : m.kd = 4
    · simp only [k4]; simp
    by_cases k5 : m.kd = 5
    · simp only [k5]; simp
    simp only [k3, k4, k5]; simp
  · simp only [if_neg k2]
    rw [if_neg (show ¬ (MsgV.zero m.kd).kd = 1 from k1), if_neg (show ¬ (2 ≤ (MsgV.zero m.kd).kd ∧ (MsgV.zero m.kd).kd ≤ 5) from k2)]
    rfl
theorem plain_kd (m : MsgV) : m.plain.kd = m.kd := by
  unfold MsgV.plain
  split
  · rfl
  · split <;> rfl
theorem may_ack {m : MsgV} (h : mayMsgB m = true) (h3 : m.kd ≠ 3) : m.ack = ⟨#[]⟩ := by
  have hp : m.d = m.plain.d := by
    unfold mayMsgB at h
    simp only [Bool.and_eq_true] at h
    exact (msgB_iff _ _).1 h.1.2
  have ha : m.ack = m.plain.ack := congrArg MsgD.ack hp
  rw [ha]
  unfold MsgV.plain
  split
  · rfl
  · split
    · simp only
    · rfl
theorem light_small {m : MsgV} (h : lightM m = true) : m.d.small := by
  obtain ⟨_, l2, l3⟩ := light_msg h
  obtain ⟨p1, p2, _⟩ := light_pf l2
  obtain ⟨c1, c2, _⟩ := light_pf l3
  have key : ∀ xs : List LeafV, xs.length ≤ 5 → (∀ x ∈ xs, x.path.length ≤ 40) → smallL (xs.map LeafV.d) := fun xs h1 h2 => ⟨by rw [List.length_map]; omega, fun y hy => by
    obtain ⟨x, hx, rfl⟩ := List.mem_map.1 hy
    have := h2 x hx
    show x.path.length ≤ 1000
    omega⟩
  exact ⟨key _ p1 p2, key _ c1 c2⟩
def Fact.msg (d : MsgD) : Fact := ⟨fun v w => ∃ q : MsgV, v = .agg q.row ∧ q.ok w ∧ q.d = d, fun v x y ⟨q, h1, h2, h3⟩ hb => ⟨q, h1, h2.below hb, h3⟩⟩
set_option maxRecDepth 100000 in
set_option maxHeartbeats 12800000 in
theorem walkMsgPlain (m : MsgV) (ack : ByteArray) (nx : Int) (w : World) (hm : m.ok w) (hs : ack.size ≤ maxLen) :
    Calls Try.prog 5 #[.agg m.row, .string ack, .int .i64 nx] w fun e w' => e = .returned (.bool true) ∧ Below w.heap.size w w' := by
  have CL := fun W (hb : Below w.heap.size w W) => lightM_any m W (hm.below hb)
  obtain ⟨kl, el⟩ : ∃ b, lightM m = b := ⟨_, rfl⟩
  obtain ⟨km, em⟩ : ∃ b, mayMsgB m = b := ⟨_, rfl⟩
  simp only [el] at CL
  have HEL := Lib.hid el
  have HEM := Lib.hid em
  clear el em
  go_enter Try.func5, Try.ntmps5
  go_upto_region 1 with fail
  refine wp_nameE _ (fun W1 hX => ?_)
  have hg : W1.heap[w.heap.size]? = some (.cells m.row 34 (0, 0)) := by rw [hX]; exact heap_push _ _ _
  have hbel : Below w.heap.size w W1 := by rw [hX]; exact Below.alloc (Below.refl _ _) (Nat.le_refl _) _
  clear hX
  have hgl : w.heap.size < W1.heap.size := (Array.getElem?_eq_some_iff.1 hg).1
  go_upto_region 3 with (go_at_call 14; refine (first8_any _).mono ?_; rintro e w2 ⟨rfl, hb⟩; have hg := cells_of hg hb hgl; have hgl := Nat.lt_of_lt_of_le hgl hb.size; have hbel := hbel.trans (hb.mono hbel.size); clear hb)
  cases kl
  · go_wp2_with (first | (refine wpList_load_mid rfl 34 (.tmp 3) rfl w.heap.size 0 rfl m.row.toList _ (rangeAt_row5 hg) Try.underlying34 rfl (msg_info _) ?_; rw [Array.toArray_toList]) | (go_at_call 14; refine (first8_any _).mono ?_; rintro e w2 ⟨rfl, hb⟩; have hg := cells_of hg hb hgl; have hgl := Nat.lt_of_lt_of_le hgl hb.size; have hbel := hbel.trans (hb.mono hbel.size); clear hb) | (go_at_call 15; refine (CL _ hbel).mono ?_; rintro e w2 ⟨rfl, hb⟩; have hg := cells_of hg hb hgl; have hgl := Nat.lt_of_lt_of_le hgl hb.size; have hbel := hbel.trans (hb.mono hbel.size); clear hb))
    go_ret
    exact ⟨by first | rfl | simp, hbel⟩
  by_cases c2 : 100 < ack.size
  · have d2 : decide (100 < (ack.size : Int)) = true := decide_eq_true (by omega)
    go_wp2_with (first | (refine wpList_load_mid rfl 34 (.tmp 3) rfl w.heap.size 0 rfl m.row.toList _ (rangeAt_row5 hg) Try.underlying34 rfl (msg_info _) ?_; rw [Array.toArray_toList]) | (go_at_call 14; refine (first8_any _).mono ?_; rintro e w2 ⟨rfl, hb⟩; have hg := cells_of hg hb hgl; have hgl := Nat.lt_of_lt_of_le hgl hb.size; have hbel := hbel.trans (hb.mono hbel.size); clear hb) | (go_at_call 15; refine (CL _ hbel).mono ?_; rintro e w2 ⟨rfl, hb⟩; have hg := cells_of hg hb hgl; have hgl := Nat.lt_of_lt_of_le hgl hb.size; have hbel := hbel.trans (hb.mono hbel.size); clear hb))
    go_ret
    exact ⟨by first | rfl | simp, hbel⟩
  have d2 : decide (100 < (ack.size : Int)) = false := decide_eq_false (by omega)
  have CP := fun W (hb : Below w.heap.size w W) => msgPlain_any m W (hm.below hb) (light_small HEL.out)
  go_upto_region 6 with (first | (refine wpList_load_mid rfl 34 (.tmp 3) rfl w.heap.size 0 rfl m.row.toList _ (rangeAt_row5 hg) Try.underlying34 rfl (msg_info _) ?_; rw [Array.toArray_toList]) | (go_at_call 14; refine (first8_any _).mono ?_; rintro e w2 ⟨rfl, hb⟩; have hg := cells_of hg hb hgl; have hgl := Nat.lt_of_lt_of_le hgl hb.size; have hbel := hbel.trans (hb.mono hbel.size); clear hb) | (go_at_call 15; refine (CL _ hbel).mono ?_; rintro e w2 ⟨rfl, hb⟩; have hg := cells_of hg hb hgl; have hgl := Nat.lt_of_lt_of_le hgl hb.size; have hbel := hbel.trans (hb.mono hbel.size); clear hb) | (go_at_call 24; refine (CP _ hbel).mono ?_; rintro e wp ⟨q, rfl, hqok, hqd, hb⟩; have hg := cells_of hg hb hgl; have hgl := Nat.lt_of_lt_of_le hgl hb.size; have hbel := hbel.trans (hb.mono hbel.size); clear hb) | (refine wpList_storeRowTo (Z := q.row) rfl (.tmp 7) (.tmp 21) 34 rfl (by rw [MsgV.row_size]; kernel_rfl) rfl (by rfl) (heap_push _ _ _) (by first | rfl | (simp only [MsgV.row_size]; done) | (rw [MsgV.row_size]; rfl)) (MsgV.row_one _) ?_))
  clear CP CL
  refine wp_nameE _ (fun W3 hX => ?_)
  have hb3 : Below wp.heap.size wp W3 := by rw [hX]; exact below_setRow (Below.alloc (Below.refl _ _) (Nat.le_refl _) _) (Nat.le_refl _) _
  have hq3 : W3.heap[wp.heap.size]? = some (.cells q.row 34 (0, 0)) := by rw [hX]; exact setRow_heap _ _ _ _ _ _ (heap_push _ _ _)
  clear hX
  have hqok := hqok.below hb3
  have hg := cells_of hg hb3 hgl
  have hgq := hgl
  have hgl := Nat.lt_of_lt_of_le hgl hb3.size
  have hbel := hbel.trans (hb3.mono hbel.size)
  obtain ⟨gq, hgx⟩ : ∃ z, wp.heap.size = z := ⟨_, rfl⟩
  rw [hgx] at hq3 hgq
  simp only [hgx]
  clear hgx hb3
  have hql : gq < W3.heap.size := (Array.getElem?_eq_some_iff.1 hq3).1
  go_upto_region 7 with (first | (refine wpList_load_mid rfl 34 (.tmp 7) rfl gq 0 rfl q.row.toList _ (rangeAt_row5 hq3) Try.underlying34 rfl (msg_info _) ?_; rw [Array.toArray_toList]) | (refine wpList_storeRowTo (Z := q.row) rfl (.tmp 8) (.tmp 22) 34 rfl (by rw [MsgV.row_size]; kernel_rfl) rfl (by rfl) (heap_push _ _ _) (by first | rfl | (simp only [MsgV.row_size]; done) | (rw [MsgV.row_size]; rfl)) (MsgV.row_one _) ?_))
  refine wp_nameE _ (fun W4 hX => ?_)
  have hb4 : Below W3.heap.size W3 W4 := by rw [hX]; exact below_setRow (Below.alloc (Below.refl _ _) (Nat.le_refl _) _) (Nat.le_refl _) _
  have hn4 : W4.heap[W3.heap.size]? = some (.cells q.row 34 (0, 0)) := by rw [hX]; exact setRow_heap _ _ _ _ _ _ (heap_push _ _ _)
  clear hX
  have hg := cells_of hg hb4 hgl
  have hq3 := cells_of hq3 hb4 hql
  have hbel := hbel.trans (hb4.mono hbel.size)
  have hb45 := (hb4.setCell (p := ⟨W3.heap.size, 43, none⟩) (Nat.le_refl _) (.string ack)).setCell (p := ⟨W3.heap.size, 44, none⟩) (Nat.le_refl _) (.int .i64 nx)
  have hqok := hqok.below hb45
  clear hb45
  obtain ⟨gn, hgx⟩ : ∃ z, W3.heap.size = z := ⟨_, rfl⟩
  rw [hgx] at hn4 hgl hql hqok
  simp only [hgx]
  clear hgx hb4
  have hnl : gn < W4.heap.size := (Array.getElem?_eq_some_iff.1 hn4).1
  have z43 := (msg_cells hn4).2.2.2.2.2.2.2.2.2.2.2.1
  have z44 := (msg_cells hn4).2.2.2.2.2.2.2.2.2.2.2.2.1
  have f43 := frozen_heap hn4 43
  have f44 := frozen_heap hn4 44
  go_upto_region 8 with fail
  refine wp_nameE _ (fun W5 hX => ?_)
  obtain ⟨nn, hnn⟩ : ∃ nn : MsgV, ({ q with ack := ack, nx := nx } : MsgV) = nn := ⟨_, rfl⟩
  have hn7 : W5.heap[gn]? = some (.cells nn.row 34 (0, 0)) := by rw [hX, ← hnn, ← put_an]; exact row_put5 (row_put5 hn4)
  have hq7 : W5.heap[gq]? = some (.cells q.row 34 (0, 0)) := by rw [hX]; exact row_oth (row_oth hq3 (by omega)) (by omega)
  have hm7 : W5.heap[w.heap.size]? = some (.cells m.row 34 (0, 0)) := by rw [hX]; exact row_oth (row_oth hg (by omega)) (by omega)
  have hbel7 : Below w.heap.size w W5 := by rw [hX]; exact (hbel.setCell (p := ⟨gn, 43, none⟩) (by show _ ≤ gn; omega) _).setCell (p := ⟨gn, 44, none⟩) (by show _ ≤ gn; omega) _
  have hqok : q.ok W5 := by rw [hX]; exact hqok
  clear hX z43 z44 f43 f44 hn4 hq3 hg hbel
  have hql7 := (Array.getElem?_eq_some_iff.1 hq7).1
  have hnl7 := (Array.getElem?_eq_some_iff.1 hn7).1
  have hml7 := (Array.getElem?_eq_some_iff.1 hm7).1
  have hnok : nn.ok W5 := by rw [← hnn]; exact ⟨hqok.p, hqok.plen, hqok.pcap, hqok.pcM, hqok.c, hqok.clen, hqok.ccap, hqok.ccM, hqok.spM, hqok.dpM⟩
  have hmok := hm.below hbel7
  have hqk : q.kd = m.kd := (congrArg MsgD.kd hqd).trans (plain_kd m)
  have hqs : q.d.small := by rw [hqd]; exact small_plain (light_small HEL.out)
  have hqq : q.plain.d = q.d := by rw [plain_d hqd, plain_idem, hqd]
  have CPq := fun W (hb : Below W5.heap.size W5 W) => msgPlain_any q W (hqok.below hb) hqs
  simp only [plainPost, hqq] at CPq
  have CSq := fun W (hb : Below W5.heap.size W5 W) (y : MsgV) (hy : y.ok W) (hyd : y.d = q.d) => msgSame_any q y W (hqok.below hb) hy
  have CSq : ∀ W (hb : Below W5.heap.size W5 W) (y : MsgV) (hy : y.ok W) (hyd : y.d = q.d), Calls Try.prog 19 #[.agg q.row, .agg y.row] W fun e w' => e = .returned (.bool true) ∧ Below W.heap.size W w' := fun W hb y hy hyd => by
    have := CSq W hb y hy hyd
    rwa [(msgB_iff _ _).2 hyd.symm] at this
  have CMm := fun W (hb : Below W5.heap.size W5 W) => msgMay_any m W (hmok.below hb)
  simp only [HEM.out] at CMm
  have CSm : km = true → ∀ W (hb : Below W5.heap.size W5 W), Calls Try.prog 19 #[.agg m.row, .agg q.row] W fun e w' => e = .returned (.bool true) ∧ Below W.heap.size W w' := fun hk W hb => by
    have := msgSame_any m q W (hmok.below hb) (hqok.below hb)
    have hp : m.d = m.plain.d := by
      have h := HEM.out
      rw [hk] at h
      unfold mayMsgB at h
      simp only [Bool.and_eq_true] at h
      exact (msgB_iff _ _).1 h.1.2
    rwa [(msgB_iff _ _).2 (by rw [hqd]; exact hp)] at this
  obtain ⟨ka, eka⟩ : ∃ b, (q.ack.toList == ack.toList) = b := ⟨_, rfl⟩
  obtain ⟨kn, ekn⟩ : ∃ b, (q.nx == nx) = b := ⟨_, rfl⟩
  have hsn : msgB q nn = (ka && kn) := by
    rw [Bool.eq_iff_iff, msgB_iff, ← hnn, ← eka, ← ekn, Bool.and_eq_true, ba_eq, beq_iff_eq]
    unfold MsgV.d
    simp
  have CSn := fun W (hb : Below W5.heap.size W5 W) => msgSame_any q nn W (hqok.below hb) (hnok.below hb)
  simp only [hsn] at CSn
  have CMn := fun W (hb : Below W5.heap.size W5 W) => msgMay_any nn W (hnok.below hb)
  have hmn : m.kd ≠ 3 → ack ≠ ⟨#[]⟩ → mayMsgB nn = false := fun h3 ha => by
    cases h9 : mayMsgB nn
    · rfl
    · exact absurd (by have := may_ack h9 (by rw [← hnn]; exact fun e => h3 (hqk.symm.trans e)); rw [← hnn] at this; exact this) ha
  clear hsn hnn hqd hqk hqs hqq
  obtain ⟨k3, e3⟩ : ∃ b, (m.kd == 3) = b := ⟨_, rfl⟩
  obtain ⟨k0, e0⟩ : ∃ b, (ack.toList == []) = b := ⟨_, rfl⟩
  have CMn : k3 = false → k0 = false → ∀ W (hb : Below W5.heap.size W5 W), Calls Try.prog 17 #[.agg nn.row] W fun e w' => e = .returned (.bool false) ∧ Below W.heap.size W w' := fun h3 h0 W hb => by
    have := CMn W hb
    rwa [hmn (by rw [h3] at e3; exact beq_eq_false_iff_ne.1 e3) (fun h => by rw [h, h0] at e0; simp at e0)] at this
  clear hmn
  cases km
  case false =>
    cases ka
    case false =>
      simp only [Bool.false_and] at CSn
      refine wp_region_facts [Fact.eq (.agg q.row), Fact.eq (.agg q.row), Fact.msg q.d, Fact.eq (.bool true), Fact.eq (.bool false), Fact.eq (.bool false), Fact.eq (.agg m.row), Fact.eq (.bool false), Fact.eq (.bool false), Fact.any, Fact.any, Fact.any, Fact.any, Fact.eq (.bool false), Fact.eq (.bool false), Fact.eq (.bool false), Fact.eq (.agg q.row), Fact.eq (.agg nn.row), Fact.eq (.bool false), Fact.eq (.pointer (some ⟨gq, 43, none⟩)), Fact.eq (.string q.ack), Fact.eq (.string ack), Fact.eq (.bool false), Fact.eq (.bool false), Fact.any, Fact.any, Fact.any, Fact.any, Fact.eq (.bool false), Fact.eq (.bool false), Fact.eq (.bool false)] (by kernel_rfl) (by kernel_rfl) (by kernel_rfl) (by kernel_rfl) (fun x => by simp only [fillFrom, Act.put, List.setIfInBounds_toArray, List.set_cons_succ, List.set_cons_zero]; rfl) ?_ ?_
      · refine ⟨?_, ?_, ?_, ?_, ?_, ?_, ?_, ?_, ?_, ?_, ?_, ?_, ?_, ?_, ?_, ?_, ?_, ?_, ?_, ?_, ?_, ?_, ?_, ?_, ?_, ?_, ?_, ?_, ?_, ?_, ?_, trivial⟩
        · intro x w' hbw hd
          clear hd
          have hqr := cells_of hq7 hbw hql7
          go_wp2_with (first | (refine wpList_load_mid rfl 34 (.tmp 7) rfl gq 0 rfl q.row.toList _ (rangeAt_row5 hqr) Try.underlying34 rfl (msg_info _) ?_; rw [Array.toArray_toList]))
          exact frPost_mk rfl (by repeat (first | assumption | exact Below.refl _ _ | refine bch ?_ (by assumption) | refine Below.alloc ?_ (by simp) _)) rfl
        · intro x w' hbw hd
          clear hd
          have hqr := cells_of hq7 hbw hql7
          go_wp2_with (first | (refine wpList_load_mid rfl 34 (.tmp 7) rfl gq 0 rfl q.row.toList _ (rangeAt_row5 hqr) Try.underlying34 rfl (msg_info _) ?_; rw [Array.toArray_toList]))
          exact frPost_mk rfl (by repeat (first | assumption | exact Below.refl _ _ | refine bch ?_ (by assumption) | refine Below.alloc ?_ (by simp) _)) rfl
        · intro x w' hbw hd
          have d1 : x 1 = .agg q.row := hd 1 rfl
          clear hd
          have CC := CPq w' hbw
          go_wp2_with (first | (go_at_call 24; refine (CC).mono ?_; rintro e wx ⟨y, rfl, hyo, hyd, hbx⟩))
          exact frPost_mk rfl (by repeat (first | assumption | exact Below.refl _ _ | refine bch ?_ (by assumption) | refine Below.alloc ?_ (by simp) _)) ⟨y, rfl, hyo, hyd⟩
        · intro x w' hbw hd
          have d0 : x 0 = .agg q.row := hd 0 rfl
          obtain ⟨y, d2, hy, hyd⟩ := (show (Fact.msg q.d).holds (x 2) w' from hd 2 rfl)
          clear hd
          have CC := CSq w' hbw y hy hyd
          go_wp2_with (first | (go_at_call 19; refine (CC).mono ?_; rintro e wx ⟨rfl, hbx⟩))
          exact frPost_mk rfl (by repeat (first | assumption | exact Below.refl _ _ | refine bch ?_ (by assumption) | refine Below.alloc ?_ (by simp) _)) rfl
        · intro x w' hbw hd
          have d3 : x 3 = .bool true := hd 3 rfl
          clear hd
          go_wp2_with fail
          exact frPost_mk rfl (by repeat (first | assumption | exact Below.refl _ _ | refine bch ?_ (by assumption) | refine Below.alloc ?_ (by simp) _)) rfl
        · intro x w' hbw hd
          have d4 : x 4 = .bool false := hd 4 rfl
          clear hd
          go_wp2_with fail
          exact frPost_mk rfl (by repeat (first | assumption | exact Below.refl _ _ | refine bch ?_ (by assumption) | refine Below.alloc ?_ (by simp) _)) rfl
        · intro x w' hbw hd
          have d5 : x 5 = .bool false := hd 5 rfl
          clear hd
          have hmr := cells_of hm7 hbw hml7
          go_wp2_with (first | (refine wpList_load_midG 34 (.tmp 3) rfl w.heap.size 0 rfl m.row.toList _ (rangeAt_row5 hmr) Try.underlying34 rfl (msg_info _) (by first | rfl | (simp [Region.wanted, yielded, *]; done)) ?_; rw [Array.toArray_toList]))
          exact frPost_mk rfl (by repeat (first | assumption | exact Below.refl _ _ | refine bch ?_ (by assumption) | refine Below.alloc ?_ (by simp) _)) rfl
        · intro x w' hbw hd
          have d5 : x 5 = .bool false := hd 5 rfl
          have d6 : x 6 = .agg m.row := hd 6 rfl
          clear hd
          have CC := CMm w' hbw
          go_wp2_with (first | (go_at_call 17; refine (CC).mono ?_; rintro e wx ⟨rfl, hbx⟩))
          exact frPost_mk rfl (by repeat (first | assumption | exact Below.refl _ _ | refine bch ?_ (by assumption) | refine Below.alloc ?_ (by simp) _)) rfl
        · intro x w' hbw hd
          have d5 : x 5 = .bool false := hd 5 rfl
          have d7 : x 7 = .bool false := hd 7 rfl
          clear hd
          go_wp2_with fail
          exact frPost_mk rfl (by repeat (first | assumption | exact Below.refl _ _ | refine bch ?_ (by assumption) | refine Below.alloc ?_ (by simp) _)) rfl
        · intro x w' hbw hd
          have d8 : x 8 = .bool false := hd 8 rfl
          clear hd
          go_wp2_with fail
          first | exact frPost_mk rfl (by repeat (first | assumption | exact Below.refl _ _ | refine bch ?_ (by assumption) | refine Below.alloc ?_ (by simp) _)) trivial | exact ⟨rfl, rfl, Below.refl _ _, trivial⟩
        · intro x w' hbw hd
          have d8 : x 8 = .bool false := hd 8 rfl
          clear hd
          go_wp2_with fail
          first | exact frPost_mk rfl (by repeat (first | assumption | exact Below.refl _ _ | refine bch ?_ (by assumption) | refine Below.alloc ?_ (by simp) _)) trivial | exact ⟨rfl, rfl, Below.refl _ _, trivial⟩
        · intro x w' hbw hd
          have d8 : x 8 = .bool false := hd 8 rfl
          skip
          skip
          clear hd
          go_wp2_with (first | fail)
          first | exact frPost_mk rfl (by repeat (first | assumption | exact Below.refl _ _ | refine bch ?_ (by assumption) | refine Below.alloc ?_ (by simp) _)) trivial | exact ⟨rfl, rfl, Below.refl _ _, trivial⟩
        · intro x w' hbw hd
          have d8 : x 8 = .bool false := hd 8 rfl
          skip
          clear hd
          go_wp2_with fail
          first | exact frPost_mk rfl (by repeat (first | assumption | exact Below.refl _ _ | refine bch ?_ (by assumption) | refine Below.alloc ?_ (by simp) _)) trivial | exact ⟨rfl, rfl, Below.refl _ _, trivial⟩
        · intro x w' hbw hd
          have d5 : x 5 = .bool false := hd 5 rfl
          have d8 : x 8 = .bool false := hd 8 rfl
          skip
          clear hd
          go_wp2_with fail
          exact frPost_mk rfl (by repeat (first | assumption | exact Below.refl _ _ | refine bch ?_ (by assumption) | refine Below.alloc ?_ (by simp) _)) rfl
        · intro x w' hbw hd
          have d5 : x 5 = .bool false := hd 5 rfl
          have d13 : x 13 = .bool false := hd 13 rfl
          clear hd
          go_wp2_with fail
          exact frPost_mk rfl (by repeat (first | assumption | exact Below.refl _ _ | refine bch ?_ (by assumption) | refine Below.alloc ?_ (by simp) _)) rfl
        · intro x w' hbw hd
          have d14 : x 14 = .bool false := hd 14 rfl
          clear hd
          go_wp2_with fail
          exact frPost_mk rfl (by repeat (first | assumption | exact Below.refl _ _ | refine bch ?_ (by assumption) | refine Below.alloc ?_ (by simp) _)) rfl
        · intro x w' hbw hd
          have d15 : x 15 = .bool false := hd 15 rfl
          clear hd
          have hqr := cells_of hq7 hbw hql7
          go_wp2_with (first | (refine wpList_load_midG 34 (.tmp 7) rfl gq 0 rfl q.row.toList _ (rangeAt_row5 hqr) Try.underlying34 rfl (msg_info _) (by first | rfl | (simp [Region.wanted, yielded, *]; done)) ?_; rw [Array.toArray_toList]))
          exact frPost_mk rfl (by repeat (first | assumption | exact Below.refl _ _ | refine bch ?_ (by assumption) | refine Below.alloc ?_ (by simp) _)) rfl
        · intro x w' hbw hd
          have d15 : x 15 = .bool false := hd 15 rfl
          clear hd
          have hnr := cells_of hn7 hbw hnl7
          go_wp2_with (first | (refine wpList_load_midG 34 (.tmp 8) rfl gn 0 rfl nn.row.toList _ (rangeAt_row5 hnr) Try.underlying34 rfl (msg_info _) (by first | rfl | (simp [Region.wanted, yielded, *]; done)) ?_; rw [Array.toArray_toList]))
          exact frPost_mk rfl (by repeat (first | assumption | exact Below.refl _ _ | refine bch ?_ (by assumption) | refine Below.alloc ?_ (by simp) _)) rfl
        · intro x w' hbw hd
          have d15 : x 15 = .bool false := hd 15 rfl
          have d16 : x 16 = .agg q.row := hd 16 rfl
          have d17 : x 17 = .agg nn.row := hd 17 rfl
          clear hd
          have CC := CSn w' hbw
          go_wp2_with (first | (go_at_call 19; refine (CC).mono ?_; rintro e wx ⟨rfl, hbx⟩))
          exact frPost_mk rfl (by repeat (first | assumption | exact Below.refl _ _ | refine bch ?_ (by assumption) | refine Below.alloc ?_ (by simp) _)) rfl
        · intro x w' hbw hd
          have d15 : x 15 = .bool false := hd 15 rfl
          clear hd
          go_wp2_with fail
          exact frPost_mk rfl (by repeat (first | assumption | exact Below.refl _ _ | refine bch ?_ (by assumption) | refine Below.alloc ?_ (by simp) _)) rfl
        · intro x w' hbw hd
          have d15 : x 15 = .bool false := hd 15 rfl
          have d19 : x 19 = .pointer (some ⟨gq, 43, none⟩) := hd 19 rfl
          clear hd
          have hqr := cells_of hq7 hbw hql7
          have c43 := (msg_cells hqr).2.2.2.2.2.2.2.2.2.2.2.1
          go_wp2_with fail
          exact frPost_mk rfl (by repeat (first | assumption | exact Below.refl _ _ | refine bch ?_ (by assumption) | refine Below.alloc ?_ (by simp) _)) rfl
        · intro x w' hbw hd
          have d15 : x 15 = .bool false := hd 15 rfl
          clear hd
          go_wp2_with fail
          exact frPost_mk rfl (by repeat (first | assumption | exact Below.refl _ _ | refine bch ?_ (by assumption) | refine Below.alloc ?_ (by simp) _)) rfl
        · intro x w' hbw hd
          have d15 : x 15 = .bool false := hd 15 rfl
          have d20 : x 20 = .string q.ack := hd 20 rfl
          have d21 : x 21 = .string ack := hd 21 rfl
          clear hd
          go_wp2_with fail
          exact frPost_mk rfl (by repeat (first | assumption | exact Below.refl _ _ | refine bch ?_ (by assumption) | refine Below.alloc ?_ (by simp) _)) rfl
        · intro x w' hbw hd
          have d15 : x 15 = .bool false := hd 15 rfl
          have d22 : x 22 = .bool false := hd 22 rfl
          clear hd
          go_wp2_with fail
          exact frPost_mk rfl (by repeat (first | assumption | exact Below.refl _ _ | refine bch ?_ (by assumption) | refine Below.alloc ?_ (by simp) _)) rfl
        · intro x w' hbw hd
          have d23 : x 23 = .bool false := hd 23 rfl
          clear hd
          go_wp2_with fail
          first | exact frPost_mk rfl (by repeat (first | assumption | exact Below.refl _ _ | refine bch ?_ (by assumption) | refine Below.alloc ?_ (by simp) _)) trivial | exact ⟨rfl, rfl, Below.refl _ _, trivial⟩
        · intro x w' hbw hd
          have d23 : x 23 = .bool false := hd 23 rfl
          skip
          clear hd
          go_wp2_with fail
          first | exact frPost_mk rfl (by repeat (first | assumption | exact Below.refl _ _ | refine bch ?_ (by assumption) | refine Below.alloc ?_ (by simp) _)) trivial | exact ⟨rfl, rfl, Below.refl _ _, trivial⟩
        · intro x w' hbw hd
          have d23 : x 23 = .bool false := hd 23 rfl
          clear hd
          go_wp2_with fail
          first | exact frPost_mk rfl (by repeat (first | assumption | exact Below.refl _ _ | refine bch ?_ (by assumption) | refine Below.alloc ?_ (by simp) _)) trivial | exact ⟨rfl, rfl, Below.refl _ _, trivial⟩
        · intro x w' hbw hd
          have d23 : x 23 = .bool false := hd 23 rfl
          skip
          skip
          clear hd
          go_wp2_with fail
          first | exact frPost_mk rfl (by repeat (first | assumption | exact Below.refl _ _ | refine bch ?_ (by assumption) | refine Below.alloc ?_ (by simp) _)) trivial | exact ⟨rfl, rfl, Below.refl _ _, trivial⟩
        · intro x w' hbw hd
          have d15 : x 15 = .bool false := hd 15 rfl
          have d23 : x 23 = .bool false := hd 23 rfl
          skip
          clear hd
          go_wp2_with fail
          exact frPost_mk rfl (by repeat (first | assumption | exact Below.refl _ _ | refine bch ?_ (by assumption) | refine Below.alloc ?_ (by simp) _)) rfl
        · intro x w' hbw hd
          have d15 : x 15 = .bool false := hd 15 rfl
          have d18 : x 18 = .bool false := hd 18 rfl
          have d28 : x 28 = .bool false := hd 28 rfl
          clear hd
          go_wp2_with fail
          exact frPost_mk rfl (by repeat (first | assumption | exact Below.refl _ _ | refine bch ?_ (by assumption) | refine Below.alloc ?_ (by simp) _)) rfl
        · intro x w' hbw hd
          have d15 : x 15 = .bool false := hd 15 rfl
          have d29 : x 29 = .bool false := hd 29 rfl
          clear hd
          go_wp2_with fail
          exact frPost_mk rfl (by repeat (first | assumption | exact Below.refl _ _ | refine bch ?_ (by assumption) | refine Below.alloc ?_ (by simp) _)) rfl
      intro x wf hbw hd
      have d30 : x 30 = .bool false := hd 30 (by decide)
      clear hd
      simp only [Nat.zero_add, Nat.reduceAdd, d30]
      have hmr := cells_of hm7 hbw hml7
      have hnr := cells_of hn7 hbw hnl7
      have c0 := (msg_cells hmr).1
      cases k3
      case true =>
        have c9 : wf.cell? ⟨w.heap.size, 0, none⟩ = some (.int .i64 3) := by rw [c0, beq_iff_eq.1 e3]
        clear c0 e3 CMn CSn CPq CSq CMm CSm
        go_wp2_with fail
        go_ret
        exact ⟨by first | rfl | simp, hbel7.trans (hbw.mono hbel7.size)⟩
      cases k0
      case true =>
        go_wp2_with fail
        go_ret
        exact ⟨by first | rfl | simp, hbel7.trans (hbw.mono hbel7.size)⟩
      have CN := CMn rfl rfl wf hbw
      go_wp2_with (first | (refine wpList_load_midG 34 (.tmp 8) rfl gn 0 rfl nn.row.toList _ (rangeAt_row5 hnr) Try.underlying34 rfl (msg_info _) (by first | rfl | (simp [Region.wanted, yielded, *]; done)) ?_; rw [Array.toArray_toList]) | (go_at_call 17; refine CN.mono ?_; rintro e wx ⟨rfl, hbx⟩))
      go_ret
      exact ⟨by first | rfl | simp, (hbel7.trans (hbw.mono hbel7.size)).trans (hbx.mono (hbel7.trans (hbw.mono hbel7.size)).size)⟩
    case true =>
      simp only [Bool.true_and] at CSn
      refine wp_region_facts [Fact.eq (.agg q.row), Fact.eq (.agg q.row), Fact.msg q.d, Fact.eq (.bool true), Fact.eq (.bool false), Fact.eq (.bool false), Fact.eq (.agg m.row), Fact.eq (.bool false), Fact.eq (.bool false), Fact.any, Fact.any, Fact.any, Fact.any, Fact.eq (.bool false), Fact.eq (.bool false), Fact.eq (.bool false), Fact.eq (.agg q.row), Fact.eq (.agg nn.row), Fact.eq (.bool kn), Fact.eq (.pointer (some ⟨gq, 43, none⟩)), Fact.eq (.string q.ack), Fact.eq (.string ack), Fact.eq (.bool true), Fact.eq (.bool true), Fact.eq (.pointer (some ⟨gq, 44, none⟩)), Fact.eq (.int .i64 q.nx), Fact.eq (.int .i64 nx), Fact.eq (.bool kn), Fact.eq (.bool kn), Fact.eq (.bool false), Fact.eq (.bool false)] (by kernel_rfl) (by kernel_rfl) (by kernel_rfl) (by kernel_rfl) (fun x => by simp only [fillFrom, Act.put, List.setIfInBounds_toArray, List.set_cons_succ, List.set_cons_zero]; rfl) ?_ ?_
      · refine ⟨?_, ?_, ?_, ?_, ?_, ?_, ?_, ?_, ?_, ?_, ?_, ?_, ?_, ?_, ?_, ?_, ?_, ?_, ?_, ?_, ?_, ?_, ?_, ?_, ?_, ?_, ?_, ?_, ?_, ?_, ?_, trivial⟩
        · intro x w' hbw hd
          clear hd
          have hqr := cells_of hq7 hbw hql7
          go_wp2_with (first | (refine wpList_load_mid rfl 34 (.tmp 7) rfl gq 0 rfl q.row.toList _ (rangeAt_row5 hqr) Try.underlying34 rfl (msg_info _) ?_; rw [Array.toArray_toList]))
          exact frPost_mk rfl (by repeat (first | assumption | exact Below.refl _ _ | refine bch ?_ (by assumption) | refine Below.alloc ?_ (by simp) _)) rfl
        · intro x w' hbw hd
          clear hd
          have hqr := cells_of hq7 hbw hql7
          go_wp2_with (first | (refine wpList_load_mid rfl 34 (.tmp 7) rfl gq 0 rfl q.row.toList _ (rangeAt_row5 hqr) Try.underlying34 rfl (msg_info _) ?_; rw [Array.toArray_toList]))
          exact frPost_mk rfl (by repeat (first | assumption | exact Below.refl _ _ | refine bch ?_ (by assumption) | refine Below.alloc ?_ (by simp) _)) rfl
        · intro x w' hbw hd
          have d1 : x 1 = .agg q.row := hd 1 rfl
          clear hd
          have CC := CPq w' hbw
          go_wp2_with (first | (go_at_call 24; refine (CC).mono ?_; rintro e wx ⟨y, rfl, hyo, hyd, hbx⟩))
          exact frPost_mk rfl (by repeat (first | assumption | exact Below.refl _ _ | refine bch ?_ (by assumption) | refine Below.alloc ?_ (by simp) _)) ⟨y, rfl, hyo, hyd⟩
        · intro x w' hbw hd
          have d0 : x 0 = .agg q.row := hd 0 rfl
          obtain ⟨y, d2, hy, hyd⟩ := (show (Fact.msg q.d).holds (x 2) w' from hd 2 rfl)
          clear hd
          have CC := CSq w' hbw y hy hyd
          go_wp2_with (first | (go_at_call 19; refine (CC).mono ?_; rintro e wx ⟨rfl, hbx⟩))
          exact frPost_mk rfl (by repeat (first | assumption | exact Below.refl _ _ | refine bch ?_ (by assumption) | refine Below.alloc ?_ (by simp) _)) rfl
        · intro x w' hbw hd
          have d3 : x 3 = .bool true := hd 3 rfl
          clear hd
          go_wp2_with fail
          exact frPost_mk rfl (by repeat (first | assumption | exact Below.refl _ _ | refine bch ?_ (by assumption) | refine Below.alloc ?_ (by simp) _)) rfl
        · intro x w' hbw hd
          have d4 : x 4 = .bool false := hd 4 rfl
          clear hd
          go_wp2_with fail
          exact frPost_mk rfl (by repeat (first | assumption | exact Below.refl _ _ | refine bch ?_ (by assumption) | refine Below.alloc ?_ (by simp) _)) rfl
        · intro x w' hbw hd
          have d5 : x 5 = .bool false := hd 5 rfl
          clear hd
          have hmr := cells_of hm7 hbw hml7
          go_wp2_with (first | (refine wpList_load_midG 34 (.tmp 3) rfl w.heap.size 0 rfl m.row.toList _ (rangeAt_row5 hmr) Try.underlying34 rfl (msg_info _) (by first | rfl | (simp [Region.wanted, yielded, *]; done)) ?_; rw [Array.toArray_toList]))
          exact frPost_mk rfl (by repeat (first | assumption | exact Below.refl _ _ | refine bch ?_ (by assumption) | refine Below.alloc ?_ (by simp) _)) rfl
        · intro x w' hbw hd
          have d5 : x 5 = .bool false := hd 5 rfl
          have d6 : x 6 = .agg m.row := hd 6 rfl
          clear hd
          have CC := CMm w' hbw
          go_wp2_with (first | (go_at_call 17; refine (CC).mono ?_; rintro e wx ⟨rfl, hbx⟩))
          exact frPost_mk rfl (by repeat (first | assumption | exact Below.refl _ _ | refine bch ?_ (by assumption) | refine Below.alloc ?_ (by simp) _)) rfl
        · intro x w' hbw hd
          have d5 : x 5 = .bool false := hd 5 rfl
          have d7 : x 7 = .bool false := hd 7 rfl
          clear hd
          go_wp2_with fail
          exact frPost_mk rfl (by repeat (first | assumption | exact Below.refl _ _ | refine bch ?_ (by assumption) | refine Below.alloc ?_ (by simp) _)) rfl
        · intro x w' hbw hd
          have d8 : x 8 = .bool false := hd 8 rfl
          clear hd
          go_wp2_with fail
          first | exact frPost_mk rfl (by repeat (first | assumption | exact Below.refl _ _ | refine bch ?_ (by assumption) | refine Below.alloc ?_ (by simp) _)) trivial | exact ⟨rfl, rfl, Below.refl _ _, trivial⟩
        · intro x w' hbw hd
          have d8 : x 8 = .bool false := hd 8 rfl
          clear hd
          go_wp2_with fail
          first | exact frPost_mk rfl (by repeat (first | assumption | exact Below.refl _ _ | refine bch ?_ (by assumption) | refine Below.alloc ?_ (by simp) _)) trivial | exact ⟨rfl, rfl, Below.refl _ _, trivial⟩
        · intro x w' hbw hd
          have d8 : x 8 = .bool false := hd 8 rfl
          skip
          skip
          clear hd
          go_wp2_with (first | fail)
          first | exact frPost_mk rfl (by repeat (first | assumption | exact Below.refl _ _ | refine bch ?_ (by assumption) | refine Below.alloc ?_ (by simp) _)) trivial | exact ⟨rfl, rfl, Below.refl _ _, trivial⟩
        · intro x w' hbw hd
          have d8 : x 8 = .bool false := hd 8 rfl
          skip
          clear hd
          go_wp2_with fail
          first | exact frPost_mk rfl (by repeat (first | assumption | exact Below.refl _ _ | refine bch ?_ (by assumption) | refine Below.alloc ?_ (by simp) _)) trivial | exact ⟨rfl, rfl, Below.refl _ _, trivial⟩
        · intro x w' hbw hd
          have d5 : x 5 = .bool false := hd 5 rfl
          have d8 : x 8 = .bool false := hd 8 rfl
          skip
          clear hd
          go_wp2_with fail
          exact frPost_mk rfl (by repeat (first | assumption | exact Below.refl _ _ | refine bch ?_ (by assumption) | refine Below.alloc ?_ (by simp) _)) rfl
        · intro x w' hbw hd
          have d5 : x 5 = .bool false := hd 5 rfl
          have d13 : x 13 = .bool false := hd 13 rfl
          clear hd
          go_wp2_with fail
          exact frPost_mk rfl (by repeat (first | assumption | exact Below.refl _ _ | refine bch ?_ (by assumption) | refine Below.alloc ?_ (by simp) _)) rfl
        · intro x w' hbw hd
          have d14 : x 14 = .bool false := hd 14 rfl
          clear hd
          go_wp2_with fail
          exact frPost_mk rfl (by repeat (first | assumption | exact Below.refl _ _ | refine bch ?_ (by assumption) | refine Below.alloc ?_ (by simp) _)) rfl
        · intro x w' hbw hd
          have d15 : x 15 = .bool false := hd 15 rfl
          clear hd
          have hqr := cells_of hq7 hbw hql7
          go_wp2_with (first | (refine wpList_load_midG 34 (.tmp 7) rfl gq 0 rfl q.row.toList _ (rangeAt_row5 hqr) Try.underlying34 rfl (msg_info _) (by first | rfl | (simp [Region.wanted, yielded, *]; done)) ?_; rw [Array.toArray_toList]))
          exact frPost_mk rfl (by repeat (first | assumption | exact Below.refl _ _ | refine bch ?_ (by assumption) | refine Below.alloc ?_ (by simp) _)) rfl
        · intro x w' hbw hd
          have d15 : x 15 = .bool false := hd 15 rfl
          clear hd
          have hnr := cells_of hn7 hbw hnl7
          go_wp2_with (first | (refine wpList_load_midG 34 (.tmp 8) rfl gn 0 rfl nn.row.toList _ (rangeAt_row5 hnr) Try.underlying34 rfl (msg_info _) (by first | rfl | (simp [Region.wanted, yielded, *]; done)) ?_; rw [Array.toArray_toList]))
          exact frPost_mk rfl (by repeat (first | assumption | exact Below.refl _ _ | refine bch ?_ (by assumption) | refine Below.alloc ?_ (by simp) _)) rfl
        · intro x w' hbw hd
          have d15 : x 15 = .bool false := hd 15 rfl
          have d16 : x 16 = .agg q.row := hd 16 rfl
          have d17 : x 17 = .agg nn.row := hd 17 rfl
          clear hd
          have CC := CSn w' hbw
          go_wp2_with (first | (go_at_call 19; refine (CC).mono ?_; rintro e wx ⟨rfl, hbx⟩))
          exact frPost_mk rfl (by repeat (first | assumption | exact Below.refl _ _ | refine bch ?_ (by assumption) | refine Below.alloc ?_ (by simp) _)) rfl
        · intro x w' hbw hd
          have d15 : x 15 = .bool false := hd 15 rfl
          clear hd
          go_wp2_with fail
          exact frPost_mk rfl (by repeat (first | assumption | exact Below.refl _ _ | refine bch ?_ (by assumption) | refine Below.alloc ?_ (by simp) _)) rfl
        · intro x w' hbw hd
          have d15 : x 15 = .bool false := hd 15 rfl
          have d19 : x 19 = .pointer (some ⟨gq, 43, none⟩) := hd 19 rfl
          clear hd
          have hqr := cells_of hq7 hbw hql7
          have c43 := (msg_cells hqr).2.2.2.2.2.2.2.2.2.2.2.1
          go_wp2_with fail
          exact frPost_mk rfl (by repeat (first | assumption | exact Below.refl _ _ | refine bch ?_ (by assumption) | refine Below.alloc ?_ (by simp) _)) rfl
        · intro x w' hbw hd
          have d15 : x 15 = .bool false := hd 15 rfl
          clear hd
          go_wp2_with fail
          exact frPost_mk rfl (by repeat (first | assumption | exact Below.refl _ _ | refine bch ?_ (by assumption) | refine Below.alloc ?_ (by simp) _)) rfl
        · intro x w' hbw hd
          have d15 : x 15 = .bool false := hd 15 rfl
          have d20 : x 20 = .string q.ack := hd 20 rfl
          have d21 : x 21 = .string ack := hd 21 rfl
          clear hd
          go_wp2_with fail
          exact frPost_mk rfl (by repeat (first | assumption | exact Below.refl _ _ | refine bch ?_ (by assumption) | refine Below.alloc ?_ (by simp) _)) rfl
        · intro x w' hbw hd
          have d15 : x 15 = .bool false := hd 15 rfl
          have d22 : x 22 = .bool true := hd 22 rfl
          clear hd
          go_wp2_with fail
          exact frPost_mk rfl (by repeat (first | assumption | exact Below.refl _ _ | refine bch ?_ (by assumption) | refine Below.alloc ?_ (by simp) _)) rfl
        · intro x w' hbw hd
          have d23 : x 23 = .bool true := hd 23 rfl
          clear hd
          go_wp2_with fail
          exact frPost_mk rfl (by repeat (first | assumption | exact Below.refl _ _ | refine bch ?_ (by assumption) | refine Below.alloc ?_ (by simp) _)) rfl
        · intro x w' hbw hd
          have d23 : x 23 = .bool true := hd 23 rfl
          have d24 : x 24 = .pointer (some ⟨gq, 44, none⟩) := hd 24 rfl
          clear hd
          have hqr := cells_of hq7 hbw hql7
          have c44 := (msg_cells hqr).2.2.2.2.2.2.2.2.2.2.2.2.1
          go_wp2_with fail
          exact frPost_mk rfl (by repeat (first | assumption | exact Below.refl _ _ | refine bch ?_ (by assumption) | refine Below.alloc ?_ (by simp) _)) rfl
        · intro x w' hbw hd
          have d23 : x 23 = .bool true := hd 23 rfl
          clear hd
          go_wp2_with fail
          exact frPost_mk rfl (by repeat (first | assumption | exact Below.refl _ _ | refine bch ?_ (by assumption) | refine Below.alloc ?_ (by simp) _)) rfl
        · intro x w' hbw hd
          have d23 : x 23 = .bool true := hd 23 rfl
          have d25 : x 25 = .int .i64 q.nx := hd 25 rfl
          have d26 : x 26 = .int .i64 nx := hd 26 rfl
          clear hd
          go_wp2_with fail
          exact frPost_mk rfl (by repeat (first | assumption | exact Below.refl _ _ | refine bch ?_ (by assumption) | refine Below.alloc ?_ (by simp) _)) rfl
        · intro x w' hbw hd
          have d15 : x 15 = .bool false := hd 15 rfl
          have d23 : x 23 = .bool true := hd 23 rfl
          have d27 : x 27 = .bool kn := hd 27 rfl
          clear hd
          go_wp2_with fail
          exact frPost_mk rfl (by repeat (first | assumption | exact Below.refl _ _ | refine bch ?_ (by assumption) | refine Below.alloc ?_ (by simp) _)) rfl
        · intro x w' hbw hd
          have d15 : x 15 = .bool false := hd 15 rfl
          have d18 : x 18 = .bool kn := hd 18 rfl
          have d28 : x 28 = .bool kn := hd 28 rfl
          clear hd
          go_wp2_with fail
          exact frPost_mk rfl (by repeat (first | assumption | exact Below.refl _ _ | refine bch ?_ (by assumption) | refine Below.alloc ?_ (by simp) _)) rfl
        · intro x w' hbw hd
          have d15 : x 15 = .bool false := hd 15 rfl
          have d29 : x 29 = .bool false := hd 29 rfl
          clear hd
          go_wp2_with fail
          exact frPost_mk rfl (by repeat (first | assumption | exact Below.refl _ _ | refine bch ?_ (by assumption) | refine Below.alloc ?_ (by simp) _)) rfl
      intro x wf hbw hd
      have d30 : x 30 = .bool false := hd 30 (by decide)
      clear hd
      simp only [Nat.zero_add, Nat.reduceAdd, d30]
      have hmr := cells_of hm7 hbw hml7
      have hnr := cells_of hn7 hbw hnl7
      have c0 := (msg_cells hmr).1
      cases k3
      case true =>
        have c9 : wf.cell? ⟨w.heap.size, 0, none⟩ = some (.int .i64 3) := by rw [c0, beq_iff_eq.1 e3]
        clear c0 e3 CMn CSn CPq CSq CMm CSm
        go_wp2_with fail
        go_ret
        exact ⟨by first | rfl | simp, hbel7.trans (hbw.mono hbel7.size)⟩
      cases k0
      case true =>
        go_wp2_with fail
        go_ret
        exact ⟨by first | rfl | simp, hbel7.trans (hbw.mono hbel7.size)⟩
      have CN := CMn rfl rfl wf hbw
      go_wp2_with (first | (refine wpList_load_midG 34 (.tmp 8) rfl gn 0 rfl nn.row.toList _ (rangeAt_row5 hnr) Try.underlying34 rfl (msg_info _) (by first | rfl | (simp [Region.wanted, yielded, *]; done)) ?_; rw [Array.toArray_toList]) | (go_at_call 17; refine CN.mono ?_; rintro e wx ⟨rfl, hbx⟩))
      go_ret
      exact ⟨by first | rfl | simp, (hbel7.trans (hbw.mono hbel7.size)).trans (hbx.mono (hbel7.trans (hbw.mono hbel7.size)).size)⟩
  case true =>
    have CSm := CSm rfl
    cases ka
    case false =>
      simp only [Bool.false_and] at CSn
      refine wp_region_facts [Fact.eq (.agg q.row), Fact.eq (.agg q.row), Fact.msg q.d, Fact.eq (.bool true), Fact.eq (.bool false), Fact.eq (.bool false), Fact.eq (.agg m.row), Fact.eq (.bool true), Fact.eq (.bool true), Fact.eq (.agg m.row), Fact.eq (.agg q.row), Fact.eq (.bool true), Fact.eq (.bool false), Fact.eq (.bool false), Fact.eq (.bool false), Fact.eq (.bool false), Fact.eq (.agg q.row), Fact.eq (.agg nn.row), Fact.eq (.bool false), Fact.eq (.pointer (some ⟨gq, 43, none⟩)), Fact.eq (.string q.ack), Fact.eq (.string ack), Fact.eq (.bool false), Fact.eq (.bool false), Fact.any, Fact.any, Fact.any, Fact.any, Fact.eq (.bool false), Fact.eq (.bool false), Fact.eq (.bool false)] (by kernel_rfl) (by kernel_rfl) (by kernel_rfl) (by kernel_rfl) (fun x => by simp only [fillFrom, Act.put, List.setIfInBounds_toArray, List.set_cons_succ, List.set_cons_zero]; rfl) ?_ ?_
      · refine ⟨?_, ?_, ?_, ?_, ?_, ?_, ?_, ?_, ?_, ?_, ?_, ?_, ?_, ?_, ?_, ?_, ?_, ?_, ?_, ?_, ?_, ?_, ?_, ?_, ?_, ?_, ?_, ?_, ?_, ?_, ?_, trivial⟩
        · intro x w' hbw hd
          clear hd
          have hqr := cells_of hq7 hbw hql7
          go_wp2_with (first | (refine wpList_load_mid rfl 34 (.tmp 7) rfl gq 0 rfl q.row.toList _ (rangeAt_row5 hqr) Try.underlying34 rfl (msg_info _) ?_; rw [Array.toArray_toList]))
          exact frPost_mk rfl (by repeat (first | assumption | exact Below.refl _ _ | refine bch ?_ (by assumption) | refine Below.alloc ?_ (by simp) _)) rfl
        · intro x w' hbw hd
          clear hd
          have hqr := cells_of hq7 hbw hql7
          go_wp2_with (first | (refine wpList_load_mid rfl 34 (.tmp 7) rfl gq 0 rfl q.row.toList _ (rangeAt_row5 hqr) Try.underlying34 rfl (msg_info _) ?_; rw [Array.toArray_toList]))
          exact frPost_mk rfl (by repeat (first | assumption | exact Below.refl _ _ | refine bch ?_ (by assumption) | refine Below.alloc ?_ (by simp) _)) rfl
        · intro x w' hbw hd
          have d1 : x 1 = .agg q.row := hd 1 rfl
          clear hd
          have CC := CPq w' hbw
          go_wp2_with (first | (go_at_call 24; refine (CC).mono ?_; rintro e wx ⟨y, rfl, hyo, hyd, hbx⟩))
          exact frPost_mk rfl (by repeat (first | assumption | exact Below.refl _ _ | refine bch ?_ (by assumption) | refine Below.alloc ?_ (by simp) _)) ⟨y, rfl, hyo, hyd⟩
        · intro x w' hbw hd
          have d0 : x 0 = .agg q.row := hd 0 rfl
          obtain ⟨y, d2, hy, hyd⟩ := (show (Fact.msg q.d).holds (x 2) w' from hd 2 rfl)
          clear hd
          have CC := CSq w' hbw y hy hyd
          go_wp2_with (first | (go_at_call 19; refine (CC).mono ?_; rintro e wx ⟨rfl, hbx⟩))
          exact frPost_mk rfl (by repeat (first | assumption | exact Below.refl _ _ | refine bch ?_ (by assumption) | refine Below.alloc ?_ (by simp) _)) rfl
        · intro x w' hbw hd
          have d3 : x 3 = .bool true := hd 3 rfl
          clear hd
          go_wp2_with fail
          exact frPost_mk rfl (by repeat (first | assumption | exact Below.refl _ _ | refine bch ?_ (by assumption) | refine Below.alloc ?_ (by simp) _)) rfl
        · intro x w' hbw hd
          have d4 : x 4 = .bool false := hd 4 rfl
          clear hd
          go_wp2_with fail
          exact frPost_mk rfl (by repeat (first | assumption | exact Below.refl _ _ | refine bch ?_ (by assumption) | refine Below.alloc ?_ (by simp) _)) rfl
        · intro x w' hbw hd
          have d5 : x 5 = .bool false := hd 5 rfl
          clear hd
          have hmr := cells_of hm7 hbw hml7
          go_wp2_with (first | (refine wpList_load_midG 34 (.tmp 3) rfl w.heap.size 0 rfl m.row.toList _ (rangeAt_row5 hmr) Try.underlying34 rfl (msg_info _) (by first | rfl | (simp [Region.wanted, yielded, *]; done)) ?_; rw [Array.toArray_toList]))
          exact frPost_mk rfl (by repeat (first | assumption | exact Below.refl _ _ | refine bch ?_ (by assumption) | refine Below.alloc ?_ (by simp) _)) rfl
        · intro x w' hbw hd
          have d5 : x 5 = .bool false := hd 5 rfl
          have d6 : x 6 = .agg m.row := hd 6 rfl
          clear hd
          have CC := CMm w' hbw
          go_wp2_with (first | (go_at_call 17; refine (CC).mono ?_; rintro e wx ⟨rfl, hbx⟩))
          exact frPost_mk rfl (by repeat (first | assumption | exact Below.refl _ _ | refine bch ?_ (by assumption) | refine Below.alloc ?_ (by simp) _)) rfl
        · intro x w' hbw hd
          have d5 : x 5 = .bool false := hd 5 rfl
          have d7 : x 7 = .bool true := hd 7 rfl
          clear hd
          go_wp2_with fail
          exact frPost_mk rfl (by repeat (first | assumption | exact Below.refl _ _ | refine bch ?_ (by assumption) | refine Below.alloc ?_ (by simp) _)) rfl
        · intro x w' hbw hd
          have d8 : x 8 = .bool true := hd 8 rfl
          clear hd
          have hmr := cells_of hm7 hbw hml7
          go_wp2_with (first | (refine wpList_load_midG 34 (.tmp 3) rfl w.heap.size 0 rfl m.row.toList _ (rangeAt_row5 hmr) Try.underlying34 rfl (msg_info _) (by first | rfl | (simp [Region.wanted, yielded, *]; done)) ?_; rw [Array.toArray_toList]))
          exact frPost_mk rfl (by repeat (first | assumption | exact Below.refl _ _ | refine bch ?_ (by assumption) | refine Below.alloc ?_ (by simp) _)) rfl
        · intro x w' hbw hd
          have d8 : x 8 = .bool true := hd 8 rfl
          clear hd
          have hqr := cells_of hq7 hbw hql7
          go_wp2_with (first | (refine wpList_load_midG 34 (.tmp 7) rfl gq 0 rfl q.row.toList _ (rangeAt_row5 hqr) Try.underlying34 rfl (msg_info _) (by first | rfl | (simp [Region.wanted, yielded, *]; done)) ?_; rw [Array.toArray_toList]))
          exact frPost_mk rfl (by repeat (first | assumption | exact Below.refl _ _ | refine bch ?_ (by assumption) | refine Below.alloc ?_ (by simp) _)) rfl
        · intro x w' hbw hd
          have d8 : x 8 = .bool true := hd 8 rfl
          have d9 : x 9 = .agg m.row := hd 9 rfl
          have d10 : x 10 = .agg q.row := hd 10 rfl
          clear hd
          have CC := CSm w' hbw
          go_wp2_with (first | (go_at_call 19; refine (CC).mono ?_; rintro e wx ⟨rfl, hbx⟩))
          exact frPost_mk rfl (by repeat (first | assumption | exact Below.refl _ _ | refine bch ?_ (by assumption) | refine Below.alloc ?_ (by simp) _)) rfl
        · intro x w' hbw hd
          have d8 : x 8 = .bool true := hd 8 rfl
          have d11 : x 11 = .bool true := hd 11 rfl
          clear hd
          go_wp2_with fail
          exact frPost_mk rfl (by repeat (first | assumption | exact Below.refl _ _ | refine bch ?_ (by assumption) | refine Below.alloc ?_ (by simp) _)) rfl
        · intro x w' hbw hd
          have d5 : x 5 = .bool false := hd 5 rfl
          have d8 : x 8 = .bool true := hd 8 rfl
          have d12 : x 12 = .bool false := hd 12 rfl
          clear hd
          go_wp2_with fail
          exact frPost_mk rfl (by repeat (first | assumption | exact Below.refl _ _ | refine bch ?_ (by assumption) | refine Below.alloc ?_ (by simp) _)) rfl
        · intro x w' hbw hd
          have d5 : x 5 = .bool false := hd 5 rfl
          have d13 : x 13 = .bool false := hd 13 rfl
          clear hd
          go_wp2_with fail
          exact frPost_mk rfl (by repeat (first | assumption | exact Below.refl _ _ | refine bch ?_ (by assumption) | refine Below.alloc ?_ (by simp) _)) rfl
        · intro x w' hbw hd
          have d14 : x 14 = .bool false := hd 14 rfl
          clear hd
          go_wp2_with fail
          exact frPost_mk rfl (by repeat (first | assumption | exact Below.refl _ _ | refine bch ?_ (by assumption) | refine Below.alloc ?_ (by simp) _)) rfl
        · intro x w' hbw hd
          have d15 : x 15 = .bool false := hd 15 rfl
          clear hd
          have hqr := cells_of hq7 hbw hql7
          go_wp2_with (first | (refine wpList_load_midG 34 (.tmp 7) rfl gq 0 rfl q.row.toList _ (rangeAt_row5 hqr) Try.underlying34 rfl (msg_info _) (by first | rfl | (simp [Region.wanted, yielded, *]; done)) ?_; rw [Array.toArray_toList]))
          exact frPost_mk rfl (by repeat (first | assumption | exact Below.refl _ _ | refine bch ?_ (by assumption) | refine Below.alloc ?_ (by simp) _)) rfl
        · intro x w' hbw hd
          have d15 : x 15 = .bool false := hd 15 rfl
          clear hd
          have hnr := cells_of hn7 hbw hnl7
          go_wp2_with (first | (refine wpList_load_midG 34 (.tmp 8) rfl gn 0 rfl nn.row.toList _ (rangeAt_row5 hnr) Try.underlying34 rfl (msg_info _) (by first | rfl | (simp [Region.wanted, yielded, *]; done)) ?_; rw [Array.toArray_toList]))
          exact frPost_mk rfl (by repeat (first | assumption | exact Below.refl _ _ | refine bch ?_ (by assumption) | refine Below.alloc ?_ (by simp) _)) rfl
        · intro x w' hbw hd
          have d15 : x 15 = .bool false := hd 15 rfl
          have d16 : x 16 = .agg q.row := hd 16 rfl
          have d17 : x 17 = .agg nn.row := hd 17 rfl
          clear hd
          have CC := CSn w' hbw
          go_wp2_with (first | (go_at_call 19; refine (CC).mono ?_; rintro e wx ⟨rfl, hbx⟩))
          exact frPost_mk rfl (by repeat (first | assumption | exact Below.refl _ _ | refine bch ?_ (by assumption) | refine Below.alloc ?_ (by simp) _)) rfl
        · intro x w' hbw hd
          have d15 : x 15 = .bool false := hd 15 rfl
          clear hd
          go_wp2_with fail
          exact frPost_mk rfl (by repeat (first | assumption | exact Below.refl _ _ | refine bch ?_ (by assumption) | refine Below.alloc ?_ (by simp) _)) rfl
        · intro x w' hbw hd
          have d15 : x 15 = .bool false := hd 15 rfl
          have d19 : x 19 = .pointer (some ⟨gq, 43, none⟩) := hd 19 rfl
          clear hd
          have hqr := cells_of hq7 hbw hql7
          have c43 := (msg_cells hqr).2.2.2.2.2.2.2.2.2.2.2.1
          go_wp2_with fail
          exact frPost_mk rfl (by repeat (first | assumption | exact Below.refl _ _ | refine bch ?_ (by assumption) | refine Below.alloc ?_ (by simp) _)) rfl
        · intro x w' hbw hd
          have d15 : x 15 = .bool false := hd 15 rfl
          clear hd
          go_wp2_with fail
          exact frPost_mk rfl (by repeat (first | assumption | exact Below.refl _ _ | refine bch ?_ (by assumption) | refine Below.alloc ?_ (by simp) _)) rfl
        · intro x w' hbw hd
          have d15 : x 15 = .bool false := hd 15 rfl
          have d20 : x 20 = .string q.ack := hd 20 rfl
          have d21 : x 21 = .string ack := hd 21 rfl
          clear hd
          go_wp2_with fail
          exact frPost_mk rfl (by repeat (first | assumption | exact Below.refl _ _ | refine bch ?_ (by assumption) | refine Below.alloc ?_ (by simp) _)) rfl
        · intro x w' hbw hd
          have d15 : x 15 = .bool false := hd 15 rfl
          have d22 : x 22 = .bool false := hd 22 rfl
          clear hd
          go_wp2_with fail
          exact frPost_mk rfl (by repeat (first | assumption | exact Below.refl _ _ | refine bch ?_ (by assumption) | refine Below.alloc ?_ (by simp) _)) rfl
        · intro x w' hbw hd
          have d23 : x 23 = .bool false := hd 23 rfl
          clear hd
          go_wp2_with fail
          first | exact frPost_mk rfl (by repeat (first | assumption | exact Below.refl _ _ | refine bch ?_ (by assumption) | refine Below.alloc ?_ (by simp) _)) trivial | exact ⟨rfl, rfl, Below.refl _ _, trivial⟩
        · intro x w' hbw hd
          have d23 : x 23 = .bool false := hd 23 rfl
          skip
          clear hd
          go_wp2_with fail
          first | exact frPost_mk rfl (by repeat (first | assumption | exact Below.refl _ _ | refine bch ?_ (by assumption) | refine Below.alloc ?_ (by simp) _)) trivial | exact ⟨rfl, rfl, Below.refl _ _, trivial⟩
        · intro x w' hbw hd
          have d23 : x 23 = .bool false := hd 23 rfl
          clear hd
          go_wp2_with fail
          first | exact frPost_mk rfl (by repeat (first | assumption | exact Below.refl _ _ | refine bch ?_ (by assumption) | refine Below.alloc ?_ (by simp) _)) trivial | exact ⟨rfl, rfl, Below.refl _ _, trivial⟩
        · intro x w' hbw hd
          have d23 : x 23 = .bool false := hd 23 rfl
          skip
          skip
          clear hd
          go_wp2_with fail
          first | exact frPost_mk rfl (by repeat (first | assumption | exact Below.refl _ _ | refine bch ?_ (by assumption) | refine Below.alloc ?_ (by simp) _)) trivial | exact ⟨rfl, rfl, Below.refl _ _, trivial⟩
        · intro x w' hbw hd
          have d15 : x 15 = .bool false := hd 15 rfl
          have d23 : x 23 = .bool false := hd 23 rfl
          skip
          clear hd
          go_wp2_with fail
          exact frPost_mk rfl (by repeat (first | assumption | exact Below.refl _ _ | refine bch ?_ (by assumption) | refine Below.alloc ?_ (by simp) _)) rfl
        · intro x w' hbw hd
          have d15 : x 15 = .bool false := hd 15 rfl
          have d18 : x 18 = .bool false := hd 18 rfl
          have d28 : x 28 = .bool false := hd 28 rfl
          clear hd
          go_wp2_with fail
          exact frPost_mk rfl (by repeat (first | assumption | exact Below.refl _ _ | refine bch ?_ (by assumption) | refine Below.alloc ?_ (by simp) _)) rfl
        · intro x w' hbw hd
          have d15 : x 15 = .bool false := hd 15 rfl
          have d29 : x 29 = .bool false := hd 29 rfl
          clear hd
          go_wp2_with fail
          exact frPost_mk rfl (by repeat (first | assumption | exact Below.refl _ _ | refine bch ?_ (by assumption) | refine Below.alloc ?_ (by simp) _)) rfl
      intro x wf hbw hd
      have d30 : x 30 = .bool false := hd 30 (by decide)
      clear hd
      simp only [Nat.zero_add, Nat.reduceAdd, d30]
      have hmr := cells_of hm7 hbw hml7
      have hnr := cells_of hn7 hbw hnl7
      have c0 := (msg_cells hmr).1
      cases k3
      case true =>
        have c9 : wf.cell? ⟨w.heap.size, 0, none⟩ = some (.int .i64 3) := by rw [c0, beq_iff_eq.1 e3]
        clear c0 e3 CMn CSn CPq CSq CMm CSm
        go_wp2_with fail
        go_ret
        exact ⟨by first | rfl | simp, hbel7.trans (hbw.mono hbel7.size)⟩
      cases k0
      case true =>
        go_wp2_with fail
        go_ret
        exact ⟨by first | rfl | simp, hbel7.trans (hbw.mono hbel7.size)⟩
      have CN := CMn rfl rfl wf hbw
      go_wp2_with (first | (refine wpList_load_midG 34 (.tmp 8) rfl gn 0 rfl nn.row.toList _ (rangeAt_row5 hnr) Try.underlying34 rfl (msg_info _) (by first | rfl | (simp [Region.wanted, yielded, *]; done)) ?_; rw [Array.toArray_toList]) | (go_at_call 17; refine CN.mono ?_; rintro e wx ⟨rfl, hbx⟩))
      go_ret
      exact ⟨by first | rfl | simp, (hbel7.trans (hbw.mono hbel7.size)).trans (hbx.mono (hbel7.trans (hbw.mono hbel7.size)).size)⟩
    case true =>
      simp only [Bool.true_and] at CSn
      refine wp_region_facts [Fact.eq (.agg q.row), Fact.eq (.agg q.row), Fact.msg q.d, Fact.eq (.bool true), Fact.eq (.bool false), Fact.eq (.bool false), Fact.eq (.agg m.row), Fact.eq (.bool true), Fact.eq (.bool true), Fact.eq (.agg m.row), Fact.eq (.agg q.row), Fact.eq (.bool true), Fact.eq (.bool false), Fact.eq (.bool false), Fact.eq (.bool false), Fact.eq (.bool false), Fact.eq (.agg q.row), Fact.eq (.agg nn.row), Fact.eq (.bool kn), Fact.eq (.pointer (some ⟨gq, 43, none⟩)), Fact.eq (.string q.ack), Fact.eq (.string ack), Fact.eq (.bool true), Fact.eq (.bool true), Fact.eq (.pointer (some ⟨gq, 44, none⟩)), Fact.eq (.int .i64 q.nx), Fact.eq (.int .i64 nx), Fact.eq (.bool kn), Fact.eq (.bool kn), Fact.eq (.bool false), Fact.eq (.bool false)] (by kernel_rfl) (by kernel_rfl) (by kernel_rfl) (by kernel_rfl) (fun x => by simp only [fillFrom, Act.put, List.setIfInBounds_toArray, List.set_cons_succ, List.set_cons_zero]; rfl) ?_ ?_
      · refine ⟨?_, ?_, ?_, ?_, ?_, ?_, ?_, ?_, ?_, ?_, ?_, ?_, ?_, ?_, ?_, ?_, ?_, ?_, ?_, ?_, ?_, ?_, ?_, ?_, ?_, ?_, ?_, ?_, ?_, ?_, ?_, trivial⟩
        · intro x w' hbw hd
          clear hd
          have hqr := cells_of hq7 hbw hql7
          go_wp2_with (first | (refine wpList_load_mid rfl 34 (.tmp 7) rfl gq 0 rfl q.row.toList _ (rangeAt_row5 hqr) Try.underlying34 rfl (msg_info _) ?_; rw [Array.toArray_toList]))
          exact frPost_mk rfl (by repeat (first | assumption | exact Below.refl _ _ | refine bch ?_ (by assumption) | refine Below.alloc ?_ (by simp) _)) rfl
        · intro x w' hbw hd
          clear hd
          have hqr := cells_of hq7 hbw hql7
          go_wp2_with (first | (refine wpList_load_mid rfl 34 (.tmp 7) rfl gq 0 rfl q.row.toList _ (rangeAt_row5 hqr) Try.underlying34 rfl (msg_info _) ?_; rw [Array.toArray_toList]))
          exact frPost_mk rfl (by repeat (first | assumption | exact Below.refl _ _ | refine bch ?_ (by assumption) | refine Below.alloc ?_ (by simp) _)) rfl
        · intro x w' hbw hd
          have d1 : x 1 = .agg q.row := hd 1 rfl
          clear hd
          have CC := CPq w' hbw
          go_wp2_with (first | (go_at_call 24; refine (CC).mono ?_; rintro e wx ⟨y, rfl, hyo, hyd, hbx⟩))
          exact frPost_mk rfl (by repeat (first | assumption | exact Below.refl _ _ | refine bch ?_ (by assumption) | refine Below.alloc ?_ (by simp) _)) ⟨y, rfl, hyo, hyd⟩
        · intro x w' hbw hd
          have d0 : x 0 = .agg q.row := hd 0 rfl
          obtain ⟨y, d2, hy, hyd⟩ := (show (Fact.msg q.d).holds (x 2) w' from hd 2 rfl)
          clear hd
          have CC := CSq w' hbw y hy hyd
          go_wp2_with (first | (go_at_call 19; refine (CC).mono ?_; rintro e wx ⟨rfl, hbx⟩))
          exact frPost_mk rfl (by repeat (first | assumption | exact Below.refl _ _ | refine bch ?_ (by assumption) | refine Below.alloc ?_ (by simp) _)) rfl
        · intro x w' hbw hd
          have d3 : x 3 = .bool true := hd 3 rfl
          clear hd
          go_wp2_with fail
          exact frPost_mk rfl (by repeat (first | assumption | exact Below.refl _ _ | refine bch ?_ (by assumption) | refine Below.alloc ?_ (by simp) _)) rfl
        · intro x w' hbw hd
          have d4 : x 4 = .bool false := hd 4 rfl
          clear hd
          go_wp2_with fail
          exact frPost_mk rfl (by repeat (first | assumption | exact Below.refl _ _ | refine bch ?_ (by assumption) | refine Below.alloc ?_ (by simp) _)) rfl
        · intro x w' hbw hd
          have d5 : x 5 = .bool false := hd 5 rfl
          clear hd
          have hmr := cells_of hm7 hbw hml7
          go_wp2_with (first | (refine wpList_load_midG 34 (.tmp 3) rfl w.heap.size 0 rfl m.row.toList _ (rangeAt_row5 hmr) Try.underlying34 rfl (msg_info _) (by first | rfl | (simp [Region.wanted, yielded, *]; done)) ?_; rw [Array.toArray_toList]))
          exact frPost_mk rfl (by repeat (first | assumption | exact Below.refl _ _ | refine bch ?_ (by assumption) | refine Below.alloc ?_ (by simp) _)) rfl
        · intro x w' hbw hd
          have d5 : x 5 = .bool false := hd 5 rfl
          have d6 : x 6 = .agg m.row := hd 6 rfl
          clear hd
          have CC := CMm w' hbw
          go_wp2_with (first | (go_at_call 17; refine (CC).mono ?_; rintro e wx ⟨rfl, hbx⟩))
          exact frPost_mk rfl (by repeat (first | assumption | exact Below.refl _ _ | refine bch ?_ (by assumption) | refine Below.alloc ?_ (by simp) _)) rfl
        · intro x w' hbw hd
          have d5 : x 5 = .bool false := hd 5 rfl
          have d7 : x 7 = .bool true := hd 7 rfl
          clear hd
          go_wp2_with fail
          exact frPost_mk rfl (by repeat (first | assumption | exact Below.refl _ _ | refine bch ?_ (by assumption) | refine Below.alloc ?_ (by simp) _)) rfl
        · intro x w' hbw hd
          have d8 : x 8 = .bool true := hd 8 rfl
          clear hd
          have hmr := cells_of hm7 hbw hml7
          go_wp2_with (first | (refine wpList_load_midG 34 (.tmp 3) rfl w.heap.size 0 rfl m.row.toList _ (rangeAt_row5 hmr) Try.underlying34 rfl (msg_info _) (by first | rfl | (simp [Region.wanted, yielded, *]; done)) ?_; rw [Array.toArray_toList]))
          exact frPost_mk rfl (by repeat (first | assumption | exact Below.refl _ _ | refine bch ?_ (by assumption) | refine Below.alloc ?_ (by simp) _)) rfl
        · intro x w' hbw hd
          have d8 : x 8 = .bool true := hd 8 rfl
          clear hd
          have hqr := cells_of hq7 hbw hql7
          go_wp2_with (first | (refine wpList_load_midG 34 (.tmp 7) rfl gq 0 rfl q.row.toList _ (rangeAt_row5 hqr) Try.underlying34 rfl (msg_info _) (by first | rfl | (simp [Region.wanted, yielded, *]; done)) ?_; rw [Array.toArray_toList]))
          exact frPost_mk rfl (by repeat (first | assumption | exact Below.refl _ _ | refine bch ?_ (by assumption) | refine Below.alloc ?_ (by simp) _)) rfl
        · intro x w' hbw hd
          have d8 : x 8 = .bool true := hd 8 rfl
          have d9 : x 9 = .agg m.row := hd 9 rfl
          have d10 : x 10 = .agg q.row := hd 10 rfl
          clear hd
          have CC := CSm w' hbw
          go_wp2_with (first | (go_at_call 19; refine (CC).mono ?_; rintro e wx ⟨rfl, hbx⟩))
          exact frPost_mk rfl (by repeat (first | assumption | exact Below.refl _ _ | refine bch ?_ (by assumption) | refine Below.alloc ?_ (by simp) _)) rfl
        · intro x w' hbw hd
          have d8 : x 8 = .bool true := hd 8 rfl
          have d11 : x 11 = .bool true := hd 11 rfl
          clear hd
          go_wp2_with fail
          exact frPost_mk rfl (by repeat (first | assumption | exact Below.refl _ _ | refine bch ?_ (by assumption) | refine Below.alloc ?_ (by simp) _)) rfl
        · intro x w' hbw hd
          have d5 : x 5 = .bool false := hd 5 rfl
          have d8 : x 8 = .bool true := hd 8 rfl
          have d12 : x 12 = .bool false := hd 12 rfl
          clear hd
          go_wp2_with fail
          exact frPost_mk rfl (by repeat (first | assumption | exact Below.refl _ _ | refine bch ?_ (by assumption) | refine Below.alloc ?_ (by simp) _)) rfl
        · intro x w' hbw hd
          have d5 : x 5 = .bool false := hd 5 rfl
          have d13 : x 13 = .bool false := hd 13 rfl
          clear hd
          go_wp2_with fail
          exact frPost_mk rfl (by repeat (first | assumption | exact Below.refl _ _ | refine bch ?_ (by assumption) | refine Below.alloc ?_ (by simp) _)) rfl
        · intro x w' hbw hd
          have d14 : x 14 = .bool false := hd 14 rfl
          clear hd
          go_wp2_with fail
          exact frPost_mk rfl (by repeat (first | assumption | exact Below.refl _ _ | refine bch ?_ (by assumption) | refine Below.alloc ?_ (by simp) _)) rfl
        · intro x w' hbw hd
          have d15 : x 15 = .bool false := hd 15 rfl
          clear hd
          have hqr := cells_of hq7 hbw hql7
          go_wp2_with (first | (refine wpList_load_midG 34 (.tmp 7) rfl gq 0 rfl q.row.toList _ (rangeAt_row5 hqr) Try.underlying34 rfl (msg_info _) (by first | rfl | (simp [Region.wanted, yielded, *]; done)) ?_; rw [Array.toArray_toList]))
          exact frPost_mk rfl (by repeat (first | assumption | exact Below.refl _ _ | refine bch ?_ (by assumption) | refine Below.alloc ?_ (by simp) _)) rfl
        · intro x w' hbw hd
          have d15 : x 15 = .bool false := hd 15 rfl
          clear hd
          have hnr := cells_of hn7 hbw hnl7
          go_wp2_with (first | (refine wpList_load_midG 34 (.tmp 8) rfl gn 0 rfl nn.row.toList _ (rangeAt_row5 hnr) Try.underlying34 rfl (msg_info _) (by first | rfl | (simp [Region.wanted, yielded, *]; done)) ?_; rw [Array.toArray_toList]))
          exact frPost_mk rfl (by repeat (first | assumption | exact Below.refl _ _ | refine bch ?_ (by assumption) | refine Below.alloc ?_ (by simp) _)) rfl
        · intro x w' hbw hd
          have d15 : x 15 = .bool false := hd 15 rfl
          have d16 : x 16 = .agg q.row := hd 16 rfl
          have d17 : x 17 = .agg nn.row := hd 17 rfl
          clear hd
          have CC := CSn w' hbw
          go_wp2_with (first | (go_at_call 19; refine (CC).mono ?_; rintro e wx ⟨rfl, hbx⟩))
          exact frPost_mk rfl (by repeat (first | assumption | exact Below.refl _ _ | refine bch ?_ (by assumption) | refine Below.alloc ?_ (by simp) _)) rfl
        · intro x w' hbw hd
          have d15 : x 15 = .bool false := hd 15 rfl
          clear hd
          go_wp2_with fail
          exact frPost_mk rfl (by repeat (first | assumption | exact Below.refl _ _ | refine bch ?_ (by assumption) | refine Below.alloc ?_ (by simp) _)) rfl
        · intro x w' hbw hd
          have d15 : x 15 = .bool false := hd 15 rfl
          have d19 : x 19 = .pointer (some ⟨gq, 43, none⟩) := hd 19 rfl
          clear hd
          have hqr := cells_of hq7 hbw hql7
          have c43 := (msg_cells hqr).2.2.2.2.2.2.2.2.2.2.2.1
          go_wp2_with fail
          exact frPost_mk rfl (by repeat (first | assumption | exact Below.refl _ _ | refine bch ?_ (by assumption) | refine Below.alloc ?_ (by simp) _)) rfl
        · intro x w' hbw hd
          have d15 : x 15 = .bool false := hd 15 rfl
          clear hd
          go_wp2_with fail
          exact frPost_mk rfl (by repeat (first | assumption | exact Below.refl _ _ | refine bch ?_ (by assumption) | refine Below.alloc ?_ (by simp) _)) rfl
        · intro x w' hbw hd
          have d15 : x 15 = .bool false := hd 15 rfl
          have d20 : x 20 = .string q.ack := hd 20 rfl
          have d21 : x 21 = .string ack := hd 21 rfl
          clear hd
          go_wp2_with fail
          exact frPost_mk rfl (by repeat (first | assumption | exact Below.refl _ _ | refine bch ?_ (by assumption) | refine Below.alloc ?_ (by simp) _)) rfl
        · intro x w' hbw hd
          have d15 : x 15 = .bool false := hd 15 rfl
          have d22 : x 22 = .bool true := hd 22 rfl
          clear hd
          go_wp2_with fail
          exact frPost_mk rfl (by repeat (first | assumption | exact Below.refl _ _ | refine bch ?_ (by assumption) | refine Below.alloc ?_ (by simp) _)) rfl
        · intro x w' hbw hd
          have d23 : x 23 = .bool true := hd 23 rfl
          clear hd
          go_wp2_with fail
          exact frPost_mk rfl (by repeat (first | assumption | exact Below.refl _ _ | refine bch ?_ (by assumption) | refine Below.alloc ?_ (by simp) _)) rfl
        · intro x w' hbw hd
          have d23 : x 23 = .bool true := hd 23 rfl
          have d24 : x 24 = .pointer (some ⟨gq, 44, none⟩) := hd 24 rfl
          clear hd
          have hqr := cells_of hq7 hbw hql7
          have c44 := (msg_cells hqr).2.2.2.2.2.2.2.2.2.2.2.2.1
          go_wp2_with fail
          exact frPost_mk rfl (by repeat (first | assumption | exact Below.refl _ _ | refine bch ?_ (by assumption) | refine Below.alloc ?_ (by simp) _)) rfl
        · intro x w' hbw hd
          have d23 : x 23 = .bool true := hd 23 rfl
          clear hd
          go_wp2_with fail
          exact frPost_mk rfl (by repeat (first | assumption | exact Below.refl _ _ | refine bch ?_ (by assumption) | refine Below.alloc ?_ (by simp) _)) rfl
        · intro x w' hbw hd
          have d23 : x 23 = .bool true := hd 23 rfl
          have d25 : x 25 = .int .i64 q.nx := hd 25 rfl
          have d26 : x 26 = .int .i64 nx := hd 26 rfl
          clear hd
          go_wp2_with fail
          exact frPost_mk rfl (by repeat (first | assumption | exact Below.refl _ _ | refine bch ?_ (by assumption) | refine Below.alloc ?_ (by simp) _)) rfl
        · intro x w' hbw hd
          have d15 : x 15 = .bool false := hd 15 rfl
          have d23 : x 23 = .bool true := hd 23 rfl
          have d27 : x 27 = .bool kn := hd 27 rfl
          clear hd
          go_wp2_with fail
          exact frPost_mk rfl (by repeat (first | assumption | exact Below.refl _ _ | refine bch ?_ (by assumption) | refine Below.alloc ?_ (by simp) _)) rfl
        · intro x w' hbw hd
          have d15 : x 15 = .bool false := hd 15 rfl
          have d18 : x 18 = .bool kn := hd 18 rfl
          have d28 : x 28 = .bool kn := hd 28 rfl
          clear hd
          go_wp2_with fail
          exact frPost_mk rfl (by repeat (first | assumption | exact Below.refl _ _ | refine bch ?_ (by assumption) | refine Below.alloc ?_ (by simp) _)) rfl
        · intro x w' hbw hd
          have d15 : x 15 = .bool false := hd 15 rfl
          have d29 : x 29 = .bool false := hd 29 rfl
          clear hd
          go_wp2_with fail
          exact frPost_mk rfl (by repeat (first | assumption | exact Below.refl _ _ | refine bch ?_ (by assumption) | refine Below.alloc ?_ (by simp) _)) rfl
      intro x wf hbw hd
      have d30 : x 30 = .bool false := hd 30 (by decide)
      clear hd
      simp only [Nat.zero_add, Nat.reduceAdd, d30]
      have hmr := cells_of hm7 hbw hml7
      have hnr := cells_of hn7 hbw hnl7
      have c0 := (msg_cells hmr).1
      cases k3
      case true =>
        have c9 : wf.cell? ⟨w.heap.size, 0, none⟩ = some (.int .i64 3) := by rw [c0, beq_iff_eq.1 e3]
        clear c0 e3 CMn CSn CPq CSq CMm CSm
        go_wp2_with fail
        go_ret
        exact ⟨by first | rfl | simp, hbel7.trans (hbw.mono hbel7.size)⟩
      cases k0
      case true =>
        go_wp2_with fail
        go_ret
        exact ⟨by first | rfl | simp, hbel7.trans (hbw.mono hbel7.size)⟩
      have CN := CMn rfl rfl wf hbw
      go_wp2_with (first | (refine wpList_load_midG 34 (.tmp 8) rfl gn 0 rfl nn.row.toList _ (rangeAt_row5 hnr) Try.underlying34 rfl (msg_info _) (by first | rfl | (simp [Region.wanted, yielded, *]; done)) ?_; rw [Array.toArray_toList]) | (go_at_call 17; refine CN.mono ?_; rintro e wx ⟨rfl, hbx⟩))
      go_ret
      exact ⟨by first | rfl | simp, (hbel7.trans (hbw.mono hbel7.size)).trans (hbx.mono (hbel7.trans (hbw.mono hbel7.size)).size)⟩
end Go.Proofs.Ythipnkbfdkmhaaa
