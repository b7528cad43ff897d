/- ClientPlays walked. -/
import Derived.Test.YtbckncopdkmoeaaCn5
import Derived.Test.YtbckncopdkmoeaaCn8
import Derived.BigRegion
import Derived.RegionTactic
import Derived.BigQuiet
import Derived.Deep.QuietTactic
import Derived.Deep.MidRow
import Derived.Deep.RegionLaw
import Derived.Deep.CutRange
import Derived.LoopTactic
import Derived.BigFrame
import Derived.OwnWalk
import Derived.OneCell
import Derived.Laws.OwnMore
import Derived.Deep.RegionHeld
import Derived.WalkKit
import Derived.ProofKit
import Derived.Handy
import Derived.Below
import Derived.Lib.Hide
import Derived.IntWalk
import Derived.Outline
import Derived.WalkLawsBesides
import Derived.WalkSpells
namespace Go.Proofs.Ytbckncopdkmoeaa
open Go.RowKit
attribute [local go_sem] strV
set_option linter.unusedVariables false
/-- What a told header does, in four cases. -/
theorem told_cases9 {M : List Hd} (hr : risesH M) (x : Hd) (t : List Hd) :
    (chkF M x t ≠ 0 ∧ updB M x t = false ∧ updM M x t = M) ∨
    (chkF M x t = 0 ∧ knownB M x.ht = false ∧ updB M x t = true ∧ updM M x t = insH M x ∧ x ∈ t ∧ mayHd x = true) ∨
    (chkF M x t = 0 ∧ knownB M x.ht = true ∧ knownV M x.ht = x ∧ updB M x t = false ∧ updM M x t = M ∧ x ∈ t) := by
  by_cases h0 : chkF M x t = 0
  · have hm : mayHd x = true := by
      cases h9 : mayHd x with
      | true => rfl
      | false => unfold chkF at h0; rw [h9] at h0; simp at h0
    have hi : x ∈ t := by
      apply Classical.byContradiction
      intro h9
      unfold chkF at h0
      rw [if_pos hm, if_neg h9] at h0
      omega
    cases hk : knownB M x.ht with
    | false => exact .inr (.inl ⟨h0, rfl, by unfold updB; rw [decide_eq_true h0, hk]; rfl, if_pos h0, hi, hm⟩)
    | true =>
      have hv : knownV M x.ht = x := by
        apply Classical.byContradiction
        intro h9
        unfold chkF at h0
        rw [if_pos hm, if_pos hi, if_pos ⟨hk, h9⟩] at h0
        omega
      obtain ⟨y, hy, hyx⟩ := knownB_iff.1 hk
      have : y = x := by rw [← hv, ← hyx, knownV_of hr hy]
      subst this
      exact .inr (.inr ⟨h0, rfl, hv, by unfold updB; rw [decide_eq_true h0, hk]; rfl, by unfold updM; rw [if_pos h0, insH_had hr hy], hi⟩)
  · exact .inl ⟨h0, by unfold updB; rw [decide_eq_false h0]; rfl, if_neg h0⟩
theorem build_hd1 (x : Int) (W : World) : (Instr.build 43 #[(0, .int .i64 x)]).run Try.prog W = .ok (.agg (⟨x, 0, zeroH⟩ : Hd).row) W := by kernel_rfl
def hdMax : Hd := ⟨1099511627776, 0, zeroH⟩
theorem hdMax_wf : hdMax.wf := ⟨by decide, by decide⟩
theorem row_max (W : World) : RowAt (W.alloc (.cells hdMax.row 43)) (some ⟨W.heap.size, 0, none⟩) ([hdMax].flatMap Hd.L) := by
  have h9 := hd_new (heap_push W hdMax.row 43)
  refine .inr ⟨W.heap.size, 0, rfl, by simp, fun j hj => ?_⟩
  have e : [hdMax].flatMap Hd.L = hdMax.L := by rw [List.flatMap_cons, List.flatMap_nil, List.append_nil]
  rw [e] at hj ⊢
  have := h9 j _ (List.getElem?_eq_getElem hj)
  rw [Addr.add_lit] at this
  rw [this, List.getElem?_eq_getElem hj]
theorem own_ne_map {w : World} {B g b n k : Nat} {v : Value} {xs : List Value} {M : List Hd} (h : w.ownsRow B 43 34 v k xs) (hc : ClAt w g b n M) : v.ownBlock = none ∨ v.ownBlock ≠ some b := by
  refine .inr (fun e => ?_)
  obtain ⟨es, clock, h4, _⟩ := hc.2.2.2.2.choose_spec.1
  rcases h.2 with ⟨rfl, _⟩ | ⟨g9, cap, cur, rfl, _, hgg, _⟩
  · simp [Value.ownBlock] at e
  · simp [Value.ownBlock] at e
    subst e
    rw [h4] at hgg; cases hgg
set_option maxRecDepth 100000 in
set_option maxHeartbeats 12800000 in
theorem walkClientPlays (a0 : Option Addr) (n0 c0 : Nat) (l : List Hd) (a1 : Option Addr) (n1 c1 : Nat) (t : List Hd) (z : Int) (w : World)
    (hr0 : RowAt w a0 (l.flatMap Hd.L)) (hn0 : l.length = n0) (hc0 : n0 ≤ c0) (hm0 : c0 ≤ maxLen) (hq0 : ∀ p ∈ l, p.wf)
    (hr1 : RowAt w a1 (t.flatMap Hd.L)) (hn1 : t.length = n1) (hc1 : n1 ≤ c1) (hm1 : c1 ≤ maxLen) (hq1 : ∀ p ∈ t, p.wf) (hz0 : -9223372036854775808 ≤ z) (hz1 : z ≤ 9223372036854775807) :
    Calls Try.prog 4 #[.slice a0 n0 c0, .slice a1 n1 c1, .int .i64 z] w fun e w' => e = .returned (.bool true) ∧ Below w.heap.size w w' := by
  have hzw : (Lit.int .i64 z).wf = true := wf_i64 (by omega) (by omega)
  have HN0 := Lib.hid hn0; have HN1 := Lib.hid hn1
  have HQ0 := Lib.hid hq0; have HQ1 := Lib.hid hq1
  clear hn0 hn1 hq0 hq1 hc0 hm0 hz0 hz1
  have C1 := fun W => first14_any W
  by_cases h0 : n0 ≤ 40
  rotate_left
  · have d0 : decide ((n0 : Int) > 40) = true := decide_eq_true (by omega)
    have d0g : decide (40 < (n0 : Int)) = true := decide_eq_true (by omega)
    have d0n : decide (40 < n0) = true := decide_eq_true (by omega)
    clear h0
    go_enter Try.func4, Try.ntmps4
    go_wp2_with (first | (go_at_call 17; with_reducible refine (C1 w).mono ?_; rintro e w1 ⟨rfl, hb1⟩) | (go_at_call 17; with_reducible refine (C1 w1).mono ?_; rintro e w2 ⟨rfl, hb2⟩))
    go_ret
    exact ⟨by first | rfl | simp, hb1.trans (hb2.mono hb1.size)⟩
  have d0 : decide ((n0 : Int) > 40) = false := decide_eq_false (by omega)
  have d0g : decide (40 < (n0 : Int)) = false := decide_eq_false (by omega)
  have d0n : decide (40 < n0) = false := decide_eq_false (by omega)
  by_cases h1 : n1 ≤ 40
  rotate_left
  · have d1 : decide ((n1 : Int) > 40) = true := decide_eq_true (by omega)
    have d1g : decide (40 < (n1 : Int)) = true := decide_eq_true (by omega)
    have d1n : decide (40 < n1) = true := decide_eq_true (by omega)
    clear h1
    go_enter Try.func4, Try.ntmps4
    go_wp2_with (first | (go_at_call 17; with_reducible refine (C1 w).mono ?_; rintro e w1 ⟨rfl, hb1⟩) | (go_at_call 17; with_reducible refine (C1 w1).mono ?_; rintro e w2 ⟨rfl, hb2⟩))
    go_ret
    exact ⟨by first | rfl | simp, hb1.trans (hb2.mono hb1.size)⟩
  have d1 : decide ((n1 : Int) > 40) = false := decide_eq_false (by omega)
  have d1g : decide (40 < (n1 : Int)) = false := decide_eq_false (by omega)
  have d1n : decide (40 < n1) = false := decide_eq_false (by omega)
  go_enter Try.func4, Try.ntmps4
  go_wp2_with (first | (go_at_call 17; refine (C1 w).mono ?_; rintro e w1 ⟨rfl, hb1⟩; have CN := clNew_any w1) | (go_at_call 18; refine CN.mono ?_; rintro e w2 ⟨rfl, ca2, hb2⟩))
  have z2 : Below w.heap.size w w2 := hb1.trans (hb2.mono hb1.size)
  have hbs := hb1.size
  obtain ⟨g, hg⟩ : ∃ g, w1.heap.size + 1 = g := ⟨_, rfl⟩
  obtain ⟨b, hb⟩ : ∃ g, w1.heap.size = g := ⟨_, rfl⟩
  simp only [hg] at ca2 ⊢
  simp only [hb] at ca2 hbs
  have HWB := Lib.hid hbs
  clear hg hb hbs
  go_loopw [8, 9] (fun v i wr => ∃ (k : Nat) (M : List Hd), k ≤ n0 ∧ i = .int .i64 k ∧ ClAt wr g b k M ∧ wr.ownsRow w.heap.size 43 34 v M.length (M.flatMap Hd.L) ∧ Below w.heap.size w wr) (fun _ i _ => n0 - (intOf i).toNat)
  case atStart => exact ⟨0, [], Nat.zero_le _, rfl, ca2, World.ownsRow_nil _ _ _ _, z2⟩
  case round =>
    obtain ⟨k, M, hk, rfl, sa, hown, hbel⟩ := hrel
    obtain ⟨a8, c8, rfl, hr8, hc8, hm8, _⟩ := own_sliceN hown
    obtain ⟨ml, hml⟩ : ∃ n, M.length = n := ⟨_, rfl⟩
    have hmk : ml ≤ k := by rw [← hml]; exact sa.2.2.1
    rw [hml] at hown hc8
    simp only [hml]
    by_cases hlt : k < n0
    · have e1 : decide ((k : Int) < (n0 : Int)) = true := decide_eq_true (by omega)
      have e1n : decide (k < n0) = true := decide_eq_true hlt
      have hkl : k < l.length := by rw [HN0.out]; exact hlt
      obtain ⟨b1, o1, rfl, hbx, hg1⟩ := hds_at hr0 hkl
      have hwx := HQ0.out l[k] (List.getElem_mem hkl)
      obtain ⟨x, hx9⟩ : ∃ x, l[k] = x := ⟨_, rfl⟩
      rw [hx9] at hg1 hwx
      clear hx9
      have i0 : (0 : Int) ≤ (k : Int) := by omega
      have i1 : (k : Int) < (n0 : Int) := by omega
      have i2 : ((k : Nat) : Int).toNat = k := by omega
      have CH := chk12_any x a8 ml c8 M a1 n1 c1 t wr hr8 hml (by omega) (hr1.below hbel) HN1.out (by omega)
      have CC := fun W (h : Below wr.heap.size wr W) (hb : Below w.heap.size w W) => clCheck_any g b k M x hwx a1 n1 c1 t W (sa.kept h) (hr1.below hb) HN1.out (by omega) HQ1.out
      have CU := fun W (h : Below wr.heap.size wr W) (hb : Below w.heap.size w W) => clUpd_any g b k M x hwx a1 n1 c1 t W (sa.kept h) (by unfold maxLen; omega) (hr1.below hb) HN1.out (by omega) HQ1.out
      have CP := fun W (ho : W.ownsRow w.heap.size 43 34 (.slice a8 ml c8) ml (M.flatMap Hd.L)) (hb : Below w.heap.size w W) => upd12_any x (.slice a8 ml c8) ml w.heap.size M W ho hml (by omega) sa.1 hb.size
      have TC := told_cases9 sa.1 x t
      have HML := Lib.hid hml
      obtain ⟨ck, hck⟩ : ∃ q, chkF M x t = q := ⟨_, rfl⟩
      obtain ⟨ub, hub⟩ : ∃ q, updB M x t = q := ⟨_, rfl⟩
      obtain ⟨M2, hM2⟩ : ∃ q, updM M x t = q := ⟨_, rfl⟩
      simp only [hck] at CH CC
      simp only [hck, hub, hM2] at CU
      rw [hck, hub, hM2] at TC
      clear hck hub hM2 hml
      rcases TC with ⟨t1, t2, t3⟩ | ⟨t1, t2, t3, t4, _, _⟩ | ⟨t1, t2, t3, t4, t5, _⟩
      · subst t2 t3
        have q1 : (ck == 0) = false := by simpa using t1
        have q2 : (ck != ck) = false := by simp
        clear t1 CP
        go_wp2_with (first | (refine wpList_loadHd (.tmp 44) rfl b1 (o1 + k * 34) rfl x (range_below hbel hbx hg1) (by rfl) ?_) | (go_at_call 19; with_reducible refine CH.mono ?_; rintro e w4 ⟨rfl, hb4⟩; have hbel4 := hbel.trans (hb4.mono hbel.size)) | (refine wpList_loadHd (.tmp 51) rfl b1 (o1 + k * 34) rfl x (range_below hbel4 hbx hg1) (by rfl) ?_) | (go_at_call 20; with_reducible refine (CC w4 hb4 hbel4).mono ?_; rintro e w5 ⟨rfl, hb5⟩; have hbel5 := hbel4.trans (hb5.mono hbel4.size); have hb45 := hb4.trans (hb5.mono hb4.size)) | (refine wpList_loadHd (.tmp 59) rfl b1 (o1 + k * 34) rfl x (range_below hbel5 hbx hg1) (by rfl) ?_) | (go_at_call 21; with_reducible refine (CU w5 hb45 hbel5).mono ?_; rintro e w6 ⟨rfl, sa6, hg6⟩; have hbel6 := hbel5.grown hg6 hbel5.size (fun j hj => by cases hj; exact HWB.out); have own6 := (own_kept9 hown hb45).kept hg6 (own_ne_map (own_kept9 hown hb45) (sa.kept hb45))))
        go_roundw
        case rel => exact ⟨k + 1, M2, by omega, by go_num, sa6, by rw [HML.out]; exact own6, hbel6⟩
        case measure => (simp [intOf]) <;> omega
      · subst t1 t3
        have CP := CP
        rw [t2] at CP
        simp only [Bool.false_eq_true, if_false, Bool.not_false] at CP
        rw [← t4] at CP
        clear t4
        go_wp2_with (first | (refine wpList_loadHd (.tmp 44) rfl b1 (o1 + k * 34) rfl x (range_below hbel hbx hg1) (by rfl) ?_) | (go_at_call 19; with_reducible refine CH.mono ?_; rintro e w4 ⟨rfl, hb4⟩; have hbel4 := hbel.trans (hb4.mono hbel.size)) | (refine wpList_loadHd (.tmp 51) rfl b1 (o1 + k * 34) rfl x (range_below hbel4 hbx hg1) (by rfl) ?_) | (go_at_call 20; with_reducible refine (CC w4 hb4 hbel4).mono ?_; rintro e w5 ⟨rfl, hb5⟩; have hbel5 := hbel4.trans (hb5.mono hbel4.size); have hb45 := hb4.trans (hb5.mono hb4.size)) | (refine wpList_loadHd (.tmp 59) rfl b1 (o1 + k * 34) rfl x (range_below hbel5 hbx hg1) (by rfl) ?_) | (go_at_call 21; with_reducible refine (CU w5 hb45 hbel5).mono ?_; rintro e w6 ⟨rfl, sa6, hg6⟩; have hbel6 := hbel5.grown hg6 hbel5.size (fun j hj => by cases hj; exact HWB.out); have own6 := (own_kept9 hown hb45).kept hg6 (own_ne_map (own_kept9 hown hb45) (sa.kept hb45))) | (refine wpList_loadHd (.tmp 71) rfl b1 (o1 + k * 34) rfl x (range_below hbel6 hbx hg1) (by rfl) ?_) | (go_at_call 22; with_reducible refine (CP w6 own6 hbel6).mono ?_; rintro e w7 ⟨v7, rfl, own7, hb7⟩; have hbel7 := hbel6.trans (hb7.mono hbel6.size); have sa7 := sa6.kept hb7))
        go_roundw
        case rel => exact ⟨k + 1, M2, by omega, by go_num, sa7, own7, hbel7⟩
        case measure => (simp [intOf]) <;> omega
      · subst t1 t4 t5
        rw [t2] at CP
        simp only [if_true, Bool.not_true] at CP
        go_wp2_with (first | (refine wpList_loadHd (.tmp 44) rfl b1 (o1 + k * 34) rfl x (range_below hbel hbx hg1) (by rfl) ?_) | (go_at_call 19; with_reducible refine CH.mono ?_; rintro e w4 ⟨rfl, hb4⟩; have hbel4 := hbel.trans (hb4.mono hbel.size)) | (refine wpList_loadHd (.tmp 51) rfl b1 (o1 + k * 34) rfl x (range_below hbel4 hbx hg1) (by rfl) ?_) | (go_at_call 20; with_reducible refine (CC w4 hb4 hbel4).mono ?_; rintro e w5 ⟨rfl, hb5⟩; have hbel5 := hbel4.trans (hb5.mono hbel4.size); have hb45 := hb4.trans (hb5.mono hb4.size)) | (refine wpList_loadHd (.tmp 59) rfl b1 (o1 + k * 34) rfl x (range_below hbel5 hbx hg1) (by rfl) ?_) | (go_at_call 21; with_reducible refine (CU w5 hb45 hbel5).mono ?_; rintro e w6 ⟨rfl, sa6, hg6⟩; have hbel6 := hbel5.grown hg6 hbel5.size (fun j hj => by cases hj; exact HWB.out); have own6 := (own_kept9 hown hb45).kept hg6 (own_ne_map (own_kept9 hown hb45) (sa.kept hb45))) | (refine wpList_loadHd (.tmp 71) rfl b1 (o1 + k * 34) rfl x (range_below hbel6 hbx hg1) (by rfl) ?_) | (go_at_call 22; with_reducible refine (CP w6 own6 hbel6).mono ?_; rintro e w7 ⟨v7, rfl, own7, hb7⟩; have hbel7 := hbel6.trans (hb7.mono hbel6.size); have sa7 := sa6.kept hb7))
        go_roundw
        case rel => exact ⟨k + 1, M2, by omega, by go_num, sa7, own7, hbel7⟩
        case measure => (simp [intOf]) <;> omega
    · have e1 : decide ((k : Int) < (n0 : Int)) = false := decide_eq_false (by omega)
      have e1n : decide (k < n0) = false := decide_eq_false hlt
      obtain ⟨i, rfl⟩ : ∃ i, i = k := ⟨_, rfl⟩
      have CS := clState_any g b i M z wr sa hzw
      have CK := fun W (h : Below wr.heap.size wr W) => known12_any a8 ml c8 M z W (hr8.below h) hml (by omega)
      obtain ⟨kv, hkv⟩ : ∃ q, knownV M z = q := ⟨_, rfl⟩
      obtain ⟨kb, hkb⟩ : ∃ q, knownB M z = q := ⟨_, rfl⟩
      simp only [hkv, hkb] at CS CK
      obtain ⟨lh, hlh⟩ : ∃ n, lastH M = n := ⟨_, rfl⟩
      have hne := fun W => run_equal_hd kv kv W
      rw [decide_eq_true (rfl : kv = kv)] at hne
      have q3 : (kb == kb) = true := by simp
      have q4 : (lh == lh) = true := by simp
      clear hkv hkb
      by_cases hm0 : ml = 0
      · subst hm0
        obtain rfl : lh = 0 := by
          rw [← hlh]
          obtain rfl : M = [] := List.eq_nil_of_length_eq_zero hml
          rfl
        go_upto_region 22 with (first | (go_at_call 23; refine CS.mono ?_; rintro e w4 ⟨rfl, hb4⟩; have hA4 := heap_push w4 zeroHd.row 43; have hz4 := setRow_heap _ _ zeroHd.row kv.row _ _ hA4; have hbw4 : Below w4.heap.size w4 ((w4.alloc (.cells zeroHd.row 43)).setRow w4.heap.size kv.row) := below_setRow ((Below.refl _ _).alloc (Nat.le_refl _) _) (Nat.le_refl _) _; have hbx4 := hb4.trans (hbw4.mono hb4.size)) | (refine wpList_storeRowTo rfl (.tmp 15) (.tmp 93) 43 rfl (infoHd_row _) rfl rfl hA4 (by rw [Hd.row_size, Hd.row_size]) (Hd.row_one _) ?_) | (go_at_call 24; refine (CK _ hbx4).mono ?_; rintro e w5 ⟨rfl, hb5⟩; have hz5 := cells_of hz4 hb5 (row_lt hz4); have hA5 := heap_push w5 zeroHd.row 43; have hz6 := setRow_heap _ _ zeroHd.row kv.row _ _ hA5; have hbw5 : Below w5.heap.size w5 ((w5.alloc (.cells zeroHd.row 43)).setRow w5.heap.size kv.row) := below_setRow ((Below.refl _ _).alloc (Nat.le_refl _) _) (Nat.le_refl _) _; have hz7 := cells_of hz5 hbw5 (row_lt hz5); have hbx5 := hbx4.trans ((hb5.trans (hbw5.mono hb5.size)).mono hbx4.size)) | (refine wpList_storeRowTo rfl (.tmp 17) (.tmp 99) 43 rfl (infoHd_row _) rfl rfl hA5 (by rw [Hd.row_size, Hd.row_size]) (Hd.row_one _) ?_))
        refine wp_nameE _ (fun W5 hW5 => ?_)
        have hz15 : W5.heap[w4.heap.size]? = some (.cells kv.row 43 (0, 0)) := by rw [hW5]; exact hz7
        have hz17 : W5.heap[w5.heap.size]? = some (.cells kv.row 43 (0, 0)) := by rw [hW5]; exact hz6
        have hb5r : Below wr.heap.size wr W5 := by rw [hW5]; exact hbx5
        clear hW5 hA4 hz4 hbw4 hbx4 hz5 hA5 hz6 hbw5 hz7 hbx5 CS CK hb4 hb5
        have hbel5 := hbel.trans (hb5r.mono hbel.size)
        have sa5 := sa.kept hb5r
        have own5 := own_kept9 hown hb5r
        have CC := clCopy_any g b i M W5 sa5
        go_wp2_with (first | (go_at_call 25; refine CC.mono ?_; rintro e w6 ⟨gd, bd, rfl, sd6, hgd, hbd, hb6⟩; have CU := clUpd_any gd bd i M hdMax hdMax_wf (some ⟨w6.heap.size, 0, none⟩) 1 1 [hdMax] (w6.alloc (.cells hdMax.row 43)) (sd6.kept ((Below.refl _ _).alloc (Nat.le_refl _) _)) (by unfold maxLen; omega) (row_max w6) rfl (by omega) (fun x hx => by rw [List.mem_singleton.1 hx]; exact hdMax_wf)) | (refine wpList_buildA rfl 43 _ rfl #[(0, .int .i64 1099511627776)] rfl (build_hd1 1099511627776 _) ?_) | (refine wpList_one (R := hdMax.row) rfl (.tmp 117) 36 43 rfl (by rfl) (one_hd _ hdMax.row_size _) ?_) | (go_at_call 21; refine CU.mono ?_; rintro e w8 ⟨rfl, sd8, hg8⟩; have hb8 : Below W5.heap.size W5 w8 := (hb6.alloc hb6.size _).grown hg8 (hb6.alloc hb6.size _).size (fun j hj => by cases hj; exact hbd); have hz158 := cells_of hz15 hb8 (row_lt hz15); have hz178 := cells_of hz17 hb8 (row_lt hz17); have sa8 := sa5.kept hb8; have own8 := own_kept9 own5 hb8; have CL := clLast_any g b i M w8 sa8; rw [hlh] at CL) | (refine wpList_loadHd (.tmp 15) rfl w4.heap.size 0 rfl kv (hd_range hz158) (by rfl) ?_) | (refine wpList_loadHd (.tmp 17) rfl w5.heap.size 0 rfl kv (hd_range hz178) (by rfl) ?_) | (go_at_call 26; refine CL.mono ?_; rintro e w9 ⟨rfl, hb9⟩; have CT := clStates_any g b i M w9 (sa8.kept hb9) (by omega); rw [hml] at CT) | (go_at_call 28; refine CT.mono ?_; rintro e w10 ⟨v10, rfl, hown10, hb10⟩; obtain ⟨a10, c10, rfl, hr10, _, _, _⟩ := own_sliceN hown10; have CH := hdsSame_any _ _ _ c10 c8 M w10 hr10 (hr8.below ((hb5r.trans (hb8.mono hb5r.size)).trans ((hb9.trans (hb10.mono hb9.size)).mono (hb5r.trans (hb8.mono hb5r.size)).size))) hml (by omega)) | (go_at_call 27; refine CH.mono ?_; rintro e w11 ⟨rfl, hb11⟩))
        go_ret
        exact ⟨by first | rfl | simp, (((hbel5.trans (hb8.mono hbel5.size)).trans (hb9.mono (Nat.le_trans hbel5.size hb8.size))).trans (hb10.mono (Nat.le_trans hbel5.size (Nat.le_trans hb8.size hb9.size)))).trans (hb11.mono (Nat.le_trans hbel5.size (Nat.le_trans hb8.size (Nat.le_trans hb9.size hb10.size))))⟩
      · have hpl : ml - 1 < M.length := by rw [hml]; omega
        obtain ⟨b7, o7, ha7, hb7, hg7⟩ := hds_at hr8 hpl
        subst ha7
        have hh : M[ml - 1].ht = lh := by
          rw [← hlh]
          unfold lastH
          rw [List.getLast?_eq_getElem?, hml, List.getElem?_eq_getElem hpl]
        have hcy : wr.cell? ⟨b7, o7 + (ml - 1) * 34, none⟩ = some (.int .i64 lh) := by rw [← hh]; exact hg7 0 _ rfl
        have f1 : decide ((ml : Int) > 0) = true := decide_eq_true (by omega)
        have f1g : decide (0 < (ml : Int)) = true := decide_eq_true (by omega)
        have f1n : decide (0 < ml) = true := decide_eq_true (by omega)
        have k0 : (0 : Int) ≤ (ml : Int) - 1 := by omega
        have k1 : (ml : Int) - 1 < (ml : Int) := by omega
        have k2 : ((ml : Int) - 1).toNat = ml - 1 := by omega
        have k3 : IntKind.i64.wrap ((ml : Int) - 1) = (ml : Int) - 1 := by rw [IntKind.wrap_i64]; omega
        clear hg7 hh hpl
        go_upto_region 22 with (first | (go_at_call 23; refine CS.mono ?_; rintro e w4 ⟨rfl, hb4⟩; have hA4 := heap_push w4 zeroHd.row 43; have hz4 := setRow_heap _ _ zeroHd.row kv.row _ _ hA4; have hbw4 : Below w4.heap.size w4 ((w4.alloc (.cells zeroHd.row 43)).setRow w4.heap.size kv.row) := below_setRow ((Below.refl _ _).alloc (Nat.le_refl _) _) (Nat.le_refl _) _; have hbx4 := hb4.trans (hbw4.mono hb4.size)) | (refine wpList_storeRowTo rfl (.tmp 15) (.tmp 93) 43 rfl (infoHd_row _) rfl rfl hA4 (by rw [Hd.row_size, Hd.row_size]) (Hd.row_one _) ?_) | (go_at_call 24; refine (CK _ hbx4).mono ?_; rintro e w5 ⟨rfl, hb5⟩; have hz5 := cells_of hz4 hb5 (row_lt hz4); have hA5 := heap_push w5 zeroHd.row 43; have hz6 := setRow_heap _ _ zeroHd.row kv.row _ _ hA5; have hbw5 : Below w5.heap.size w5 ((w5.alloc (.cells zeroHd.row 43)).setRow w5.heap.size kv.row) := below_setRow ((Below.refl _ _).alloc (Nat.le_refl _) _) (Nat.le_refl _) _; have hz7 := cells_of hz5 hbw5 (row_lt hz5); have hbx5 := hbx4.trans ((hb5.trans (hbw5.mono hb5.size)).mono hbx4.size)) | (refine wpList_storeRowTo rfl (.tmp 17) (.tmp 99) 43 rfl (infoHd_row _) rfl rfl hA5 (by rw [Hd.row_size, Hd.row_size]) (Hd.row_one _) ?_))
        refine wp_nameE _ (fun W5 hW5 => ?_)
        have hz15 : W5.heap[w4.heap.size]? = some (.cells kv.row 43 (0, 0)) := by rw [hW5]; exact hz7
        have hz17 : W5.heap[w5.heap.size]? = some (.cells kv.row 43 (0, 0)) := by rw [hW5]; exact hz6
        have hb5r : Below wr.heap.size wr W5 := by rw [hW5]; exact hbx5
        clear hW5 hA4 hz4 hbw4 hbx4 hz5 hA5 hz6 hbw5 hz7 hbx5 CS CK hb4 hb5
        have hbel5 := hbel.trans (hb5r.mono hbel.size)
        have sa5 := sa.kept hb5r
        have own5 := own_kept9 hown hb5r
        have CC := clCopy_any g b i M W5 sa5
        have hcy5 := (hb5r.cell hb7).trans hcy
        go_wp2_with (first | (go_at_call 25; refine CC.mono ?_; rintro e w6 ⟨gd, bd, rfl, sd6, hgd, hbd, hb6⟩; have CU := clUpd_any gd bd i M hdMax hdMax_wf (some ⟨w6.heap.size, 0, none⟩) 1 1 [hdMax] (w6.alloc (.cells hdMax.row 43)) (sd6.kept ((Below.refl _ _).alloc (Nat.le_refl _) _)) (by unfold maxLen; omega) (row_max w6) rfl (by omega) (fun x hx => by rw [List.mem_singleton.1 hx]; exact hdMax_wf)) | (refine wpList_buildA rfl 43 _ rfl #[(0, .int .i64 1099511627776)] rfl (build_hd1 1099511627776 _) ?_) | (refine wpList_one (R := hdMax.row) rfl (.tmp 117) 36 43 rfl (by rfl) (one_hd _ hdMax.row_size _) ?_) | (go_at_call 21; refine CU.mono ?_; rintro e w8 ⟨rfl, sd8, hg8⟩; have hb8 : Below W5.heap.size W5 w8 := (hb6.alloc hb6.size _).grown hg8 (hb6.alloc hb6.size _).size (fun j hj => by cases hj; exact hbd); have hz158 := cells_of hz15 hb8 (row_lt hz15); have hz178 := cells_of hz17 hb8 (row_lt hz17); have sa8 := sa5.kept hb8; have own8 := own_kept9 own5 hb8; have CL := clLast_any g b i M w8 sa8; rw [hlh] at CL) | (refine wpList_loadHd (.tmp 15) rfl w4.heap.size 0 rfl kv (hd_range hz158) (by rfl) ?_) | (refine wpList_loadHd (.tmp 17) rfl w5.heap.size 0 rfl kv (hd_range hz178) (by rfl) ?_) | (go_at_call 26; refine CL.mono ?_; rintro e w9 ⟨rfl, hb9⟩; have CT := clStates_any g b i M w9 (sa8.kept hb9) (by omega); rw [hml] at CT) | (go_at_call 28; refine CT.mono ?_; rintro e w10 ⟨v10, rfl, hown10, hb10⟩; obtain ⟨a10, c10, rfl, hr10, _, _, _⟩ := own_sliceN hown10; have CH := hdsSame_any _ _ _ c10 c8 M w10 hr10 (hr8.below ((hb5r.trans (hb8.mono hb5r.size)).trans ((hb9.trans (hb10.mono hb9.size)).mono (hb5r.trans (hb8.mono hb5r.size)).size))) hml (by omega)) | (go_at_call 27; refine CH.mono ?_; rintro e w11 ⟨rfl, hb11⟩))
        go_ret
        exact ⟨by first | rfl | simp, (((hbel5.trans (hb8.mono hbel5.size)).trans (hb9.mono (Nat.le_trans hbel5.size hb8.size))).trans (hb10.mono (Nat.le_trans hbel5.size (Nat.le_trans hb8.size hb9.size)))).trans (hb11.mono (Nat.le_trans hbel5.size (Nat.le_trans hb8.size (Nat.le_trans hb9.size hb10.size))))⟩
end Go.Proofs.Ytbckncopdkmoeaa
