/- The reference's known, checked headers. -/
import Derived.Test.YtbckncopdkmoeaaCn4
import Derived.BigRegion
import Derived.RegionTactic
import Derived.BigQuiet
import Derived.Deep.QuietTactic
import Derived.Deep.MidRow
import Derived.Deep.RegionLaw
import Derived.Deep.CutRange
import Derived.LoopTactic
import Derived.BigFrame
import Derived.OwnWalk
import Derived.OneCell
import Derived.Laws.OwnMore
import Derived.Deep.RegionHeld
import Derived.WalkKit
import Derived.ProofKit
import Derived.Handy
import Derived.Below
import Derived.Lib.Hide
import Derived.IntWalk
import Derived.Outline
import Derived.WalkLawsBesides
import Derived.WalkSpells
namespace Go.Proofs.Ytbckncopdkmoeaa
open Go.RowKit
attribute [local go_sem] strV
set_option linter.unusedVariables false
set_option maxRecDepth 100000 in
set_option maxHeartbeats 4000000 in
theorem mayHd_any (h : Hd) (w : World) :
    Calls Try.prog 51 #[.agg h.row] w fun e w' => e = .returned (.bool (mayHd h)) ∧ Below w.heap.size w w' := by
  obtain ⟨k0, e0⟩ : ∃ b, decide (1 ≤ h.ht) = b := ⟨_, rfl⟩
  obtain ⟨k1, e1⟩ : ∃ b, decide (h.ht ≤ 1099511627776) = b := ⟨_, rfl⟩
  obtain ⟨k2, e2⟩ : ∃ b, decide (0 ≤ h.tm) = b := ⟨_, rfl⟩
  obtain ⟨k3, e3⟩ : ∃ b, decide (h.tm ≤ 1099511627776) = b := ⟨_, rfl⟩
  obtain ⟨r, hr⟩ : ∃ r, mayHd h = r := ⟨_, rfl⟩
  have HR : Hid ((k0 && k1 && k2 && k3) = r) := Lib.hid (by rw [← hr]; unfold mayHd; rw [e0, e1, e2, e3])
  rw [hr]
  clear hr
  have hg0 := heap_push w h.row 43
  have z0 := h.at0
  have z1 := h.at1
  obtain ⟨x, hx⟩ : ∃ x, h.ht = x := ⟨_, rfl⟩
  obtain ⟨t, ht⟩ : ∃ x, h.tm = x := ⟨_, rfl⟩
  simp only [hx, ht] at *
  obtain ⟨X, hX⟩ : ∃ X, h.row = X := ⟨_, rfl⟩
  simp only [hX] at *
  clear hX hx ht
  go_enter Try.func51, Try.ntmps51
  go_upto_region 1 with fail
  refine wp_nameE _ (fun W1 hX => ?_)
  have hg : W1.heap[w.heap.size]? = some (.cells X 43 (0, 0)) := by rw [hX]; exact hg0
  have hbel : Below w.heap.size w W1 := by rw [hX]; exact Below.alloc (Below.refl _ _) (Nat.le_refl _) _
  have q0 := (cell_heap hg 0).trans z0
  have q1 := (cell_heap hg 1).trans z1
  clear hX hg0 hg z0 z1
  cases k0
  · obtain rfl : false = r := by rw [← HR.out]; simp
    go_wp2
    go_ret
    exact ⟨by first | rfl | simp, hbel⟩
  cases k1
  · obtain rfl : false = r := by rw [← HR.out]; simp
    go_wp2
    go_ret
    exact ⟨by first | rfl | simp, hbel⟩
  cases k2
  · obtain rfl : false = r := by rw [← HR.out]; simp
    go_wp2
    go_ret
    exact ⟨by first | rfl | simp, hbel⟩
  cases k3
  · obtain rfl : false = r := by rw [← HR.out]; simp
    go_wp2
    go_ret
    exact ⟨by first | rfl | simp, hbel⟩
  obtain rfl : true = r := by rw [← HR.out]; rfl
  go_wp2
  go_ret
  exact ⟨by first | rfl | simp, hbel⟩
theorem build_hd0 (W : World) : (Instr.build 43 #[]).run Try.prog W = .ok (.agg zeroHd.row) W := by kernel_rfl
theorem take_find {p : Hd → Bool} : ∀ {l : List Hd} {k : Nat} (hk : k < l.length), (l.take k).find? p = none → p l[k] = true → l.find? p = some l[k] := by
  intro l k hk h1 h2
  rw [(congrArg (List.find? p) (List.take_append_drop k l)).symm, List.find?_append, h1, Option.none_or, List.drop_eq_getElem_cons hk, List.find?_cons_of_pos h2]
theorem take_find_succ {p : Hd → Bool} {l : List Hd} {k : Nat} (hk : k < l.length) (h1 : (l.take k).find? p = none) (h2 : p l[k] = false) : (l.take (k + 1)).find? p = none := by
  rw [List.take_succ_eq_append_getElem hk, List.find?_append, h1, Option.none_or]
  simp [h2]
set_option maxRecDepth 100000 in
set_option maxHeartbeats 4000000 in
theorem known12_any (a : Option Addr) (n cap : Nat) (l : List Hd) (x : Int) (w : World) (hr : RowAt w a (l.flatMap Hd.L)) (hn : l.length = n) (hn6 : n ≤ 100000) :
    Calls Try.prog 24 #[.slice a n cap, .int .i64 x] w fun e w' => e = .returned (.tuple #[.agg (knownV l x).row, .bool (knownB l x)]) ∧ Below w.heap.size w w' := by
  have HN := Lib.hid hn
  obtain ⟨V, hV⟩ : ∃ V, knownV l x = V := ⟨_, rfl⟩
  obtain ⟨B, hB⟩ : ∃ V, knownB l x = V := ⟨_, rfl⟩
  rw [hV, hB]
  have HV := Lib.hid hV
  have HB := Lib.hid hB
  clear hn hV hB
  have hA := heap_push w zeroHd.row 43
  have hbA : Below w.heap.size w (w.alloc (.cells zeroHd.row 43)) := (Below.refl _ _).alloc (Nat.le_refl _) _
  go_enter Try.func24, Try.ntmps24
  go_upto_region 1 with fail
  refine wp_nameE _ (fun W1 hW1 => ?_)
  have hz1 : W1.heap[w.heap.size]? = some (.cells zeroHd.row 43 (0, 0)) := by rw [hW1]; exact hA
  have hb1 : Below w.heap.size w W1 := by rw [hW1]; exact hbA
  clear hW1 hA hbA
  go_wp2
  go_loopw [6] (fun i wr => ∃ k : Nat, k ≤ n ∧ i = .int .i64 k ∧ wr = W1 ∧ (l.take k).find? (fun h => h.ht == x) = none) (fun i _ => n - (intOf i).toNat)
  case atStart => exact ⟨0, Nat.zero_le _, rfl, rfl, rfl⟩
  case round =>
    obtain ⟨k, hk, rfl, rfl, hfd⟩ := hrel
    have hbel := hb1
    have HFD := Lib.hid hfd
    clear hfd
    by_cases hlt : k < n
    · have d9 : decide ((k : Int) < (n : Int)) = true := decide_eq_true (by omega)
      have d9n : decide (k < n) = true := decide_eq_true hlt
      have hkl : k < l.length := by rw [HN.out]; exact hlt
      obtain ⟨b1, o1, rfl, hbx, hg1⟩ := hds_at (hr.below hbel) hkl
      have HP := Lib.hid (fun h2 => take_find (p := fun h => h.ht == x) hkl HFD.out h2)
      have HQ := Lib.hid (fun h2 => take_find_succ (p := fun h => h.ht == x) hkl HFD.out h2)
      obtain ⟨y, hy9⟩ : ∃ y, l[k] = y := ⟨_, rfl⟩
      rw [hy9] at hg1 HP HQ
      clear hy9
      have n0 : (0 : Int) ≤ (k : Int) := by omega
      have n1 : (k : Int) < (n : Int) := by omega
      have n2 : ((k : Nat) : Int).toNat = k := by omega
      have hcy : wr.cell? ⟨b1, o1 + k * 34, none⟩ = some (.int .i64 y.ht) := hg1 0 _ rfl
      by_cases hyx : y.ht = x
      · have e1 : (y.ht == x) = true := by rw [hyx]; simp
        have hfn := HP.out e1
        obtain rfl : V = y := by rw [← HV.out]; unfold knownV; rw [hfn]; rfl
        obtain rfl : B = true := by rw [← HB.out]; exact knownB_iff.2 ⟨V, List.mem_of_find?_eq_some hfn, hyx⟩
        go_wp2_with (first | (refine wpList_loadHd (.tmp 22) rfl b1 (o1 + k * 34) rfl V hg1 (by rfl) ?_) | (refine wpList_storeRowTo rfl (.tmp 4) (.tmp 23) 43 rfl (infoHd_row _) rfl rfl hz1 (by rw [Hd.row_size, Hd.row_size]) (Hd.row_one _) ?_))
        have hZ := setRow_heap _ _ zeroHd.row V.row _ _ hz1
        have hrd := run_loadVar_mid (P := Try.prog) _ w.heap.size 0 43 (V).L _ (hd_range hZ) Try.underlying43 rfl (by rw [Hd.L_len]; exact Try.infoHd)
        refine bodyPost_ret (v := .tuple #[.agg (V).row, .bool true]) ?_ rfl ?_
        · simp [results, Try.results24, asAddr]
          exact (congrArg (fun r => r.andThen fun a w' => Result.ok (Value.tuple #[a, Value.bool true]) w') hrd).trans rfl
        exact ⟨rfl, below_setRow hbel (Nat.le_refl _) _⟩
      · have e1 : (y.ht == x) = false := by rw [beq_eq_false_iff_ne]; exact hyx
        have hnx := HQ.out e1
        go_wp2
        go_roundw
        case rel => exact ⟨k + 1, by omega, by go_num, by first | rfl | trivial, hnx⟩
        case measure => (simp [intOf]) <;> omega
    · have d9 : decide ((k : Int) < (n : Int)) = false := decide_eq_false (by omega)
      have d9n : decide (k < n) = false := decide_eq_false hlt
      have hfn : l.find? (fun h => h.ht == x) = none := by
        have := HFD.out
        rwa [List.take_of_length_le (by rw [HN.out]; omega)] at this
      obtain rfl : V = zeroHd := by rw [← HV.out]; unfold knownV; rw [hfn]; rfl
      obtain rfl : B = false := by
        rw [← HB.out]
        cases hb : knownB l x with
        | false => rfl
        | true =>
          obtain ⟨h, hh, hx⟩ := knownB_iff.1 hb
          have := List.find?_eq_none.1 hfn h hh
          simp [hx] at this
      go_upto_region 6 with fail
      go_wp2_with (first | (refine wpList_buildA rfl 43 #[] rfl #[] (by simp) (build_hd0 _) ?_) | (refine wpList_storeRowTo rfl (.tmp 4) (.tmp 24) 43 rfl (infoHd_row _) rfl rfl hz1 rfl (Hd.row_one _) ?_))
      have hZ := setRow_heap _ _ zeroHd.row zeroHd.row _ _ hz1
      have hrd := run_loadVar_mid (P := Try.prog) _ w.heap.size 0 43 (zeroHd).L _ (hd_range hZ) Try.underlying43 rfl (by rw [Hd.L_len]; exact Try.infoHd)
      refine bodyPost_ret (v := .tuple #[.agg (zeroHd).row, .bool false]) ?_ rfl ?_
      · simp [results, Try.results24, asAddr]
        exact (congrArg (fun r => r.andThen fun a w' => Result.ok (Value.tuple #[a, Value.bool false]) w') hrd).trans rfl
      exact ⟨rfl, below_setRow hbel (Nat.le_refl _) _⟩
theorem exec_loadHdB {o : Oper} {a : Act} {w : World} (x : Operand) (ho : o.op = .load 43 x) (b off : Nat) (hx : a.eval x = .pointer (some ⟨b, off, none⟩)) (h : Hd) (hc : w.rangeAt b off h.L) : (execOp a.eval o).run Try.prog w = .ok (.value (.agg h.row)) w := by
  have h1 := run_loadAt_mid (P := Try.prog) w b off 43 h.L _ hc Try.underlying43 rfl (by rw [h.L_len]; exact Try.infoHd)
  simp [execOp, ho, hx, h1, Result.andThen]
  rfl
theorem range_belowB {w W : World} {b off : Nat} {L : List Value} (hb : Below w.heap.size w W) (hlt : b < w.heap.size) (h : w.rangeAt b off L) : W.rangeAt b off L := fun j v hv => (hb.cell (p := ⟨b, off + j, none⟩) hlt).trans (h j v hv)
set_option maxRecDepth 100000 in
set_option maxHeartbeats 6400000 in
theorem chk12_any (h : Hd) (a : Option Addr) (n cap : Nat) (M : List Hd) (a1 : Option Addr) (n1 c1 : Nat) (t : List Hd) (w : World) (hr : RowAt w a (M.flatMap Hd.L)) (hn : M.length = n) (hn6 : n ≤ 100000)
    (hr1 : RowAt w a1 (t.flatMap Hd.L)) (hn1 : t.length = n1) (hn7 : n1 ≤ 100000) :
    Calls Try.prog 19 #[.slice a n cap, .agg h.row, .slice a1 n1 c1] w fun e w' => e = .returned (.int .i64 (chkF M h t)) ∧ Below w.heap.size w w' := by
  have HN1 := Lib.hid hn1
  have CK := fun W (hb : Below w.heap.size w W) => known12_any a n cap M h.ht W (hr.below hb) hn hn6
  obtain ⟨kv, hkv⟩ : ∃ x, knownV M h.ht = x := ⟨_, rfl⟩
  obtain ⟨kb, hkb⟩ : ∃ x, knownB M h.ht = x := ⟨_, rfl⟩
  simp only [hkv, hkb] at CK
  obtain ⟨r, hrr⟩ : ∃ r, chkF M h t = r := ⟨_, rfl⟩
  have HR : Hid (r = if mayHd h = true then (if h ∈ t then (if kb = true ∧ kv ≠ h then 8 else 0) else 9) else 1) := Lib.hid (by rw [← hrr, ← hkv, ← hkb]; rfl)
  rw [hrr]
  clear hrr hkv hkb hn hn1
  have hq0 := heap_push w h.row 43
  have hb0 : Below w.heap.size w (w.alloc (.cells h.row 43)) := (Below.refl _ _).alloc (Nat.le_refl _) _
  have CM := fun W => mayHd_any h W
  obtain ⟨my, hmy⟩ : ∃ x, mayHd h = x := ⟨_, rfl⟩
  rw [hmy] at HR
  simp only [hmy] at CM
  clear hmy
  go_enter Try.func19, Try.ntmps19
  go_upto_region 1 with fail
  refine wp_nameE _ (fun W1 hW1 => ?_)
  have hq1 : W1.heap[w.heap.size]? = some (.cells h.row 43 (0, 0)) := by rw [hW1]; exact hq0
  have hb1 : Below w.heap.size w W1 := by rw [hW1]; exact hb0
  clear hW1 hq0 hb0
  cases my
  · obtain rfl : r = 1 := by rw [HR.out]; rfl
    go_wp2_with (first | (refine wpList_loadHd (.tmp 4) rfl w.heap.size 0 rfl h (hd_range hq1) (by rfl) ?_) | (go_at_call 51; refine (CM _).mono ?_; rintro e w2 ⟨rfl, hb2⟩))
    go_ret
    exact ⟨by first | rfl | simp, hb1.trans (hb2.mono hb1.size)⟩
  go_wp2_with (first | (refine wpList_loadHd (.tmp 4) rfl w.heap.size 0 rfl h (hd_range hq1) (by rfl) ?_) | (go_at_call 51; refine (CM _).mono ?_; rintro e w2 ⟨rfl, hb2⟩))
  have hbel2 := hb1.trans (hb2.mono hb1.size)
  have hq2 := cells_of hq1 hb2 (row_lt hq1)
  clear hq1 hb1 hb2 CM
  go_loopw [7, 8] (fun v i wr => ∃ k : Nat, k ≤ n1 ∧ i = .int .i64 k ∧ v = .bool (decide (h ∈ t.take k)) ∧ Below w2.heap.size w2 wr) (fun _ i _ => n1 - (intOf i).toNat)
  case atStart => exact ⟨0, Nat.zero_le _, rfl, by simp, Below.refl _ _⟩
  case round =>
    obtain ⟨k, hk, rfl, rfl, hbe⟩ := hrel
    have hbelr := hbel2.trans (hbe.mono hbel2.size)
    have hqr := cells_of hq2 hbe (row_lt hq2)
    by_cases hlt : k < n1
    · have d9 : decide ((k : Int) < (n1 : Int)) = true := decide_eq_true (by omega)
      have d9n : decide (k < n1) = true := decide_eq_true hlt
      have hkl : k < t.length := by rw [HN1.out]; exact hlt
      obtain ⟨b1, o1, rfl, hbx, hg1⟩ := hds_at hr1 hkl
      have HST0 := Lib.hid (show decide (h ∈ t.take (k + 1)) = (decide (h ∈ t.take k) || decide (t[k] = h)) by
        rw [List.take_succ_eq_append_getElem hkl, Bool.eq_iff_iff]; simp only [List.mem_append, List.mem_singleton, Bool.or_eq_true, decide_eq_true_eq]; exact ⟨fun h => h.imp id Eq.symm, fun h => h.imp id Eq.symm⟩)
      obtain ⟨y, hy9⟩ : ∃ y, t[k] = y := ⟨_, rfl⟩
      rw [hy9] at hg1 HST0
      clear hy9
      obtain ⟨inq, hinq⟩ : ∃ r, decide (h ∈ t.take k) = r := ⟨_, rfl⟩
      rw [hinq] at HST0
      simp only [hinq]
      clear hinq
      have i0 : (0 : Int) ≤ (k : Int) := by omega
      have i1 : (k : Int) < (n1 : Int) := by omega
      have i2 : ((k : Nat) : Int).toNat = k := by omega
      cases inq
      rotate_left
      · skip
        go_upto_region 7 with fail
        try simp only [List.append_eq, List.cons_append, List.nil_append]
        refine wp_region_held_drew (S := fun W => Below wr.heap.size wr W) (by kernel_rfl) ((Below.refl _ _).drew) (fun hS0 => ?_)
        refine wpAnyH_take (i := 0) (v := .bool true) rfl (by kernel_rfl) (by kernel_rfl) (by kernel_rfl) (fun _ _ _ h => h) (Yields.yieldsIf (Or.inl ⟨by rfl, fun w9 => by (go_simp; first | done | with_reducible rfl | (intro h9; exfalso; omega))⟩)) hS0 ?_
        change wpAnyH _ _ _ _ _ _ _ (Act.put _ (some 20) _) _; dsimp only [Act.put]; simp only [List.setIfInBounds_toArray, List.set_cons_succ, List.set_cons_zero]
        refine wpAnyH_take (i := 1) (v := .bool true) rfl (by kernel_rfl) (by kernel_rfl) (by kernel_rfl) (fun _ _ _ h => h) (Yields.yieldsIf (Or.inl ⟨by rfl, fun w9 => by (go_simp; first | done | with_reducible rfl | (intro h9; exfalso; omega))⟩)) hS0 ?_
        change wpAnyH _ _ _ _ _ _ _ (Act.put _ (some 21) _) _; dsimp only [Act.put]; simp only [List.setIfInBounds_toArray, List.set_cons_succ, List.set_cons_zero]
        refine wpAnyH_take (i := 2) (v := undef) rfl (by kernel_rfl) (by kernel_rfl) (by kernel_rfl) (fun _ _ _ h => h) (Or.inr ⟨by rfl, rfl⟩) hS0 ?_
        change wpAnyH _ _ _ _ _ _ _ (Act.put _ (some 22) _) _; dsimp only [Act.put]; simp only [List.setIfInBounds_toArray, List.set_cons_succ, List.set_cons_zero]
        refine wpAnyH_take (i := 3) (v := undef) rfl (by kernel_rfl) (by kernel_rfl) (by kernel_rfl) (fun _ _ _ h => h) (Or.inr ⟨by rfl, rfl⟩) hS0 ?_
        change wpAnyH _ _ _ _ _ _ _ (Act.put _ (some 23) _) _; dsimp only [Act.put]; simp only [List.setIfInBounds_toArray, List.set_cons_succ, List.set_cons_zero]
        refine wpAnyH_take (i := 4) (v := undef) rfl (by kernel_rfl) (by kernel_rfl) (by kernel_rfl) (fun _ _ _ h => h) (Or.inr ⟨by rfl, rfl⟩) hS0 ?_
        change wpAnyH _ _ _ _ _ _ _ (Act.put _ (some 24) _) _; dsimp only [Act.put]; simp only [List.setIfInBounds_toArray, List.set_cons_succ, List.set_cons_zero]
        refine wpAnyH_take (i := 5) (v := undef) rfl (by kernel_rfl) (by kernel_rfl) (by kernel_rfl) (fun _ _ _ h => h) (Or.inr ⟨by rfl, rfl⟩) hS0 ?_
        change wpAnyH _ _ _ _ _ _ _ (Act.put _ (some 25) _) _; dsimp only [Act.put]; simp only [List.setIfInBounds_toArray, List.set_cons_succ, List.set_cons_zero]
        refine wpAnyH_take (i := 6) (v := undef) rfl (by kernel_rfl) (by kernel_rfl) (by kernel_rfl) (fun _ _ _ h => h) (Or.inr ⟨by rfl, rfl⟩) hS0 ?_
        change wpAnyH _ _ _ _ _ _ _ (Act.put _ (some 26) _) _; dsimp only [Act.put]; simp only [List.setIfInBounds_toArray, List.set_cons_succ, List.set_cons_zero]
        refine wpAnyH_take (i := 7) (v := undef) rfl (by kernel_rfl) (by kernel_rfl) (by kernel_rfl) (fun _ _ _ h => h) (Or.inr ⟨by rfl, rfl⟩) hS0 ?_
        change wpAnyH _ _ _ _ _ _ _ (Act.put _ (some 27) _) _; dsimp only [Act.put]; simp only [List.setIfInBounds_toArray, List.set_cons_succ, List.set_cons_zero]
        refine wpAnyH_take (i := 8) (v := .bool true) rfl (by kernel_rfl) (by kernel_rfl) (by kernel_rfl) (fun _ _ _ h => h) (Yields.yieldsIf (Or.inl ⟨by rfl, fun w9 => by (go_simp; first | done | with_reducible rfl | (intro h9; exfalso; omega))⟩)) hS0 ?_
        change wpAnyH _ _ _ _ _ _ _ (Act.put _ (some 28) _) _; dsimp only [Act.put]; simp only [List.setIfInBounds_toArray, List.set_cons_succ, List.set_cons_zero]
        refine wpAnyH_take (i := 9) (v := .bool true) rfl (by kernel_rfl) (by kernel_rfl) (by kernel_rfl) (fun _ _ _ h => h) (Yields.yieldsIf (Or.inl ⟨by rfl, fun w9 => by (go_simp; first | done | with_reducible rfl | (intro h9; exfalso; omega))⟩)) hS0 ?_
        change wpAnyH _ _ _ _ _ _ _ (Act.put _ (some 7) _) _; dsimp only [Act.put]; simp only [List.setIfInBounds_toArray, List.set_cons_succ, List.set_cons_zero]
        refine wpAnyH_done (by kernel_rfl) ?_ _
        go_wp2
        go_roundw
        case rel => exact ⟨k + 1, by omega, by go_num, by rw [HST0.out]; rfl, hbe.trans (hS0.mono hbe.size)⟩
        case measure => (simp [intOf]) <;> omega
      · have hne := fun W => run_equal_hd y h W
        obtain ⟨r9, hr9⟩ : ∃ r, decide (y = h) = r := ⟨_, rfl⟩
        rw [hr9] at HST0
        simp only [hr9] at hne
        have HST := Lib.hid (show decide (h ∈ t.take (k + 1)) = r9 by rw [HST0.out]; rfl)
        clear hr9 HST0
        go_upto_region 7 with fail
        try simp only [List.append_eq, List.cons_append, List.nil_append]
        refine wp_region_held_drew (S := fun W => Below wr.heap.size wr W) (by kernel_rfl) ((Below.refl _ _).drew) (fun hS0 => ?_)
        refine wpAnyH_take (i := 0) (v := .bool false) rfl (by kernel_rfl) (by kernel_rfl) (by kernel_rfl) (fun _ _ _ h => h) (Yields.yieldsIf (Or.inl ⟨by rfl, fun w9 => by (go_simp; first | done | with_reducible rfl | (intro h9; exfalso; omega))⟩)) hS0 ?_
        change wpAnyH _ _ _ _ _ _ _ (Act.put _ (some 20) _) _; dsimp only [Act.put]; simp only [List.setIfInBounds_toArray, List.set_cons_succ, List.set_cons_zero]
        refine wpAnyH_take (i := 1) (v := .bool false) rfl (by kernel_rfl) (by kernel_rfl) (by kernel_rfl) (fun _ _ _ h => h) (Yields.yieldsIf (Or.inl ⟨by rfl, fun w9 => by (go_simp; first | done | with_reducible rfl | (intro h9; exfalso; omega))⟩)) hS0 ?_
        change wpAnyH _ _ _ _ _ _ _ (Act.put _ (some 21) _) _; dsimp only [Act.put]; simp only [List.setIfInBounds_toArray, List.set_cons_succ, List.set_cons_zero]
        refine wpAnyH_take (i := 2) (v := .slice (some ⟨b1, o1, none⟩) n1 c1) rfl (by kernel_rfl) (by kernel_rfl) (by kernel_rfl) (fun _ _ _ h => h) (Yields.yieldsIf (Or.inl ⟨by rfl, fun w9 => by (go_simp; first | done | with_reducible rfl | (intro h9; exfalso; omega))⟩)) hS0 ?_
        change wpAnyH _ _ _ _ _ _ _ (Act.put _ (some 22) _) _; dsimp only [Act.put]; simp only [List.setIfInBounds_toArray, List.set_cons_succ, List.set_cons_zero]
        refine wpAnyH_take (i := 3) (v := .int .i64 (k : Int)) rfl (by kernel_rfl) (by kernel_rfl) (by kernel_rfl) (fun _ _ _ h => h) (Yields.yieldsIf (Or.inl ⟨by rfl, fun w9 => by (go_simp; first | done | with_reducible rfl | (intro h9; exfalso; omega))⟩)) hS0 ?_
        change wpAnyH _ _ _ _ _ _ _ (Act.put _ (some 23) _) _; dsimp only [Act.put]; simp only [List.setIfInBounds_toArray, List.set_cons_succ, List.set_cons_zero]
        refine wpAnyH_take (i := 4) (v := .pointer (some ⟨b1, o1 + k * 34, none⟩)) rfl (by kernel_rfl) (by kernel_rfl) (by kernel_rfl) (fun _ _ _ h => h) (Yields.yieldsIf (Or.inl ⟨by rfl, fun w9 => by (go_simp; first | done | with_reducible rfl | (intro h9; exfalso; omega))⟩)) hS0 ?_
        change wpAnyH _ _ _ _ _ _ _ (Act.put _ (some 24) _) _; dsimp only [Act.put]; simp only [List.setIfInBounds_toArray, List.set_cons_succ, List.set_cons_zero]
        refine wpAnyH_take (i := 5) (v := .agg y.row) rfl (by kernel_rfl) (by kernel_rfl) (by kernel_rfl) (fun _ _ _ h => h) (Or.inl ⟨by rfl, fun w9 hS9 => exec_loadHdB (.tmp 24) rfl b1 (o1 + k * 34) (by first | rfl | simp [Act.eval, Act.put]) y (range_belowB (hbelr.trans (hS9.mono hbelr.size)) hbx hg1)⟩) hS0 ?_
        change wpAnyH _ _ _ _ _ _ _ (Act.put _ (some 25) _) _; dsimp only [Act.put]; simp only [List.setIfInBounds_toArray, List.set_cons_succ, List.set_cons_zero]
        refine wpAnyH_take (i := 6) (v := .agg h.row) rfl (by kernel_rfl) (by kernel_rfl) (by kernel_rfl) (fun _ _ _ h => h) (Or.inl ⟨by rfl, fun w9 hS9 => exec_loadHdB (.tmp 4) rfl w.heap.size (0) (by first | rfl | simp [Act.eval, Act.put]) h (hd_range (cells_of hqr hS9 (row_lt hqr)))⟩) hS0 ?_
        change wpAnyH _ _ _ _ _ _ _ (Act.put _ (some 26) _) _; dsimp only [Act.put]; simp only [List.setIfInBounds_toArray, List.set_cons_succ, List.set_cons_zero]
        refine wpAnyH_take (i := 7) (v := .bool r9) rfl (by kernel_rfl) (by kernel_rfl) (by kernel_rfl) (fun _ _ _ h => h) (Yields.yieldsIf (Or.inl ⟨by rfl, fun w9 => by (go_simp; first | done | with_reducible rfl | (intro h9; exfalso; omega))⟩)) hS0 ?_
        change wpAnyH _ _ _ _ _ _ _ (Act.put _ (some 27) _) _; dsimp only [Act.put]; simp only [List.setIfInBounds_toArray, List.set_cons_succ, List.set_cons_zero]
        refine wpAnyH_take (i := 8) (v := .bool r9) rfl (by kernel_rfl) (by kernel_rfl) (by kernel_rfl) (fun _ _ _ h => h) (Yields.yieldsIf (Or.inl ⟨by rfl, fun w9 => by (go_simp; first | done | with_reducible rfl | (intro h9; exfalso; omega))⟩)) hS0 ?_
        change wpAnyH _ _ _ _ _ _ _ (Act.put _ (some 28) _) _; dsimp only [Act.put]; simp only [List.setIfInBounds_toArray, List.set_cons_succ, List.set_cons_zero]
        refine wpAnyH_take (i := 9) (v := .bool r9) rfl (by kernel_rfl) (by kernel_rfl) (by kernel_rfl) (fun _ _ _ h => h) (Yields.yieldsIf (Or.inl ⟨by rfl, fun w9 => by (go_simp; first | done | with_reducible rfl | (intro h9; exfalso; omega))⟩)) hS0 ?_
        change wpAnyH _ _ _ _ _ _ _ (Act.put _ (some 7) _) _; dsimp only [Act.put]; simp only [List.setIfInBounds_toArray, List.set_cons_succ, List.set_cons_zero]
        refine wpAnyH_done (by kernel_rfl) ?_ _
        go_wp2
        go_roundw
        case rel => exact ⟨k + 1, by omega, by go_num, by rw [HST.out], hbe.trans (hS0.mono hbe.size)⟩
        case measure => (simp [intOf]) <;> omega
    · obtain rfl : k = n1 := by omega
      have d9 : decide ((k : Int) < (k : Int)) = false := decide_eq_false (by omega)
      have d9n : decide (k < k) = false := decide_eq_false hlt
      have htk : t.take k = t := List.take_of_length_le (by rw [HN1.out]; omega)
      rw [htk]
      by_cases hin : h ∈ t
      rotate_left
      · obtain rfl : r = 9 := by rw [HR.out, if_pos trivial, if_neg hin]
        rw [decide_eq_false hin]
        clear hin
        go_wp2
        go_ret
        exact ⟨by first | rfl | simp, hbelr⟩
      · have HC : Hid (r = if kb = true ∧ kv ≠ h then 8 else 0) := Lib.hid (by rw [HR.out, if_pos trivial, if_pos hin])
        rw [decide_eq_true hin]
        clear hin htk HR
        have hcy : wr.cell? ⟨w.heap.size, 0, none⟩ = some (.int .i64 h.ht) := (cell_heap hqr 0).trans h.at0
        cases kb
        · obtain rfl : r = 0 := by rw [HC.out]; rfl
          go_wp2_with (first | (go_at_call 24; refine (CK _ hbelr).mono ?_; rintro e w3 ⟨rfl, hb3⟩; have hq3 := cells_of hqr hb3 (row_lt hqr); have hA3 := heap_push w3 zeroHd.row 43; have hz3 := setRow_heap _ _ zeroHd.row kv.row _ _ hA3; have hbw3 : Below w3.heap.size w3 ((w3.alloc (.cells zeroHd.row 43)).setRow w3.heap.size kv.row) := below_setRow ((Below.refl _ _).alloc (Nat.le_refl _) _) (Nat.le_refl _) _; have hq4 := cells_of hq3 hbw3 (row_lt hq3)) | (refine wpList_storeRowTo rfl (.tmp 9) (.tmp 36) 43 rfl (infoHd_row _) rfl rfl hA3 (by rw [Hd.row_size, Hd.row_size]) (Hd.row_one _) ?_) | (refine wpList_loadHd (.tmp 9) rfl w3.heap.size 0 rfl kv (hd_range hz3) (by rfl) ?_) | (refine wpList_loadHd (.tmp 4) rfl w.heap.size 0 rfl h (hd_range hq4) (by rfl) ?_))
          go_ret
          exact ⟨by first | rfl | simp, (hbelr.trans (hb3.mono hbelr.size)).trans (hbw3.mono (Nat.le_trans hbelr.size hb3.size))⟩
        have hne := fun W => run_equal_hd kv h W
        by_cases hk : kv = h
        · obtain rfl : r = 0 := by rw [HC.out, if_neg (by simp [hk])]
          rw [decide_eq_true hk] at hne
          clear hk
          go_wp2_with (first | (go_at_call 24; refine (CK _ hbelr).mono ?_; rintro e w3 ⟨rfl, hb3⟩; have hq3 := cells_of hqr hb3 (row_lt hqr); have hA3 := heap_push w3 zeroHd.row 43; have hz3 := setRow_heap _ _ zeroHd.row kv.row _ _ hA3; have hbw3 : Below w3.heap.size w3 ((w3.alloc (.cells zeroHd.row 43)).setRow w3.heap.size kv.row) := below_setRow ((Below.refl _ _).alloc (Nat.le_refl _) _) (Nat.le_refl _) _; have hq4 := cells_of hq3 hbw3 (row_lt hq3)) | (refine wpList_storeRowTo rfl (.tmp 9) (.tmp 36) 43 rfl (infoHd_row _) rfl rfl hA3 (by rw [Hd.row_size, Hd.row_size]) (Hd.row_one _) ?_) | (refine wpList_loadHd (.tmp 9) rfl w3.heap.size 0 rfl kv (hd_range hz3) (by rfl) ?_) | (refine wpList_loadHd (.tmp 4) rfl w.heap.size 0 rfl h (hd_range hq4) (by rfl) ?_))
          go_ret
          exact ⟨by first | rfl | simp, (hbelr.trans (hb3.mono hbelr.size)).trans (hbw3.mono (Nat.le_trans hbelr.size hb3.size))⟩
        · obtain rfl : r = 8 := by rw [HC.out, if_pos ⟨rfl, hk⟩]
          rw [decide_eq_false hk] at hne
          clear hk
          go_wp2_with (first | (go_at_call 24; refine (CK _ hbelr).mono ?_; rintro e w3 ⟨rfl, hb3⟩; have hq3 := cells_of hqr hb3 (row_lt hqr); have hA3 := heap_push w3 zeroHd.row 43; have hz3 := setRow_heap _ _ zeroHd.row kv.row _ _ hA3; have hbw3 : Below w3.heap.size w3 ((w3.alloc (.cells zeroHd.row 43)).setRow w3.heap.size kv.row) := below_setRow ((Below.refl _ _).alloc (Nat.le_refl _) _) (Nat.le_refl _) _; have hq4 := cells_of hq3 hbw3 (row_lt hq3)) | (refine wpList_storeRowTo rfl (.tmp 9) (.tmp 36) 43 rfl (infoHd_row _) rfl rfl hA3 (by rw [Hd.row_size, Hd.row_size]) (Hd.row_one _) ?_) | (refine wpList_loadHd (.tmp 9) rfl w3.heap.size 0 rfl kv (hd_range hz3) (by rfl) ?_) | (refine wpList_loadHd (.tmp 4) rfl w.heap.size 0 rfl h (hd_range hq4) (by rfl) ?_))
          go_ret
          exact ⟨by first | rfl | simp, (hbelr.trans (hb3.mono hbelr.size)).trans (hbw3.mono (Nat.le_trans hbelr.size hb3.size))⟩
end Go.Proofs.Ytbckncopdkmoeaa
