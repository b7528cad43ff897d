/- A client's Last, Copy; the chapter's example. -/
import Derived.Test.YtbckncopdkmoeaaCn3
import Derived.Shelf.SlMaps.Clone
import Derived.Laws.Externs
import Derived.MapKept
import Derived.Maps.OwnSet
import Derived.Maps.OwnOps
import Derived.Maps.RangeWalk
import Derived.BigRegion
import Derived.RegionTactic
import Derived.BigQuiet
import Derived.Deep.QuietTactic
import Derived.Deep.MidRow
import Derived.Deep.RegionLaw
import Derived.LoopTactic
import Derived.BigFrame
import Derived.OwnWalk
import Derived.OneCell
import Derived.Laws.OwnMore
import Derived.WalkKit
import Derived.ProofKit
import Derived.Handy
import Derived.Below
import Derived.Lib.Hide
import Derived.IntWalk
import Derived.Outline
import Derived.WalkLawsBesides
import Derived.WalkSpells
namespace Go.Proofs.Ytbckncopdkmoeaa
open Go.RowKit
attribute [local go_sem] strV
set_option linter.unusedVariables false
def lastH (m : List Hd) : Int := match m.getLast? with | some h => h.ht | none => 0
theorem lastH_of {m : List Hd} (hr : risesH m) (hm : ∀ h ∈ m, mayHd h = true) {t : Int} (h1 : ∀ h ∈ m, h.ht ≤ t) (h2 : t = 0 ∨ ∃ h ∈ m, h.ht = t) : t = lastH m := by
  unfold lastH
  cases hl : m.getLast? with
  | none =>
    rw [List.getLast?_eq_none_iff] at hl
    subst hl
    rcases h2 with h2 | ⟨h, hh, _⟩
    · exact h2
    · cases hh
  | some l =>
    have hml := List.mem_of_getLast? hl
    have h3 := h1 l hml
    have h4 := (may_wf (hm l hml)).2.1
    rcases h2 with h2 | ⟨h, hh, h5⟩
    · simp only []; omega
    · have h6 : h.ht ≤ l.ht := by
        obtain ⟨q, hq⟩ : ∃ q, m = q ++ [l] := ⟨m.dropLast, by
          have := List.dropLast_concat_getLast (l := m) (by rintro rfl; cases hh)
          rw [List.getLast?_eq_some_getLast (by rintro rfl; cases hh)] at hl
          rw [Option.some.inj hl] at this; exact this.symm⟩
        rw [hq] at hh hr
        rcases List.mem_append.1 hh with h7 | h7
        · have := (List.pairwise_append.1 hr).2.2 h h7 l (by simp); omega
        · simp at h7; subst h7; exact Int.le_refl _
      simp only []; omega
set_option maxRecDepth 100000 in
set_option maxHeartbeats 3200000 in
theorem clLast_any (g b n : Nat) (m : List Hd) (w : World) (h : ClAt w g b n m) :
    Calls Try.prog 26 #[.pointer (some ⟨g, 0, none⟩)] w fun e w' => e = .returned (.int .i64 (lastH m)) ∧ Below w.heap.size w w' := by
  obtain ⟨hrs, hms, hln, hgc, D, hm, hD⟩ := h
  have c0 : w.cell? ⟨g, 0, none⟩ = some (.map (some b)) := cell_heap hgc 0
  have HL := Lib.hid (fun (t : Int) h1 h2 => lastH_of hrs hms (t := t) h1 h2)
  have HMS := Lib.hid hms
  obtain ⟨r, hr⟩ : ∃ r, lastH m = r := ⟨_, rfl⟩
  rw [hr] at HL ⊢
  have HD := Lib.hid hD
  clear hr hms hrs hD
  go_enter Try.func26, Try.ntmps26
  go_wp2_with (at_range; refine wpList_range_own _ rfl _ 108 rfl 3 43 int_keyedC Try.underlying108 hdR b n D rfl hm ?_; intro w0 hrg0 hg0 hs0)
  go_frame
  go_loopw [3] (fun v wr => ∃ (left : Lit → Bool) (cnt : Nat) (t : Int), v = .int .i64 t ∧ Hid (∀ x : Int, (Lit.int .i64 x).wf = true → left (.int .i64 x) = true → knownB m x = true) ∧ Hid ((∀ h ∈ m, left (.int .i64 h.ht) = false → h.ht ≤ t) ∧ (t = 0 ∨ ∃ h ∈ m, h.ht = t)) ∧ wr.ranges Try.prog 3 hdR b w.heap.size n D left cnt ∧ w.grownBy wr none) (fun _ wr => wr.rangeLeft b w.heap.size)
  case atStart => exact ⟨_, _, 0, rfl, Lib.hid (fun x hx h => by rw [← HD.out.has x hx]; exact h), Lib.hid ⟨fun h hh h9 => (by rw [HD.out.has _ (may_wf (HMS.out h hh)).1, knownB_iff.2 ⟨h, hh, rfl⟩] at h9; cases h9), .inl rfl⟩, hrg0, hg0⟩
  case round =>
    obtain ⟨left, cnt, t, rfl, HK, HT, hrg, hgw⟩ := hrel
    go_wp2_with (at_next; refine wpList_next_ranges _ rfl _ rfl 3 int_keyedC hdR (Value.int .i64) (fun c : Value => c) (fun key kl hkey => (by obtain ⟨x, rfl, _⟩ := Maps.keyOf_int_inv Try.underlying3 hkey; exact ⟨x, rfl⟩)) (fun v y _ => ⟨v, rfl⟩) b w.heap.size n D left cnt rfl hrg ?_ ?_)
    · intro _ hl0
      obtain rfl : t = r := HL.out t (fun h hh => HT.out.1 h hh (hl0 _)) HT.out.2
      go_wp2
      go_ret
      exact ⟨by first | rfl | simp, hgw.os, hgw.tape, hgw.output, hgw.size, fun j hj => hgw.block j hj (by simp)⟩
    · intro x c kl y ps9 w1 cnt1 hkey hlk _ hat hrg1 hlt1 hg1 hs1 hen
      obtain ⟨x', ex, rfl, hwx⟩ := Maps.keyOf_int_inv Try.underlying3 hkey
      cases ex
      have hgw1 := hgw.andThen hg1 (fun j hj => by cases hj; exact .inl (Nat.le_refl _))
      have HX := Lib.hid (knownB_iff.1 (HK.out x hwx hlk))
      clear hlk hat hkey
      go_wp2
      go_roundw
      case rel =>
        refine ⟨_, cnt1, max t x, by simp, Lib.hid (fun z hz h9 => HK.out z hz (by simp at h9; exact h9.1)), Lib.hid ⟨fun h hh h9 => ?_, ?_⟩, hrg1, hgw1⟩
        · simp only [Bool.and_eq_false_iff, Bool.not_eq_false'] at h9
          rcases h9 with h9 | h9
          · have := HT.out.1 h hh h9; omega
          · have := WideAt.sameKey_eq h9
            injection this with _ h10
            omega
        · rcases HT.out.2 with h9 | ⟨h, hh, h9⟩
          · obtain ⟨q, hq, h10⟩ := HX.out
            rcases Int.le_total t x with h11 | h11
            · exact .inr ⟨q, hq, by omega⟩
            · exact .inl (by omega)
          · rcases Int.le_total t x with h11 | h11
            · obtain ⟨q, hq, h10⟩ := HX.out
              exact .inr ⟨q, hq, by omega⟩
            · exact .inr ⟨h, hh, by omega⟩
      case measure => rw [hrg1.left_eq, hrg.left_eq]; exact hlt1
set_option maxRecDepth 100000 in
set_option maxHeartbeats 2000000 in
theorem clClone_any (b n : Nat) (D : DataW Value) (w : World) (hown : w.ownsMap Try.prog 3 hdR b n D) :
    Calls Try.prog 53 #[.map (some b)] w fun e w' => e = .returned (.map (some w.heap.size)) ∧ w'.ownsMap Try.prog 3 hdR w.heap.size n D ∧ Below w.heap.size w w' := by
  have hlt := hown.lt
  obtain ⟨es, clock, hb, Ft, hs, hD⟩ := hown
  have hq := fun w => run_eql_map_nil_sl (P := Try.prog) w 108 _ _ (some b) Try.underlying108
  go_enter Try.func53, Try.ntmps53
  go_wp2
  rw [run_callFunc_extern Try.func86 (by kernel_rfl) (by kernel_rfl) (by kernel_rfl) (e := Extern.MapsClone.clone) (by kernel_rfl), run_maps_clone_sl w 108 hb]
  simp only [Result.andThen]
  rw [Oper.upon_value]
  go_wp2
  rw [run_typeAssert_map_sl _ 108 20 _ _ _ Try.underlying108]
  simp only [Result.andThen]
  rw [Oper.upon_value]
  go_wp2
  go_ret
  exact ⟨rfl, ⟨es, clock, (MapKept.heap_alloc w _).1, Ft, hs, hD⟩, (Below.refl _ w).alloc (Nat.le_refl _) _⟩
set_option maxRecDepth 100000 in
set_option maxHeartbeats 2000000 in
theorem clCopy_any (g b n : Nat) (m : List Hd) (w : World) (h : ClAt w g b n m) :
    Calls Try.prog 25 #[.pointer (some ⟨g, 0, none⟩)] w fun e w' => ∃ g2 b2, e = .returned (.pointer (some ⟨g2, 0, none⟩)) ∧ ClAt w' g2 b2 n m ∧ w.heap.size ≤ g2 ∧ w.heap.size ≤ b2 ∧ Below w.heap.size w w' := by
  obtain ⟨hrs, hms, hln, hgc, D, hm, hD⟩ := h
  have c0 : w.cell? ⟨g, 0, none⟩ = some (.map (some b)) := cell_heap hgc 0
  have CC := clClone_any b n D w hm
  have HD := Lib.hid hD
  have HMS := Lib.hid hms
  clear hms hD
  go_enter Try.func25, Try.ntmps25
  go_wp2_with (go_at_call 53; refine CC.mono ?_; rintro e w1 ⟨rfl, hm1, hb1⟩)
  go_ret
  exact ⟨w1.heap.size, w.heap.size, rfl, ⟨hrs, HMS.out, hln, heap_push w1 _ _, D, hm1.alloc _, HD.out⟩, hb1.size, Nat.le_refl _, hb1.alloc hb1.size _⟩
theorem wpList_buildA {P : Program} {ops : Array Oper} {rest : List Oper} {op : Oper} {a : Act} {w : World} {Q : Exit → Act → World → Prop} (hgd : op.guard = none) (t : TypeId) (parts : Array (Nat × Operand)) (ho : op.op = .build t parts) {v : Value} (us : Array (Nat × Value)) (hu : (parts.map fun x => (x.1, a.eval x.2)) = us)
    (hrun : (Instr.build t us).run P w = .ok v w) (h : wpList P ops Q rest (a.put op.dst v) w) : wpList P ops Q (op :: rest) a w :=
  wpList_plain hgd fun _ hK => by
    subst hu
    unfold Oper.wp
    simp [execOp, ho, hrun, Result.andThen]
    exact hK _ _ h
theorem build_hd2 (x y : Int) (W : World) : (Instr.build 43 #[(0, .int .i64 x), (1, .int .i64 y)]).run Try.prog W = .ok (.agg (⟨x, y, zeroH⟩ : Hd).row) W := by kernel_rfl
def hd23 : Hd := ⟨2, 3, zeroH⟩
theorem hd23_wf : hd23.wf := ⟨by decide, by decide⟩
theorem f14a : updB [] hd23 [hd23] = true := by decide +kernel
theorem f14b : chkF [] hd23 [hd23] = 0 := by decide +kernel
theorem f14c : updM [] hd23 [hd23] = [hd23] := by decide +kernel
theorem f14d : updB [hd23] hd23 [hd23] = false := by decide +kernel
theorem f14e : chkF [hd23] hd23 [hd23] = 0 := by decide +kernel
theorem f14f : updM [hd23] hd23 [hd23] = [hd23] := by decide +kernel
theorem f14g : lastH [hd23] = 2 := by decide +kernel
theorem row_one {w : World} {x : Hd} : RowAt (w.alloc (.cells x.row 43)) (some ⟨w.heap.size, 0, none⟩) ([x].flatMap Hd.L) := by
  have h := row_newI w x.row 43
  have e : x.row.toList = [x].flatMap Hd.L := by unfold Hd.row; simp
  rwa [e] at h
set_option maxRecDepth 100000 in
set_option maxHeartbeats 3200000 in
theorem first14_any (w : World) : Calls Try.prog 17 #[] w fun e w' => e = .returned (.bool true) ∧ Below w.heap.size w w' := by
  go_enter Try.func17, Try.ntmps17
  go_upto_region 4 with (go_at_call 18; refine (clNew_any w).mono ?_; rintro e w1 ⟨rfl, hc1, hb1⟩)
  go_cut [2] from 10 to 10 (fun v wx => v = .pointer (some ⟨w1.heap.size, 0, none⟩) ∧ wx.heap[w1.heap.size]? = some (.cells hd23.row 43 (0, 0)) ∧ Below w1.heap.size w1 wx)
  case first =>
    have hA := heap_push w1 zeroHd.row 43
    have hB := setRow_heap _ _ zeroHd.row hd23.row _ _ hA
    have hC : Below w1.heap.size w1 ((w1.alloc (.cells zeroHd.row 43)).setRow w1.heap.size hd23.row) := below_setRow ((Below.refl _ _).alloc (Nat.le_refl _) _) (Nat.le_refl _) _
    go_wp2_with (first | (refine wpList_buildA rfl 43 _ rfl #[(0, .int .i64 2), (1, .int .i64 3)] rfl (build_hd2 2 3 _) ?_) | (refine wpList_storeRowTo (Z := hd23.row) rfl (.tmp 2) (.tmp 10) 43 rfl (infoHd_row _) rfl rfl hA (by rw [Hd.row_size, Hd.row_size]) (Hd.row_one _) ?_))
    go_meet
    exact ⟨rfl, hB, hC⟩
  case rest =>
  obtain ⟨rfl, hq2, hb2⟩ := hcut
  have hl2 := row_lt hq2
  have hc2 := hc1.kept hb2
  have hb3 : Below wc.heap.size wc (wc.alloc (.cells hd23.row 43)) := (Below.refl _ _).alloc (Nat.le_refl _) _
  have CU := clUpd_any (w.heap.size + 1) w.heap.size 0 [] hd23 hd23_wf (some ⟨wc.heap.size, 0, none⟩) 1 1 [hd23] (wc.alloc (.cells hd23.row 43)) (hc2.kept hb3) (by unfold maxLen; omega) row_one rfl (by omega) (fun x hx => by rw [List.mem_singleton.1 hx]; exact hd23_wf)
  rw [f14a, f14b, f14c] at CU
  have hne : w1.heap.size ≠ w.heap.size := by have := hc1.lt; omega
  go_wp2_with (first | (refine wpList_loadHd (.tmp 2) rfl w1.heap.size 0 rfl hd23 (hd_range hq2) (by rfl) ?_) | (refine wpList_one rfl (.tmp 14) 36 43 rfl (by rfl) (one_hd _ hd23.row_size _) ?_) | (go_at_call 21; refine CU.mono ?_; rintro e w4 ⟨rfl, hc4, hg4⟩; have hq4 := grown_at hg4 (cells_of hq2 hb3 hl2) (by simpa using hne); have hb5 : Below w4.heap.size w4 (w4.alloc (.cells hd23.row 43)) := (Below.refl _ _).alloc (Nat.le_refl _) _; have CU2 := clUpd_any (w.heap.size + 1) w.heap.size 1 [hd23] hd23 hd23_wf (some ⟨w4.heap.size, 0, none⟩) 1 1 [hd23] (w4.alloc (.cells hd23.row 43)) (hc4.kept hb5) (by unfold maxLen; omega) row_one rfl (by omega) (fun x hx => by rw [List.mem_singleton.1 hx]; exact hd23_wf); rw [f14d, f14e, f14f] at CU2; clear CU) | (refine wpList_loadHd (.tmp 2) rfl w1.heap.size 0 rfl hd23 (hd_range hq4) (by rfl) ?_) | (refine wpList_one rfl (.tmp 22) 36 43 rfl (by rfl) (one_hd _ hd23.row_size _) ?_) | (go_at_call 21; refine CU2.mono ?_; rintro e w6 ⟨rfl, hc6, hg6⟩; have CL := clLast_any (w.heap.size + 1) w.heap.size 2 [hd23] w6 hc6; rw [f14g] at CL; clear CU2) | (go_at_call 26; refine CL.mono ?_; rintro e w7 ⟨rfl, hb7⟩))
  go_ret
  have z1 : Below w.heap.size w wc := hb1.trans (hb2.mono hb1.size)
  have z2 : Below w.heap.size w (wc.alloc (.cells hd23.row 43)) := z1.alloc z1.size _
  have z3 : Below w.heap.size w w4 := z2.grown hg4 z2.size (fun j hj => by cases hj; exact Nat.le_refl _)
  have z4 : Below w.heap.size w (w4.alloc (.cells hd23.row 43)) := z3.alloc z3.size _
  have z5 : Below w.heap.size w w6 := z4.grown hg6 z4.size (fun j hj => by cases hj; exact Nat.le_refl _)
  exact ⟨by first | rfl | simp, z5.trans (hb7.mono z5.size)⟩
end Go.Proofs.Ytbckncopdkmoeaa
