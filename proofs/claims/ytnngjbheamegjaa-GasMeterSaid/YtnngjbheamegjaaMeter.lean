/- gas.New, Take, Left, Used and the law GasMeter. -/
import Derived.Test.YtnngjbheamegjaaRows
import Derived.Test.YtnngjbheamegjaaSlices
import Derived.WalkKit
import Derived.ProofKit
import Derived.Handy
import Derived.Below
import Derived.Lib.Hide
import Derived.IntWalk
import Derived.Outline
import Derived.WalkLawsBesides
import Derived.WalkSpells
namespace Go.Proofs.Ytnngjbheamegjaa
open Go.RowKit

/-- A meter at block B: its limit and what is used. -/
structure MeterAt (w : World) (B : Nat) (L U : Int) : Prop where
  c0 : w.cell? ⟨B, 0, none⟩ = some (.int .i64 L)
  c1 : w.cell? ⟨B, 1, none⟩ = some (.int .i64 U)
  f1 : w.frozen? ⟨B, 1, none⟩ = false
  lt : B < w.heap.size

theorem MeterAt.below {w w' : World} {B : Nat} {L U : Int} (h : MeterAt w B L U) (hb : Below w.heap.size w w') : MeterAt w' B L U :=
  ⟨(hb.cell h.lt).trans h.c0, (hb.cell h.lt).trans h.c1, (hb.frozen h.lt).trans h.f1, Nat.lt_of_lt_of_le h.lt hb.size⟩
theorem MeterAt.store {w : World} {B : Nat} {L U : Int} (h : MeterAt w B L U) (V : Int) : MeterAt (w.setCell ⟨B, 1, none⟩ (.int .i64 V)) B L V := by
  obtain ⟨h1, h2, h3, h4⟩ := h
  exact ⟨by go_simp, by go_simp, by go_simp, by simpa [World.setCell] using h4⟩

theorem drewN_below (w : World) (n : Nat) : Below w.heap.size w (w.drewN n) := ⟨rfl, rfl, rfl, Nat.le_refl _, fun _ _ => rfl⟩

set_option maxRecDepth 100000 in
set_option maxHeartbeats 400000 in
theorem new_any (n : Int) (w : World) (h1 : -9223372036854775808 ≤ n) (h2 : n ≤ 9223372036854775807) :
    Calls Try.prog 15 #[.int .i64 n] w fun e w' => e = .returned (.pointer (some ⟨w.heap.size, 0, none⟩)) ∧ MeterAt w' w.heap.size (max n 0) 0 ∧ Below w.heap.size w w' := by
  by_cases h : 0 ≤ n
  · have e : max n 0 = n := by omega
    go_enter Try.func15, Try.ntmps15
    go_wp2
    go_ret
    refine ⟨rfl, ⟨by go_simp, by go_simp, by go_simp, by simp⟩, (Below.refl _ _).alloc (Nat.le_refl _) _⟩
  · have e : max n 0 = 0 := by omega
    go_enter Try.func15, Try.ntmps15
    go_wp2
    go_ret
    refine ⟨rfl, ⟨by go_simp, by go_simp, by go_simp, by simp⟩, (Below.refl _ _).alloc (Nat.le_refl _) _⟩

set_option maxRecDepth 100000 in
set_option maxHeartbeats 400000 in
theorem left_any (B : Nat) (L U : Int) (w : World) (hm : MeterAt w B L U) (h0 : 0 ≤ U) (h1 : U ≤ L) (h2 : L ≤ 9223372036854775807) :
    Calls Try.prog 17 #[.pointer (some ⟨B, 0, none⟩)] w fun e w' => e = .returned (.int .i64 (L - U)) ∧ Below w.heap.size w w' := by
  obtain ⟨c0, c1, f1, lt⟩ := hm
  have e : IntKind.i64.wrap (L - U) = L - U := IntWalk.i64_in _ (by omega)
  go_enter Try.func17, Try.ntmps17
  go_wp2
  go_quiet (fail)
  go_wp2
  go_ret
  exact ⟨rfl, drewN_below _ _⟩
set_option maxRecDepth 100000 in
set_option maxHeartbeats 400000 in
theorem used_any (B : Nat) (L U : Int) (w : World) (hm : MeterAt w B L U) :
    Calls Try.prog 18 #[.pointer (some ⟨B, 0, none⟩)] w fun e w' => e = .returned (.int .i64 U) ∧ w = w' := by
  obtain ⟨c0, c1, f1, lt⟩ := hm
  go_enter Try.func18, Try.ntmps18
  go_wp2
  go_ret
  exact ⟨rfl, rfl⟩
set_option maxRecDepth 100000 in
set_option maxHeartbeats 400000 in
theorem take_no (B : Nat) (L U n : Int) (w : World) (hm : MeterAt w B L U) (h0 : 0 ≤ U) (h1 : U ≤ L) (h2 : L ≤ 9223372036854775807) (hn : n < 0 ∨ L - U < n) :
    Calls Try.prog 16 #[.pointer (some ⟨B, 0, none⟩), .int .i64 n] w fun e w' => e = .returned (.bool false) ∧ Below w.heap.size w w' := by
  rcases hn with hn | hn
  · go_enter Try.func16, Try.ntmps16
    go_wp2
    go_ret
    exact ⟨rfl, Below.refl _ _⟩
  · by_cases h3 : n < 0
    · go_enter Try.func16, Try.ntmps16
      go_wp2
      go_ret
      exact ⟨rfl, Below.refl _ _⟩
    · go_enter Try.func16, Try.ntmps16
      go_wp2_with (go_at_call 17; refine (left_any _ _ _ _ hm h0 h1 h2).mono ?_; rintro e w1 ⟨rfl, hb⟩)
      go_ret
      exact ⟨rfl, by assumption⟩
set_option maxRecDepth 100000 in
set_option maxHeartbeats 400000 in
theorem take_yes (B : Nat) (L U n : Int) (w : World) (hm : MeterAt w B L U) (h0 : 0 ≤ U) (h1 : U ≤ L) (h2 : L ≤ 9223372036854775807) (hn : 0 ≤ n) (hn2 : n ≤ L - U) :
    Calls Try.prog 16 #[.pointer (some ⟨B, 0, none⟩), .int .i64 n] w fun e w' => e = .returned (.bool true) ∧ MeterAt w' B L (U + n) ∧ Below B w w' := by
  go_enter Try.func16, Try.ntmps16
  go_wp2_with (go_at_call 17; refine (left_any _ _ _ _ hm h0 h1 h2).mono ?_; rintro e w1 ⟨rfl, hb⟩; have hm1 := hm.below hb; obtain ⟨c0, c1, f1, lt⟩ := hm1)
  go_ret
  exact ⟨rfl, (MeterAt.mk c0 c1 f1 lt).store _, (hb.mono (Nat.le_of_lt hm.lt)).setCell (Nat.le_refl _) _⟩

set_option maxRecDepth 100000 in
set_option maxHeartbeats 800000 in
theorem first17_any (w : World) :
    Calls Try.prog 14 #[] w fun e w' => e = .returned (.bool true) ∧ Below w.heap.size w w' := by
  go_enter Try.func14, Try.ntmps14
  go_wp2_with fail
  refine (new_any 10 _ (by omega) (by omega)).mono ?_; rintro e w1 ⟨rfl, hm1, hb1⟩
  rw [show max (10 : Int) 0 = 10 from rfl] at hm1
  go_wp2_with fail
  refine (take_yes _ _ _ 7 _ hm1 (by omega) (by omega) (by omega) (by omega) (by omega)).mono ?_; rintro e w2 ⟨rfl, hm2, hb2⟩
  go_wp2_with fail
  refine (take_no _ _ _ 4 _ hm2 (by omega) (by omega) (by omega) (by omega)).mono ?_; rintro e w3 ⟨rfl, hb3⟩
  have hm3 := hm2.below hb3
  go_wp2_with fail
  refine (left_any _ _ _ _ hm3 (by omega) (by omega) (by omega)).mono ?_; rintro e w4 ⟨rfl, hb4⟩
  have hm4 := hm3.below hb4
  go_wp2_with fail
  refine (used_any _ _ _ _ hm4).mono ?_; rintro e w5 ⟨rfl, rfl⟩
  go_wp2
  go_ret
  exact ⟨rfl, (hb1.trans hb2).trans ((hb3.trans (hb4.mono hb3.size)).mono (Nat.le_trans hb1.size hb2.size))⟩

set_option maxRecDepth 100000 in
set_option maxHeartbeats 1600000 in
theorem walkGasMeter (n : Int) (a : Option Addr) (len cap : Nat) (zs : List Int) (w : World) (hn1 : -9223372036854775808 ≤ n) (hn2 : n ≤ 9223372036854775807) (hz : IntsAt w a len zs) :
    Calls Try.prog 5 #[.int .i64 n, .slice a len cap] w fun e w' => e = .returned (.bool true) ∧ Below w.heap.size w w' := by
  have hsm := hz.small; unfold maxLen at hsm
  by_cases hl : 100 < len
  · go_enter Try.func5, Try.ntmps5
    go_wp2_with (go_at_call 14; refine (first17_any _).mono ?_; rintro e w1 ⟨rfl, hb⟩)
    go_ret
    exact ⟨rfl, by repeat (first | assumption | exact Below.refl _ _ | refine bch ?_ (by assumption))⟩
  · have hLc : (0 ≤ n ∧ max n 0 = n) ∨ (n < 0 ∧ max n 0 = 0) := by omega
    rcases hLc with ⟨hc, hLe⟩ | ⟨hc, hLe⟩
    · have hl2 := hl
      go_enter Try.func5, Try.ntmps5
      go_wp2_with fail
      refine (first17_any _).mono ?_; rintro e w1 ⟨rfl, hb1⟩
      go_wp2_with fail
      refine (new_any n _ hn1 hn2).mono ?_; rintro e w2 ⟨rfl, hm2, hb2⟩
      rw [hLe] at hm2
      clear hLe
      go_wp2
      go_loopw [6, 7] (fun v i wr => ∃ (k : Nat) (U V : Int), k ≤ len ∧ 0 ≤ U ∧ U ≤ n ∧ 0 ≤ V ∧ V ≤ n ∧ Hid (V + U = n) ∧ MeterAt wr w1.heap.size (n) U ∧ Below w.heap.size w wr ∧ v = .int .i64 V ∧ i = .int .i64 k) (fun _ i _ => len - (intOf i).toNat)
      case atStart => exact ⟨0, 0, n, by omega, by omega, by omega, by omega, by omega, Lib.hid (by omega), hm2, bch hb1 hb2, rfl, rfl⟩
      case round =>
        obtain ⟨k, U, V, hk, hU0, hU1, hV0, hV1, HV, hm, hbel, rfl, rfl⟩ := hrel
        have hB := hb1.size
        have hUV := HV.out
        by_cases hlt : k < len
        · have hzk := hz.below hbel
          obtain ⟨b, off, rfl, hbl, hcell, hz1, hz2⟩ := hzk.cell hlt
          have hbw : b < w1.heap.size := by
            obtain ⟨b', off', e, hbl', _⟩ := hz.cell hlt
            simp only [Option.some.injEq, Addr.mk.injEq] at e
            omega
          generalize zs.getD k 0 = z at hcell hz1 hz2
          by_cases hyes : 0 ≤ z ∧ z ≤ V
          · obtain ⟨hz0, hzl⟩ := hyes
            have HT := Lib.hid (take_yes _ _ _ z wr hm (by omega) (by omega) (by omega) hz0 (by omega))
            have E1 : Hid ((n : Int) - (U + z) = V - z) := Lib.hid (by omega)
            have E2 : Hid (U + z = n - (V - z)) := Lib.hid (by omega)
            have HL := Lib.hid (fun (wx : World) (hx : MeterAt wx w1.heap.size (n) (U + z)) => left_any _ _ _ wx hx (by omega) (by omega) (by omega))
            have HV2 : Hid ((V - z) + (U + z) = n) := Lib.hid (by omega)
            have hb0 : 0 ≤ V - z ∧ V - z ≤ n := by omega
            have hu0 : 0 ≤ U + z ∧ U + z ≤ n := by omega
            clear hUV
            go_wp2_with fail
            refine HT.out.mono ?_; rintro e w3 ⟨rfl, hm3, hb3⟩
            have hcell3 : w3.cell? ⟨b, off + k, none⟩ = some (.int .i64 z) := (hb3.cell (by exact hbw)).trans hcell
            go_wp2_with fail
            refine (HL.out _ hm3).mono ?_; rintro e w4 ⟨rfl, hb4⟩
            rw [E1.out]
            go_wp2_with fail
            have hm4 := hm3.below hb4
            refine (used_any _ _ _ _ hm4).mono ?_; rintro e w5 ⟨rfl, rfl⟩
            rw [E2.out]
            go_wp2
            go_roundw
            case rel => exact ⟨k + 1, U + z, V - z, by omega, hu0.1, hu0.2, hb0.1, hb0.2, HV2, hm4, (hbel.trans (hb3.mono hB)).trans (hb4.mono (Nat.le_trans hbel.size hb3.size)), by go_num, by go_num⟩
            case measure => simp [intOf]; omega
          · have HT := Lib.hid (take_no _ _ _ z wr hm (by omega) (by omega) (by omega) (by omega))
            have E1 : Hid ((n : Int) - U = V) := Lib.hid (by omega)
            have E2 : Hid (U = n - V) := Lib.hid (by omega)
            have HL := Lib.hid (fun (wx : World) (hx : MeterAt wx w1.heap.size (n) U) => left_any _ _ _ wx hx (by omega) (by omega) (by omega))
            clear hUV
            have hcase : z < 0 ∨ (0 ≤ z ∧ V < z) := by omega
            clear hyes
            rcases hcase with hz0 | ⟨hz0, hzl⟩
            all_goals
              go_wp2_with fail
              refine HT.out.mono ?_; rintro e w3 ⟨rfl, hb3⟩
              have hcell3 : w3.cell? ⟨b, off + k, none⟩ = some (.int .i64 z) := (hb3.cell (by exact hbl)).trans hcell
              have hm3 := hm.below hb3
              go_wp2_with fail
              refine (HL.out _ hm3).mono ?_; rintro e w4 ⟨rfl, hb4⟩
              rw [E1.out]
              go_wp2_with fail
              have hm4 := hm3.below hb4
              refine (used_any _ _ _ _ hm4).mono ?_; rintro e w5 ⟨rfl, rfl⟩
              rw [E2.out]
              go_wp2
              go_roundw
              case rel => exact ⟨k + 1, U, V, by omega, hU0, hU1, hV0, hV1, HV, hm4, (hbel.trans (hb3.mono hbel.size)).trans (hb4.mono (Nat.le_trans hbel.size hb3.size)), rfl, by go_num⟩
              case measure => simp [intOf]; omega
        · have E1 : Hid ((n : Int) - U = V) := Lib.hid (by omega)
          have E2 : Hid (U = n - V) := Lib.hid (by omega)
          have HL := Lib.hid (fun (wx : World) (hx : MeterAt wx w1.heap.size (n) U) => left_any _ _ _ wx hx (by omega) (by omega) (by omega))
          clear hUV
          go_wp2_with fail
          refine (HL.out _ hm).mono ?_; rintro e w4 ⟨rfl, hb4⟩
          rw [E1.out]
          go_wp2_with fail
          refine (used_any _ _ _ _ (hm.below hb4)).mono ?_; rintro e w5 ⟨rfl, rfl⟩
          rw [E2.out]
          go_wp2
          go_ret
          exact ⟨rfl, hbel.trans (hb4.mono hbel.size)⟩
    · have hl2 := hl
      go_enter Try.func5, Try.ntmps5
      go_wp2_with fail
      refine (first17_any _).mono ?_; rintro e w1 ⟨rfl, hb1⟩
      go_wp2_with fail
      refine (new_any n _ hn1 hn2).mono ?_; rintro e w2 ⟨rfl, hm2, hb2⟩
      rw [hLe] at hm2
      clear hLe
      go_wp2
      go_loopw [6, 7] (fun v i wr => ∃ (k : Nat) (U V : Int), k ≤ len ∧ 0 ≤ U ∧ U ≤ 0 ∧ 0 ≤ V ∧ V ≤ 0 ∧ Hid (V + U = 0) ∧ MeterAt wr w1.heap.size (0) U ∧ Below w.heap.size w wr ∧ v = .int .i64 V ∧ i = .int .i64 k) (fun _ i _ => len - (intOf i).toNat)
      case atStart => exact ⟨0, 0, 0, by omega, by omega, by omega, by omega, by omega, Lib.hid (by omega), hm2, bch hb1 hb2, rfl, rfl⟩
      case round =>
        obtain ⟨k, U, V, hk, hU0, hU1, hV0, hV1, HV, hm, hbel, rfl, rfl⟩ := hrel
        have hB := hb1.size
        have hUV := HV.out
        by_cases hlt : k < len
        · have hzk := hz.below hbel
          obtain ⟨b, off, rfl, hbl, hcell, hz1, hz2⟩ := hzk.cell hlt
          have hbw : b < w1.heap.size := by
            obtain ⟨b', off', e, hbl', _⟩ := hz.cell hlt
            simp only [Option.some.injEq, Addr.mk.injEq] at e
            omega
          generalize zs.getD k 0 = z at hcell hz1 hz2
          by_cases hyes : 0 ≤ z ∧ z ≤ V
          · obtain ⟨hz0, hzl⟩ := hyes
            have HT := Lib.hid (take_yes _ _ _ z wr hm (by omega) (by omega) (by omega) hz0 (by omega))
            have E1 : Hid ((0 : Int) - (U + z) = V - z) := Lib.hid (by omega)
            have E2 : Hid (U + z = -(V - z)) := Lib.hid (by omega)
            have HL := Lib.hid (fun (wx : World) (hx : MeterAt wx w1.heap.size (0) (U + z)) => left_any _ _ _ wx hx (by omega) (by omega) (by omega))
            have HV2 : Hid ((V - z) + (U + z) = 0) := Lib.hid (by omega)
            have hb0 : 0 ≤ V - z ∧ V - z ≤ 0 := by omega
            have hu0 : 0 ≤ U + z ∧ U + z ≤ 0 := by omega
            clear hUV
            go_wp2_with fail
            refine HT.out.mono ?_; rintro e w3 ⟨rfl, hm3, hb3⟩
            have hcell3 : w3.cell? ⟨b, off + k, none⟩ = some (.int .i64 z) := (hb3.cell (by exact hbw)).trans hcell
            go_wp2_with fail
            refine (HL.out _ hm3).mono ?_; rintro e w4 ⟨rfl, hb4⟩
            rw [E1.out]
            go_wp2_with fail
            have hm4 := hm3.below hb4
            refine (used_any _ _ _ _ hm4).mono ?_; rintro e w5 ⟨rfl, rfl⟩
            rw [E2.out]
            go_wp2
            go_roundw
            case rel => exact ⟨k + 1, U + z, V - z, by omega, hu0.1, hu0.2, hb0.1, hb0.2, HV2, hm4, (hbel.trans (hb3.mono hB)).trans (hb4.mono (Nat.le_trans hbel.size hb3.size)), by go_num, by go_num⟩
            case measure => simp [intOf]; omega
          · have HT := Lib.hid (take_no _ _ _ z wr hm (by omega) (by omega) (by omega) (by omega))
            have E1 : Hid ((0 : Int) - U = V) := Lib.hid (by omega)
            have E2 : Hid (U = -V) := Lib.hid (by omega)
            have HL := Lib.hid (fun (wx : World) (hx : MeterAt wx w1.heap.size (0) U) => left_any _ _ _ wx hx (by omega) (by omega) (by omega))
            clear hUV
            have hcase : z < 0 ∨ (0 ≤ z ∧ V < z) := by omega
            clear hyes
            rcases hcase with hz0 | ⟨hz0, hzl⟩
            all_goals
              go_wp2_with fail
              refine HT.out.mono ?_; rintro e w3 ⟨rfl, hb3⟩
              have hcell3 : w3.cell? ⟨b, off + k, none⟩ = some (.int .i64 z) := (hb3.cell (by exact hbl)).trans hcell
              have hm3 := hm.below hb3
              go_wp2_with fail
              refine (HL.out _ hm3).mono ?_; rintro e w4 ⟨rfl, hb4⟩
              rw [E1.out]
              go_wp2_with fail
              have hm4 := hm3.below hb4
              refine (used_any _ _ _ _ hm4).mono ?_; rintro e w5 ⟨rfl, rfl⟩
              rw [E2.out]
              go_wp2
              go_roundw
              case rel => exact ⟨k + 1, U, V, by omega, hU0, hU1, hV0, hV1, HV, hm4, (hbel.trans (hb3.mono hbel.size)).trans (hb4.mono (Nat.le_trans hbel.size hb3.size)), rfl, by go_num⟩
              case measure => simp [intOf]; omega
        · have E1 : Hid ((0 : Int) - U = V) := Lib.hid (by omega)
          have E2 : Hid (U = -V) := Lib.hid (by omega)
          have HL := Lib.hid (fun (wx : World) (hx : MeterAt wx w1.heap.size (0) U) => left_any _ _ _ wx hx (by omega) (by omega) (by omega))
          clear hUV
          go_wp2_with fail
          refine (HL.out _ hm).mono ?_; rintro e w4 ⟨rfl, hb4⟩
          rw [E1.out]
          go_wp2_with fail
          refine (used_any _ _ _ _ (hm.below hb4)).mono ?_; rintro e w5 ⟨rfl, rfl⟩
          rw [E2.out]
          go_wp2
          go_ret
          exact ⟨rfl, hbel.trans (hb4.mono hbel.size)⟩
end Go.Proofs.Ytnngjbheamegjaa
