/- SpanAll walked. -/
import Derived.Test.YtdlngadcgcgenaaSp5
import Derived.BigRegion
import Derived.RegionTactic
import Derived.BigQuiet
import Derived.Deep.QuietTactic
import Derived.Deep.MidRow
import Derived.LoopTactic
import Derived.BigFrame
import Derived.Laws.OwnMore
import Derived.WalkKit
import Derived.ProofKit
import Derived.Handy
import Derived.Below
import Derived.Lib.Hide
import Derived.IntWalk
import Derived.Outline
import Derived.WalkLawsBesides
import Derived.WalkSpells
namespace Go.Proofs.Ytdlngadcgcgenaa
open Go.RowKit
attribute [local go_sem] strV
set_option linter.unusedVariables false
theorem allR_cons (r : Int × Int) (l : List (Int × Int)) : allR (r :: l) = rngR r.1 r.2 ++ allR l := List.flatMap_cons ..
theorem allR_mem {l : List (Int × Int)} {v : Int} : v ∈ allR l ↔ hasR l v = true := by
  induction l with
  | nil => simp [allR, hasR]
  | cons r l ih =>
    rw [allR_cons, List.mem_append, rngR_mem, ih, hasR_cons, Bool.or_eq_true, Bool.and_eq_true, decide_eq_true_eq, decide_eq_true_eq]
theorem rngR_len {a b : Int} (h : a ≤ b + 1) : ((rngR a b).length : Int) = b + 1 - a := by
  unfold rngR
  rw [List.length_map, List.length_range]; omega
theorem allR_len {l : List (Int × Int)} : ∀ {p : Int}, goodFrom p l = true → ((allR l).length : Int) = countR l := by
  induction l with
  | nil => intro p _; rfl
  | cons r l ih =>
    intro p h
    obtain ⟨h1, h2⟩ := goodFrom_cons.1 h
    have h3 := rngR_len (a := r.1) (b := r.2) (by omega)
    have h4 := ih h2
    rw [allR_cons, List.length_append, countR_cons]
    omega
theorem rngR_up (a b : Int) : List.Pairwise (fun x y => x < y) (rngR a b) := by
  unfold rngR
  rw [List.pairwise_map]
  exact List.pairwise_lt_range.imp (fun h => by omega)
theorem allR_up {l : List (Int × Int)} : ∀ {p : Int}, goodFrom p l = true → List.Pairwise (fun x y => x < y) (allR l) := by
  induction l with
  | nil => intro p _; exact List.Pairwise.nil
  | cons r l ih =>
    intro p h
    obtain ⟨h1, h2⟩ := goodFrom_cons.1 h
    rw [allR_cons, List.pairwise_append]
    refine ⟨rngR_up _ _, ih h2, fun x hx y hy => ?_⟩
    have hx2 := (rngR_mem.1 hx).2
    rw [allR_mem] at hy
    have : ¬ y < r.2 + 2 := fun h3 => by rw [has_low h2 h3] at hy; cases hy
    omega
theorem row_getK {w : World} {a : Option Addr} {b0 off0 : Nat} {zs : List Int} (h : RowAt w (some ⟨b0, off0, none⟩) (zs.map (Value.int .i64))) {k : Nat} (hk : k < zs.length) :
    b0 < w.heap.size ∧ w.cell? ⟨b0, off0 + k, none⟩ = some (.int .i64 zs[k]) := by
  obtain ⟨b, off, ha, hb, hc⟩ := row_get h hk
  simp only [Option.some.injEq, Addr.mk.injEq, and_true] at ha
  obtain ⟨rfl, rfl⟩ := ha
  exact ⟨hb, hc⟩
theorem con_take {A : List Int} {q : Nat} (hq : q < A.length) (x : Int) : (A.take (q + 1)).contains x = ((A.take q).contains x || (A[q] == x)) := by
  rw [List.take_succ_eq_append_getElem hq, Bool.eq_iff_iff]
  simp only [List.contains_eq_mem, decide_eq_true_eq, Bool.or_eq_true, beq_iff_eq, List.mem_append, List.mem_singleton]
  exact ⟨fun h => h.imp id Eq.symm, fun h => h.imp id Eq.symm⟩
set_option maxRecDepth 100000 in
set_option maxHeartbeats 12800000 in
theorem walkSpanAll (a : Option Addr) (n cap : Nat) (l : List Int) (w : World) (h : IntsAt w a n l) :
    Calls Try.prog 4 #[.slice a n cap] w fun e w' => e = .returned (.bool true) ∧ Below w.heap.size w w' := by
  have hr := h.row
  have hn := h.length
  clear h
  go_enter Try.func4, Try.ntmps4
  have hbel := Below.refl w.heap.size w
  go_upto_region 3 with (go_at_call 8; refine (first23_any _).mono ?_; rintro e w2 ⟨rfl, hb⟩; have hbel := hbel.trans (hb.mono hbel.size); clear hb)
  by_cases h1 : 100 < n
  · have d1 : decide (100 < (n : Int)) = true := decide_eq_true (by omega)
    have d1n : decide (100 < n) = true := decide_eq_true h1
    go_wp2_with (go_at_call 8; refine (first23_any _).mono ?_; rintro e w2 ⟨rfl, hb⟩; have hbel := hbel.trans (hb.mono hbel.size); clear hb)
    go_ret
    exact ⟨by first | rfl | simp, hbel⟩
  have d1 : decide (100 < (n : Int)) = false := decide_eq_false (by omega)
  have d1n : decide (100 < n) = false := decide_eq_false h1
  have CO := fun W (hb : Below w.heap.size w W) => of_any a n cap l W (hr.below hb) hn (by omega)
  have hok := ofR_ok l
  have hcnt := ofR_cnt l
  have hxl := ofR_len l
  have hhas := ofR_has l
  obtain ⟨X, hX⟩ : ∃ X, ofR l = X := ⟨_, rfl⟩
  simp only [hX] at CO hok hcnt hxl hhas
  have hgd := hok.good
  have hal := allR_len hgd
  have hup := allR_up hgd
  have hmem : ∀ v, v ∈ allR X ↔ v ∈ l ∧ insideB v = true := fun v => by rw [allR_mem]; exact hhas v
  obtain ⟨A, hA⟩ : ∃ A, allR X = A := ⟨_, rfl⟩
  rw [hA] at hal hup
  simp only [hA] at hmem
  obtain ⟨nX, hnX⟩ : ∃ z, X.length = z := ⟨_, rfl⟩
  obtain ⟨nA, hnA⟩ : ∃ z, A.length = z := ⟨_, rfl⟩
  rw [hnA] at hal
  have hX1 : nX ≤ 100 := by omega
  have hA1 : nA ≤ 100 := by omega
  simp only [hnX] at CO
  have CA : ∀ (most : Int) (aX : Option Addr) (cX : Nat) W, -1000 ≤ most → most ≤ 1000 → RowAt W aX (X.flatMap rgL) → Calls Try.prog 14 #[.slice aX nX cX, .int .i64 most] W fun e w' => ∃ v, e = .returned v ∧ w'.ownsRow W.heap.size 3 1 v (A.take most.toNat).length ((A.take most.toNat).map (Value.int .i64)) ∧ Below W.heap.size W w' := fun most aX cX W h8 h9 hx => by
    have := all_any aX nX cX X most W hx hnX (by unfold maxLen; omega) h9 h8
    rw [hgd, if_pos rfl, hA] at this
    exact this
  have CN : ∀ (aX : Option Addr) (cX : Nat) W, RowAt W aX (X.flatMap rgL) → Calls Try.prog 12 #[.slice aX nX cX] W fun e w' => e = .returned (.int .i64 (nA : Int)) ∧ Below W.heap.size W w' := fun aX cX W hx => by
    have := count_any aX nX cX X W hx hnX (by unfold maxLen; omega)
    rw [hgd, if_pos rfl, ← hal] at this
    exact this
  have HNA := Lib.hid hnA
  have HUP := Lib.hid hup
  have HMEM := Lib.hid hmem
  have HN := Lib.hid hn
  clear hok hcnt hxl hhas hgd hal hup hmem hA hnX hnA hX hn
  go_upto_region 6 with (first | (go_at_call 8; refine (first23_any _).mono ?_; rintro e w2 ⟨rfl, hb⟩; have hbel := hbel.trans (hb.mono hbel.size); clear hb) | (go_at_call 13; refine (CO _ hbel).mono ?_; rintro e w3 ⟨vX, rfl, hoX, hb⟩))
  have hbel := hbel.trans (hb.mono hbel.size)
  obtain ⟨aX, cX, rfl, hrX, _⟩ := own_slice hoX
  clear hb CO hoX
  go_upto_region 7 with (go_at_call 14; refine (CA 200 aX cX _ (by omega) (by omega) hrX).mono ?_; rintro e w4 ⟨vA, rfl, hoA, hb⟩)
  have hrX := hrX.below hb
  have hbel := hbel.trans (hb.mono hbel.size)
  have hoA : w4.ownsRow w3.heap.size 3 1 vA nA (A.map (Value.int .i64)) := by
    have e9 : A.take (200 : Int).toNat = A := List.take_of_length_le (by rw [HNA.out]; omega)
    rw [e9, HNA.out] at hoA
    exact hoA
  obtain ⟨aA, cA, rfl, hrA, _⟩ := own_slice hoA
  clear hb hoA
  have e7 : ((nA : Int) != (nA : Int)) = false := by simp
  have e7n : (nA != nA) = false := by simp
  go_upto_region 9 with (go_at_call 12; refine (CN aX cX _ hrX).mono ?_; rintro e w5 ⟨rfl, hb⟩)
  have hrX := hrX.below hb
  have hrA := hrA.below hb
  have hbel := hbel.trans (hb.mono hbel.size)
  clear hb CN e7 e7n
  go_upto_region 10 with fail
  go_loopw [5] (fun i wr => ∃ k : Nat, k ≤ nA ∧ i = .int .i64 k ∧ RowAt wr aX (X.flatMap rgL) ∧ RowAt wr aA (A.map (Value.int .i64)) ∧ Below w.heap.size w wr) (fun i _ => nA - (intOf i).toNat)
  case atStart => exact ⟨0, Nat.zero_le _, rfl, hrX, hrA, hbel⟩
  case round =>
    clear hrX hrA hbel
    obtain ⟨k, hk, rfl, hrX, hrA, hbel⟩ := hrel
    by_cases hlt : k < nA
    · have d9 : decide ((k : Int) < (nA : Int)) = true := decide_eq_true (by omega)
      have d9n : decide (k < nA) = true := decide_eq_true hlt
      have hkA : k < A.length := by rw [HNA.out]; exact hlt
      obtain ⟨bX, oA0, eX, hbX, hcX⟩ := row_get hrA hkA
      subst eX
      have hmm := (HMEM.out A[k]).1 (List.getElem_mem hkA)
      have hprev : ∀ j, j + 1 = k → ∃ hj : j < A.length, A[j] < A[k] := fun j hj => ⟨by omega, (List.pairwise_iff_getElem.1 HUP.out) j k (by omega) hkA (by omega)⟩
      obtain ⟨x, hx⟩ : ∃ x, A[k] = x := ⟨_, rfl⟩
      rw [hx] at hcX hmm
      simp only [hx] at hprev
      have hin : 0 ≤ x ∧ x ≤ 72057594037927935 := by have := hmm.2; unfold insideB maxN at this; simpa using this
      have n0 : (0 : Int) ≤ (k : Int) := by omega
      have n1 : (k : Int) < (nA : Int) := by omega
      have n2 : ((k : Nat) : Int).toNat = k := by omega
      have HPREV := Lib.hid hprev
      have HML := Lib.hid hmm.1
      clear hx hmm hprev
      obtain ⟨wo, rfl⟩ : ∃ z, z = wr := ⟨_, rfl⟩
      have hrl := hr.below hbel
      go_upto_region 14 with fail
      go_loopw [6, 7] (fun is j wr => ∃ (q : Nat) (t : Bool), q ≤ n ∧ j = .int .i64 q ∧ is = .bool t ∧ Hid (t = (l.take q).contains x) ∧ Below wo.heap.size wo wr) (fun _ j _ => n - (intOf j).toNat)
      case atStart => exact ⟨0, false, Nat.zero_le _, rfl, rfl, Lib.hid rfl, Below.refl _ _⟩
      case round =>
        obtain ⟨q, t, hq, rfl, rfl, HT, hbo⟩ := hrel
        by_cases hlq : q < n
        · have f9 : decide ((q : Int) < (n : Int)) = true := decide_eq_true (by omega)
          have f9n : decide (q < n) = true := decide_eq_true hlq
          have hqA : q < l.length := by rw [HN.out]; exact hlq
          have hcB := (hbo.cell (p := ⟨bX, oA0 + k, none⟩) hbX).trans hcX
          obtain ⟨bA, oA, eA, hbA, hcA⟩ := row_get (hrl.below hbo) hqA
          first | subst eA | skip
          have htk := con_take hqA x
          rw [← HT.out] at htk
          obtain ⟨y, hy⟩ : ∃ y, l[q] = y := ⟨_, rfl⟩
          rw [hy] at hcA htk
          obtain ⟨eb, heb⟩ : ∃ b, (y == x) = b := ⟨_, rfl⟩
          have heb2 : (x == y) = eb := by rw [← heb, Bool.eq_iff_iff, beq_iff_eq, beq_iff_eq]; exact eq_comm
          rw [heb] at htk
          have HTK := Lib.hid htk
          have m0 : (0 : Int) ≤ (q : Int) := by omega
          have m1 : (q : Int) < (n : Int) := by omega
          have m2 : ((q : Nat) : Int).toNat = q := by omega
          clear hy htk
          cases t
          · go_upto_region 16 with fail
            go_quiet (fail)
            go_wp2
            go_roundw
            case rel => exact ⟨q + 1, _, by omega, by go_num, rfl, Lib.hid (by rw [HTK.out]; rfl), hbo.trans ((drewN_below _ _).mono hbo.size)⟩
            case measure => (simp [intOf]) <;> omega
          · go_upto_region 16 with fail
            go_quiet (fail)
            go_wp2
            go_roundw
            case rel => exact ⟨q + 1, _, by omega, by go_num, rfl, Lib.hid (by rw [HTK.out]; rfl), hbo.trans ((drewN_below _ _).mono hbo.size)⟩
            case measure => (simp [intOf]) <;> omega
        have f9 : decide ((q : Int) < (n : Int)) = false := decide_eq_false (by omega)
        have f9n : decide (q < n) = false := decide_eq_false hlq
        obtain rfl : t = true := by
          rw [HT.out, List.take_of_length_le (by rw [HN.out]; omega)]
          simpa using HML.out
        have hcB := (hbo.cell (p := ⟨bX, oA0 + k, none⟩) hbX).trans hcX
        have g1 : decide (x < 0) = false := decide_eq_false (by omega)
        have g2 : decide (72057594037927935 < x) = false := decide_eq_false (by omega)
        have hrX := hrX.below hbo
        have hrA := hrA.below hbo
        have hbel := hbel.trans (hbo.mono hbel.size)
        rcases Nat.eq_zero_or_pos k with hk0 | hk0
        · have g3 : decide ((0 : Int) < (k : Int)) = false := decide_eq_false (by omega)
          have g3n : decide (0 < k) = false := decide_eq_false (by omega)
          clear hk0
          go_upto_region 17 with fail
          go_quiet (fail)
          go_wp2
          go_roundw
          case rel => exact ⟨k + 1, by omega, by go_num, hrX.below (drewN_below _ _), hrA.below (drewN_below _ _), hbel.trans ((drewN_below _ _).mono hbel.size)⟩
          case measure => (simp [intOf]) <;> omega
        · obtain ⟨j, hj⟩ : ∃ j, j + 1 = k := ⟨k - 1, by omega⟩
          have g3 : decide ((0 : Int) < (k : Int)) = true := decide_eq_true (by omega)
          have g3n : decide (0 < k) = true := decide_eq_true (by omega)
          obtain ⟨hjA, hlt9⟩ := HPREV.out j hj
          obtain ⟨_, hcj⟩ := row_getK (a := none) hrA hjA
          obtain ⟨y, hy⟩ : ∃ y, A[j] = y := ⟨_, rfl⟩
          rw [hy] at hcj hlt9
          have g4 : decide (x ≤ y) = false := decide_eq_false (by omega)
          have j0 : (k : Int) - 1 = (j : Int) := by omega
          have j1 : (0 : Int) ≤ (j : Int) := by omega
          have j2 : (j : Int) < (nA : Int) := by omega
          have j3 : ((j : Nat) : Int).toNat = j := by omega
          clear hy hj
          go_upto_region 17 with fail
          go_quiet (fail)
          go_wp2
          go_roundw
          case rel => exact ⟨k + 1, by omega, by go_num, hrX.below (drewN_below _ _), hrA.below (drewN_below _ _), hbel.trans ((drewN_below _ _).mono hbel.size)⟩
          case measure => (simp [intOf]) <;> omega
    have d9 : decide ((k : Int) < (nA : Int)) = false := decide_eq_false (by omega)
    have d9n : decide (k < nA) = false := decide_eq_false hlt
    go_upto_region 20 with fail
    obtain ⟨wp, rfl⟩ : ∃ z, z = wr := ⟨_, rfl⟩
    go_loopw [8] (fun i wr => ∃ k : Nat, k ≤ n ∧ i = .int .i64 k ∧ RowAt wr aX (X.flatMap rgL) ∧ RowAt wr aA (A.map (Value.int .i64)) ∧ Below w.heap.size w wr) (fun i _ => n - (intOf i).toNat)
    case atStart => exact ⟨0, Nat.zero_le _, rfl, hrX, hrA, hbel⟩
    case round =>
      clear hrX hrA hbel hlt d9 d9n hk
      obtain ⟨k, hk, rfl, hrX, hrA, hbel⟩ := hrel
      by_cases hlt : k < n
      · have d9 : decide ((k : Int) < (n : Int)) = true := decide_eq_true (by omega)
        have d9n : decide (k < n) = true := decide_eq_true hlt
        have hkl : k < l.length := by rw [HN.out]; exact hlt
        have hrl := hr.below hbel
        obtain ⟨bX, oA0, eX, hbX, hcX⟩ := row_get hrl hkl
        subst eX
        have hmm := HMEM.out l[k]
        have hlm := List.getElem_mem hkl
        obtain ⟨x, hx⟩ : ∃ x, l[k] = x := ⟨_, rfl⟩
        rw [hx] at hcX hmm hlm
        have n0 : (0 : Int) ≤ (k : Int) := by omega
        have n1 : (k : Int) < (n : Int) := by omega
        have n2 : ((k : Nat) : Int).toNat = k := by omega
        have HMM : Hid (x ∈ A ↔ insideB x = true) := Lib.hid ⟨fun h => (hmm.1 h).2, fun h => hmm.2 ⟨hlm, h⟩⟩
        clear hx hmm hlm
        obtain ⟨wo, rfl⟩ : ∃ z, z = wr := ⟨_, rfl⟩
        go_upto_region 24 with fail
        go_loopw [9, 10] (fun is j wr => ∃ (q : Nat) (t : Bool), q ≤ nA ∧ j = .int .i64 q ∧ is = .bool t ∧ Hid (t = (A.take q).contains x) ∧ Below wo.heap.size wo wr) (fun _ j _ => nA - (intOf j).toNat)
        case atStart => exact ⟨0, false, Nat.zero_le _, rfl, rfl, Lib.hid rfl, Below.refl _ _⟩
        case round =>
          obtain ⟨q, t, hq, rfl, rfl, HT, hbo⟩ := hrel
          by_cases hlq : q < nA
          · have f9 : decide ((q : Int) < (nA : Int)) = true := decide_eq_true (by omega)
            have f9n : decide (q < nA) = true := decide_eq_true hlq
            have hqA : q < A.length := by rw [HNA.out]; exact hlq
            have hcB := (hbo.cell (p := ⟨bX, oA0 + k, none⟩) hbX).trans hcX
            obtain ⟨bA, oA, eA, hbA, hcA⟩ := row_get (hrA.below hbo) hqA
            first | subst eA | skip
            have htk := con_take hqA x
            rw [← HT.out] at htk
            obtain ⟨y, hy⟩ : ∃ y, A[q] = y := ⟨_, rfl⟩
            rw [hy] at hcA htk
            obtain ⟨eb, heb⟩ : ∃ b, (y == x) = b := ⟨_, rfl⟩
            have heb2 : (x == y) = eb := by rw [← heb, Bool.eq_iff_iff, beq_iff_eq, beq_iff_eq]; exact eq_comm
            rw [heb] at htk
            have HTK := Lib.hid htk
            have m0 : (0 : Int) ≤ (q : Int) := by omega
            have m1 : (q : Int) < (nA : Int) := by omega
            have m2 : ((q : Nat) : Int).toNat = q := by omega
            clear hy htk
            cases t
            · go_upto_region 26 with fail
              go_quiet (fail)
              go_wp2
              go_roundw
              case rel => exact ⟨q + 1, _, by omega, by go_num, rfl, Lib.hid (by rw [HTK.out]; rfl), hbo.trans ((drewN_below _ _).mono hbo.size)⟩
              case measure => (simp [intOf]) <;> omega
            · go_upto_region 26 with fail
              go_quiet (fail)
              go_wp2
              go_roundw
              case rel => exact ⟨q + 1, _, by omega, by go_num, rfl, Lib.hid (by rw [HTK.out]; rfl), hbo.trans ((drewN_below _ _).mono hbo.size)⟩
              case measure => (simp [intOf]) <;> omega
          have f9 : decide ((q : Int) < (nA : Int)) = false := decide_eq_false (by omega)
          have f9n : decide (q < nA) = false := decide_eq_false hlq
          have hTT : t = insideB x := by
            rw [HT.out, List.take_of_length_le (by rw [HNA.out]; omega), Bool.eq_iff_iff]
            rw [← HMM.out]
            simp
          have hcB := (hbo.cell (p := ⟨bX, oA0 + k, none⟩) hbX).trans hcX
          have hrX := hrX.below hbo
          have hrA := hrA.below hbo
          have hbel := hbel.trans (hbo.mono hbel.size)
          unfold insideB maxN at hTT
          obtain ⟨p1, hp1⟩ : ∃ p, decide (0 ≤ x) = p := ⟨_, rfl⟩
          obtain ⟨p2, hp2⟩ : ∃ p, decide (x ≤ 72057594037927935) = p := ⟨_, rfl⟩
          rw [hp1, hp2] at hTT
          subst hTT
          cases p1
          · go_wp2
            go_roundw
            case rel => exact ⟨k + 1, by omega, by go_num, hrX, hrA, hbel⟩
            case measure => (simp [intOf]) <;> omega
          · cases p2
            · go_wp2
              go_roundw
              case rel => exact ⟨k + 1, by omega, by go_num, hrX, hrA, hbel⟩
              case measure => (simp [intOf]) <;> omega
            · go_wp2
              go_roundw
              case rel => exact ⟨k + 1, by omega, by go_num, hrX, hrA, hbel⟩
              case measure => (simp [intOf]) <;> omega
      have d9 : decide ((k : Int) < (n : Int)) = false := decide_eq_false (by omega)
      have d9n : decide (k < n) = false := decide_eq_false hlt
      obtain ⟨n1, hn1⟩ : ∃ z, (A.take (1 : Int).toNat).length = z := ⟨_, rfl⟩
      have C1 := CA 1 aX cX _ (by omega) (by omega) hrX
      have C2 := fun W (hb : Below wr.heap.size wr W) => CA (-1) aX cX W (by omega) (by omega) (hrX.below hb)
      simp only [hn1] at C1
      have m1 : min (nA : Int) 1 = (n1 : Int) := by rw [← hn1, List.length_take, HNA.out]; simp; omega
      have m2 : ((n1 : Int) == (n1 : Int)) = true := by simp
      have m2n : (n1 == n1) = true := by simp
      have m3 : (A.take (-1 : Int).toNat) = [] := rfl
      simp only [m3] at C2
      clear hn1 m3
      go_wp2_with (first | (go_at_call 14; with_reducible refine C1.mono ?_; rintro e w6 ⟨v6, rfl, ho6, hb6⟩; obtain ⟨a6, c6, rfl, _⟩ := own_slice ho6) | (go_at_call 14; with_reducible refine (C2 _ hb6).mono ?_; rintro e w7 ⟨v7, rfl, ho7, hb7⟩; obtain ⟨a7, c7, rfl, _⟩ := own_slice ho7))
      go_ret
      exact ⟨by first | rfl | simp, hbel.trans ((hb6.mono hbel.size).trans (hb7.mono (Nat.le_trans hbel.size hb6.size)))⟩
end Go.Proofs.Ytdlngadcgcgenaa
