/- StoreUnder walked. -/
import Derived.Test.YtbckncopdkmoeaaSt6
import Derived.BigRegion
import Derived.RegionTactic
import Derived.BigQuiet
import Derived.Deep.QuietTactic
import Derived.Deep.MidRow
import Derived.Deep.RegionLaw
import Derived.LoopTactic
import Derived.BigFrame
import Derived.OwnWalk
import Derived.OneCell
import Derived.Laws.OwnMore
import Derived.WalkKit
import Derived.ProofKit
import Derived.Handy
import Derived.Below
import Derived.Lib.Hide
import Derived.IntWalk
import Derived.Outline
import Derived.WalkLawsBesides
import Derived.WalkSpells
namespace Go.Proofs.Ytbckncopdkmoeaa
open Go.RowKit
attribute [local go_sem] strV
set_option linter.unusedVariables false
theorem place_all {l : List Pr} {key : ByteArray} (h : ∀ p ∈ l, lessK p.k key = true) : placeL l key = l.length := by
  unfold placeL
  refine List.findIdx_eq_length.2 (fun p hp => ?_)
  rw [h p hp]; rfl
theorem found_none {l : List Pr} {key : ByteArray} (h : ∀ p ∈ l, lessK p.k key = true) : foundL l key = false := by
  unfold foundL
  rw [place_all h, List.getElem?_eq_none (Nat.le_refl _)]
theorem setS_next {R : List Pr} (hg : goodL R = true) {k : Nat} (hk : k < R.length) : setS (R.take k) R[k].k R[k].v = R.take (k + 1) := by
  have h1 : ∀ p ∈ R.take k, lessK p.k R[k].k = true := fun p hp => by
    obtain ⟨j, hj, rfl⟩ := List.getElem_of_mem hp
    rw [List.length_take] at hj
    rw [List.getElem_take]
    exact goodL_sorted hg j k _ _ (by omega) (List.getElem?_eq_getElem (by omega)) (List.getElem?_eq_getElem hk)
  have h2 : fitsB R[k].k R[k].v = true := good_fit hg (List.getElem_mem hk)
  unfold setS riseStep
  simp only [h2, if_true]
  unfold setL
  have e : R.take (k + 1) = R.take k ++ [R[k]] := List.take_succ_eq_append_getElem hk
  rw [place_all h1, found_none h1, List.take_of_length_le (Nat.le_refl _), List.drop_of_length_le (by simp), List.append_nil]
  exact e.symm
theorem good_take {R : List Pr} (hg : goodL R = true) (k : Nat) : goodL (R.take k) = true := by
  obtain ⟨h1, h2⟩ := good_iff.1 hg
  exact good_iff.2 ⟨fun p hp => h1 p (List.mem_of_mem_take hp), h2.sublist (List.take_sublist _ _)⟩
theorem pre_size {front : ByteArray} {p : Pr} (h : preB front p = true) : front.size ≤ p.k.size := by
  unfold preB Lib.hasPrefix at h
  have h1 := (List.isPrefixOf_iff_prefix.1 h).length_le
  simpa using h1
theorem pre_iff {front : ByteArray} {k v : ByteArray} (h : front.size ≤ k.size) : ((k.extract 0 front.size).toList == front.toList) = preB front ⟨k, v⟩ := by
  have e1 : (k.extract 0 front.size).data.toList = k.data.toList.take front.size := by simp
  rw [Bool.eq_iff_iff, tl_eq]
  unfold preB Lib.hasPrefix
  rw [List.isPrefixOf_iff_prefix, List.prefix_iff_eq_take]
  have hl : front.data.toList.length = front.size := by simp
  rw [hl]
  constructor
  · intro h2; rw [← e1, h2]
  · intro h2; exact ba_data (by rw [e1, ← h2])
theorem under_nil (l : List Pr) : underL l ⟨#[]⟩ = l := List.filter_eq_self.2 (fun p _ => by unfold preB Lib.hasPrefix; rfl)
theorem under_sorted {l : List Pr} (hg : goodL l = true) (front : ByteArray) : sortedL (underL l front) := by
  obtain ⟨h1, h2⟩ := good_iff.1 hg
  have h3 : (underL l front).Pairwise (fun p q => lessK p.k q.k = true) := h2.sublist List.filter_sublist
  intro i j p q hij hp hq
  obtain ⟨hi, rfl⟩ := List.getElem?_eq_some_iff.1 hp
  obtain ⟨hj, rfl⟩ := List.getElem?_eq_some_iff.1 hq
  exact List.pairwise_iff_getElem.1 h3 i j hi hj hij
def cntU (l : List Pr) (front : ByteArray) (k : Nat) : Nat := (underL (l.take k) front).length
theorem cntU_step {l : List Pr} {front : ByteArray} {k : Nat} (hk : k < l.length) : cntU l front (k + 1) = cntU l front k + (if preB front l[k] = true then 1 else 0) := by
  unfold cntU underL
  rw [List.take_succ_eq_append_getElem hk, List.filter_append, List.length_append]
  by_cases h : preB front l[k] = true
  · rw [if_pos h]; simp [h]
  · rw [if_neg h]; simp [h]
set_option maxRecDepth 100000 in
set_option maxHeartbeats 12800000 in
theorem walkStoreUnder (a : Option Addr) (n cap : Nat) (l : List Pr) (front : ByteArray) (w : World) (hr : RowAt w a (l.flatMap Pr.cells)) (hn : l.length = n) (hcap : n ≤ cap) (hcm : cap ≤ maxLen) (hq9 : ∀ p ∈ l, p.k.size ≤ maxLen ∧ p.v.size ≤ maxLen) (hfs : front.size ≤ maxLen) :
    Calls Try.prog 3 #[.slice a n cap, .string front] w fun e w' => e = .returned (.bool true) ∧ Below w.heap.size w w' := by
  have hfs := hfs
  clear hq9
  unfold maxLen at hcm hfs
  obtain ⟨M, hM⟩ : ∃ M, min n 30 = M := ⟨_, rfl⟩
  have hMn : M ≤ n := by omega
  have hM30 : M ≤ 30 := by omega
  have m1 : min (n : Int) 30 = (M : Int) := by omega
  have hrT : ∀ W, Below w.heap.size w W → RowAt W a ((l.take M).flatMap Pr.cells) := fun W hb => by
    rcases hr.below hb with h | ⟨b, off, ha, hlt, hc⟩
    · have : l = [] := by
        cases l with
        | nil => rfl
        | cons p l => simp [Pr.cells] at h
      subst this; left; simp
    · refine .inr ⟨b, off, ha, hlt, fun j hj => ?_⟩
      have e : ((l.take M).flatMap Pr.cells)[j]? = some ((l.take M).flatMap Pr.cells)[j] := List.getElem?_eq_getElem hj
      have e2 := pr_take M j _ e
      rw [hc j (List.getElem?_eq_some_iff.1 e2).1, e, e2]
  have CR := fun W hb => rise_any a M cap (l.take M) W (hrT W hb) (by rw [List.length_take]; omega) (by omega) (by omega)
  have hgR := rise_good (l.take M)
  have hlR := rise_len (l.take M)
  rw [List.length_take] at hlR
  obtain ⟨R, hR⟩ : ∃ R, riseL (l.take M) = R := ⟨_, rfl⟩
  rw [hR] at hgR hlR
  simp only [hR] at CR
  have hR30 : R.length ≤ 30 := by omega
  have n0 : (0 : Int) ≤ (M : Int) := by omega
  have n1 : (M : Int) ≤ (cap : Int) := by omega
  have n2 : ((M : Nat) : Int).toNat = M := by omega
  clear hR hlR hM
  go_enter Try.func3, Try.ntmps3
  go_upto_region 4 with (first | (go_at_call 11; refine (first12_any w).mono ?_; rintro e w1 ⟨rfl, hb1⟩) | (go_at_call 12; refine (CR _ hb1).mono ?_; rintro e w2 ⟨v2, rfl, hown2, hb2⟩))
  obtain ⟨a2, c2, rfl, hr2, hc2, hm2⟩ := own_sliceH hown2
  have hbw2 : Below w.heap.size w w2 := hb1.trans (hb2.mono hb1.size)
  obtain ⟨N, hN⟩ : ∃ N, R.length = N := ⟨_, rfl⟩
  rw [hN] at hR30 hc2
  simp only [hN]
  have HN := Lib.hid hN
  clear hN CR
  have Cn := new_any w2
  go_upto_region 7 with (go_at_call 13; refine Cn.mono ?_; rintro e w3 ⟨rfl, hq3, hb3⟩)
  have s3 := st_new (w := w2) hq3
  have hbw3 : Below w.heap.size w w3 := hbw2.trans (hb3.mono hbw2.size)
  by_cases hf3 : front.size ≤ 300
  rotate_left
  · have d9 : decide ((front.size : Int) > 300) = true := decide_eq_true (by omega)
    have d9n : decide (300 < front.size) = true := decide_eq_true (by omega)
    have d9i : decide (300 < (front.size : Int)) = true := decide_eq_true (by omega)
    go_wp2_with (go_at_call 11; refine (first12_any _).mono ?_; rintro e w4 ⟨rfl, hb4⟩)
    go_ret
    exact ⟨by first | rfl | simp, hbw3.trans (hb4.mono hbw3.size)⟩
  have d9 : decide ((front.size : Int) > 300) = false := decide_eq_false (by omega)
  have d9n : decide (300 < front.size) = false := decide_eq_false (by omega)
  have d9i : decide (300 < (front.size : Int)) = false := decide_eq_false (by omega)
  go_upto_region 10 with fail
  have hbsz := hb3.size
  go_loopw [6] (fun i wr => ∃ k : Nat, k ≤ N ∧ i = .int .i64 k ∧ StAt wr w2.heap.size (R.take k) ∧ Below w2.heap.size w2 wr) (fun i _ => N - (intOf i).toNat)
  case atStart => exact ⟨0, Nat.zero_le _, rfl, s3, hb3⟩
  case round =>
    obtain ⟨k, hk, rfl, sk, hbel⟩ := hrel
    by_cases hlt : k < N
    · have d1 : decide ((k : Int) < (N : Int)) = true := decide_eq_true (by omega)
      have d1n : decide (k < N) = true := decide_eq_true hlt
      have hkl : k < R.length := by rw [HN.out]; exact hlt
      obtain ⟨b1, o1, rfl, hb1x, hg1⟩ := pr_range (hr2.below hbel) hkl
      have hnx := setS_next hgR hkl
      obtain ⟨⟨pk, pv⟩, hp9⟩ : ∃ p, R[k] = p := ⟨_, rfl⟩
      rw [hp9] at hg1 hnx
      simp only [] at hnx
      have q0 : wr.cell? ⟨b1, o1 + k * 2, none⟩ = some (.string pk) := hg1 0 _ rfl
      have q1 : wr.cell? ⟨b1, o1 + k * 2 + 1, none⟩ = some (.string pv) := hg1 1 _ rfl
      have CS := setS_any w2.heap.size (R.take k) pk pv wr.drew sk (by rw [List.length_take]; omega)
      rw [hnx] at CS
      obtain ⟨er, her⟩ : ∃ e, setE pk pv = e := ⟨_, rfl⟩
      rw [her] at CS
      have k0 : (0 : Int) ≤ (k : Int) := by omega
      have k1 : (k : Int) < (N : Int) := by omega
      have k2 : ((k : Nat) : Int).toNat = k := by omega
      clear hg1 hp9 hnx her
      go_upto_region 12 with fail
      refine wp_region_any (by kernel_rfl) ?_
      change wpAny _ _ _ _ _ _ _ (World.drew _)
      refine wpAny_take (i := 0) (v := .pointer (some ⟨w2.heap.size, 0, none⟩)) rfl (by kernel_rfl) (by kernel_rfl) (by kernel_rfl) (fun _ _ _ h => h) (Or.inl ⟨by rfl, fun w9 => by (go_simp; try with_reducible rfl)⟩) ?_
      change wpAny _ _ _ _ _ _ (Act.put _ (some 32) _) _; dsimp only [Act.put]; simp only [List.setIfInBounds_toArray, List.set_cons_succ, List.set_cons_zero]
      refine wpAny_take (i := 1) (v := .slice (some ⟨b1, o1, none⟩) N c2) rfl (by kernel_rfl) (by kernel_rfl) (by kernel_rfl) (fun _ _ _ h => h) (Or.inl ⟨by rfl, fun w9 => by (go_simp; try with_reducible rfl)⟩) ?_
      change wpAny _ _ _ _ _ _ (Act.put _ (some 33) _) _; dsimp only [Act.put]; simp only [List.setIfInBounds_toArray, List.set_cons_succ, List.set_cons_zero]
      refine wpAny_take (i := 2) (v := .int .i64 (k : Int)) rfl (by kernel_rfl) (by kernel_rfl) (by kernel_rfl) (fun _ _ _ h => h) (Or.inl ⟨by rfl, fun w9 => by (go_simp; try with_reducible rfl)⟩) ?_
      change wpAny _ _ _ _ _ _ (Act.put _ (some 34) _) _; dsimp only [Act.put]; simp only [List.setIfInBounds_toArray, List.set_cons_succ, List.set_cons_zero]
      refine wpAny_take (i := 3) (v := .pointer (some ⟨b1, o1 + k * 2, none⟩)) rfl (by kernel_rfl) (by kernel_rfl) (by kernel_rfl) (fun _ _ _ h => h) (Or.inl ⟨by rfl, fun w9 => by (go_simp; try with_reducible rfl)⟩) ?_
      change wpAny _ _ _ _ _ _ (Act.put _ (some 35) _) _; dsimp only [Act.put]; simp only [List.setIfInBounds_toArray, List.set_cons_succ, List.set_cons_zero]
      refine wpAny_take (i := 4) (v := .pointer (some ⟨b1, o1 + k * 2, none⟩)) rfl (by kernel_rfl) (by kernel_rfl) (by kernel_rfl) (fun _ _ _ h => h) (Or.inl ⟨by rfl, fun w9 => by (go_simp; try with_reducible rfl)⟩) ?_
      change wpAny _ _ _ _ _ _ (Act.put _ (some 36) _) _; dsimp only [Act.put]; simp only [List.setIfInBounds_toArray, List.set_cons_succ, List.set_cons_zero]
      refine wpAny_take (i := 6) (v := .slice (some ⟨b1, o1, none⟩) N c2) rfl (by kernel_rfl) (by kernel_rfl) (by kernel_rfl) (fun _ _ _ h => h) (Or.inl ⟨by rfl, fun w9 => by (go_simp; try with_reducible rfl)⟩) ?_
      change wpAny _ _ _ _ _ _ (Act.put _ (some 38) _) _; dsimp only [Act.put]; simp only [List.setIfInBounds_toArray, List.set_cons_succ, List.set_cons_zero]
      refine wpAny_take (i := 7) (v := .int .i64 (k : Int)) rfl (by kernel_rfl) (by kernel_rfl) (by kernel_rfl) (fun _ _ _ h => h) (Or.inl ⟨by rfl, fun w9 => by (go_simp; try with_reducible rfl)⟩) ?_
      change wpAny _ _ _ _ _ _ (Act.put _ (some 39) _) _; dsimp only [Act.put]; simp only [List.setIfInBounds_toArray, List.set_cons_succ, List.set_cons_zero]
      refine wpAny_take (i := 8) (v := .pointer (some ⟨b1, o1 + k * 2, none⟩)) rfl (by kernel_rfl) (by kernel_rfl) (by kernel_rfl) (fun _ _ _ h => h) (Or.inl ⟨by rfl, fun w9 => by (go_simp; try with_reducible rfl)⟩) ?_
      change wpAny _ _ _ _ _ _ (Act.put _ (some 40) _) _; dsimp only [Act.put]; simp only [List.setIfInBounds_toArray, List.set_cons_succ, List.set_cons_zero]
      refine wpAny_take (i := 9) (v := .pointer (some ⟨b1, o1 + k * 2 + 1, none⟩)) rfl (by kernel_rfl) (by kernel_rfl) (by kernel_rfl) (fun _ _ _ h => h) (Or.inl ⟨by rfl, fun w9 => by (go_simp; try with_reducible rfl)⟩) ?_
      change wpAny _ _ _ _ _ _ (Act.put _ (some 41) _) _; dsimp only [Act.put]; simp only [List.setIfInBounds_toArray, List.set_cons_succ, List.set_cons_zero]
      refine wpAny_ready (rs := [5, 10]) (by kernel_rfl) (by simp) ?_
      refine (AllReady.cons rfl (fun K hK => ?_) (AllReady.cons rfl (fun K hK => ?_) AllReady.nil))
      · go_simp
        refine hK _ _ ?_
        clear hK K
        refine wpAny_ready (rs := [10]) (by kernel_rfl) (by simp) ?_
        refine (AllReady.cons rfl (fun K hK => ?_) AllReady.nil)
        go_simp
        refine hK _ _ ?_
        clear hK K
        refine wpAny_ready (rs := [11]) (by kernel_rfl) (by simp) ?_
        refine (AllReady.cons rfl (fun K hK => ?_) AllReady.nil)
        go_simp
        refine CS.mono ?_
        rintro e w4 ⟨rfl, s4, hb4⟩
        refine hK _ _ ?_
        clear hK K
        refine wpAny_done (by kernel_rfl) ?_ _
        go_wp2
        go_roundw
        case rel => exact ⟨k + 1, by omega, by go_num, s4, hbel.drew.trans hb4⟩
        case measure => (simp [intOf]) <;> omega
      · go_simp
        refine hK _ _ ?_
        clear hK K
        refine wpAny_ready (rs := [5]) (by kernel_rfl) (by simp) ?_
        refine (AllReady.cons rfl (fun K hK => ?_) AllReady.nil)
        go_simp
        refine hK _ _ ?_
        clear hK K
        refine wpAny_ready (rs := [11]) (by kernel_rfl) (by simp) ?_
        refine (AllReady.cons rfl (fun K hK => ?_) AllReady.nil)
        go_simp
        refine CS.mono ?_
        rintro e w4 ⟨rfl, s4, hb4⟩
        refine hK _ _ ?_
        clear hK K
        refine wpAny_done (by kernel_rfl) ?_ _
        go_wp2
        go_roundw
        case rel => exact ⟨k + 1, by omega, by go_num, s4, hbel.drew.trans hb4⟩
        case measure => (simp [intOf]) <;> omega
    · obtain rfl : k = N := by omega
      have d1 : decide ((k : Int) < (k : Int)) = false := decide_eq_false (by omega)
      have d1n : decide (k < k) = false := decide_eq_false hlt
      rw [List.take_of_length_le (by rw [HN.out]; exact Nat.le_refl _)] at sk
      have hr3 := hr2.below hbel
      have hRn := HN.out
      have hbw4 : Below w.heap.size w wr := hbw2.trans (hbel.mono hbw2.size)
      have CU := under_any w2.heap.size R front wr sk (by omega)
      have hgU := under_sorted hgR front
      have hlU : (underL R front).length ≤ R.length := List.length_filter_le _ _
      have hpU : ∀ p ∈ underL R front, preB front p = true := fun p hp => (List.mem_filter.1 hp).2
      have hcU : cntU R front k = (underL R front).length := by unfold cntU; rw [List.take_of_length_le (by omega)]
      obtain ⟨U, hU⟩ : ∃ U, underL R front = U := ⟨_, rfl⟩
      rw [hU] at CU hgU hlU hpU hcU
      obtain ⟨u, hu⟩ : ∃ u, U.length = u := ⟨_, rfl⟩
      rw [hu] at CU hlU hcU
      have HU := Lib.hid hu
      have HGU := Lib.hid hgU
      have HPU := Lib.hid hpU
      have HCU := Lib.hid hcU
      clear hU hu hgU hpU hcU
      go_upto_region 15 with (go_at_call 15; refine CU.mono ?_; rintro e w5 ⟨v5, rfl, hown5, hb5⟩)
      obtain ⟨a5, c5, rfl, hr5, hc5, hm5⟩ := own_sliceH hown5
      have s5 := sk.kept hb5
      have hr25 := hr3.below hb5
      have CU2 := fun W (h : Below w5.heap.size w5 W) => under_any w2.heap.size R ⟨#[]⟩ W (s5.kept h) (by omega)
      rw [under_nil] at CU2
      have CL2 := fun W (h : Below w5.heap.size w5 W) => stLen_any w2.heap.size R W (s5.kept h)
      rw [hRn] at CL2 CU2
      have hu30 : u ≤ 30 := by omega
      clear hRn
      have hbw5 : Below w.heap.size w w5 := hbw4.trans (hb5.mono hbw4.size)
      go_loopw [9] (fun i wx => ∃ j : Nat, j ≤ u ∧ i = .int .i64 j ∧ Below w5.heap.size w5 wx) (fun i _ => u - (intOf i).toNat)
      case atStart => exact ⟨0, Nat.zero_le _, rfl, Below.refl _ _⟩
      case round =>
        obtain ⟨j, hj, rfl, hbe⟩ := hrel
        by_cases hjt : j < u
        · have e1 : decide ((j : Int) < (u : Int)) = true := decide_eq_true (by omega)
          have e1n : decide (j < u) = true := decide_eq_true hjt
          have hjl : j < U.length := by rw [HU.out]; exact hjt
          have hrU := hr5.below hbe
          obtain ⟨b2, o2, rfl, hb2x, hg2⟩ := pr_range hrU hjl
          have hpf := HPU.out U[j] (List.getElem_mem hjl)
          have hsz := pre_size hpf
          have HLS : Hid (∀ i (hi : i < U.length), i < j → lessK U[i].k U[j].k = true) := Lib.hid (fun i hi hij => HGU.out i j _ _ hij (List.getElem?_eq_getElem hi) (List.getElem?_eq_getElem hjl))
          obtain ⟨⟨pk, pv⟩, hp9⟩ : ∃ p, U[j] = p := ⟨_, rfl⟩
          rw [hp9] at hg2 hpf hsz HLS
          simp only [] at hsz HLS
          have heq := pre_iff (v := pv) hsz
          rw [hpf] at heq
          have q0 : wr.cell? ⟨b2, o2 + j * 2, none⟩ = some (.string pk) := hg2 0 _ rfl
          have f0 : decide ((pk.size : Int) < (front.size : Int)) = false := decide_eq_false (by omega)
          have f0n : decide (pk.size < front.size) = false := decide_eq_false (by omega)
          have f1 : ((pk.extract 0 front.size).toList != front.toList) = false := by rw [bne, heq]; rfl
          have f2 : (front.size : Int) ≤ (pk.size : Int) := by omega
          have f3 : ((front.size : Nat) : Int).toNat = front.size := by omega
          have f4 : (0 : Int) ≤ (front.size : Int) := by omega
          have k0 : (0 : Int) ≤ (j : Int) := by omega
          have k1 : (j : Int) < (u : Int) := by omega
          have k2 : ((j : Nat) : Int).toNat = j := by omega
          clear hg2 hp9 hpf
          by_cases hj0 : j = 0
          · have g0 : decide ((j : Int) > 0) = false := decide_eq_false (by omega)
            have g0n : decide (0 < j) = false := decide_eq_false (by omega)
            have g0i : decide (0 < (j : Int)) = false := decide_eq_false (by omega)
            have HJ0 := Lib.hid hj0
            clear HLS hj0
            go_upto_region 17 with fail
            go_quiet (fail)
            go_wp2
            go_roundw
            case rel => exact ⟨j + 1, by omega, by go_num, hbe.trans ((drewN_below _ _).mono hbe.size)⟩
            case measure => (simp [intOf]) <;> omega
          · obtain ⟨t, ht⟩ : ∃ t : Nat, t + 1 = j := ⟨j - 1, by omega⟩
            have hls := HLS.out t (by omega) (by omega)
            obtain ⟨b3, o3, hbb, hb3x, hg3⟩ := pr_range hrU (k := t) (by omega)
            simp only [Option.some.injEq, Addr.mk.injEq, and_true] at hbb
            obtain ⟨rfl, rfl⟩ := hbb
            obtain ⟨⟨qk, qv⟩, hp8⟩ : ∃ p, U[t] = p := ⟨_, rfl⟩
            rw [hp8] at hg3 hls
            have q1 : wr.cell? ⟨b2, o2 + t * 2, none⟩ = some (.string qk) := hg3 0 _ rfl
            have g0 : decide ((j : Int) > 0) = true := decide_eq_true (by omega)
            have g0n : decide (0 < j) = true := decide_eq_true (by omega)
            have g0i : decide (0 < (j : Int)) = true := decide_eq_true (by omega)
            have g1 : IntKind.i64.wrap ((j : Int) - 1) = (t : Int) := by rw [IntKind.wrap_i64]; omega
            have g2 : (j : Int) - 1 = (t : Int) := by omega
            have g3 : ((t : Nat) : Int).toNat = t := by omega
            have g4 : (0 : Int) ≤ (t : Int) := by omega
            have g5 : (t : Int) < (u : Int) := by omega
            have g6 : Op.bytesLess qk.toList pk.toList = true := by rw [ByteArray.toList_eq, ByteArray.toList_eq]; exact hls
            clear hls hg3 hp8 HLS
            have HT := Lib.hid ht
            clear ht
            go_upto_region 17 with fail
            go_quiet (fail)
            go_wp2
            go_roundw
            case rel => exact ⟨j + 1, by omega, by go_num, hbe.trans ((drewN_below _ _).mono hbe.size)⟩
            case measure => (simp [intOf]) <;> omega
        · obtain rfl : j = u := by omega
          have e1 : decide ((j : Int) < (j : Int)) = false := decide_eq_false (by omega)
          have e1n : decide (j < j) = false := decide_eq_false hjt
          go_upto_region 20 with fail
          go_loopw [8, 10] (fun c i wx => ∃ t : Nat, t ≤ k ∧ i = .int .i64 t ∧ c = .int .i64 (cntU R front t) ∧ Below w5.heap.size w5 wx) (fun _ i _ => k - (intOf i).toNat)
          case atStart => exact ⟨0, Nat.zero_le _, rfl, rfl, hbe⟩
          case round =>
            obtain ⟨t, ht, rfl, rfl, hbf⟩ := hrel
            by_cases htt : t < k
            rotate_left
            · obtain rfl : t = k := by omega
              have e1 : decide ((t : Int) < (t : Int)) = false := decide_eq_false (by omega)
              have e1n : decide (t < t) = false := decide_eq_false htt
              obtain ⟨cc, hcc⟩ : ∃ c, cntU R front t = c := ⟨_, rfl⟩
              have hcj : cc = j := by rw [← hcc]; exact HCU.out
              subst hcj
              simp only [hcc]
              have hbw6 := hbw5.trans (hbf.mono hbw5.size)
              have e2 : ((cc : Int) == (cc : Int)) = true := by simp
              have e3 : ((t : Int) == (t : Int)) = true := by simp
              go_wp2_with (first | (go_at_call 15; refine (CU2 _ hbf).mono ?_; rintro e w7 ⟨v7, rfl, hown7, hb7⟩; have hbf7 := hbf.trans (hb7.mono hbf.size); obtain ⟨a7, c7, rfl, _⟩ := own_sliceH hown7) | (go_at_call 16; refine (CL2 _ hbf7).mono ?_; rintro e w8 ⟨rfl, hb8⟩; have hbf8 := hbf7.trans (hb8.mono hbf7.size)) | (go_at_call 16; refine (CL2 _ hbf8).mono ?_; rintro e w9 ⟨rfl, hb9⟩; have hbf9 := hbf8.trans (hb9.mono hbf8.size)))
              go_ret
              exact ⟨by first | rfl | simp, hbw5.trans (hbf9.mono hbw5.size)⟩
            have e1 : decide ((t : Int) < (k : Int)) = true := decide_eq_true (by omega)
            have e1n : decide (t < k) = true := decide_eq_true htt
            have htl : t < R.length := by rw [HN.out]; exact htt
            have hst := cntU_step (front := front) htl
            obtain ⟨b3, o3, rfl, hb3x, hg3⟩ := pr_range (hr25.below hbf) htl
            obtain ⟨⟨pk, pv⟩, hp9⟩ : ∃ p, R[t] = p := ⟨_, rfl⟩
            rw [hp9] at hg3 hst
            obtain ⟨fit, hfit⟩ : ∃ b, preB front ⟨pk, pv⟩ = b := ⟨_, rfl⟩
            rw [hfit] at hst
            have HST := Lib.hid hst
            have HFT := Lib.hid hfit
            have hck : cntU R front t ≤ t := by unfold cntU underL; have h1 := List.length_filter_le (preB front) (R.take t); rw [List.length_take] at h1; omega
            obtain ⟨cc, hcc⟩ : ∃ c, cntU R front t = c := ⟨_, rfl⟩
            rw [hcc] at hck
            simp only [hcc]
            have HCC := Lib.hid hcc
            have q0 : wr.cell? ⟨b3, o3 + t * 2, none⟩ = some (.string pk) := hg3 0 _ rfl
            have k0 : (0 : Int) ≤ (t : Int) := by omega
            have k1 : (t : Int) < (k : Int) := by omega
            have k2 : ((t : Nat) : Int).toNat = t := by omega
            clear hg3 hp9 hst hfit hcc
            by_cases hsz : front.size ≤ pk.size
            · have f0 : decide ((front.size : Int) ≤ (pk.size : Int)) = true := decide_eq_true (by omega)
              have f0n : decide (front.size ≤ pk.size) = true := decide_eq_true (by omega)
              have f0g : decide ((pk.size : Int) ≥ (front.size : Int)) = true := decide_eq_true (by omega)
              have heq := pre_iff (v := pv) hsz
              rw [HFT.out] at heq
              have f2 : (front.size : Int) ≤ (pk.size : Int) := by omega
              have f3 : ((front.size : Nat) : Int).toNat = front.size := by omega
              have f4 : (0 : Int) ≤ (front.size : Int) := by omega
              cases fit
              · go_wp2
                go_roundw
                case rel => exact ⟨t + 1, by omega, by go_num, by rw [HST.out, HCC.out]; simp, hbf⟩
                case measure => (simp [intOf]) <;> omega
              · have a1 : IntKind.i64.wrap ((cc : Int) + 1) = (cc : Int) + 1 := by rw [IntKind.wrap_i64]; omega
                go_wp2
                go_roundw
                case rel => exact ⟨t + 1, by omega, by go_num, by rw [HST.out, HCC.out]; simp, hbf⟩
                case measure => (simp [intOf]) <;> omega
            · have f0 : decide ((front.size : Int) ≤ (pk.size : Int)) = false := decide_eq_false (by omega)
              have f0n : decide (front.size ≤ pk.size) = false := decide_eq_false (by omega)
              have f0g : decide ((pk.size : Int) ≥ (front.size : Int)) = false := decide_eq_false (by omega)
              obtain rfl : fit = false := by
                cases fit with
                | false => rfl
                | true => exact absurd (pre_size HFT.out) hsz
              go_wp2
              go_roundw
              case rel => exact ⟨t + 1, by omega, by go_num, by rw [HST.out, HCC.out]; simp, hbf⟩
              case measure => (simp [intOf]) <;> omega
end Go.Proofs.Ytbckncopdkmoeaa
