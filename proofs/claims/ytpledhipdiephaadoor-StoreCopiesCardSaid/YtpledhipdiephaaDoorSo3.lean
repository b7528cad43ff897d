/- StoreCopies walked. -/
import Derived.Test.YtpledhipdiephaaDoorSt13
import Derived.Deep.Cut
import Derived.BigRegion
import Derived.RegionTactic
import Derived.BigQuiet
import Derived.Deep.QuietTactic
import Derived.Deep.MidRow
import Derived.Deep.RegionLaw
import Derived.OneCell
import Derived.Laws.OwnMore
import Derived.Deep.RegionHeld
import Derived.LoopTactic
import Derived.BigFrame
import Derived.WalkKit
import Derived.ProofKit
import Derived.Handy
import Derived.Below
import Derived.Lib.Hide
import Derived.IntWalk
import Derived.Outline
import Derived.WalkLawsBesides
import Derived.WalkSpells
namespace Go.Proofs.YtpledhipdiephaaDoor
open Go.RowKit
attribute [local go_sem] strV
set_option linter.unusedVariables false
set_option linter.unusedSimpArgs false
theorem rise_rowE {a : Option Addr} {l : List Pr} {w : World} (hr : RowAt w a (l.flatMap Pr.cells)) (M : Nat) (W : World) (hb : Below w.heap.size w W) : RowAt W a ((l.take M).flatMap Pr.cells) := by
  rcases hr.below hb with h | ⟨b, off, ha, hlt, hc⟩
  · have : l = [] := by
      cases l with
      | nil => rfl
      | cons p l => simp [Pr.cells] at h
    subst this; left; simp
  · refine .inr ⟨b, off, ha, hlt, fun j hj => ?_⟩
    have e : ((l.take M).flatMap Pr.cells)[j]? = some ((l.take M).flatMap Pr.cells)[j] := List.getElem?_eq_getElem hj
    have e2 := pr_take M j _ e
    rw [hc j (List.getElem?_eq_some_iff.1 e2).1, e, e2]
theorem found_mem {L : List Pr} (hL : goodL L = true) {k v : ByteArray} (h : (⟨k, v⟩ : Pr) ∈ L) : foundL L k = true ∧ getV L k = v := by
  obtain ⟨i, hi, e⟩ := List.getElem_of_mem h
  have hf : foundL L k = true := found_of hL hi (by rw [e])
  exact ⟨hf, congrArg Pr.v (key_inj hL (getV_at hf) h rfl)⟩
theorem found_not {L : List Pr} {k : ByteArray} (h : ∀ p ∈ L, p.k ≠ k) : foundL L k = false := by
  cases hf : foundL L k
  · rfl
  · obtain ⟨hi, hk⟩ := found_at hf
    exact absurd hk (h _ (List.getElem_mem hi))
/-- What Get says of a key behind Set of it and Drop of another. -/
theorem copy_says {R : List Pr} (hR : goodL R = true) {key val a : ByteArray} (hf : fitsB key val = true) :
    (key = a → foundL (dropL (setS R key val) a) key = false) ∧ (key ≠ a → foundL (dropL (setS R key val) a) key = true ∧ getV (dropL (setS R key val) a) key = val) := by
  have hg := setS_good hR key val
  refine ⟨fun e => found_not (fun p hp q => ?_), fun e => found_mem (dropL_good hg a) ?_⟩
  · exact ((mem_dropL hg).1 hp).2 (by rw [q, e])
  · exact (mem_dropL hg).2 ⟨(mem_setS hR hf).2 (.inl rfl), e⟩
theorem hash32_info (q : H32) : (Tryd.prog.info? 35).map (·.size) = some q.cells.length := by
  rw [H32.cells_len]; kernel_rfl
theorem hash_rangeD {w : World} {g : Nat} {q : H32} {t : TypeId} (h : w.heap[g]? = some (.cells (hrow q.1) t (0, 0))) : w.rangeAt g 0 q.cells := fun j v hv => by
  rw [Nat.zero_add, cell_heap h, ← H32.row]; simpa using hv
theorem exec_loadHashD {o : Oper} {a : Act} {w : World} (x : Operand) (ho : o.op = .load 35 x) (b : Nat) (hx : a.eval x = .pointer (some ⟨b, 0, none⟩)) (q : H32) (hz : w.rangeAt b 0 q.cells) : (execOp a.eval o).run Tryd.prog w = .ok (.value (.agg (hrow q.1))) w := by
  have h1 := run_loadAt_mid (P := Tryd.prog) w b 0 35 q.cells _ hz Tryd.underlying35 rfl (hash32_info q)
  simp [execOp, ho, hx, h1, Result.andThen]
  rfl
theorem Fr.other_cells {w w' : World} {B g : Nat} {r : Option Nat} {l : List Pr} (h : Fr w w' g r) (hs : StC w B g r l) (k : Nat) (R : Array Value) (t : TypeId) (hk : w.heap[k]? = some (.cells R t (0, 0))) (h1 : t ≠ 41) (h2 : t ≠ 93) : w'.heap[k]? = some (.cells R t (0, 0)) := by
  refine (h.block k (row_lt hk) (fun e => ?_) (fun e => ?_)).trans hk
  · subst e
    obtain ⟨_, _, a, cap, hg, _⟩ := hs
    rw [hk] at hg
    cases hg
    exact h2 rfl
  · obtain ⟨_, _, R2, hR2⟩ := hs.row k e.symm
    rw [hk] at hR2
    cases hR2
    exact h1 rfl
theorem Duo.setLK_any {B g1 g2 : Nat} {w : World} {l1 l2 : List Pr} (h : Duo B w g1 l1 g2 l2) (hn : l1.length ≤ 100000) (key val : ByteArray) :
    Calls Tryd.prog 13 #[.pointer (some ⟨g1, 0, none⟩), .string key, .string val] w fun e w' => e = .returned (.int .i64 (setE key val)) ∧ Duo B w' g1 (setS l1 key val) g2 l2 ∧ Below B w w' ∧ ∀ (k : Nat) (R : Array Value) (t : TypeId), w.heap[k]? = some (Obj.cells R t (0, 0)) → t ≠ 41 → t ≠ 93 → w'.heap[k]? = some (Obj.cells R t (0, 0)) := by
  obtain ⟨r1, r2, h1, h2, h3, h4, h7⟩ := h
  refine (setC_any B g1 r1 l1 key val w h1 hn).mono ?_
  rintro e w' ⟨rfl, r1', k1, k2, k3⟩
  obtain ⟨q1, q2⟩ := Duo.set h1 h2 h3 h4 h7 k1 k2 k3
  exact ⟨rfl, q1, q2, k2.other_cells h1⟩
theorem Duo.dropLK_any {B g1 g2 : Nat} {w : World} {l1 l2 : List Pr} (h : Duo B w g1 l1 g2 l2) (hn : l1.length ≤ 100000) (key : ByteArray) :
    Calls Tryd.prog 15 #[.pointer (some ⟨g1, 0, none⟩), .string key] w fun e w' => e = .returned (.bool (foundL l1 key)) ∧ Duo B w' g1 (dropL l1 key) g2 l2 ∧ Below B w w' ∧ ∀ (k : Nat) (R : Array Value) (t : TypeId), w.heap[k]? = some (Obj.cells R t (0, 0)) → t ≠ 41 → t ≠ 93 → w'.heap[k]? = some (Obj.cells R t (0, 0)) := by
  obtain ⟨r1, r2, h1, h2, h3, h4, h7⟩ := h
  refine (dropC_any B g1 r1 l1 key w h1 hn).mono ?_
  rintro e w' ⟨rfl, k1, k2⟩
  obtain ⟨q1, q2⟩ := Duo.set h1 h2 h3 h4 h7 k1 k2 (.inl rfl)
  exact ⟨rfl, q1, q2, k2.other_cells h1⟩
theorem range_belowD {w w' : World} {g o K : Nat} {cs : List Value} (h : w.rangeAt g o cs) (hb : Below K w w') (hg : g < K) : w'.rangeAt g o cs := fun j v hv => (hb.cell hg).trans (h j v hv)
set_option maxRecDepth 100000 in
set_option maxHeartbeats 12800000 in
theorem walkStoreCopies (a : Option Addr) (n cap : Nat) (l : List Pr) (key val : ByteArray) (w : World) (hW : SW w) (hr : RowAt w a (l.flatMap Pr.cells)) (hn : l.length = n) (hcap : n ≤ cap) (hcm : cap ≤ maxLen) (hq9 : ∀ p ∈ l, p.k.size ≤ maxLen ∧ p.v.size ≤ maxLen) (hks : key.size ≤ maxLen) (hvs : val.size ≤ maxLen) :
    Calls Tryd.prog 4 #[.slice a n cap, .string key, .string val] w fun e w' => e = .returned (.bool true) ∧ Below w.heap.size w w' := by
  unfold maxLen at hcm hks hvs
  obtain ⟨M, hM⟩ : ∃ M, min n 30 = M := ⟨_, rfl⟩
  have hMn : M ≤ n := by omega
  have hM30 : M ≤ 30 := by omega
  have m1 : min (n : Int) 30 = (M : Int) := by omega
  have CR := fun W hb => rise_any a M cap (l.take M) W (rise_rowE hr M W hb) (by rw [List.length_take]; omega) (by omega) (by omega)
  have hgR := rise_good (l.take M)
  have hlR := rise_len (l.take M)
  rw [List.length_take] at hlR
  obtain ⟨R, hR⟩ : ∃ R, riseL (l.take M) = R := ⟨_, rfl⟩
  rw [hR] at hgR hlR
  simp only [hR] at CR
  have hR30 : R.length ≤ 30 := by omega
  have n0 : (0 : Int) ≤ (M : Int) := by omega
  have n1 : (M : Int) ≤ (cap : Int) := by omega
  have n2 : ((M : Nat) : Int).toNat = M := by omega
  clear hR hlR hM hn
  go_enter Tryd.func4, Tryd.ntmps4
  go_upto_region 4 with (first | (go_at_call 10; refine (first12_any w).mono ?_; rintro e w1 ⟨rfl, hb1⟩) | (go_at_call 11; refine (CR _ hb1).mono ?_; rintro e w2 ⟨v2, rfl, hown2, hb2⟩))
  obtain ⟨a2, c2, rfl, hr2, hc2, hm2, _⟩ := own_sliceN hown2
  have hbw2 : Below w.heap.size w w2 := hb1.trans (hb2.mono hb1.size)
  obtain ⟨N, hN⟩ : ∃ N, R.length = N := ⟨_, rfl⟩
  rw [hN] at hR30 hc2
  simp only [hN]
  have HN := Lib.hid hN
  clear hN CR hown2 n0 n1 n2 m1
  by_cases f1 : key.size < 1
  · have xf1 : decide ((key.size : Int) < 1) = true := decide_eq_true (by omega)
    have yf1 : decide (key.size < 1) = true := decide_eq_true f1
    go_wp2_with (go_at_call 10; refine (first12_any _).mono ?_; rintro e wz ⟨rfl, hbz⟩)
    go_ret
    exact ⟨by first | rfl | simp, hbw2.trans (hbz.mono hbw2.size)⟩
  have xf1 : decide ((key.size : Int) < 1) = false := decide_eq_false (by omega)
  have yf1 : decide (key.size < 1) = false := decide_eq_false f1
  by_cases f2 : 160 < key.size
  · have xf2 : decide ((160 : Int) < (key.size : Int)) = true := decide_eq_true (by omega)
    have yf2 : decide (160 < key.size) = true := decide_eq_true f2
    go_wp2_with (go_at_call 10; refine (first12_any _).mono ?_; rintro e wz ⟨rfl, hbz⟩)
    go_ret
    exact ⟨by first | rfl | simp, hbw2.trans (hbz.mono hbw2.size)⟩
  have xf2 : decide ((160 : Int) < (key.size : Int)) = false := decide_eq_false (by omega)
  have yf2 : decide (160 < key.size) = false := decide_eq_false f2
  by_cases f3 : val.size < 1
  · have xf3 : decide ((val.size : Int) < 1) = true := decide_eq_true (by omega)
    have yf3 : decide (val.size < 1) = true := decide_eq_true f3
    go_wp2_with (go_at_call 10; refine (first12_any _).mono ?_; rintro e wz ⟨rfl, hbz⟩)
    go_ret
    exact ⟨by first | rfl | simp, hbw2.trans (hbz.mono hbw2.size)⟩
  have xf3 : decide ((val.size : Int) < 1) = false := decide_eq_false (by omega)
  have yf3 : decide (val.size < 1) = false := decide_eq_false f3
  by_cases f4 : 64 < val.size
  · have xf4 : decide ((64 : Int) < (val.size : Int)) = true := decide_eq_true (by omega)
    have yf4 : decide (64 < val.size) = true := decide_eq_true f4
    go_wp2_with (go_at_call 10; refine (first12_any _).mono ?_; rintro e wz ⟨rfl, hbz⟩)
    go_ret
    exact ⟨by first | rfl | simp, hbw2.trans (hbz.mono hbw2.size)⟩
  have xf4 : decide ((64 : Int) < (val.size : Int)) = false := decide_eq_false (by omega)
  have yf4 : decide (64 < val.size) = false := decide_eq_false f4
  have hfit : fitsB key val = true := by unfold fitsB; simp; omega
  have Cn := new_any w2
  have hW2 := hW.below hbw2
  go_wp2_with (go_at_call 12; refine Cn.mono ?_; rintro e w3 ⟨rfl, hq3, hb3⟩)
  have hS0 : StC w3 w2.heap.size w2.heap.size none [] := StC.new (Nat.le_refl _) hq3
  clear Cn hq3 f1 f2 f3 f4 xf1 xf2 xf3 xf4 yf1 yf2 yf3 yf4
  go_loopw [8] (fun i wr => ∃ k : Nat, k ≤ N ∧ i = .int .i64 k ∧ Below w2.heap.size w2 wr ∧ ∃ r, StC wr w2.heap.size w2.heap.size r (R.take k)) (fun i _ => N - (intOf i).toNat)
  case atStart => exact ⟨0, Nat.zero_le _, rfl, hb3, none, hS0⟩
  case round =>
    clear hb3 hS0
    obtain ⟨k, hk, rfl, hbel, r, hSk⟩ := hrel
    by_cases hlt : k < N
    rotate_left
    · obtain rfl : N = k := by omega
      have d1 : decide ((N : Int) < (N : Int)) = false := decide_eq_false (by omega)
      have d1n : decide (N < N) = false := decide_eq_false (by omega)
      rw [List.take_of_length_le (by rw [HN.out]; exact Nat.le_refl _)] at hSk
      obtain ⟨wO, rfl⟩ : ∃ x, x = wr := ⟨wr, rfl⟩
      have hRl9 : R.length ≤ 100000 := by rw [HN.out]; omega
      obtain ⟨RR, hRR, HEQ⟩ := root_eql R
      have hRs : (hrow RR.1).size = 32 := by rw [hrow_size]; exact RR.2
      have hRo := hrow_one RR.1
      have CRt := fun W g r (hb : Below w2.heap.size w2 W) (h : StC W w2.heap.size g r R) => rootC_any _ g r R W (hW2.below hb) h hRl9
      simp only [hRR] at CRt
      clear hRR
      have CCp := Duo.copy hSk hRl9 hbel.size
      go_upto_region 14 with (first | (go_at_call 18; refine CCp.mono ?_; rintro e w5 ⟨g2, rfl, hD5, hb5⟩; have hbel5 := hbel.trans (hb5.mono hbel.size); obtain ⟨r5, hl5⟩ := hD5.left) | (go_at_call 16; refine (CRt _ _ _ hbel5 hl5).mono ?_; rintro e w6 ⟨rfl, hb6⟩) | (refine wpList_storeRowTo (Z := hrow RR.1) rfl (.tmp 10) (.tmp 66) 35 rfl (by rw [hRs]; kernel_rfl) rfl rfl (heap_push w6 _ _) (by rw [hRs]; rfl) hRo ?_))
      refine wp_nameE _ (fun w7 hw7 => ?_)
      have hG : w7.heap[w6.heap.size]? = some (.cells (hrow RR.1) 35 (0, 0)) := by rw [hw7]; exact setRow_heap _ _ _ _ _ _ (heap_push w6 _ _)
      have hb7 : Below w6.heap.size w6 w7 := by rw [hw7]; exact below_setRow ((Below.refl _ _).alloc (Nat.le_refl _) _) (Nat.le_refl _) _
      clear hw7
      have hb7 := hb6.trans (hb7.mono hb6.size)
      have hD7 := hD5.kept hb7
      have hbel7 := hbel5.trans (hb7.mono hbel5.size)
      clear CCp hD5 hbel5 hb6 hb7 hl5 hb5 hSk hbel
      obtain ⟨r7, hl7⟩ := hD7.symm.left
      refine wp_region_held_drew (S := fun X => Below w7.heap.size w7 X) (by kernel_rfl) ((Below.refl _ _).drew) (fun hS0 => ?_)
      refine wpAnyH_take (i := 0) (v := .pointer (some ⟨g2, 0, none⟩)) rfl (by kernel_rfl) (by kernel_rfl) (by kernel_rfl) (fun _ _ _ h => h) (Yields.yieldsIf (Or.inl ⟨by rfl, fun w9 => by (go_simp; first | done | with_reducible rfl | (intro h9; exfalso; omega))⟩)) hS0 ?_
      change wpAnyH _ _ _ _ _ _ _ (Act.put _ (some 67) _) _; dsimp only [Act.put]; simp only [List.setIfInBounds_toArray, List.set_cons_succ, List.set_cons_zero]
      refine wpAnyH_take (i := 1) (v := .bool false) rfl (by kernel_rfl) (by kernel_rfl) (by kernel_rfl) (fun _ _ _ h => h) (Yields.yieldsIf (Or.inl ⟨by rfl, fun w9 => by (go_simp; first | done | with_reducible rfl | (intro h9; exfalso; omega))⟩)) hS0 ?_
      change wpAnyH _ _ _ _ _ _ _ (Act.put _ (some 68) _) _; dsimp only [Act.put]; simp only [List.setIfInBounds_toArray, List.set_cons_succ, List.set_cons_zero]
      refine wpAnyH_take (i := 2) (v := .bool false) rfl (by kernel_rfl) (by kernel_rfl) (by kernel_rfl) (fun _ _ _ h => h) (Yields.yieldsIf (Or.inl ⟨by rfl, fun w9 => by (go_simp; first | done | with_reducible rfl | (intro h9; exfalso; omega))⟩)) hS0 ?_
      change wpAnyH _ _ _ _ _ _ _ (Act.put _ (some 69) _) _; dsimp only [Act.put]; simp only [List.setIfInBounds_toArray, List.set_cons_succ, List.set_cons_zero]
      refine wpAnyH_take (i := 3) (v := .pointer (some ⟨g2, 0, none⟩)) rfl (by kernel_rfl) (by kernel_rfl) (by kernel_rfl) (fun _ _ _ h => h) (Yields.yieldsIf (Or.inl ⟨by rfl, fun w9 => by (go_simp; first | done | with_reducible rfl | (intro h9; exfalso; omega))⟩)) hS0 ?_
      change wpAnyH _ _ _ _ _ _ _ (Act.put _ (some 70) _) _; dsimp only [Act.put]; simp only [List.setIfInBounds_toArray, List.set_cons_succ, List.set_cons_zero]
      refine wpAnyH_take (i := 5) (v := .agg (hrow RR.1)) rfl (by kernel_rfl) (by kernel_rfl) (by kernel_rfl) (fun _ _ _ h => h) (Or.inl ⟨by rfl, fun w9 hS9 => exec_loadHashD (.tmp 10) rfl w6.heap.size (by first | rfl | simp [Act.eval, Act.put]) RR (range_belowD (hash_rangeD hG) hS9 (row_lt hG))⟩) hS0 ?_
      change wpAnyH _ _ _ _ _ _ _ (Act.put _ (some 72) _) _; dsimp only [Act.put]; simp only [List.setIfInBounds_toArray, List.set_cons_succ, List.set_cons_zero]
      refine wpAnyH_ready (rs := [4]) (by kernel_rfl) (by simp) ?_
      refine AllReadyH.cons rfl (fun K hK => ?_) (fun j hj => by cases hj)
      go_simp
      refine (CRt _ _ _ (hbel7.trans (hS0.mono hbel7.size)) (hl7.kept hS0)).mono ?_
      rintro e w8 ⟨rfl, hb8⟩
      have hS1 := hS0.trans (hb8.mono hS0.size)
      refine (Shut.out hK) _ _ hS1 (fun _ => ?_)
      clear hK K
      refine wpAnyH_take (i := 6) (v := .bool false) rfl (by kernel_rfl) (by kernel_rfl) (by kernel_rfl) (fun _ _ _ h => h) (Yields.yieldsIf (Or.inl ⟨by rfl, fun w9 => by (go_simp; first | done | with_reducible rfl | (intro h9; exfalso; omega))⟩)) hS1 ?_
      change wpAnyH _ _ _ _ _ _ _ (Act.put _ (some 73) _) _; dsimp only [Act.put]; simp only [List.setIfInBounds_toArray, List.set_cons_succ, List.set_cons_zero]
      refine wpAnyH_take (i := 7) (v := .bool false) rfl (by kernel_rfl) (by kernel_rfl) (by kernel_rfl) (fun _ _ _ h => h) (Yields.yieldsIf (Or.inl ⟨by rfl, fun w9 => by (go_simp; first | done | with_reducible rfl | (intro h9; exfalso; omega))⟩)) hS1 ?_
      change wpAnyH _ _ _ _ _ _ _ (Act.put _ (some 74) _) _; dsimp only [Act.put]; simp only [List.setIfInBounds_toArray, List.set_cons_succ, List.set_cons_zero]
      refine wpAnyH_done (by kernel_rfl) ?_ _
      have hD8 := hD7.kept hS1
      have hbel8 := hbel7.trans (hS1.mono hbel7.size)
      have hG8 := cells_of hG hS1 (row_lt hG)
      have hlen2 : (setS R key val).length ≤ 100000 := by have h9 := setS_len R key val; rw [HN.out] at h9; omega
      have CS := hD8.symm.setLK_any hRl9 key val
      have hgd := setS_good hgR key val
      go_upto_region 19 with (first | (go_at_call 13; refine CS.mono ?_; rintro e w10 ⟨rfl, hD10, hb10, hK10⟩; have hG10 := hK10 _ _ _ hG8 (by decide) (by decide); have CDr := hD10.dropLK_any hlen2 ⟨#[97]⟩) | (go_at_call 15; refine CDr.mono ?_; rintro e w11 ⟨rfl, hD11, hb11, hK11⟩; have hG11 := hK11 _ _ _ hG10 (by decide) (by decide); obtain ⟨r11, hl11⟩ := hD11.symm.left; have CP := pairsC_any _ _ r11 R w11 hl11 hRl9) | (go_at_call 19; refine CP.mono ?_; rintro e w12 ⟨v12, rfl, ho12, hb12⟩; rw [HN.out] at ho12; obtain ⟨a5, c5, rfl, _⟩ := own_sliceN ho12))
      have hbel11 := (hbel8.trans hb10).trans hb11
      have hlen3 := dropL_len (setS R key val) ⟨#[97]⟩
      go_wp2
      go_loopw [12] (fun i wr => ∃ j : Nat, j ≤ N ∧ i = .int .i64 j ∧ Below w11.heap.size w11 wr ∧ ∃ xs, wr.ownsRow w11.heap.size 41 2 (.slice a5 N c5) N xs) (fun i _ => N - (intOf i).toNat)
      case atStart => exact ⟨0, Nat.zero_le _, rfl, hb12, _, ho12⟩
      case round =>
        clear hb12 ho12
        obtain ⟨j, hj, rfl, hb12, xs, ho12⟩ := hrel
        by_cases hlt : j < N
        rotate_left
        · obtain rfl : N = j := by omega
          have d2 : decide ((N : Int) < (N : Int)) = false := decide_eq_false (by omega)
          have d2n : decide (N < N) = false := decide_eq_false (by omega)
          obtain ⟨wQ, rfl⟩ : ∃ x, x = wr := ⟨wr, rfl⟩
          have hDw := hD11.kept hb12
          have hbelW := hbel11.trans (hb12.mono hbel11.size)
          have hGw := cells_of hG11 hb12 (row_lt hG11)
          obtain ⟨rs, hls⟩ := hDw.symm.left
          obtain ⟨rc, hlc⟩ := hDw.left
          go_upto_region 23 with fail
          refine wp_region_held_drew (S := fun X => Below wQ.heap.size wQ X) (by kernel_rfl) ((Below.refl _ _).drew) (fun hS0 => ?_)
          refine wpAnyH_take (i := 0) (v := .pointer (some ⟨w2.heap.size, 0, none⟩)) rfl (by kernel_rfl) (by kernel_rfl) (by kernel_rfl) (fun _ _ _ h => h) (Yields.yieldsIf (Or.inl ⟨by rfl, fun w9 => by (go_simp; first | done | with_reducible rfl | (intro h9; exfalso; omega))⟩)) hS0 ?_
          change wpAnyH _ _ _ _ _ _ _ (Act.put _ (some 93) _) _; dsimp only [Act.put]; simp only [List.setIfInBounds_toArray, List.set_cons_succ, List.set_cons_zero]
          refine wpAnyH_take (i := 2) (v := .agg (hrow RR.1)) rfl (by kernel_rfl) (by kernel_rfl) (by kernel_rfl) (fun _ _ _ h => h) (Or.inl ⟨by rfl, fun w9 hS9 => exec_loadHashD (.tmp 10) rfl w6.heap.size (by first | rfl | simp [Act.eval, Act.put]) RR (range_belowD (hash_rangeD hGw) hS9 (row_lt hGw))⟩) hS0 ?_
          change wpAnyH _ _ _ _ _ _ _ (Act.put _ (some 95) _) _; dsimp only [Act.put]; simp only [List.setIfInBounds_toArray, List.set_cons_succ, List.set_cons_zero]
          refine wpAnyH_ready (rs := [1]) (by kernel_rfl) (by simp) ?_
          refine AllReadyH.cons rfl (fun K hK => ?_) (fun j hj => by cases hj)
          go_simp
          refine (CRt _ _ _ (hbelW.trans (hS0.mono hbelW.size)) (hls.kept hS0)).mono ?_
          rintro e w20 ⟨rfl, hb20⟩
          have hS1 := hS0.trans (hb20.mono hS0.size)
          refine (Shut.out hK) _ _ hS1 (fun _ => ?_)
          clear hK K
          refine wpAnyH_take (i := 3) (v := .bool false) rfl (by kernel_rfl) (by kernel_rfl) (by kernel_rfl) (fun _ _ _ h => h) (Yields.yieldsIf (Or.inl ⟨by rfl, fun w9 => by (go_simp; first | done | with_reducible rfl | (intro h9; exfalso; omega))⟩)) hS1 ?_
          change wpAnyH _ _ _ _ _ _ _ (Act.put _ (some 96) _) _; dsimp only [Act.put]; simp only [List.setIfInBounds_toArray, List.set_cons_succ, List.set_cons_zero]
          refine wpAnyH_take (i := 4) (v := .bool false) rfl (by kernel_rfl) (by kernel_rfl) (by kernel_rfl) (fun _ _ _ h => h) (Yields.yieldsIf (Or.inl ⟨by rfl, fun w9 => by (go_simp; first | done | with_reducible rfl | (intro h9; exfalso; omega))⟩)) hS1 ?_
          change wpAnyH _ _ _ _ _ _ _ (Act.put _ (some 97) _) _; dsimp only [Act.put]; simp only [List.setIfInBounds_toArray, List.set_cons_succ, List.set_cons_zero]
          refine wpAnyH_take (i := 5) (v := .pointer (some ⟨w2.heap.size, 0, none⟩)) rfl (by kernel_rfl) (by kernel_rfl) (by kernel_rfl) (fun _ _ _ h => h) (Yields.yieldsIf (Or.inl ⟨by rfl, fun w9 => by (go_simp; first | done | with_reducible rfl | (intro h9; exfalso; omega))⟩)) hS1 ?_
          change wpAnyH _ _ _ _ _ _ _ (Act.put _ (some 98) _) _; dsimp only [Act.put]; simp only [List.setIfInBounds_toArray, List.set_cons_succ, List.set_cons_zero]
          refine wpAnyH_take (i := 7) (v := .slice a2 N c2) rfl (by kernel_rfl) (by kernel_rfl) (by kernel_rfl) (fun _ _ _ h => h) (Yields.yieldsIf (Or.inl ⟨by rfl, fun w9 => by (go_simp; first | done | with_reducible rfl | (intro h9; exfalso; omega))⟩)) hS1 ?_
          change wpAnyH _ _ _ _ _ _ _ (Act.put _ (some 100) _) _; dsimp only [Act.put]; simp only [List.setIfInBounds_toArray, List.set_cons_succ, List.set_cons_zero]
          refine wpAnyH_ready (rs := [6]) (by kernel_rfl) (by simp) ?_
          refine AllReadyH.cons rfl (fun K hK => ?_) (fun j hj => by cases hj)
          go_simp
          refine (pairsC_any _ _ rs R _ (hls.kept hS1) hRl9).mono ?_
          rintro e w21 ⟨v21, rfl, ho21, hb21⟩
          rw [HN.out] at ho21
          obtain ⟨a9, c9, rfl, hr9, _⟩ := own_sliceN ho21
          have hS2 := hS1.trans (hb21.mono hS1.size)
          refine (Shut.out hK) _ _ hS2 (fun _ => ?_)
          clear hK K
          refine wpAnyH_ready (rs := [8]) (by kernel_rfl) (by simp) ?_
          refine AllReadyH.cons rfl (fun K hK => ?_) (fun j hj => by cases hj)
          go_simp
          refine (pairsSame_any a9 N c9 a2 c2 R _ hr9 (hr2.below (hbelW.trans (hS2.mono hbelW.size))) HN.out (by omega)).mono ?_
          rintro e w22 ⟨rfl, hb22⟩
          have hS3 := hS2.trans (hb22.mono hS2.size)
          refine (Shut.out hK) _ _ hS3 (fun _ => ?_)
          clear hK K
          refine wpAnyH_take (i := 9) (v := .bool false) rfl (by kernel_rfl) (by kernel_rfl) (by kernel_rfl) (fun _ _ _ h => h) (Yields.yieldsIf (Or.inl ⟨by rfl, fun w9 => by (go_simp; first | done | with_reducible rfl | (intro h9; exfalso; omega))⟩)) hS3 ?_
          change wpAnyH _ _ _ _ _ _ _ (Act.put _ (some 102) _) _; dsimp only [Act.put]; simp only [List.setIfInBounds_toArray, List.set_cons_succ, List.set_cons_zero]
          refine wpAnyH_take (i := 10) (v := .bool false) rfl (by kernel_rfl) (by kernel_rfl) (by kernel_rfl) (fun _ _ _ h => h) (Yields.yieldsIf (Or.inl ⟨by rfl, fun w9 => by (go_simp; first | done | with_reducible rfl | (intro h9; exfalso; omega))⟩)) hS3 ?_
          change wpAnyH _ _ _ _ _ _ _ (Act.put _ (some 103) _) _; dsimp only [Act.put]; simp only [List.setIfInBounds_toArray, List.set_cons_succ, List.set_cons_zero]
          refine wpAnyH_done (by kernel_rfl) ?_ _
          have hbelX := hbelW.trans (hS3.mono hbelW.size)
          have CGt := getC_any _ g2 rc _ key _ (hlc.kept hS3) (by omega)
          obtain ⟨HC1, HC2⟩ := copy_says hgR (a := ⟨#[97]⟩) hfit
          by_cases hka : key = ⟨#[97]⟩
          · rw [HC1 hka] at CGt
            have e1 : (key.toList == ByteArray.toList ⟨#[97]⟩) = true := tl_eq.2 hka
            have hk97 : key.toList = [97] := by first | (simpa using e1) | (rw [hka]; rfl) | (rw [hka]; decide)
            generalize getV (dropL (setS R key val) ⟨#[97]⟩) key = vv at CGt
            clear HC1 HC2 hka
            clear hlc hls hDw hbelW hGw hD11 hl11 hgd hlen2 hlen3
            have hbZ := hbw2.trans (hbelX.mono hbw2.size)
            go_upto_region 26 with (go_at_call 14; refine CGt.mono ?_; rintro e w30 ⟨rfl, hb30⟩)
            clear CGt
            go_wp2
            all_goals first | (go_ret; exact ⟨by first | rfl | simp, hbZ.trans (hb30.mono hbZ.size)⟩) | (exfalso; first | exact (‹¬ key.toList = [97]›) hk97 | exact hk97 ‹key.toList = [97]›)
          · obtain ⟨h1, h2⟩ := HC2 hka
            rw [h1, h2] at CGt
            have e1 : (key.toList == ByteArray.toList ⟨#[97]⟩) = false := by cases hq : (key.toList == ByteArray.toList ⟨#[97]⟩); rfl; exact absurd (tl_eq.1 hq) hka
            have hk97 : ¬ key.toList = [97] := by first | (simpa using e1) | (intro e; exact hka (tl_eq.1 (by rw [e]; rfl)))
            clear HC1 HC2 h1 h2 hka
            clear hlc hls hDw hbelW hGw hD11 hl11 hgd hlen2 hlen3
            have hbZ := hbw2.trans (hbelX.mono hbw2.size)
            go_upto_region 26 with (go_at_call 14; refine CGt.mono ?_; rintro e w30 ⟨rfl, hb30⟩)
            clear CGt
            go_wp2
            all_goals first | (go_ret; exact ⟨by first | rfl | simp, hbZ.trans (hb30.mono hbZ.size)⟩) | (exfalso; first | exact (‹¬ key.toList = [97]›) hk97 | exact hk97 ‹key.toList = [97]›)
        obtain ⟨b5, c9, e5⟩ := own_formS ho12 (by omega)
        simp only [Value.slice.injEq, true_and] at e5
        obtain ⟨rfl, rfl⟩ := e5
        have hxl := ho12.1
        have f0 := ho12.frozenAt (j * 2)
        obtain ⟨u0, hu0⟩ : ∃ u, xs[j * 2]? = some u := ⟨_, List.getElem?_eq_getElem (by omega)⟩
        have c0 := (ho12.cellAt (j * 2) (by omega)).trans hu0
        have hbb := ((ho12.lt b5 rfl).1)
        have d2 : decide ((j : Int) < (N : Int)) = true := decide_eq_true (by omega)
        have d2n : decide (j < N) = true := decide_eq_true hlt
        have k0 : (0 : Int) ≤ (j : Int) := by omega
        have k1 : (j : Int) < (N : Int) := by omega
        have k2 : ((j : Nat) : Int).toNat = j := by omega
        go_wp2
        go_roundw
        case rel => exact ⟨j + 1, by omega, by go_num, hb12.setCell hbb _, _, own_put ho12 (j * 2) _⟩
        case measure => (simp [intOf]) <;> omega
    have hkl : k < R.length := by rw [HN.out]; exact hlt
    obtain ⟨b1, o1, rfl, hb1x, hg1⟩ := pr_range hr2 hkl
    have hnx := setS_next hgR hkl
    obtain ⟨⟨pk, pv⟩, hp9⟩ : ∃ p, R[k] = p := ⟨_, rfl⟩
    rw [hp9] at hg1 hnx
    simp only [] at hnx
    have q0 : w2.cell? ⟨b1, o1 + k * 2, none⟩ = some (.string pk) := hg1 0 _ rfl
    have q1 : w2.cell? ⟨b1, o1 + k * 2 + 1, none⟩ = some (.string pv) := hg1 1 _ rfl
    have CS := fun W (h : StC W w2.heap.size w2.heap.size r (R.take k)) => setC_any _ _ r (R.take k) pk pv W h (by rw [List.length_take]; omega)
    rw [hnx] at CS
    obtain ⟨er, her⟩ : ∃ e, setE pk pv = e := ⟨_, rfl⟩
    simp only [her] at CS
    clear hp9 hnx her hg1
    have d1 : decide ((k : Int) < (N : Int)) = true := decide_eq_true (by omega)
    have d1n : decide (k < N) = true := decide_eq_true hlt
    have k0 : (0 : Int) ≤ (k : Int) := by omega
    have k1 : (k : Int) < (N : Int) := by omega
    have k2 : ((k : Nat) : Int).toNat = k := by omega
    go_upto_region 12 with fail
    refine wp_region_held_drew (S := fun X => Below w2.heap.size w2 X) (by kernel_rfl) (hbel.drew) (fun hS0 => ?_)
    refine wpAnyH_take (i := 0) (v := .pointer (some ⟨w2.heap.size, 0, none⟩)) rfl (by kernel_rfl) (by kernel_rfl) (by kernel_rfl) (fun _ _ _ h => h) (Yields.yieldsIf (Or.inl ⟨by rfl, fun w9 => by (go_simp; first | done | with_reducible rfl | (intro h9; exfalso; omega))⟩)) hS0 ?_
    change wpAnyH _ _ _ _ _ _ _ (Act.put _ (some 51) _) _; dsimp only [Act.put]; simp only [List.setIfInBounds_toArray, List.set_cons_succ, List.set_cons_zero]
    refine wpAnyH_take (i := 1) (v := .slice (some ⟨b1, o1, none⟩) N c2) rfl (by kernel_rfl) (by kernel_rfl) (by kernel_rfl) (fun _ _ _ h => h) (Yields.yieldsIf (Or.inl ⟨by rfl, fun w9 => by (go_simp; first | done | with_reducible rfl | (intro h9; exfalso; omega))⟩)) hS0 ?_
    change wpAnyH _ _ _ _ _ _ _ (Act.put _ (some 52) _) _; dsimp only [Act.put]; simp only [List.setIfInBounds_toArray, List.set_cons_succ, List.set_cons_zero]
    refine wpAnyH_take (i := 2) (v := .int .i64 (k : Int)) rfl (by kernel_rfl) (by kernel_rfl) (by kernel_rfl) (fun _ _ _ h => h) (Yields.yieldsIf (Or.inl ⟨by rfl, fun w9 => by (go_simp; first | done | with_reducible rfl | (intro h9; exfalso; omega))⟩)) hS0 ?_
    change wpAnyH _ _ _ _ _ _ _ (Act.put _ (some 53) _) _; dsimp only [Act.put]; simp only [List.setIfInBounds_toArray, List.set_cons_succ, List.set_cons_zero]
    refine wpAnyH_take (i := 3) (v := .pointer (some ⟨b1, o1 + k * 2, none⟩)) rfl (by kernel_rfl) (by kernel_rfl) (by kernel_rfl) (fun _ _ _ h => h) (Yields.yieldsIf (Or.inl ⟨by rfl, fun w9 => by (go_simp; first | done | with_reducible rfl | (intro h9; exfalso; omega))⟩)) hS0 ?_
    change wpAnyH _ _ _ _ _ _ _ (Act.put _ (some 54) _) _; dsimp only [Act.put]; simp only [List.setIfInBounds_toArray, List.set_cons_succ, List.set_cons_zero]
    refine wpAnyH_take (i := 4) (v := .pointer (some ⟨b1, o1 + k * 2, none⟩)) rfl (by kernel_rfl) (by kernel_rfl) (by kernel_rfl) (fun _ _ _ h => h) (Yields.yieldsIf (Or.inl ⟨by rfl, fun w9 => by (go_simp; first | done | with_reducible rfl | (intro h9; exfalso; omega))⟩)) hS0 ?_
    change wpAnyH _ _ _ _ _ _ _ (Act.put _ (some 55) _) _; dsimp only [Act.put]; simp only [List.setIfInBounds_toArray, List.set_cons_succ, List.set_cons_zero]
    refine wpAnyH_take (i := 5) (v := .string pk) rfl (by kernel_rfl) (by kernel_rfl) (by kernel_rfl) (fun _ _ _ h => h) (Or.inl ⟨by rfl, fun w9 hS9 => by have hc9 := (hS9.cell hb1x).trans q0; go_simp; try with_reducible rfl⟩) hS0 ?_
    change wpAnyH _ _ _ _ _ _ _ (Act.put _ (some 56) _) _; dsimp only [Act.put]; simp only [List.setIfInBounds_toArray, List.set_cons_succ, List.set_cons_zero]
    refine wpAnyH_take (i := 6) (v := .slice (some ⟨b1, o1, none⟩) N c2) rfl (by kernel_rfl) (by kernel_rfl) (by kernel_rfl) (fun _ _ _ h => h) (Yields.yieldsIf (Or.inl ⟨by rfl, fun w9 => by (go_simp; first | done | with_reducible rfl | (intro h9; exfalso; omega))⟩)) hS0 ?_
    change wpAnyH _ _ _ _ _ _ _ (Act.put _ (some 57) _) _; dsimp only [Act.put]; simp only [List.setIfInBounds_toArray, List.set_cons_succ, List.set_cons_zero]
    refine wpAnyH_take (i := 7) (v := .int .i64 (k : Int)) rfl (by kernel_rfl) (by kernel_rfl) (by kernel_rfl) (fun _ _ _ h => h) (Yields.yieldsIf (Or.inl ⟨by rfl, fun w9 => by (go_simp; first | done | with_reducible rfl | (intro h9; exfalso; omega))⟩)) hS0 ?_
    change wpAnyH _ _ _ _ _ _ _ (Act.put _ (some 58) _) _; dsimp only [Act.put]; simp only [List.setIfInBounds_toArray, List.set_cons_succ, List.set_cons_zero]
    refine wpAnyH_take (i := 8) (v := .pointer (some ⟨b1, o1 + k * 2, none⟩)) rfl (by kernel_rfl) (by kernel_rfl) (by kernel_rfl) (fun _ _ _ h => h) (Yields.yieldsIf (Or.inl ⟨by rfl, fun w9 => by (go_simp; first | done | with_reducible rfl | (intro h9; exfalso; omega))⟩)) hS0 ?_
    change wpAnyH _ _ _ _ _ _ _ (Act.put _ (some 59) _) _; dsimp only [Act.put]; simp only [List.setIfInBounds_toArray, List.set_cons_succ, List.set_cons_zero]
    refine wpAnyH_take (i := 9) (v := .pointer (some ⟨b1, o1 + k * 2 + 1, none⟩)) rfl (by kernel_rfl) (by kernel_rfl) (by kernel_rfl) (fun _ _ _ h => h) (Yields.yieldsIf (Or.inl ⟨by rfl, fun w9 => by (go_simp; first | done | with_reducible rfl | (intro h9; exfalso; omega))⟩)) hS0 ?_
    change wpAnyH _ _ _ _ _ _ _ (Act.put _ (some 60) _) _; dsimp only [Act.put]; simp only [List.setIfInBounds_toArray, List.set_cons_succ, List.set_cons_zero]
    refine wpAnyH_take (i := 10) (v := .string pv) rfl (by kernel_rfl) (by kernel_rfl) (by kernel_rfl) (fun _ _ _ h => h) (Or.inl ⟨by rfl, fun w9 hS9 => by have hc9 := (hS9.cell hb1x).trans q1; go_simp; try with_reducible rfl⟩) hS0 ?_
    change wpAnyH _ _ _ _ _ _ _ (Act.put _ (some 61) _) _; dsimp only [Act.put]; simp only [List.setIfInBounds_toArray, List.set_cons_succ, List.set_cons_zero]
    refine wpAnyH_ready (rs := [11]) (by kernel_rfl) (by simp) ?_
    refine AllReadyH.cons rfl (fun K hK => ?_) (fun j hj => by cases hj)
    go_simp
    refine (CS _ (hSk.kept ((Below.refl _ _).drew))).mono ?_
    rintro e w5 ⟨rfl, r5, hS5, hf5, _⟩
    have hS1 := hS0.trans (hf5.below (Nat.le_refl _) (fun k e => (hSk.row k e).1) hS0.size)
    refine (Shut.out hK) _ _ hS1 (fun _ => ?_)
    clear hK K
    refine wpAnyH_done (by kernel_rfl) ?_ _
    go_wp2
    go_roundw
    case rel => exact ⟨k + 1, by omega, by go_num, hS1, r5, hS5⟩
    case measure => (simp [intOf]) <;> omega
end Go.Proofs.YtpledhipdiephaaDoor
