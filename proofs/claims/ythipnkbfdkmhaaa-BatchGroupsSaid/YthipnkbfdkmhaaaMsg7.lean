/- What a message costs. -/
import Derived.Test.YthipnkbfdkmhaaaMsg6
import Derived.BigQuiet
import Derived.WalkKit
import Derived.ProofKit
import Derived.Handy
import Derived.Below
import Derived.Lib.Hide
import Derived.IntWalk
import Derived.Outline
import Derived.WalkLawsBesides
import Derived.WalkSpells
namespace Go.Proofs.Ythipnkbfdkmhaaa
open Go.RowKit
attribute [local go_sem] strV
set_option linter.unusedVariables false

def priceM (m : MsgV) : Int := if (msgS m).size = 0 then 0 else 1000 + 3 * ((msgS m).size : Int) + 50 * ((stepsD m.pxs : Int) + (stepsD m.cxs : Int))
set_option maxRecDepth 100000 in
set_option maxHeartbeats 2000000 in
theorem price_any (m : MsgV) (w : World) (hm : m.ok w) (hs : (msgS m).size ≤ 10000) (hp : m.pn ≤ 5) (hc : m.cn ≤ 5) (hpp : ∀ x ∈ m.pxs, x.path.length ≤ 40) (hcp : ∀ x ∈ m.cxs, x.path.length ≤ 40) (sp : stepsD m.pxs ≤ 1000) (sc : stepsD m.cxs ≤ 1000) :
    Calls Try.prog 34 #[.agg m.row] w fun e w' => e = .returned (.int .i64 (priceM m)) ∧ Below w.heap.size w w' := by
  have CS := fun W (hb : Below w.heap.size w W) => msgSize_any m W (hm.below hb)
  have CP := fun W (hb : Below w.heap.size w W) => steps_any m.pct m.pa m.pn m.pc m.pxs W (hm.p.below hb) hm.plen hp hpp
  have CC := fun W (hb : Below w.heap.size w W) => steps_any m.cct m.ca m.cn m.cc m.cxs W (hm.c.below hb) hm.clen hc hcp
  obtain ⟨s, es⟩ : ∃ s, (msgS m).size = s := ⟨_, rfl⟩
  obtain ⟨a, ea⟩ : ∃ s, stepsD m.pxs = s := ⟨_, rfl⟩
  obtain ⟨b, eb⟩ : ∃ s, stepsD m.cxs = s := ⟨_, rfl⟩
  have hP : priceM m = if s = 0 then 0 else 1000 + 3 * (s : Int) + 50 * ((a : Int) + (b : Int)) := by unfold priceM; rw [es, ea, eb]
  rw [hP]
  simp only [es] at CS hs
  simp only [ea] at CP sp
  simp only [eb] at CC sc
  clear es ea eb hP
  go_enter Try.func34, Try.ntmps34
  go_upto_region 1 with fail
  refine wp_nameE _ (fun W1 hX => ?_)
  have hg : W1.heap[w.heap.size]? = some (.cells m.row 34 (0, 0)) := by rw [hX]; exact heap_push _ _ _
  have hbel : Below w.heap.size w W1 := by rw [hX]; exact Below.alloc (Below.refl _ _) (Nat.le_refl _) _
  clear hX
  have hgl : w.heap.size < W1.heap.size := (Array.getElem?_eq_some_iff.1 hg).1
  go_upto_region 2 with (first | (refine wpList_load_mid rfl 34 (.tmp 1) rfl w.heap.size 0 rfl m.row.toList _ (rangeAt_row5 hg) Try.underlying34 rfl (msg_info _) ?_; rw [Array.toArray_toList]) | (go_at_call 26; refine (CS _ hbel).mono ?_; rintro e w2 ⟨rfl, hb⟩; have hg := cells_of hg hb hgl; have hgl := Nat.lt_of_lt_of_le hgl hb.size; have hbel := hbel.trans (hb.mono hbel.size); clear hb))
  refine wp_nameE _ (fun W2 hX => ?_)
  have hg2 : W2.heap[w.heap.size]? = some (.cells m.row 34 (0, 0)) := by rw [hX]; exact hg
  have hbel2 : Below w.heap.size w W2 := by rw [hX]; exact hbel
  have hgl2 : w.heap.size < W2.heap.size := (Array.getElem?_eq_some_iff.1 hg2).1
  clear hX hg hgl hbel CS
  by_cases h0 : s = 0
  · have d0 : (((s : Nat) : Int) == 0) = true := by rw [h0]; rfl
    subst h0
    go_wp2
    go_ret
    exact ⟨by first | rfl | simp, hbel2⟩
  have d0 : (((s : Nat) : Int) == 0) = false := beq_eq_false_iff_ne.2 (by omega)
  go_upto_region 4 with fail
  have z : ∀ n : Beyond W2, n.x.cell? ⟨w.heap.size, 46, none⟩ = some (.int .i64 m.pct) ∧ n.x.cell? ⟨w.heap.size, 47, none⟩ = some (.slice m.pa m.pn m.pc) ∧ n.x.cell? ⟨w.heap.size, 48, none⟩ = some (.int .i64 m.cct) ∧ n.x.cell? ⟨w.heap.size, 49, none⟩ = some (.slice m.ca m.cn m.cc) := fun n => by
    have h := msg_cells (cells_of hg2 n.h hgl2)
    exact ⟨h.2.2.2.2.2.2.2.2.2.2.2.2.2.2.1, h.2.2.2.2.2.2.2.2.2.2.2.2.2.2.2.1, h.2.2.2.2.2.2.2.2.2.2.2.2.2.2.2.2.1, h.2.2.2.2.2.2.2.2.2.2.2.2.2.2.2.2.2⟩
  have z0 := fun n => (z n).1
  have z1 := fun n => (z n).2.1
  have z2 := fun n => (z n).2.2.1
  have z3 := fun n => (z n).2.2.2
  clear z
  refine wp_region_below (by kernel_rfl) (by kernel_rfl) ?_
  repeat (go_big_quiet_step (first | (go_at_call 37; with_reducible exact quiet_below (CP _ (hbel2.trans ((Beyond.h _).mono hbel2.size)))) | (go_at_call 37; with_reducible exact quiet_below (CC _ (hbel2.trans ((Beyond.h _).mono hbel2.size))))))
  intro w9 hw9
  have hb := beyond_below hw9
  have hbel := hbel2.trans (hb.mono hbel2.size)
  go_wp2
  go_ret
  exact ⟨by first | rfl | simp, hbel⟩
theorem msgBy_len {m : MsgV} (h : mayMsgB m = true) : (msgBy m).length ≤ 6000 := by
  obtain ⟨_, _, hR⟩ := may_kd h
  have a1 := putL_len' m.hh; have a2 := putL_len' m.ht; have a3 := putL_len' m.he; have a4 := putL_len' m.nx; have a5 := putL_len' (m.ack.size : Int)
  have b1 := putL_len' 1; have b2 := putL_len' 2; have b3 := putL_len' 3; have b4 := putL_len' 4; have b5 := putL_len' 5
  have r := m.rt.2
  by_cases k1 : m.kd = 1
  · unfold msgBy
    rw [if_pos k1]
    simp only [List.length_append]
    omega
  obtain ⟨ya, hK, _, _, _, _, hP, hC⟩ := rest_2 k1 hR
  obtain ⟨z1, z2, z3, _⟩ := mayK_boundsM hK
  have zpk := pkBy_len m.sp m.sc m.dp m.dc m.sq m.da m.th m.ta z1 z2 z3
  have zp := pfBy_len hP
  have zc := pfBy_len hC
  unfold msgBy
  rw [if_neg k1]
  split
  · simp only [List.length_append]; omega
  split
  · have := ya (by assumption); simp only [List.length_append, str_len]; omega
  split
  · simp only [List.length_append]; omega
  simp only [List.length_append]; omega
theorem msgS_le (m : MsgV) : (msgS m).size ≤ 6000 := by
  unfold msgS
  split
  · have h := msgBy_len (m := m) (by assumption)
    show (msgBy m).toArray.size ≤ _
    rwa [List.size_toArray]
  · exact Nat.zero_le _
theorem light_pf {xs : List LeafV} (h : lightPf xs = true) : xs.length ≤ 5 ∧ (∀ x ∈ xs, x.path.length ≤ 40) ∧ stepsD xs ≤ 205 := by
  unfold lightPf at h
  rw [Bool.and_eq_true, decide_eq_true_eq, List.all_eq_true] at h
  have hp : ∀ x ∈ xs, x.path.length ≤ 40 := fun x hx => by
    have := h.2 x hx
    unfold lightLeaf at this
    simp only [Bool.and_eq_true, decide_eq_true_eq] at this
    omega
  refine ⟨h.1, hp, ?_⟩
  have hs : ∀ l : List LeafV, (∀ x ∈ l, x.path.length ≤ 40) → (l.map fun x => x.path.length).sum ≤ l.length * 40 := fun l => by
    induction l with
    | nil => intro _; simp
    | cons y l ih =>
      intro h
      have h1 := h y (List.mem_cons_self ..)
      have h2 := ih fun z hz => h z (List.mem_cons_of_mem _ hz)
      rw [List.map_cons, List.sum_cons, List.length_cons]
      omega
  have := hs xs hp
  unfold stepsD
  omega
theorem light_msg {m : MsgV} (h : lightM m = true) : m.ack.size ≤ 100 ∧ lightPf m.pxs = true ∧ lightPf m.cxs = true := by
  unfold lightM at h
  simp only [Bool.and_eq_true, decide_eq_true_eq] at h
  exact ⟨by omega, h.1.2, h.2⟩
theorem price_light (m : MsgV) (w : World) (hm : m.ok w) (hl : lightM m = true) :
    Calls Try.prog 34 #[.agg m.row] w fun e w' => e = .returned (.int .i64 (priceM m)) ∧ Below w.heap.size w w' := by
  obtain ⟨_, l2, l3⟩ := light_msg hl
  obtain ⟨p1, p2, p3⟩ := light_pf l2
  obtain ⟨c1, c2, c3⟩ := light_pf l3
  exact price_any m w hm (by have := msgS_le m; omega) (by rw [← hm.plen]; exact p1) (by rw [← hm.clen]; exact c1) p2 c2 (by omega) (by omega)
end Go.Proofs.Ythipnkbfdkmhaaa
