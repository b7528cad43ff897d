/- The document's cut walked. -/
import Derived.Test.YthipnkbfdkmhaaaSI
import Derived.Test.YthipnkbfdkmhaaaSH
import Derived.Test.YthipnkbfdkmhaaaSF
import Derived.BigRegion
import Derived.RegionTactic
import Derived.BigQuiet
import Derived.Deep.QuietTactic
import Derived.Deep.MidRow
import Derived.Deep.CutRange
import Derived.LoopTactic
import Derived.BigFrame
import Derived.Maps.OwnOps
import Derived.Deep.AppendLies
import Derived.WalkKit
import Derived.ProofKit
import Derived.Handy
import Derived.Below
import Derived.Lib.Hide
import Derived.IntWalk
import Derived.Outline
import Derived.WalkLawsBesides
import Derived.WalkSpells
namespace Go.Proofs.Ythipnkbfdkmhaaa
open Go.RowKit
attribute [local go_sem] strV
set_option linter.unusedVariables false
theorem refK_some {l : Int × Int × Int} {up : List MsgV} {gs : List Int} {ms : List MsgV} {k : Nat} {m : MsgV} (h : ms[k]? = some m) : refK l up gs ms (k + 1) = refStep l (up.take 1) (rawG gs ms.length k) (refK l up gs ms k) k m := by
  show (match ms[k]? with | some m => refStep l (up.take 1) (rawG gs ms.length k) (refK l up gs ms k) k m | none => refK l up gs ms k) = _
  rw [h]
theorem refK_none {l : Int × Int × Int} {up : List MsgV} {gs : List Int} {ms : List MsgV} {k : Nat} (h : ms[k]? = none) : refK l up gs ms (k + 1) = refK l up gs ms k := by
  show (match ms[k]? with | some m => refStep l (up.take 1) (rawG gs ms.length k) (refK l up gs ms k) k m | none => refK l up gs ms k) = _
  rw [h]
theorem refK_len (l : Int × Int × Int) (up : List MsgV) (gs : List Int) (ms : List MsgV) : ∀ k, (refK l up gs ms k).sk.length ≤ k ∧ (refK l up gs ms k).lost.length ≤ k ∧ (refK l up gs ms k).now.length ≤ k ∧ (refK l up gs ms k).txs.length ≤ k ∧ (refK l up gs ms k).cur.length ≤ k + 1 := by
  intro k
  induction k with
  | zero => exact ⟨Nat.le_refl _, Nat.le_refl _, Nat.le_refl _, Nat.le_refl _, by show (up.take 1).length ≤ _; rw [List.length_take]; omega⟩
  | succ k ih =>
    cases hm : ms[k]? with
    | none => rw [refK_none hm]; omega
    | some m =>
      rw [refK_some hm]
      obtain ⟨S, hS⟩ : ∃ S, refK l up gs ms k = S := ⟨_, rfl⟩
      rw [hS] at ih ⊢
      unfold refStep
      split
      · dsimp only; rw [List.length_append, List.length_append, List.length_singleton, List.length_singleton]; omega
      · split
        · dsimp only; rw [List.length_append, List.length_singleton, List.length_singleton, List.length_singleton]; omega
        · dsimp only; rw [List.length_append, List.length_append, List.length_singleton, List.length_singleton]; omega
theorem refK_cur (l : Int × Int × Int) (up : List MsgV) (gs : List Int) (ms : List MsgV) : ∀ k, ∀ m ∈ (refK l up gs ms k).cur, m ∈ up ∨ m ∈ ms := by
  intro k
  induction k with
  | zero => intro m hm; exact .inl (List.mem_of_mem_take hm)
  | succ k ih =>
    cases hm : ms[k]? with
    | none => rw [refK_none hm]; exact ih
    | some m =>
      have hmm : m ∈ ms := List.mem_of_getElem? hm
      rw [refK_some hm]
      unfold refStep
      split
      · exact ih
      · split
        · intro x hx; rcases List.mem_singleton.1 hx with rfl; exact .inr hmm
        · intro x hx
          rcases List.mem_append.1 hx with hx | hx
          · exact ih x hx
          · rcases List.mem_singleton.1 hx with rfl; exact .inr hmm
theorem raw_wf {gs : List Int} (h : ∀ z ∈ gs, (Lit.int .i64 z).wf = true) (n i : Nat) : (Lit.int .i64 (rawG gs n i)).wf = true := by
  unfold rawG
  split
  · rw [List.getD]
    cases hg : gs[i]? with
    | none => decide
    | some z => exact h z (List.mem_of_getElem? hg)
  · decide
theorem own_sliceN {w : World} {base : Nat} {e : TypeId} {size n : Nat} {v : Value} {xs : List Value} (h : w.ownsRow base e size v n xs) :
    ∃ a cap, v = .slice a n cap ∧ RowAt w a xs ∧ n ≤ cap ∧ cap ≤ maxLen ∧ (a = none → n = 0 ∧ cap = 0) := by
  obtain ⟨a, cap, hv, hr, _⟩ := RowAt.own h
  obtain ⟨h1, h2⟩ := h
  refine ⟨a, cap, hv, hr, ?_⟩
  rcases h2 with ⟨q1, q2⟩ | ⟨g, cap', cur, q1, q4, _, q2, q3, _⟩
  · rw [q1] at hv
    simp only [Value.slice.injEq] at hv
    obtain ⟨r0, r1, r2⟩ := hv
    exact ⟨by omega, by rw [← r2]; exact Nat.zero_le _, fun _ => ⟨by omega, by omega⟩⟩
  · rw [q1] at hv
    simp only [Value.slice.injEq] at hv
    obtain ⟨r0, _, r2⟩ := hv
    exact ⟨by omega, by omega, fun e => by rw [e] at r0; cases r0⟩
theorem take_rows {w : World} {a : Option Addr} {ms : List MsgV} (h : RowAt w a (ms.flatMap MsgV.cellsL)) (k : Nat) : RowAt w a ((ms.take k).flatMap MsgV.cellsL) := by
  have h2 := h.take ((ms.take k).flatMap MsgV.cellsL).length
  have h3 : (ms.flatMap MsgV.cellsL).take ((ms.take k).flatMap MsgV.cellsL).length = (ms.take k).flatMap MsgV.cellsL := by
    conv => lhs; rw [← List.take_append_drop k ms, List.flatMap_append]
    rw [List.take_append_drop, List.take_left']
    rfl
  rwa [h3] at h2
theorem refFitsW_any (lg lb lc : Int) {a : Option Addr} {n cap : Nat} {ms : List MsgV} {w : World} (hr : RowAt w a (ms.flatMap MsgV.cellsL)) (hok : ∀ m ∈ ms, m.ok w) (hl : ∀ m ∈ ms, lightM m = true) (hn : ms.length = n) :
    Calls Try.prog 44 #[.agg #[.int .i64 (lg), .int .i64 (lb), .int .i64 (lc)], .slice a n cap] w fun e w' => e = .returned (.bool (fitsW (lg, lb, lc) ms)) ∧ Below w.heap.size w w' := by
  rw [← fits_same]
  exact refFits_any lg lb lc a n cap ms w hr hok hl hn
def refPost (l : Int × Int × Int) (up ms : List MsgV) (gs : List Int) (w : World) (e : Ending) (w' : World) : Prop :=
  ∃ (a1 a2 : Option Addr) (c1 c2 : Nat) (vs : List Value), e = .returned (.tuple #[.slice a1 (cutF l up ms gs).1.length c1, .slice a2 (cutF l up ms gs).2.length c2]) ∧ LL w' a1 (cutF l up ms gs).1 vs ∧ (cutF l up ms gs).1.length ≤ maxLen ∧ RowAt w' a2 ((cutF l up ms gs).2.map (Value.int .i64)) ∧ (cutF l up ms gs).2.length ≤ maxLen ∧ Below w.heap.size w w'
theorem ref_end {l : Int × Int × Int} {up ms : List MsgV} {gs : List Int} {w wf : World} {base cn : Nat} {tv sv lv nv cv : Value} {vs : List Value} {lo now : List Int} {cs : List Value} {txs : List (List Int)} {sk : List Int}
    (hF : Fam wf base tv sv lv nv cv vs txs sk lo now cs cn) (ht : txs = (cutF l up ms gs).1) (hs : sk = (cutF l up ms gs).2) (hb : Below w.heap.size w wf) : refPost l up ms gs w (.returned (.tuple #[tv, sv])) wf := by
  obtain ⟨⟨a1, c1, rfl, hL, hm⟩, a2, c2, rfl, hr, hm2⟩ := hF.ll
  subst ht hs
  exact ⟨a1, a2, c1, c2, vs, rfl, hL, hm, hr, hm2, hb⟩
theorem row_lt {w : World} {g : Nat} {X : Obj} (h : w.heap[g]? = some X) : g < w.heap.size := (Array.getElem?_eq_some_iff.1 h).1
set_option maxRecDepth 100000 in
set_option maxHeartbeats 12800000 in
theorem refCut_any (lg lb lc : Int) (a : Option Addr) (n cap : Nat) (up : List MsgV) (b : Option Addr) (n2 cap2 : Nat) (ms : List MsgV) (c : Option Addr) (n3 cap3 : Nat) (gs : List Int) (w : World)
    (hu : RowAt w a (up.flatMap MsgV.cellsL)) (hun : up.length = n) (hucap : n ≤ cap) (hucm : cap ≤ maxLen) (hua : a = none → n = 0 ∧ cap = 0) (huo : ∀ m ∈ up, m.ok w) (hul : ∀ m ∈ up, lightM m = true)
    (hr : RowAt w b (ms.flatMap MsgV.cellsL)) (hn : ms.length = n2) (hok : ∀ m ∈ ms, m.ok w) (hl : ∀ m ∈ ms, lightM m = true) (h70 : n2 ≤ 70)
    (hg : RowAt w c (gs.map (Value.int .i64))) (hgn : gs.length = n3) (hgw : ∀ z ∈ gs, (Lit.int .i64 z).wf = true) (hgm : n3 ≤ maxLen) :
    Calls Try.prog 40 #[.agg #[.int .i64 (lg), .int .i64 (lb), .int .i64 (lc)], .slice a n cap, .slice b n2 cap2, .slice c n3 cap3] w fun e w' => refPost (lg, lb, lc) up ms gs w e w' := by
  have HN := Lib.hid hn
  have HGN := Lib.hid hgn
  unfold maxLen at hucm hgm
  obtain ⟨M, hM⟩ : ∃ M, min n 1 = M := ⟨_, rfl⟩
  have hMi : min (n : Int) 1 = (M : Int) := by omega
  have hMn : M ≤ n := by omega
  have hMc : M ≤ cap := by omega
  have hM1 : M ≤ 1 := by omega
  have HU : Hid ((up.take 1).length = M) := Lib.hid (by rw [List.length_take]; omega)
  have huU := take_rows hu 1
  have hUo : ∀ m ∈ up.take 1, m.ok w := fun m hm => huo m (List.mem_of_mem_take hm)
  have hUl : ∀ m ∈ up.take 1, lightM m = true := fun m hm => hul m (List.mem_of_mem_take hm)
  have hcurO : ∀ k, ∀ m ∈ (refK (lg, lb, lc) up gs ms k).cur, m.ok w ∧ lightM m = true := fun k m hm => by
    rcases refK_cur (lg, lb, lc) up gs ms k m hm with h | h
    · exact ⟨huo m h, hul m h⟩
    · exact ⟨hok m h, hl m h⟩
  obtain ⟨U, hU⟩ : ∃ U, up.take 1 = U := ⟨_, rfl⟩
  have HUT := Lib.hid hU
  rw [hU] at HU huU hUo hUl
  have hMa : a = none → M = 0 ∧ cap = 0 := fun e => ⟨by have := (hua e).1; omega, (hua e).2⟩
  clear hM hn hgn hu hun huo hul hU
  have hz0 := heap_push w #[.int .i64 (lg), .int .i64 (lb), .int .i64 (lc)] 58
  have hb0 : Below w.heap.size w (w.alloc (.cells #[.int .i64 (lg), .int .i64 (lb), .int .i64 (lc)] 58)) := Below.alloc (Below.refl _ _) (Nat.le_refl _) _
  obtain ⟨i0, hi, hzI, hsI, hbI⟩ := info_parts Try.infoI
  obtain ⟨iS, hiS, hzS, hsS, hbS⟩ := info_parts Try.infoS
  have CW := fun W (hb : Below w.heap.size w W) (m : MsgV) => with_any a M cap U m W (huU.below hb) HU.out (by omega) hMa
  have C1 := fun W (hb : Below w.heap.size w W) => with1_any a M cap U W (huU.below hb) HU.out (by omega) hMa
  go_enter Try.func40, Try.ntmps40
  go_upto_region 1 with fail
  refine wp_nameE _ (fun W1 hX => ?_)
  have hL : W1.heap[w.heap.size]? = some (.cells #[.int .i64 (lg), .int .i64 (lb), .int .i64 (lc)] 58 (0, 0)) := by rw [hX]; exact hz0
  have hbel : Below w.heap.size w W1 := by rw [hX]; exact hb0
  clear hX hz0 hb0
  have hLl : w.heap.size < W1.heap.size := row_lt hL
  go_upto_region 6 with (go_at_call 90; refine (C1 _ hbel).mono ?_; rintro e w3 ⟨cv0, rfl, hown3, hb3⟩)
  have hL := cells_of hL hb3 hLl
  have hbel := hbel.trans (hb3.mono hbel.size)
  obtain ⟨base, hbase⟩ : ∃ b, W1.heap.size = b := ⟨_, rfl⟩
  rw [hbase] at hown3 hLl hb3
  have hbw := hb3.size
  rw [hbase] at hbw
  clear hb3 C1 hbase
  go_loopw [10, 11, 12, 13, 14, 15] (fun tv sv nv lv cv i wr => ∃ (k : Nat) (vs : List Value) (S : RefS), k ≤ n2 ∧ i = .int .i64 k ∧ Hid (S = refK (lg, lb, lc) up gs ms k) ∧ Fam wr base tv sv lv nv cv vs S.txs S.sk S.lost S.now (S.cur.flatMap MsgV.cellsL) S.cur.length ∧ wr.heap[w.heap.size]? = some (.cells #[.int .i64 (lg), .int .i64 (lb), .int .i64 (lc)] 58 (0, 0)) ∧ base ≤ wr.heap.size ∧ Below w.heap.size w wr) (fun _ _ _ _ _ i _ => n2 - (intOf i).toNat)
  case atStart => exact ⟨0, [], ⟨[], [], [], U, []⟩, Nat.zero_le _, rfl, Lib.hid (by unfold refK; rw [HUT.out]), Fam.nil hown3, hL, hbw, hbel⟩
  case round =>
    clear hbel hL hown3 hbw
    obtain ⟨k, vs, S, hk, rfl, HS, hF, hL, hbw, hbel⟩ := hrel
    obtain ⟨hz1, hz2, hz3, hz4, hz5⟩ := refK_len (lg, lb, lc) up gs ms k
    have hcO := hcurO k
    rw [← HS.out] at hz1 hz2 hz3 hz4 hz5 hcO
    obtain ⟨an, cn9, rfl, hrn, hn1, hn2, _⟩ := own_slice hF.n.1
    obtain ⟨nN, hnN⟩ : ∃ x, S.now.length = x := ⟨_, rfl⟩
    rw [hnN] at hn1 hz3
    have hnv : Value.slice an S.now.length cn9 = .slice an nN cn9 := by rw [hnN]
    rw [hnv] at hF
    simp only [hnN] at hrn ⊢
    have HNN := Lib.hid hnN
    clear hnv hnN
    by_cases hlt : k < n2
    rotate_left
    · have d9 : decide ((k : Int) < (n2 : Int)) = false := decide_eq_false (by omega)
      have d9n : decide (k < n2) = false := decide_eq_false hlt
      have hkn : k = ms.length := by rw [HN.out]; omega
      have hcut := cut_ref (lg, lb, lc) up ms gs
      unfold refF at hcut
      rw [← hkn, ← HS.out] at hcut
      have HCUT := Lib.hid hcut
      clear hcut
      by_cases hz : nN = 0
      · have dz : decide ((0 : Int) < (nN : Int)) = false := decide_eq_false (by omega)
        have dzn : decide (0 < nN) = false := decide_eq_false (by omega)
        have hnil : S.now = [] := List.eq_nil_of_length_eq_zero (by rw [HNN.out]; exact hz)
        have HNIL := Lib.hid hnil
        clear hnil hz
        go_wp2
        go_returns
        exact ref_end hF (by rw [← HCUT.out, if_neg (by simp [HNIL.out])]) (by rw [← HCUT.out]) hbel
      · have dz : decide ((0 : Int) < (nN : Int)) = true := decide_eq_true (by omega)
        have dzn : decide (0 < nN) = true := decide_eq_true (by omega)
        have hne : S.now ≠ [] := fun e => hz (by rw [← HNN.out, e]; rfl)
        have HNE := Lib.hid hne
        clear hne hz
        have hb9 : Below wr.heap.size wr (wr.alloc (.cells #[.slice an nN cn9] 59)) := Below.alloc (Below.refl _ _) (Nat.le_refl _) _
        have hF := hF.below hb9
        have hvl : vs.length ≤ 71 := by rw [hF.len]; omega
        have hbx := Nat.le_trans hbw hb9.size
        go_wp2_with (at_builtin; refine wpList_append_own_at _ rfl (.tmp 110) (.tmp 112) 60 rfl base 59 iS (.slice none 0 0) 1 24 Try.underlying60 hiS hzS hsS hbS rfl (by decide) _ _ _ rfl hF.o ⟨wr.heap.size, 0, none⟩ 1 1 [.slice an nN cn9] rfl rfl (cell_one_new _ _ _) (fun u hu => by rw [List.mem_singleton.1 hu]; rfl) (by unfold maxLen; omega) (by omega) hbx ?_; intro tv' w10 hown10 hgr10 _ hat10)
        go_returns
        exact ref_end (hF.close hown10 hgr10 hat10) (by rw [← HCUT.out, if_pos HNE.out]) (by rw [← HCUT.out]) ((hbel.trans (hb9.mono hbel.size)).grown hgr10 (Nat.le_trans hbel.size hb9.size) (fun j hj => by have := (hF.o.lt j hj).1; omega))
    have d1 : decide ((k : Int) < (n2 : Int)) = true := decide_eq_true (by omega)
    have d1n : decide (k < n2) = true := decide_eq_true hlt
    have hkl : k < ms.length := by rw [HN.out]; exact hlt
    obtain ⟨b1, o1, rfl, hbm, _⟩ := msg_range hr hkl
    obtain ⟨b1', o1', hbe, hb1, hg1⟩ := msg_range (hr.below hbel) hkl
    simp only [Option.some.injEq, Addr.mk.injEq, and_true] at hbe
    obtain ⟨rfl, rfl⟩ := hbe
    have hokm := hok _ (List.getElem_mem hkl)
    have hl1 := hl _ (List.getElem_mem hkl)
    have hkm := List.getElem?_eq_getElem hkl
    obtain ⟨m, hm9⟩ : ∃ m, ms[k] = m := ⟨_, rfl⟩
    rw [hm9] at hg1 hokm hl1 hkm
    obtain ⟨G, hG⟩ : ∃ g, rawG gs ms.length k = g := ⟨_, rfl⟩
    have hGw : (Lit.int .i64 G).wf = true := by rw [← hG]; exact raw_wf hgw _ _
    have HST : Hid (refK (lg, lb, lc) up gs ms (k + 1) = refStep (lg, lb, lc) U G S k m) := Lib.hid (by
      show (match ms[k]? with | some m => refStep (lg, lb, lc) (up.take 1) (rawG gs ms.length k) (refK (lg, lb, lc) up gs ms k) k m | none => refK (lg, lb, lc) up gs ms k) = _
      rw [hkm, HUT.out, hG, ← HS.out])
    have HG := Lib.hid hG
    clear hm9 hkm hG
    have n0 : (0 : Int) ≤ (k : Int) := by omega
    have n1' : (k : Int) < (n2 : Int) := by omega
    have n2' : ((k : Nat) : Int).toNat = k := by omega
    go_upto_if 36 with fail
    go_cut [16] from 26 to 106 (fun g wc => g = .int .i64 G ∧ wc = wr)
    case first =>
      by_cases hgl : gs.length = ms.length
      · have hkg : k < gs.length := by rw [hgl]; exact hkl
        have hne : gs.map (Value.int .i64) ≠ [] := fun e => by have := congrArg List.length e; rw [List.length_map, List.length_nil] at this; omega
        rcases hg with hg | ⟨bc, oc, rfl, hbc, hcell⟩
        · exact absurd hg hne
        have hgc : wr.cell? ⟨bc, oc + k, none⟩ = some (.int .i64 G) := by
          rw [(hbel.cell (p := ⟨bc, _, none⟩) hbc), hcell k (by simpa using hkg), ← HG.out]
          unfold rawG
          rw [if_pos hgl]
          simp [List.getD, List.getElem?_eq_getElem hkg]
        have e1 : ((n3 : Int) == (n2 : Int)) = true := by rw [beq_iff_eq]; have := HN.out; have := HGN.out; omega
        have e1n : (n3 == n2) = true := by rw [beq_iff_eq]; have := HN.out; have := HGN.out; omega
        have m1 : (k : Int) < (n3 : Int) := by have := HGN.out; omega
        have m1n : k < n3 := by have := HGN.out; omega
        clear hne hcell hgl hkg
        go_wp2
        go_meet
        case rel => exact ⟨rfl, rfl⟩
      · have e1 : ((n3 : Int) == (n2 : Int)) = false := by rw [beq_eq_false_iff_ne]; have := HN.out; have := HGN.out; omega
        have e1n : (n3 == n2) = false := by rw [beq_eq_false_iff_ne]; have := HN.out; have := HGN.out; omega
        have hG0 : G = 0 := by rw [← HG.out]; unfold rawG; rw [if_neg hgl]
        go_wp2
        go_meet
        case rel => exact ⟨by rw [hG0], rfl⟩
    case rest =>
      obtain ⟨rfl, hwc⟩ := hcut
      obtain rfl : _ = wc := hwc.symm
      have hLl9 : w.heap.size < wr.heap.size := row_lt hL
      obtain ⟨WB, hWB⟩ : ∃ x, wr.heap.size = x := ⟨_, rfl⟩
      obtain ⟨fU, hfU⟩ : ∃ x, fitsW (lg, lb, lc) (U ++ [m]) = x := ⟨_, rfl⟩
      have HFU := Lib.hid (show fitsW (lg, lb, lc) (U ++ [m]) = fU from hfU)
      have okm : ∀ W, Below w.heap.size w W → ∀ x ∈ U ++ [m], x.ok W := fun W hb x hx => by
        rcases List.mem_append.1 hx with h | h
        · exact (hUo x h).below hb
        · rcases List.mem_singleton.1 h with rfl; exact hokm.below hb
      have lgm : ∀ x ∈ U ++ [m], lightM x = true := fun x hx => by
        rcases List.mem_append.1 hx with h | h
        · exact hUl x h
        · rcases List.mem_singleton.1 h with rfl; exact hl1
      have CWm := fun W (hb : Below w.heap.size w W) => CW W hb m
      obtain ⟨UM, hUM⟩ : ∃ x, U ++ [m] = x := ⟨_, rfl⟩
      rw [hUM] at okm lgm hfU
      simp only [hUM] at CWm
      have HUM := Lib.hid hUM
      clear hUM
      have CFU := fun (W : World) (hb : Below wr.heap.size wr W) {am : Option Addr} (h : RowAt W am (UM.flatMap MsgV.cellsL)) {cap : Nat} => refFitsW_any lg lb lc (cap := cap) h (okm W (hbel.trans (hb.mono hbel.size))) lgm rfl
      simp only [hfU] at CFU
      clear hfU
      go_upto_region 11 with fail
      refine wp_region_facts [Fact.eq (.agg #[.int .i64 (lg), .int .i64 (lb), .int .i64 (lc)]), Fact.eq (.slice a M cap), Fact.eq (.slice (some ⟨b1, o1, none⟩) n2 cap2), Fact.eq (.int .i64 (k : Int)), Fact.eq (.pointer (some ⟨b1, o1 + k * 50, none⟩)), Fact.eq (.agg m.row), (Fact.msgs WB (UM)), Fact.eq (.bool fU), Fact.eq (.bool (!fU)), Fact.eq (.bool (!fU))] (by kernel_rfl) (by kernel_rfl) (by kernel_rfl) (by kernel_rfl) (fun x => by simp only [fillFrom, Act.put, List.setIfInBounds_toArray, List.set_cons_succ, List.set_cons_zero]; rfl) ?_ ?_
      · refine ⟨?_, ?_, ?_, ?_, ?_, ?_, ?_, ?_, ?_, ?_, trivial⟩
        · intro x w' hbw9 hd
          clear hd
          have hLr := cells_of hL hbw9 hLl9
          go_wp2_with (first | (refine wpList_load_mid rfl 58 (.tmp 4) rfl w.heap.size 0 rfl (#[.int .i64 (lg), .int .i64 (lb), .int .i64 (lc)] : Array Value).toList _ (rangeAt_row5 hLr) Try.underlying58 rfl (by rfl) ?_; rw [Array.toArray_toList]))
          exact frPost_mk rfl (by repeat (first | assumption | exact Below.refl _ _ | refine bch ?_ (by assumption) | refine Below.alloc ?_ (by simp) _)) rfl
        · intro x w' hbw9 hd
          clear hd
          go_wp2_with fail
          exact frPost_mk rfl (by repeat (first | assumption | exact Below.refl _ _ | refine bch ?_ (by assumption) | refine Below.alloc ?_ (by simp) _)) rfl
        · intro x w' hbw9 hd
          clear hd
          go_wp2_with fail
          exact frPost_mk rfl (by repeat (first | assumption | exact Below.refl _ _ | refine bch ?_ (by assumption) | refine Below.alloc ?_ (by simp) _)) rfl
        · intro x w' hbw9 hd
          clear hd
          go_wp2_with fail
          exact frPost_mk rfl (by repeat (first | assumption | exact Below.refl _ _ | refine bch ?_ (by assumption) | refine Below.alloc ?_ (by simp) _)) rfl
        · intro x w' hbw9 hd
          have d2 : x 2 = .slice (some ⟨b1, o1, none⟩) n2 cap2 := hd 2 rfl
          have d3 : x 3 = .int .i64 (k : Int) := hd 3 rfl
          clear hd
          go_wp2_with (first | fail)
          exact frPost_mk rfl (by repeat (first | assumption | exact Below.refl _ _ | refine bch ?_ (by assumption) | refine Below.alloc ?_ (by simp) _)) (by first | rfl | (show Value.pointer _ = Value.pointer _; simp))
        · intro x w' hbw9 hd
          have d4 : x 4 = .pointer (some ⟨b1, o1 + k * 50, none⟩) := hd 4 rfl
          clear hd
          have hgx : w'.rangeAt b1 (o1 + k * 50) m.row.toList := fun j v hv => by rw [hbw9.cell (p := ⟨b1, o1 + k * 50 + j, none⟩) hb1]; exact hg1 j v hv
          go_wp2_with (first | (refine wpList_load_mid rfl 34 (.tmp 45) rfl b1 _ (by first | exact d4 | rfl) m.row.toList _ hgx Try.underlying34 rfl (msg_info _) ?_; rw [Array.toArray_toList]))
          exact frPost_mk rfl (by repeat (first | assumption | exact Below.refl _ _ | refine bch ?_ (by assumption) | refine Below.alloc ?_ (by simp) _)) rfl
        · intro x w' hbw9 hd
          have d1 : x 1 = .slice a M cap := hd 1 rfl
          have d5 : x 5 = .agg m.row := hd 5 rfl
          clear hd
          have CC := CWm w' (hbel.trans (hbw9.mono hbel.size))
          go_wp2_with (first | (go_at_call 91; refine CC.mono ?_; rintro e wx ⟨v9, rfl, ho9, hbx⟩))
          exact frPost_mk rfl (by repeat (first | assumption | exact Below.refl _ _ | refine bch ?_ (by assumption) | refine Below.alloc ?_ (by simp) _)) (own_lowerM ho9 (by rw [← hWB]; exact hbw9.size))
        · intro x w' hbw9 hd
          have d0 : x 0 = .agg #[.int .i64 (lg), .int .i64 (lb), .int .i64 (lc)] := hd 0 rfl
          have o6 : w'.ownsRow WB 34 50 (x 6) (UM).length ((UM).flatMap MsgV.cellsL) := hd 6 rfl; obtain ⟨am, cm, d6, rm, _⟩ := own_slice o6
          clear hd
          have CC := CFU w' hbw9 rm (cap := cm)
          go_wp2_with (first | (go_at_call 44; refine CC.mono ?_; rintro e wx ⟨rfl, hbx⟩))
          exact frPost_mk rfl (by repeat (first | assumption | exact Below.refl _ _ | refine bch ?_ (by assumption) | refine Below.alloc ?_ (by simp) _)) rfl
        · intro x w' hbw9 hd
          have d7 : x 7 = .bool fU := hd 7 rfl
          clear hd
          go_wp2_with fail
          exact frPost_mk rfl (by repeat (first | assumption | exact Below.refl _ _ | refine bch ?_ (by assumption) | refine Below.alloc ?_ (by simp) _)) rfl
        · intro x w' hbw9 hd
          have d8 : x 8 = .bool (!fU) := hd 8 rfl
          clear hd
          go_wp2_with fail
          exact frPost_mk rfl (by repeat (first | assumption | exact Below.refl _ _ | refine bch ?_ (by assumption) | refine Below.alloc ?_ (by simp) _)) rfl
      intro x9 wf hbw9 hall
      have d9 : x9 9 = .bool (!fU) := hall 9 (by decide)
      clear hall CFU CWm
      simp only [d9]
      have hF := hF.below hbw9
      have hL := cells_of hL hbw9 hLl9
      have hbel := hbel.trans (hbw9.mono hbel.size)
      have hbw := Nat.le_trans hbw hbw9.size
      have hg1 : wf.rangeAt b1 (o1 + k * 50) m.row.toList := fun j v hv => by rw [hbw9.cell (p := ⟨b1, o1 + k * 50 + j, none⟩) hb1]; exact hg1 j v hv
      have hb1 := Nat.lt_of_lt_of_le hb1 hbw9.size
      clear hbw9 hLl9 hWB
      obtain ⟨al, cl, rfl, hrl, hl2, hl3, _⟩ := own_slice hF.l.1
      obtain ⟨lN, hlN⟩ : ∃ x, S.lost.length = x := ⟨_, rfl⟩
      have hlv : Value.slice al S.lost.length cl = .slice al lN cl := by rw [hlN]
      rw [hlv] at hF
      rw [hlN] at hl2 hz2
      simp only [hlN]
      have HLN := Lib.hid hlN
      clear hlv hlN
      go_upto_region 13 with fail
      go_loopw [17, 18] (fun t q w2 => ∃ (q9 : Nat) (t9 : Bool), q9 ≤ lN ∧ q = .int .i64 q9 ∧ t = .bool t9 ∧ Hid (t9 = (!fU || (decide (0 < G) && decide (G ∈ S.lost.take q9)))) ∧ w2 = wf) (fun _ q _ => lN - (intOf q).toNat)
      case atStart => exact ⟨0, !fU, Nat.zero_le _, rfl, rfl, Lib.hid (by simp), rfl⟩
      case round =>
        obtain ⟨q, t, hq, rfl, rfl, HT, rfl⟩ := hrel
        by_cases hlq : q < lN
        · have f9 : decide ((q : Int) < (lN : Int)) = true := decide_eq_true (by omega)
          have f9n : decide (q < lN) = true := decide_eq_true hlq
          have hqL : q < S.lost.length := by rw [HLN.out]; exact hlq
          obtain ⟨bl, ol, rfl, hbl, hcl⟩ := row_get hrl hqL
          have htk : (!fU || (decide (0 < G) && decide (G ∈ S.lost.take (q + 1)))) = (t || (decide (0 < G) && (S.lost[q] == G))) := by
            rw [HT.out, List.take_succ_eq_append_getElem hqL]
            rw [Bool.eq_iff_iff]
            simp only [Bool.or_eq_true, Bool.and_eq_true, decide_eq_true_eq, beq_iff_eq, List.mem_append, List.mem_singleton]
            constructor
            · rintro (h | ⟨h1, h2 | h2⟩)
              · exact .inl (.inl h)
              · exact .inl (.inr ⟨h1, h2⟩)
              · exact .inr ⟨h1, h2.symm⟩
            · rintro ((h | ⟨h1, h2⟩) | ⟨h1, h2⟩)
              · exact .inl h
              · exact .inr ⟨h1, .inl h2⟩
              · exact .inr ⟨h1, .inr h2.symm⟩
          obtain ⟨y, hy⟩ : ∃ y, S.lost[q] = y := ⟨_, rfl⟩
          rw [hy] at hcl htk
          obtain ⟨ey, hey⟩ : ∃ e, (y == G) = e := ⟨_, rfl⟩
          obtain ⟨g0, hg0⟩ : ∃ e, decide (0 < G) = e := ⟨_, rfl⟩
          rw [hey, hg0] at htk
          have HTK := Lib.hid htk
          clear hy htk
          have p0 : (0 : Int) ≤ (q : Int) := by omega
          have p1 : (q : Int) < (lN : Int) := by omega
          have p2 : ((q : Nat) : Int).toNat = q := by omega
          cases t <;> cases g0 <;>
          · go_wp2
            go_roundw
            case rel => exact ⟨q + 1, _, by omega, by go_num, rfl, Lib.hid (by rw [hg0, HTK.out]; rfl), by first | exact trivial | rfl⟩
            case measure => (simp [intOf]) <;> omega

        have f9 : decide ((q : Int) < (lN : Int)) = false := decide_eq_false (by omega)
        have f9n : decide (q < lN) = false := decide_eq_false hlq
        have hO : t = refOutB (lg, lb, lc) U G S.lost m := by
          rw [HT.out, List.take_of_length_le (by rw [HLN.out]; omega)]
          unfold refOutB
          rw [HFU.out]
        have HO := Lib.hid hO
        clear hO HT hlq hq
        go_upto_if 69 with fail
        cases t
        rotate_left
        · have hst := HST.out
          unfold refStep at hst
          rw [if_pos HO.out.symm] at hst
          have HST := Lib.hid hst
          clear hst
          have hkw : (Lit.int .i64 (k : Int)).wf = true := wf_i64 (by omega) (by omega)
          have hb5 : Below wr.heap.size wr (wr.alloc (.cells #[.int .i64 (k : Int)] 3)) := Below.alloc (Below.refl _ _) (Nat.le_refl _) _
          have hF := hF.below hb5
          have hL := cells_of hL hb5 (row_lt hL)
          have hbel := hbel.trans (hb5.mono hbel.size)
          have hbw := Nat.le_trans hbw hb5.size
          clear hb5
          go_upto_region 18 with (at_builtin; refine wpList_append_own_at _ rfl (.tmp 70) (.tmp 72) 59 rfl base 3 i0 (.int .i64 0) 1 8 Try.underlying59 hi hzI hsI hbI rfl (by decide) _ _ _ rfl hF.s.1 ⟨wr.heap.size, 0, none⟩ 1 1 [.int .i64 (k : Int)] rfl rfl (cell_one_new _ _ _) (fun u hu => by rw [List.mem_singleton.1 hu]; rfl) (by unfold maxLen; omega) (by omega) hbw ?_; intro v20 w20 hown20 hgr20 _ hat20)
          have low := hF.s.1.lt
          have hL := grown_at hgr20 hL (fun e => by have := (low _ e.symm).1; omega)
          have hbel := hbel.grown hgr20 hbel.size (fun j hj => by have := (low j hj).1; omega)
          have hF := hF.skip hkw hown20 hgr20 hat20
          have hbw := Nat.le_trans hbw hgr20.size
          clear hown20 hgr20 hat20 low
          have hb5 : Below w20.heap.size w20 (w20.alloc (.cells #[.int .i64 G] 3)) := Below.alloc (Below.refl _ _) (Nat.le_refl _) _
          have hF := hF.below hb5
          have hL := cells_of hL hb5 (row_lt hL)
          have hbel := hbel.trans (hb5.mono hbel.size)
          have hbw := Nat.le_trans hbw hb5.size
          clear hb5
          have hown0 := hF.l.1
          rw [HLN.out] at hown0
          go_wp2_with (at_builtin; refine wpList_append_own_at _ rfl (.tmp 74) (.tmp 76) 59 rfl base 3 i0 (.int .i64 0) 1 8 Try.underlying59 hi hzI hsI hbI rfl (by decide) _ _ _ rfl hown0 ⟨w20.heap.size, 0, none⟩ 1 1 [.int .i64 G] rfl rfl (cell_one_new _ _ _) (fun u hu => by rw [List.mem_singleton.1 hu]; rfl) (by unfold maxLen; omega) (by omega) hbw ?_; intro v21 w21 hown21 hgr21 _ hat21)
          have low := hF.l.1.lt
          have hL := grown_at hgr21 hL (fun e => by have := (low _ e.symm).1; omega)
          have hbel := hbel.grown hgr21 hbel.size (fun j hj => by have := (low j hj).1; omega)
          rw [← HLN.out] at hown21
          have hF := hF.lose hGw hown21 hgr21 hat21
          have hbw := Nat.le_trans hbw hgr21.size
          clear hown21 hgr21 hat21 low hown0
          go_roundw
          case rel => exact ⟨k + 1, vs, ⟨S.txs, S.sk ++ [(k : Int)], S.now, S.cur, S.lost ++ [G]⟩, by omega, by go_num, Lib.hid HST.out.symm, hF, hL, hbw, hbel⟩
          case measure => (simp [intOf]) <;> omega
        have hst := HST.out
        unfold refStep at hst
        rw [if_neg (by rw [← HO.out]; exact Bool.false_ne_true)] at hst
        obtain ⟨fC, hfC⟩ : ∃ x, fitsW (lg, lb, lc) (S.cur ++ [m]) = x := ⟨_, rfl⟩
        rw [hfC] at hst
        have HST := Lib.hid hst
        clear hst
        obtain ⟨ac, cc, rfl, hrc, hc2, hc3, hca⟩ := own_sliceN hF.c
        obtain ⟨nC, hnC⟩ : ∃ x, S.cur.length = x := ⟨_, rfl⟩
        have hcv : Value.slice ac S.cur.length cc = .slice ac nC cc := by rw [hnC]
        rw [hcv] at hF
        rw [hnC] at hca hz5
        simp only [hnC]
        have HNC := Lib.hid hnC
        clear hcv hnC
        have hLl9 : w.heap.size < wr.heap.size := row_lt hL
        obtain ⟨WB, hWB⟩ : ∃ x, wr.heap.size = x := ⟨_, rfl⟩
        have okc : ∀ W, Below w.heap.size w W → ∀ x ∈ S.cur ++ [m], x.ok W := fun W hb x hx => by
          rcases List.mem_append.1 hx with h | h
          · exact (hcO x h).1.below hb
          · rcases List.mem_singleton.1 h with rfl; exact hokm.below hb
        have lgc : ∀ x ∈ S.cur ++ [m], lightM x = true := fun x hx => by
          rcases List.mem_append.1 hx with h | h
          · exact (hcO x h).2
          · rcases List.mem_singleton.1 h with rfl; exact hl1
        have CWC := fun W (hb : Below wr.heap.size wr W) => with_any ac nC cc S.cur m W (hrc.below hb) HNC.out (by omega) hca
        obtain ⟨CM, hCM⟩ : ∃ x, S.cur ++ [m] = x := ⟨_, rfl⟩
        rw [hCM] at okc lgc hfC
        simp only [hCM] at CWC
        clear hCM
        have CFC := fun (W : World) (hb : Below wr.heap.size wr W) {am : Option Addr} (h : RowAt W am (CM.flatMap MsgV.cellsL)) {cap : Nat} => refFitsW_any lg lb lc (cap := cap) h (okc W (hbel.trans (hb.mono hbel.size))) lgc rfl
        simp only [hfC] at CFC
        clear hfC
        go_upto_region 19 with fail
        go_cut [91] from 26 to 106 (fun bv wc => bv = .bool (decide (0 < nN) && !fC) ∧ Below wr.heap.size wr wc)
        case first =>
          by_cases hz : nN = 0
          · have dz : decide ((0 : Int) < (nN : Int)) = false := decide_eq_false (by omega)
            have dzn : decide (0 < nN) = false := decide_eq_false (by omega)
            clear hz CFC CWC
            refine wp_region_facts [Fact.eq (.slice an nN cn9), Fact.eq (.int .i64 (nN : Int)), Fact.eq (.bool false), Fact.eq (.bool false), Fact.any, Fact.any, Fact.any, Fact.any, Fact.any, Fact.any, Fact.any, Fact.any, Fact.any, Fact.eq (.bool false)] (by kernel_rfl) (by kernel_rfl) (by kernel_rfl) (by kernel_rfl) (fun x => by simp only [fillFrom, Act.put, List.setIfInBounds_toArray, List.set_cons_succ, List.set_cons_zero]; rfl) ?_ ?_
            · refine ⟨?_, ?_, ?_, ?_, ?_, ?_, ?_, ?_, ?_, ?_, ?_, ?_, ?_, ?_, trivial⟩
              · intro x w' hbw9 hd
                clear hd
                go_wp2_with fail
                exact frPost_mk rfl (by repeat (first | assumption | exact Below.refl _ _ | refine bch ?_ (by assumption) | refine Below.alloc ?_ (by simp) _)) rfl
              · intro x w' hbw9 hd
                have d0 : x 0 = .slice an nN cn9 := hd 0 rfl
                clear hd
                go_wp2_with fail
                exact frPost_mk rfl (by repeat (first | assumption | exact Below.refl _ _ | refine bch ?_ (by assumption) | refine Below.alloc ?_ (by simp) _)) rfl
              · intro x w' hbw9 hd
                have d1 : x 1 = .int .i64 (nN : Int) := hd 1 rfl
                clear hd
                go_wp2_with fail
                exact frPost_mk rfl (by repeat (first | assumption | exact Below.refl _ _ | refine bch ?_ (by assumption) | refine Below.alloc ?_ (by simp) _)) rfl
              · intro x w' hbw9 hd
                have d2 : x 2 = .bool false := hd 2 rfl
                clear hd
                go_wp2_with fail
                exact frPost_mk rfl (by repeat (first | assumption | exact Below.refl _ _ | refine bch ?_ (by assumption) | refine Below.alloc ?_ (by simp) _)) rfl
              · intro x w' hbw9 hd
                have d3 : x 3 = .bool false := hd 3 rfl
                clear hd
                go_wp2_with fail
                first | exact frPost_mk rfl (by repeat (first | assumption | exact Below.refl _ _ | refine bch ?_ (by assumption) | refine Below.alloc ?_ (by simp) _)) trivial | exact ⟨rfl, rfl, Below.refl _ _, trivial⟩
              · intro x w' hbw9 hd
                have d3 : x 3 = .bool false := hd 3 rfl
                clear hd
                go_wp2_with fail
                first | exact frPost_mk rfl (by repeat (first | assumption | exact Below.refl _ _ | refine bch ?_ (by assumption) | refine Below.alloc ?_ (by simp) _)) trivial | exact ⟨rfl, rfl, Below.refl _ _, trivial⟩
              · intro x w' hbw9 hd
                have d3 : x 3 = .bool false := hd 3 rfl
                clear hd
                go_wp2_with fail
                first | exact frPost_mk rfl (by repeat (first | assumption | exact Below.refl _ _ | refine bch ?_ (by assumption) | refine Below.alloc ?_ (by simp) _)) trivial | exact ⟨rfl, rfl, Below.refl _ _, trivial⟩
              · intro x w' hbw9 hd
                have d3 : x 3 = .bool false := hd 3 rfl
                clear hd
                go_wp2_with fail
                first | exact frPost_mk rfl (by repeat (first | assumption | exact Below.refl _ _ | refine bch ?_ (by assumption) | refine Below.alloc ?_ (by simp) _)) trivial | exact ⟨rfl, rfl, Below.refl _ _, trivial⟩
              · intro x w' hbw9 hd
                have d3 : x 3 = .bool false := hd 3 rfl
                skip
                skip
                clear hd
                go_wp2_with fail
                first | exact frPost_mk rfl (by repeat (first | assumption | exact Below.refl _ _ | refine bch ?_ (by assumption) | refine Below.alloc ?_ (by simp) _)) trivial | exact ⟨rfl, rfl, Below.refl _ _, trivial⟩
              · intro x w' hbw9 hd
                have d3 : x 3 = .bool false := hd 3 rfl
                skip
                clear hd
                go_wp2_with fail
                first | exact frPost_mk rfl (by repeat (first | assumption | exact Below.refl _ _ | refine bch ?_ (by assumption) | refine Below.alloc ?_ (by simp) _)) trivial | exact ⟨rfl, rfl, Below.refl _ _, trivial⟩
              · intro x w' hbw9 hd
                have d3 : x 3 = .bool false := hd 3 rfl
                skip
                skip
                clear hd
                go_wp2_with (first | fail)
                first | exact frPost_mk rfl (by repeat (first | assumption | exact Below.refl _ _ | refine bch ?_ (by assumption) | refine Below.alloc ?_ (by simp) _)) trivial | exact ⟨rfl, rfl, Below.refl _ _, trivial⟩
              · intro x w' hbw9 hd
                have d3 : x 3 = .bool false := hd 3 rfl
                skip
                skip
                clear hd
                go_wp2_with (first | fail)
                first | exact frPost_mk rfl (by repeat (first | assumption | exact Below.refl _ _ | refine bch ?_ (by assumption) | refine Below.alloc ?_ (by simp) _)) trivial | exact ⟨rfl, rfl, Below.refl _ _, trivial⟩
              · intro x w' hbw9 hd
                have d3 : x 3 = .bool false := hd 3 rfl
                skip
                clear hd
                go_wp2_with fail
                first | exact frPost_mk rfl (by repeat (first | assumption | exact Below.refl _ _ | refine bch ?_ (by assumption) | refine Below.alloc ?_ (by simp) _)) trivial | exact ⟨rfl, rfl, Below.refl _ _, trivial⟩
              · intro x w' hbw9 hd
                have d3 : x 3 = .bool false := hd 3 rfl
                skip
                clear hd
                go_wp2_with fail
                exact frPost_mk rfl (by repeat (first | assumption | exact Below.refl _ _ | refine bch ?_ (by assumption) | refine Below.alloc ?_ (by simp) _)) rfl
            intro x9 wf9 hbw9 hall
            have d9 : x9 13 = .bool false := hall 13 (by decide)
            clear hall
            simp only [d9]
            go_wp2
            go_meet
            case rel => exact ⟨by rw [dzn]; rfl, hbw9⟩
          · have dz : decide ((0 : Int) < (nN : Int)) = true := decide_eq_true (by omega)
            have dzn : decide (0 < nN) = true := decide_eq_true (by omega)
            clear hz
            refine wp_region_facts [Fact.eq (.slice an nN cn9), Fact.eq (.int .i64 (nN : Int)), Fact.eq (.bool true), Fact.eq (.bool true), Fact.eq (.agg #[.int .i64 (lg), .int .i64 (lb), .int .i64 (lc)]), Fact.eq (.slice ac nC cc), Fact.eq (.slice (some ⟨b1, o1, none⟩) n2 cap2), Fact.eq (.int .i64 (k : Int)), Fact.eq (.pointer (some ⟨b1, o1 + k * 50, none⟩)), Fact.eq (.agg m.row), (Fact.msgs WB (CM)), Fact.eq (.bool fC), Fact.eq (.bool (!fC)), Fact.eq (.bool (!fC))] (by kernel_rfl) (by kernel_rfl) (by kernel_rfl) (by kernel_rfl) (fun x => by simp only [fillFrom, Act.put, List.setIfInBounds_toArray, List.set_cons_succ, List.set_cons_zero]; rfl) ?_ ?_
            · refine ⟨?_, ?_, ?_, ?_, ?_, ?_, ?_, ?_, ?_, ?_, ?_, ?_, ?_, ?_, trivial⟩
              · intro x w' hbw9 hd
                clear hd
                go_wp2_with fail
                exact frPost_mk rfl (by repeat (first | assumption | exact Below.refl _ _ | refine bch ?_ (by assumption) | refine Below.alloc ?_ (by simp) _)) rfl
              · intro x w' hbw9 hd
                have d0 : x 0 = .slice an nN cn9 := hd 0 rfl
                clear hd
                go_wp2_with fail
                exact frPost_mk rfl (by repeat (first | assumption | exact Below.refl _ _ | refine bch ?_ (by assumption) | refine Below.alloc ?_ (by simp) _)) rfl
              · intro x w' hbw9 hd
                have d1 : x 1 = .int .i64 (nN : Int) := hd 1 rfl
                clear hd
                go_wp2_with fail
                exact frPost_mk rfl (by repeat (first | assumption | exact Below.refl _ _ | refine bch ?_ (by assumption) | refine Below.alloc ?_ (by simp) _)) rfl
              · intro x w' hbw9 hd
                have d2 : x 2 = .bool true := hd 2 rfl
                clear hd
                go_wp2_with fail
                exact frPost_mk rfl (by repeat (first | assumption | exact Below.refl _ _ | refine bch ?_ (by assumption) | refine Below.alloc ?_ (by simp) _)) rfl
              · intro x w' hbw9 hd
                have d3 : x 3 = .bool true := hd 3 rfl
                clear hd
                have hLr := cells_of hL hbw9 hLl9
                go_wp2_with (first | (refine wpList_load_midG 58 (.tmp 4) rfl w.heap.size 0 rfl (#[.int .i64 (lg), .int .i64 (lb), .int .i64 (lc)] : Array Value).toList _ (rangeAt_row5 hLr) Try.underlying58 rfl (by rfl) (by first | rfl | (simp [Region.wanted, yielded, *]; done)) ?_; rw [Array.toArray_toList]))
                exact frPost_mk rfl (by repeat (first | assumption | exact Below.refl _ _ | refine bch ?_ (by assumption) | refine Below.alloc ?_ (by simp) _)) rfl
              · intro x w' hbw9 hd
                have d3 : x 3 = .bool true := hd 3 rfl
                clear hd
                go_wp2_with fail
                exact frPost_mk rfl (by repeat (first | assumption | exact Below.refl _ _ | refine bch ?_ (by assumption) | refine Below.alloc ?_ (by simp) _)) rfl
              · intro x w' hbw9 hd
                have d3 : x 3 = .bool true := hd 3 rfl
                clear hd
                go_wp2_with fail
                exact frPost_mk rfl (by repeat (first | assumption | exact Below.refl _ _ | refine bch ?_ (by assumption) | refine Below.alloc ?_ (by simp) _)) rfl
              · intro x w' hbw9 hd
                have d3 : x 3 = .bool true := hd 3 rfl
                clear hd
                go_wp2_with fail
                exact frPost_mk rfl (by repeat (first | assumption | exact Below.refl _ _ | refine bch ?_ (by assumption) | refine Below.alloc ?_ (by simp) _)) rfl
              · intro x w' hbw9 hd
                have d3 : x 3 = .bool true := hd 3 rfl
                have d6 : x 6 = .slice (some ⟨b1, o1, none⟩) n2 cap2 := hd 6 rfl
                have d7 : x 7 = .int .i64 (k : Int) := hd 7 rfl
                clear hd
                go_wp2_with (first | fail)
                exact frPost_mk rfl (by repeat (first | assumption | exact Below.refl _ _ | refine bch ?_ (by assumption) | refine Below.alloc ?_ (by simp) _)) (by first | rfl | (show Value.pointer _ = Value.pointer _; simp))
              · intro x w' hbw9 hd
                have d3 : x 3 = .bool true := hd 3 rfl
                have d8 : x 8 = .pointer (some ⟨b1, o1 + k * 50, none⟩) := hd 8 rfl
                clear hd
                have hgx : w'.rangeAt b1 (o1 + k * 50) m.row.toList := fun j v hv => by rw [hbw9.cell (p := ⟨b1, o1 + k * 50 + j, none⟩) hb1]; exact hg1 j v hv
                go_wp2_with (first | (refine wpList_load_midG 34 (.tmp 86) rfl b1 _ (by first | exact d8 | rfl) m.row.toList _ hgx Try.underlying34 rfl (msg_info _) (by first | rfl | (simp [Region.wanted, yielded, *]; done)) ?_; rw [Array.toArray_toList]))
                exact frPost_mk rfl (by repeat (first | assumption | exact Below.refl _ _ | refine bch ?_ (by assumption) | refine Below.alloc ?_ (by simp) _)) rfl
              · intro x w' hbw9 hd
                have d3 : x 3 = .bool true := hd 3 rfl
                have d5 : x 5 = .slice ac nC cc := hd 5 rfl
                have d9 : x 9 = .agg m.row := hd 9 rfl
                clear hd
                have CC := CWC w' hbw9
                go_wp2_with (first | (go_at_call 91; refine CC.mono ?_; rintro e wx ⟨v9, rfl, ho9, hbx⟩))
                exact frPost_mk rfl (by repeat (first | assumption | exact Below.refl _ _ | refine bch ?_ (by assumption) | refine Below.alloc ?_ (by simp) _)) (own_lowerM ho9 (by rw [← hWB]; exact hbw9.size))
              · intro x w' hbw9 hd
                have d3 : x 3 = .bool true := hd 3 rfl
                have d4 : x 4 = .agg #[.int .i64 (lg), .int .i64 (lb), .int .i64 (lc)] := hd 4 rfl
                have o10 : w'.ownsRow WB 34 50 (x 10) (CM).length ((CM).flatMap MsgV.cellsL) := hd 10 rfl; obtain ⟨am, cm, d10, rm, _⟩ := own_slice o10
                clear hd
                have CC := CFC w' hbw9 rm (cap := cm)
                go_wp2_with (first | (go_at_call 44; refine CC.mono ?_; rintro e wx ⟨rfl, hbx⟩))
                exact frPost_mk rfl (by repeat (first | assumption | exact Below.refl _ _ | refine bch ?_ (by assumption) | refine Below.alloc ?_ (by simp) _)) rfl
              · intro x w' hbw9 hd
                have d3 : x 3 = .bool true := hd 3 rfl
                have d11 : x 11 = .bool fC := hd 11 rfl
                clear hd
                go_wp2_with fail
                exact frPost_mk rfl (by repeat (first | assumption | exact Below.refl _ _ | refine bch ?_ (by assumption) | refine Below.alloc ?_ (by simp) _)) rfl
              · intro x w' hbw9 hd
                have d3 : x 3 = .bool true := hd 3 rfl
                have d12 : x 12 = .bool (!fC) := hd 12 rfl
                clear hd
                go_wp2_with fail
                exact frPost_mk rfl (by repeat (first | assumption | exact Below.refl _ _ | refine bch ?_ (by assumption) | refine Below.alloc ?_ (by simp) _)) rfl
            intro x9 wf9 hbw9 hall
            have d9 : x9 13 = .bool (!fC) := hall 13 (by decide)
            clear hall
            simp only [d9]
            go_wp2
            go_meet
            case rel => exact ⟨by rw [dzn]; rfl, hbw9⟩
        case rest =>
          obtain ⟨rfl, hb9⟩ := hcut
          have hF := hF.below hb9
          have hL := cells_of hL hb9 hLl9
          have hbel := hbel.trans (hb9.mono hbel.size)
          have hbw := Nat.le_trans hbw hb9.size
          have hg1 : wc.rangeAt b1 (o1 + k * 50) m.row.toList := fun j v hv => by rw [hb9.cell (p := ⟨b1, o1 + k * 50 + j, none⟩) hb1]; exact hg1 j v hv
          have hb1 := Nat.lt_of_lt_of_le hb1 hb9.size
          clear hb9 hLl9 hWB CFC CWC hrc
          go_upto_if 91 with fail
          go_cut [10, 12, 14] from 26 to 106 (fun t3 n3 c3 wd => ∃ (vs3 : List Value) (S3 : RefS), Fam wd base t3 u11 (.slice al lN cl) n3 c3 vs3 S3.txs S.sk S.lost S3.now (S3.cur.flatMap MsgV.cellsL) S3.cur.length ∧ Hid (refK (lg, lb, lc) up gs ms (k + 1) = ⟨S3.txs, S.sk, S3.now ++ [(k : Int)], S3.cur ++ [m], S.lost⟩) ∧ S3.cur.length ≤ 71 ∧ S3.now.length ≤ 71 ∧ wd.heap[w.heap.size]? = some (.cells #[.int .i64 (lg), .int .i64 (lb), .int .i64 (lc)] 58 (0, 0)) ∧ wd.rangeAt b1 (o1 + k * 50) m.row.toList ∧ base ≤ wd.heap.size ∧ Below w.heap.size w wd)
          case first =>
            obtain ⟨nw, hnw⟩ : ∃ x, (decide (0 < nN) && !fC) = x := ⟨_, rfl⟩
            simp only [hnw]
            have HNW := Lib.hid hnw
            clear hnw
            cases nw
            · have hst := HST.out
              have hnc : ¬ (S.now ≠ [] ∧ fC = false) := fun ⟨h1, h2⟩ => by
                have h3 := HNW.out
                have h4 : 0 < nN := by rw [← HNN.out]; exact List.length_pos_iff.2 h1
                rw [h2, decide_eq_true h4] at h3; cases h3
              rw [if_neg hnc] at hst
              have HST := Lib.hid hst
              clear hst hnc
              go_wp2
              go_meet
              case rel => exact ⟨vs, S, hF, HST, by rw [HNC.out]; omega, by rw [HNN.out]; omega, hL, hg1, hbw, hbel⟩
            · have hst := HST.out
              have hnc : S.now ≠ [] ∧ fC = false := by
                have h3 := HNW.out
                rw [Bool.and_eq_true, decide_eq_true_eq] at h3
                refine ⟨fun e => ?_, by cases fC; rfl; simp at h3⟩
                have h5 := HNN.out
                rw [e] at h5
                simp at h5; omega
              rw [if_pos hnc] at hst
              have HST := Lib.hid hst
              clear hst hnc
              have hb5 : Below wc.heap.size wc (wc.alloc (.cells #[.slice an nN cn9] 59)) := Below.alloc (Below.refl _ _) (Nat.le_refl _) _
              have hF := hF.below hb5
              have hL := cells_of hL hb5 (row_lt hL)
              have hbel := hbel.trans (hb5.mono hbel.size)
              have hbw := Nat.le_trans hbw hb5.size
              have hg1 : (wc.alloc (.cells #[.slice an nN cn9] 59)).rangeAt b1 (o1 + k * 50) m.row.toList := fun j v hv => by rw [hb5.cell (p := ⟨b1, o1 + k * 50 + j, none⟩) hb1]; exact hg1 j v hv
              have hvl : vs.length ≤ 71 := by rw [hF.len]; omega
              clear hb5
              go_wp2_with (at_builtin; refine wpList_append_own_at _ rfl (.tmp 92) (.tmp 94) 60 rfl base 59 iS (.slice none 0 0) 1 24 Try.underlying60 hiS hzS hsS hbS rfl (by decide) _ _ _ rfl hF.o ⟨wc.heap.size, 0, none⟩ 1 1 [.slice an nN cn9] rfl rfl (cell_one_new _ _ _) (fun u hu => by rw [List.mem_singleton.1 hu]; rfl) (by unfold maxLen; omega) (by omega) hbw ?_; intro v22 w22 hown22 hgr22 _ hat22)
              go_meet
              case rel =>
                have low := hF.o.lt
                refine ⟨_, ⟨S.txs ++ [S.now], S.sk, [], [], S.lost⟩, hF.close hown22 hgr22 hat22, HST, by show (0 : Nat) ≤ 71; omega, by show (0 : Nat) ≤ 71; omega, grown_at hgr22 hL (fun e => by have := (low _ e.symm).1; omega), fun j v hv => ?_, Nat.le_trans hbw hgr22.size, hbel.grown hgr22 hbel.size (fun j hj => by have := (low j hj).1; omega)⟩
                have h8 := hg1 j v hv
                rw [← h8]
                unfold World.cell?
                rw [hgr22.block b1 (Nat.lt_of_lt_of_le hbm hbel.size) (fun e => by have := (low _ e.symm).1; omega)]
          case rest =>
            obtain ⟨vs3, S3, hF, HST, hq1, hq2, hL, hg1, hbw, hbel⟩ := hcut
            obtain ⟨a5, c5, rfl, hr5, hd2, hd3, ha5⟩ := own_sliceN hF.n.1
            obtain ⟨n5, hn5⟩ : ∃ x, S3.now.length = x := ⟨_, rfl⟩
            have hnv : Value.slice a5 S3.now.length c5 = .slice a5 n5 c5 := by rw [hn5]
            rw [hnv] at hF
            rw [hn5] at ha5 hq2 hd2
            simp only [hn5]
            have HN5 := Lib.hid hn5
            clear hnv hn5
            skip
            go_upto_region 23 with (first | (at_builtin; refine wpList_append_ownA _ rfl (.const (.slice none 0 0)) (.tmp 96) 59 rfl wc.heap.size 3 i0 (.int .i64 0) 1 8 Try.underlying59 hi hzI hsI hbI rfl (by decide) _ _ _ rfl (World.ownsRow_nil _ _ _ _) a5 n5 c5 (S3.now.map (Value.int .i64)) rfl ha5 (by rw [List.length_map, HN5.out, Nat.mul_one]) (row_newsM hr5) (fun u hu => by obtain ⟨z9, _, rfl⟩ := List.mem_map.1 hu; rfl) (by unfold maxLen; omega) (by omega) (Nat.le_refl _) ?_; intro v6 w6 hown6 hgr6; have hown6 : w6.ownsRow wc.heap.size 3 1 v6 n5 (S3.now.map (Value.int .i64)) := (by simpa using hown6); have hb6 : Below wc.heap.size wc w6 := grown_lowM hgr6 (fun k h => by cases h) (Nat.le_refl _)) | (at_builtin; refine wpList_append_own _ rfl (.tmp 97) (.tmp 99) 59 rfl wc.heap.size 3 i0 (.int .i64 0) 1 8 Try.underlying59 hi hzI hsI hbI rfl (by decide) _ _ _ rfl (hown6.alloc _) ⟨w6.heap.size, 0, none⟩ 1 1 [.int .i64 (k : Int)] rfl rfl (cell_one_new _ _ _) (fun u hu => by rw [List.mem_singleton.1 hu]; rfl) (by unfold maxLen; omega) (by omega) (Nat.le_trans hb6.size (by simp)) ?_; intro v7 w7 hown7 hgr7 _))
            have hkw : (Lit.int .i64 (k : Int)).wf = true := wf_i64 (by omega) (by omega)
            have hb7 : Below wc.heap.size wc w7 := (hb6.alloc hb6.size _).grown hgr7 (Nat.le_trans hb6.size (by simp)) (fun j hj => (hown6.lt j hj).1)
            have hO7 : w7.ownsInts wc.heap.size 3 .i64 v7 (S3.now ++ [(k : Int)]) := by
              refine ⟨by rw [List.length_append, HN5.out, List.map_append]; exact hown7, fun z hz => ?_⟩
              rcases List.mem_append.1 hz with h | h
              · exact hF.n.2 z h
              · rw [List.mem_singleton.1 h]; exact hkw
            have hF := hF.news hO7 hb7 hbw
            have hL := cells_of hL hb7 (row_lt hL)
            have hg1 : w7.rangeAt b1 (o1 + k * 50) m.row.toList := fun j v hv => by rw [hb7.cell (p := ⟨b1, o1 + k * 50 + j, none⟩) (Nat.lt_of_lt_of_le hbm hbel.size)]; exact hg1 j v hv
            have hbel := hbel.trans (hb7.mono hbel.size)
            have hbw := Nat.le_trans hbw hb7.size
            clear hO7 hown7 hgr7 hown6 hgr6 hb6 hr5
            obtain ⟨ac3, cc3, rfl, hrc, hc2, hc3, hca⟩ := own_sliceN hF.c
            obtain ⟨nC3, hnC⟩ : ∃ x, S3.cur.length = x := ⟨_, rfl⟩
            have hcv : Value.slice ac3 S3.cur.length cc3 = .slice ac3 nC3 cc3 := by rw [hnC]
            rw [hcv] at hF
            rw [hnC] at hca hq1
            simp only [hnC]
            have CWD := with_any ac3 nC3 cc3 S3.cur m w7 hrc hnC (by omega) hca
            clear hcv hnC
            have hgx := hg1
            go_wp2_with (first | (refine wpList_load_mid rfl 34 (.tmp 104) rfl b1 _ rfl m.row.toList _ hgx Try.underlying34 rfl (msg_info _) ?_; rw [Array.toArray_toList]) | (go_at_call 91; refine CWD.mono ?_; rintro e w8 ⟨v8, rfl, ho8, hb8⟩))
            have hF := hF.curs ho8 hb8 hbw
            have hL := cells_of hL hb8 (row_lt hL)
            have hbel := hbel.trans (hb8.mono hbel.size)
            have hbw := Nat.le_trans hbw hb8.size
            go_roundw
            case rel => exact ⟨k + 1, vs3, ⟨S3.txs, S.sk, S3.now ++ [(k : Int)], S3.cur ++ [m], S.lost⟩, by omega, by go_num, Lib.hid HST.out.symm, hF, hL, hbw, hbel⟩
            case measure => (simp [intOf]) <;> omega
end Go.Proofs.Ythipnkbfdkmhaaa
