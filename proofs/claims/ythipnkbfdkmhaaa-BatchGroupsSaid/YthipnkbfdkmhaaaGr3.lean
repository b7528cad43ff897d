/- BatchGroups walked. -/
import Derived.Test.YthipnkbfdkmhaaaGr2
import Derived.BigRegion
import Derived.RegionTactic
import Derived.BigQuiet
import Derived.Deep.QuietTactic
import Derived.Deep.MidRow
import Derived.LoopTactic
import Derived.BigFrame
import Derived.OwnWalk
import Derived.WalkKit
import Derived.ProofKit
import Derived.Handy
import Derived.Below
import Derived.Lib.Hide
import Derived.IntWalk
import Derived.Outline
import Derived.WalkLawsBesides
import Derived.WalkSpells
namespace Go.Proofs.Ythipnkbfdkmhaaa
open Go.RowKit
attribute [local go_sem] strV
set_option linter.unusedVariables false
def itL (x : ItV) : List Value := [.int .i64 x.kd, .int .i64 x.to, .string x.port, .int .i64 x.ch, .int .i64 x.sq]
theorem itL_len (x : ItV) : (itL x).length = 5 := rfl
theorem it_range {w : World} {a : Option Addr} {js : List ItV} (h : RowAt w a (js.flatMap itL)) {k : Nat} (hk : k < js.length) :
    ∃ b off, a = some ⟨b, off, none⟩ ∧ b < w.heap.size ∧ w.rangeAt b (off + k * 5) (itL js[k]) := by
  obtain ⟨b, off, ha, hb, hc⟩ := h.elem itL_len hk (by decide)
  refine ⟨b, off, ha, hb, fun j v hv => ?_⟩
  have hj : j < 5 := by have := (List.getElem?_eq_some_iff.1 hv).1; rwa [itL_len] at this
  rw [Nat.add_assoc, hc j hj, hv]
def boL (b : Bool) : List Value := [.bool b]
theorem bo_at {w : World} {a : Option Addr} {bs : List Bool} (h : RowAt w a (bs.flatMap boL)) {k : Nat} (hk : k < bs.length) :
    ∃ b off, a = some ⟨b, off, none⟩ ∧ b < w.heap.size ∧ w.cell? ⟨b, off + k, none⟩ = some (.bool bs[k]) := by
  obtain ⟨b, off, ha, hb, hc⟩ := h.elem (f := boL) (c := 1) (fun _ => rfl) hk (by decide)
  refine ⟨b, off, ha, hb, ?_⟩
  have := hc 0 (by decide)
  rw [Nat.mul_one, Nat.add_zero] at this
  rw [this]; rfl
theorem in_at {w : World} {a : Option Addr} {zs : List Int} (h : RowAt w a (zs.map (Value.int .i64))) {k : Nat} (hk : k < zs.length) :
    ∃ b off, a = some ⟨b, off, none⟩ ∧ b < w.heap.size ∧ w.cell? ⟨b, off + k, none⟩ = some (.int .i64 zs[k]) := by
  have h2 : RowAt w a (zs.flatMap fun z => [Value.int .i64 z]) := by rw [← List.map_eq_flatMap]; exact h
  obtain ⟨b, off, ha, hb, hc⟩ := h2.elem (f := fun z => [Value.int .i64 z]) (c := 1) (fun _ => rfl) hk (by decide)
  refine ⟨b, off, ha, hb, ?_⟩
  have := hc 0 (by decide)
  rw [Nat.mul_one, Nat.add_zero] at this
  rw [this]; rfl
theorem Try.infoJb : (Try.prog.info? 74).map (fun i => (i.zero, i.size, i.bytes)) = some (some (.agg #[.int .i64 0, .int .i64 0, .string ⟨#[]⟩, .int .i64 0, .int .i64 0, .string ⟨#[]⟩, .int .i64 0, .string ⟨#[]⟩, .int .i64 0, .int .i64 0, .string ⟨#[]⟩, .int .i64 0, .int .i64 0, .string ⟨#[]⟩, .int .i64 0, .int .i64 0, .bool false]), 17, 176) := by kernel_rfl
theorem build_job (x : ItV) (od : Bool) (W : World) : (Instr.build 74 #[(0, .agg #[.int .i64 x.kd, .int .i64 x.to, .string x.port, .int .i64 x.ch, .int .i64 x.sq]), (5, .bool od)]).run Try.prog W = .ok (.agg #[.int .i64 x.kd, .int .i64 x.to, .string x.port, .int .i64 x.ch, .int .i64 x.sq, .string ⟨#[]⟩, .int .i64 0, .string ⟨#[]⟩, .int .i64 0, .int .i64 0, .string ⟨#[]⟩, .int .i64 0, .int .i64 0, .string ⟨#[]⟩, .int .i64 0, .int .i64 0, .bool od]) W := by kernel_rfl
theorem jobs_one (js : List (ItV × Bool)) : ∀ u ∈ js.flatMap jobL, u.oneCell' = true := by
  intro u hu
  obtain ⟨j, _, hj⟩ := List.mem_flatMap.1 hu
  simp only [jobL, List.mem_cons, List.not_mem_nil, or_false] at hj
  rcases hj with rfl | rfl | rfl | rfl | rfl | rfl | rfl | rfl | rfl | rfl | rfl | rfl | rfl | rfl | rfl | rfl | rfl <;> rfl
set_option maxRecDepth 100000 in
set_option maxHeartbeats 12800000 in
theorem walkBatchGroups (a : Option Addr) (n cap : Nat) (its : List ItV) (b : Option Addr) (n2 cap2 : Nat) (bs : List Bool) (w : World) (hr : RowAt w a (its.flatMap itL)) (hn : its.length = n) (hcap : n ≤ cap) (hwf : ∀ x ∈ its, x.wf) (hrb : RowAt w b (bs.flatMap boL)) (hn2 : bs.length = n2) :
    Calls Try.prog 13 #[.slice a n cap, .slice b n2 cap2] w fun e w' => e = .returned (.bool true) ∧ Below w.heap.size w w' := by
  have hbel := Below.refl w.heap.size w
  have HN := Lib.hid hn
  have HN2 := Lib.hid hn2
  clear hn hn2
  go_enter Try.func13, Try.ntmps13
  go_upto_region 3 with (go_at_call 38; refine (first28_any _).mono ?_; rintro e w2 ⟨rfl, hb⟩; have hbel := hbel.trans (hb.mono hbel.size); clear hb)
  by_cases h30 : 30 < n
  · have d1 : decide (30 < (n : Int)) = true := decide_eq_true (by omega)
    have d1n : decide (30 < n) = true := decide_eq_true h30
    go_wp2_with (go_at_call 38; refine (first28_any _).mono ?_; rintro e w2 ⟨rfl, hb⟩; have hbel := hbel.trans (hb.mono hbel.size); clear hb)
    go_ret
    exact ⟨by first | rfl | simp, hbel⟩
  have d1 : decide (30 < (n : Int)) = false := decide_eq_false (by omega)
  have d1n : decide (30 < n) = false := decide_eq_false h30
  by_cases hne : n2 = n
  rotate_left
  · have e1 : (((n2 : Nat) : Int) != ((n : Nat) : Int)) = true := by rw [bne_iff_ne]; omega
    have e1n : (n2 != n) = true := by rw [bne_iff_ne]; exact hne
    go_wp2_with (go_at_call 38; refine (first28_any _).mono ?_; rintro e w2 ⟨rfl, hb⟩; have hbel := hbel.trans (hb.mono hbel.size); clear hb)
    go_ret
    exact ⟨by first | rfl | simp, hbel⟩
  subst hne
  have hjl : (its.zip bs).length = n2 := by rw [List.length_zip, HN.out, HN2.out]; omega
  have hjk : ∀ k (h1 : k < its.length) (h2 : k < bs.length), (its.zip bs)[k]? = some (its[k], bs[k]) := fun k h1 h2 => by rw [List.getElem?_eq_getElem (by rw [List.length_zip]; omega), List.getElem_zip]
  obtain ⟨jl, hj9⟩ : ∃ l, its.zip bs = l := ⟨_, rfl⟩
  rw [hj9] at hjl
  rw [hj9] at hjk
  have hjw : ∀ j ∈ jl, j.1.wf := fun j hj => by
    rw [← hj9] at hj
    exact hwf _ (List.of_mem_zip hj).1
  have HJL := Lib.hid hjl
  have HJW := Lib.hid hjw
  have HJK := Lib.hid hjk
  clear hj9 hjl hjw hjk hwf
  obtain ⟨i0, hi, hzI, hsI, hbI⟩ := info_parts Try.infoJb
  go_upto_region 7 with fail
  go_loopw [5, 6] (fun v i wr => ∃ k : Nat, k ≤ n2 ∧ i = .int .i64 k ∧ wr.ownsRow w.heap.size 74 17 v k ((jl.take k).flatMap jobL) ∧ Below w.heap.size w wr) (fun _ i _ => n2 - (intOf i).toNat)
  case atStart => exact ⟨0, Nat.zero_le _, rfl, ⟨rfl, .inl ⟨rfl, rfl⟩⟩, hbel⟩
  case round =>
    clear hbel
    obtain ⟨k, hk, rfl, hown, hbel⟩ := hrel
    by_cases hlt : k < n2
    · have d2 : decide ((k : Int) < (n2 : Int)) = true := decide_eq_true (by omega)
      have d2n : decide (k < n2) = true := decide_eq_true hlt
      have hkl : k < its.length := by rw [HN.out]; exact hlt
      have hkb : k < bs.length := by rw [HN2.out]; exact hlt
      have hkj : k < jl.length := by rw [HJL.out]; exact hlt
      obtain ⟨b1, o1, rfl, hb1, hg1⟩ := it_range (hr.below hbel) hkl
      obtain ⟨b2, o2, rfl, hb2, hg2⟩ := bo_at (hrb.below hbel) hkb
      have htk : (jl.take (k + 1)).flatMap jobL = (jl.take k).flatMap jobL ++ jobL (its[k], bs[k]) := by
        rw [List.take_succ_eq_append_getElem hkj, List.flatMap_append, show jl[k] = (its[k], bs[k]) from Option.some.inj ((List.getElem?_eq_getElem hkj).symm.trans (HJK.out k hkl hkb))]; simp
      obtain ⟨xi, hx9⟩ : ∃ x, its[k] = x := ⟨_, rfl⟩
      obtain ⟨od, hod⟩ : ∃ x, bs[k] = x := ⟨_, rfl⟩
      rw [hx9] at hg1 htk
      rw [hod] at hg2 htk
      have HTK := Lib.hid htk
      clear htk hx9 hod
      obtain ⟨a5, c5, rfl, _⟩ := own_slice hown
      have n0 : (0 : Int) ≤ (k : Int) := by omega
      have n1 : (k : Int) < (n2 : Int) := by omega
      have n2' : ((k : Nat) : Int).toNat = k := by omega
      have hg1 : wr.rangeAt b1 (o1 + k * 5) (#[.int .i64 xi.kd, .int .i64 xi.to, .string xi.port, .int .i64 xi.ch, .int .i64 xi.sq] : Array Value).toList := hg1
      go_upto_region 9 with fail
      refine wp_region_facts_chain 11 (by decide) [Fact.eq (.slice a5 k c5), Fact.eq (.slice (some ⟨b1, o1, none⟩) n2 cap), Fact.eq (.int .i64 (k : Int)), Fact.eq (.pointer (some ⟨b1, o1 + k * 5, none⟩)), Fact.eq (.agg #[.int .i64 xi.kd, .int .i64 xi.to, .string xi.port, .int .i64 xi.ch, .int .i64 xi.sq]), Fact.eq (.slice (some ⟨b2, o2, none⟩) n2 cap2), Fact.eq (.int .i64 (k : Int)), Fact.eq (.pointer (some ⟨b2, o2 + k, none⟩)), Fact.eq (.bool od), Fact.eq (.agg #[.int .i64 xi.kd, .int .i64 xi.to, .string xi.port, .int .i64 xi.ch, .int .i64 xi.sq, .string ⟨#[]⟩, .int .i64 0, .string ⟨#[]⟩, .int .i64 0, .int .i64 0, .string ⟨#[]⟩, .int .i64 0, .int .i64 0, .string ⟨#[]⟩, .int .i64 0, .int .i64 0, .bool od]), Fact.row (1) (jobL (xi, od))] (by kernel_rfl) (by kernel_rfl) (by kernel_rfl) (by kernel_rfl) (by kernel_rfl) (by kernel_rfl) (by kernel_rfl) (fun x => by simp only [List.take_succ_cons, List.take_zero, fillFrom, Act.put, List.setIfInBounds_toArray, List.set_cons_succ, List.set_cons_zero]; rfl) ?_ ?_
      · refine ⟨?_, ?_, ?_, ?_, ?_, ?_, ?_, ?_, ?_, ?_, ?_, trivial⟩
        · intro x w' hbw hd
          clear hd
          go_wp2_with fail
          exact frPost_mk rfl (by repeat (first | assumption | exact Below.refl _ _ | refine bch ?_ (by assumption) | refine Below.alloc ?_ (by simp) _)) rfl
        · intro x w' hbw hd
          clear hd
          go_wp2_with fail
          exact frPost_mk rfl (by repeat (first | assumption | exact Below.refl _ _ | refine bch ?_ (by assumption) | refine Below.alloc ?_ (by simp) _)) rfl
        · intro x w' hbw hd
          clear hd
          go_wp2_with fail
          exact frPost_mk rfl (by repeat (first | assumption | exact Below.refl _ _ | refine bch ?_ (by assumption) | refine Below.alloc ?_ (by simp) _)) rfl
        · intro x w' hbw hd
          have d1 : x 1 = .slice (some ⟨b1, o1, none⟩) n2 cap := hd 1 rfl
          have d2 : x 2 = .int .i64 (k : Int) := hd 2 rfl
          clear hd
          go_wp2_with fail
          exact frPost_mk rfl (by repeat (first | assumption | exact Below.refl _ _ | refine bch ?_ (by assumption) | refine Below.alloc ?_ (by simp) _)) (by first | rfl | (show Value.pointer _ = Value.pointer _; simp))
        · intro x w' hbw hd
          have d3 : x 3 = .pointer (some ⟨b1, o1 + k * 5, none⟩) := hd 3 rfl
          clear hd
          have hrg : w'.rangeAt b1 (o1 + k * 5) (#[.int .i64 xi.kd, .int .i64 xi.to, .string xi.port, .int .i64 xi.ch, .int .i64 xi.sq] : Array Value).toList := fun t v hv => by rw [hbw.cell (p := ⟨b1, o1 + k * 5 + t, none⟩) hb1]; exact hg1 t v hv
          go_wp2_with (first | (refine wpList_load_mid rfl 72 (.tmp 35) rfl b1 (o1 + k * 5) (by first | exact d3 | rfl) ((#[.int .i64 xi.kd, .int .i64 xi.to, .string xi.port, .int .i64 xi.ch, .int .i64 xi.sq] : Array Value).toList) _ hrg Try.underlying72 rfl (by rfl) ?_; rw [Array.toArray_toList]))
          exact frPost_mk rfl (by repeat (first | assumption | exact Below.refl _ _ | refine bch ?_ (by assumption) | refine Below.alloc ?_ (by simp) _)) rfl
        · intro x w' hbw hd
          clear hd
          go_wp2_with fail
          exact frPost_mk rfl (by repeat (first | assumption | exact Below.refl _ _ | refine bch ?_ (by assumption) | refine Below.alloc ?_ (by simp) _)) rfl
        · intro x w' hbw hd
          clear hd
          go_wp2_with fail
          exact frPost_mk rfl (by repeat (first | assumption | exact Below.refl _ _ | refine bch ?_ (by assumption) | refine Below.alloc ?_ (by simp) _)) rfl
        · intro x w' hbw hd
          have d5 : x 5 = .slice (some ⟨b2, o2, none⟩) n2 cap2 := hd 5 rfl
          have d6 : x 6 = .int .i64 (k : Int) := hd 6 rfl
          clear hd
          go_wp2_with fail
          exact frPost_mk rfl (by repeat (first | assumption | exact Below.refl _ _ | refine bch ?_ (by assumption) | refine Below.alloc ?_ (by simp) _)) (by first | rfl | (show Value.pointer _ = Value.pointer _; simp))
        · intro x w' hbw hd
          have d7 : x 7 = .pointer (some ⟨b2, o2 + k, none⟩) := hd 7 rfl
          clear hd
          have cq : w'.cell? ⟨b2, o2 + k, none⟩ = some (.bool od) := by rw [hbw.cell (p := ⟨b2, o2 + k, none⟩) hb2]; exact hg2
          go_wp2_with (first | fail)
          exact frPost_mk rfl (by repeat (first | assumption | exact Below.refl _ _ | refine bch ?_ (by assumption) | refine Below.alloc ?_ (by simp) _)) rfl
        · intro x w' hbw hd
          have d4 : x 4 = .agg #[.int .i64 xi.kd, .int .i64 xi.to, .string xi.port, .int .i64 xi.ch, .int .i64 xi.sq] := hd 4 rfl
          have d8 : x 8 = .bool od := hd 8 rfl
          clear hd
          have hB := build_job xi od w'
          go_wp2_with (first | (refine wpList_build2 rfl _ _ _ _ _ rfl (by first | exact d4 | rfl) (by first | exact d8 | rfl) hB ?_))
          exact frPost_mk rfl (by repeat (first | assumption | exact Below.refl _ _ | refine bch ?_ (by assumption) | refine Below.alloc ?_ (by simp) _)) rfl
        · intro x w' hbw hd
          have d9 : x 9 = .agg #[.int .i64 xi.kd, .int .i64 xi.to, .string xi.port, .int .i64 xi.ch, .int .i64 xi.sq, .string ⟨#[]⟩, .int .i64 0, .string ⟨#[]⟩, .int .i64 0, .int .i64 0, .string ⟨#[]⟩, .int .i64 0, .int .i64 0, .string ⟨#[]⟩, .int .i64 0, .int .i64 0, .bool od] := hd 9 rfl
          clear hd
          go_wp2_with fail
          refine frPost_mk rfl (by repeat (first | assumption | exact Below.refl _ _ | refine bch ?_ (by assumption) | refine Below.alloc ?_ (by simp) _)) ?_; show (Fact.row (1) (jobL (xi, od))).holds _ _; exact ⟨_, _, rfl, row_newI _ _ _⟩
      · intro x9 w' hbw hall
        have hx0 : x9 0 = .slice a5 k c5 := hall 0 (by decide)
        obtain ⟨a9, c9, hx10, hr9⟩ := (show (Fact.row (1) (jobL (xi, od))).holds (x9 10) w' from hall 10 (by decide))
        clear hall
        have ho := own_kept9 hown hbw
        have hbel := hbel.trans (hbw.mono hbel.size)
        rcases hr9 with hr9 | ⟨b9, o9, rfl, hb9, hc9⟩
        · cases hr9
        have hnews : ∀ j u, (jobL (xi, od))[j]? = some u → w'.cell? ((⟨b9, o9, none⟩ : Addr).add j) = some u := fun j u hj => by
          rw [Addr.add_lit, hc9 j (List.getElem?_eq_some_iff.1 hj).1, hj]
        simp only [hx0, hx10, List.drop_succ_cons, List.drop_zero]
        go_wp2_with (at_builtin; refine wpList_append_own _ rfl (.tmp 32) (.tmp 42) 70 rfl w.heap.size 74 i0 (.agg #[.int .i64 0, .int .i64 0, .string ⟨#[]⟩, .int .i64 0, .int .i64 0, .string ⟨#[]⟩, .int .i64 0, .string ⟨#[]⟩, .int .i64 0, .int .i64 0, .string ⟨#[]⟩, .int .i64 0, .int .i64 0, .string ⟨#[]⟩, .int .i64 0, .int .i64 0, .bool false]) 17 176 Try.underlying70 hi hzI hsI hbI rfl (by decide) _ _ _ rfl ho ⟨b9, o9, none⟩ 1 c9 (jobL (xi, od)) rfl rfl hnews (fun u hu => jobs_one [(xi, od)] u (by simpa using hu)) (by unfold maxLen; omega) (by omega) hbel.size ?_)
        intro v9 w9 hown9 hgr9 _
        have hb9' : Below w.heap.size w' w9 := below_grown ho hgr9 hbel.size
        go_wp2
        go_roundw
        case rel => exact ⟨k + 1, by omega, by go_num, by rw [HTK.out]; exact hown9, hbel.trans hb9'⟩
        case measure => (simp [intOf]) <;> omega
    · have d9 : decide ((k : Int) < (n2 : Int)) = false := decide_eq_false (by omega)
      have d9n : decide (k < n2) = false := decide_eq_false hlt
      obtain rfl : k = n2 := by omega
      rw [List.take_of_length_le (by rw [HJL.out]; exact Nat.le_refl _)] at hown
      obtain ⟨a5, c5, rfl, hr5, hc5, _, _⟩ := own_slice hown
      have CG := fun W (hb : Below wr.heap.size wr W) => groups_any a5 k c5 jl W (hr5.below hb) HJL.out (by omega) HJW.out
      have hb0 := Below.refl wr.heap.size wr
      have hG : (grF jl).2 = (List.range k).map (grN jl) := by
        have := grF_out jl k (by rw [HJL.out]; exact Nat.le_refl _)
        rwa [List.take_of_length_le (by rw [HJL.out]; exact Nat.le_refl _)] at this
      have HG := Lib.hid hG
      clear hG
      go_upto_region 15 with (go_at_call 45; refine (CG _ hb0).mono ?_; rintro e w7 ⟨v7, rfl, hown7, hb7⟩; obtain ⟨a7, c7, rfl, hr7, hc7, hm7, _⟩ := own_slice hown7)
      have hbI := hb7
      clear CG hb0 hown7
      go_loopw [8, 9] (fun mo i wr => ∃ i' : Nat, i' ≤ k ∧ i = .int .i64 i' ∧ mo = .int .i64 (grM jl i' : Nat) ∧ Below w7.heap.size w7 wr) (fun _ i _ => k - (intOf i).toNat)
      case atStart => exact ⟨0, Nat.zero_le _, rfl, rfl, Below.refl _ _⟩
      case round =>
        obtain ⟨i, hik, rfl, rfl, hbI⟩ := hrel
        by_cases hli : i < k
        rotate_left
        · have d9 : decide ((i : Int) < (k : Int)) = false := decide_eq_false (by omega)
          have d9n : decide (i < k) = false := decide_eq_false hli
          go_wp2
          go_ret
          exact ⟨by first | rfl | simp, hbel.trans ((hb7.trans (hbI.mono hb7.size)).mono hbel.size)⟩
        have d2 : decide ((i : Int) < (k : Int)) = true := decide_eq_true (by omega)
        have d2n : decide (i < k) = true := decide_eq_true hli
        have hil : i < its.length := by rw [HN.out]; exact hli
        have hib : i < bs.length := by rw [HN2.out]; exact hli
        have hij : i < jl.length := by rw [HJL.out]; exact hli
        have hrW := hr.below (hbel.trans ((hb7.trans (hbI.mono hb7.size)).mono hbel.size))
        have hrbW := hrb.below (hbel.trans ((hb7.trans (hbI.mono hb7.size)).mono hbel.size))
        have hr7W := hr7.below hbI
        obtain ⟨b1, o1, rfl, _, hgi⟩ := it_range hrW hil
        obtain ⟨b2, o2, rfl, _, hob⟩ := bo_at hrbW hib
        obtain ⟨b7, o7, rfl, _, hcg⟩ := in_at hr7W (k := i) (by rw [HG.out, List.length_map, List.length_range]; omega)
        simp only [HG.out, List.getElem_map, List.getElem_range] at hcg
        have hxi : jl[i] = (its[i], bs[i]) := Option.some.inj ((List.getElem?_eq_getElem hij).symm.trans (HJK.out i hil hib))
        have hst := grM_step hij
        have hM10 : grM jl i ≤ i := (grF_len jl i (by omega)).2
        rw [hxi] at hst
        obtain ⟨xi, hxe⟩ : ∃ z, its[i] = z := ⟨_, rfl⟩
        obtain ⟨od, hod⟩ : ∃ z, bs[i] = z := ⟨_, rfl⟩
        rw [hxe, hod] at hst hxi
        rw [hxe] at hgi
        rw [hod] at hob
        obtain ⟨M, hM⟩ : ∃ z, grM jl i = z := ⟨_, rfl⟩
        obtain ⟨M9, hM9⟩ : ∃ z, grM jl (i + 1) = z := ⟨_, rfl⟩
        obtain ⟨G, hG0⟩ : ∃ z, grN jl i = z := ⟨_, rfl⟩
        rw [hM, hM9, hG0] at hst
        rw [hM] at hM10
        rw [hG0] at hcg
        simp only [hM]
        have HXI := Lib.hid hxi
        have HXE := Lib.hid hxe
        have HMX := Lib.hid hM9
        have HGI := Lib.hid hG0
        have c0 : wr.cell? ⟨b1, o1 + i * 5, none⟩ = some (.int .i64 xi.kd) := hgi 0 _ rfl
        have n0 : (0 : Int) ≤ (i : Int) := by omega
        have n1 : (i : Int) < (k : Int) := by omega
        have n2' : ((i : Nat) : Int).toNat = i := by omega
        obtain ⟨k1, hk1⟩ : ∃ z, (xi.kd == 1) = z := ⟨_, rfl⟩
        obtain ⟨k2, hk2⟩ : ∃ z, (xi.kd == 2) = z := ⟨_, rfl⟩
        have hig : inGroup (xi, od) = (od && (k1 || k2)) := by unfold inGroup; rw [hk1, hk2]
        clear hgi hxi hxe hM9 hG0 hod hM
        cases od
        · have HIG : Hid (inGroup (xi, false) = false) := Lib.hid (hig.trans rfl)
          clear hig
          have dG0 : decide (0 < G) = false := by first | exact decide_eq_true (hst.1.2 HIG.out) | exact decide_eq_false (fun h => by have := hst.1.1 h; rw [HIG.out] at this; cases this)
          have dG1 : decide (G < 0) = false := decide_eq_false (by omega)
          have dG2 : decide ((M : Int) + 1 < G) = false := decide_eq_false (by omega)
          have hmx : max (M : Int) G = (M9 : Int) := hst.2.2.2.1
          clear hst
          go_upto_region 22 with fail
          go_loopw [11] (fun kk wr2 => ∃ j : Nat, j ≤ i ∧ kk = .int .i64 j ∧ Below w7.heap.size w7 wr2) (fun kk _ => i - (intOf kk).toNat)
          case atStart => exact ⟨0, Nat.zero_le _, rfl, hbI⟩
          case round =>
            clear hbI
            obtain ⟨j, hj, rfl, hbV⟩ := hrel
            by_cases hlj : j < i
            rotate_left
            · obtain rfl : j = i := by omega
              have d9 : decide ((j : Int) < (j : Int)) = false := decide_eq_false (by omega)
              have d9n : decide (j < j) = false := decide_eq_false (by omega)
              go_wp2
              go_roundw
              case rel => exact ⟨j + 1, by omega, by go_num, by rw [HMX.out], hbV⟩
              case measure => (simp [intOf]) <;> omega
            have d4 : decide ((j : Int) < (i : Int)) = true := decide_eq_true (by omega)
            have d4n : decide (j < i) = true := decide_eq_true hlj
            have hjl : j < its.length := by rw [HN.out]; omega
            have hjb : j < bs.length := by rw [HN2.out]; omega
            have hjj : j < jl.length := by rw [HJL.out]; omega
            have hrV := hr.below (hbel.trans ((hb7.trans (hbV.mono hb7.size)).mono hbel.size))
            obtain ⟨b8, o8, e8, _, hgi⟩ := it_range hrV hil
            simp only [Option.some.injEq, Addr.mk.injEq, and_true] at e8
            obtain ⟨rfl, rfl⟩ := e8
            obtain ⟨b8, o8, e8, _, hgj⟩ := it_range hrV hjl
            simp only [Option.some.injEq, Addr.mk.injEq, and_true] at e8
            obtain ⟨rfl, rfl⟩ := e8
            have hr7V := hr7.below hbV
            obtain ⟨b8, o8, e8, _, hci⟩ := in_at hr7V (k := i) (by rw [HG.out, List.length_map, List.length_range]; omega)
            simp only [Option.some.injEq, Addr.mk.injEq, and_true] at e8
            obtain ⟨rfl, rfl⟩ := e8
            obtain ⟨b8, o8, e8, _, hcj⟩ := in_at hr7V (k := j) (by rw [HG.out, List.length_map, List.length_range]; omega)
            simp only [Option.some.injEq, Addr.mk.injEq, and_true] at e8
            obtain ⟨rfl, rfl⟩ := e8
            simp only [HG.out, List.getElem_map, List.getElem_range] at hci hcj
            have hsm := fun hin hg => grN_same (js := jl) (i := i) (k := j) hij hjj hin hg
            rw [HXI.out, show jl[j] = (its[j], bs[j]) from Option.some.inj ((List.getElem?_eq_getElem hjj).symm.trans (HJK.out j hjl hjb))] at hsm
            have hst9 := grM_step hjj
            obtain ⟨yi, hyi⟩ : ∃ z, its[j] = z := ⟨_, rfl⟩
            rw [hyi] at hgj hsm
            rw [HXE.out] at hgi
            obtain ⟨H, hH9⟩ : ∃ z, grN jl j = z := ⟨_, rfl⟩
            rw [HGI.out] at hci hsm
            rw [hH9] at hcj hsm
            have x0 : wr.cell? ⟨b1, o1 + i * 5, none⟩ = some (.int .i64 xi.kd) := hgi 0 _ rfl
            have x1 : wr.cell? ⟨b1, o1 + i * 5 + 1, none⟩ = some (.int .i64 xi.to) := hgi 1 _ rfl
            have x2 : wr.cell? ⟨b1, o1 + i * 5 + 2, none⟩ = some (.string xi.port) := hgi 2 _ rfl
            have x3 : wr.cell? ⟨b1, o1 + i * 5 + 3, none⟩ = some (.int .i64 xi.ch) := hgi 3 _ rfl
            have y0 : wr.cell? ⟨b1, o1 + j * 5, none⟩ = some (.int .i64 yi.kd) := hgj 0 _ rfl
            have y1 : wr.cell? ⟨b1, o1 + j * 5 + 1, none⟩ = some (.int .i64 yi.to) := hgj 1 _ rfl
            have y2 : wr.cell? ⟨b1, o1 + j * 5 + 2, none⟩ = some (.string yi.port) := hgj 2 _ rfl
            have y3 : wr.cell? ⟨b1, o1 + j * 5 + 3, none⟩ = some (.int .i64 yi.ch) := hgj 3 _ rfl
            have m0 : (0 : Int) ≤ (j : Int) := by omega
            have m1 : (j : Int) < (k : Int) := by omega
            have m2 : ((j : Nat) : Int).toNat = j := by omega
            unfold sameIt at hsm
            have hEQ := fun V : World => run_equal_endG V xi.port yi.port xi.ch yi.ch
            obtain ⟨s1, hs1⟩ : ∃ z, (xi.kd == yi.kd) = z := ⟨_, rfl⟩
            obtain ⟨s2, hs2⟩ : ∃ z, (xi.to == yi.to) = z := ⟨_, rfl⟩
            obtain ⟨s3, hs3⟩ : ∃ z, ((xi.port.toList == yi.port.toList) && (xi.ch == yi.ch)) = z := ⟨_, rfl⟩
            simp only [hs3] at hEQ
            rw [hs1, hs2, hs3] at hsm
            obtain ⟨gb, hgb⟩ : ∃ z, decide (0 < H) = z := ⟨_, rfl⟩
            obtain ⟨eqb, heqb⟩ : ∃ z, (H == G) = z := ⟨_, rfl⟩
            rw [heqb] at hsm
            have HSM := Lib.hid (fun (hin : inGroup (xi, false) = true) (h : gb = true) => hsm hin (of_decide_eq_true (hgb.trans h)))
            clear hsm hgi hgj hyi hH9 hs3 hst9
            cases s1
            · go_upto_region 24 with fail
              go_quiet (fail)
              go_upto_region 25 with fail
              go_quiet (fail)
              go_wp2
              go_roundw
              case rel => exact ⟨j + 1, by omega, by go_num, hbV.trans ((drewN_below _ _).mono hbV.size)⟩
              case measure => (simp [intOf]) <;> omega
            · cases s2
              · go_upto_region 24 with fail
                go_quiet (fail)
                go_upto_region 25 with fail
                go_quiet (fail)
                go_wp2
                go_roundw
                case rel => exact ⟨j + 1, by omega, by go_num, hbV.trans ((drewN_below _ _).mono hbV.size)⟩
                case measure => (simp [intOf]) <;> omega
              · go_upto_region 24 with fail
                go_quiet (fail)
                go_upto_region 25 with fail
                go_quiet (fail)
                go_wp2
                go_roundw
                case rel => exact ⟨j + 1, by omega, by go_num, hbV.trans ((drewN_below _ _).mono hbV.size)⟩
                case measure => (simp [intOf]) <;> omega
        · cases k1
          · cases k2
            · have HIG : Hid (inGroup (xi, true) = false) := Lib.hid (hig.trans rfl)
              clear hig
              have dG0 : decide (0 < G) = false := by first | exact decide_eq_true (hst.1.2 HIG.out) | exact decide_eq_false (fun h => by have := hst.1.1 h; rw [HIG.out] at this; cases this)
              have dG1 : decide (G < 0) = false := decide_eq_false (by omega)
              have dG2 : decide ((M : Int) + 1 < G) = false := decide_eq_false (by omega)
              have hmx : max (M : Int) G = (M9 : Int) := hst.2.2.2.1
              clear hst
              go_upto_region 22 with fail
              go_loopw [11] (fun kk wr2 => ∃ j : Nat, j ≤ i ∧ kk = .int .i64 j ∧ Below w7.heap.size w7 wr2) (fun kk _ => i - (intOf kk).toNat)
              case atStart => exact ⟨0, Nat.zero_le _, rfl, hbI⟩
              case round =>
                clear hbI
                obtain ⟨j, hj, rfl, hbV⟩ := hrel
                by_cases hlj : j < i
                rotate_left
                · obtain rfl : j = i := by omega
                  have d9 : decide ((j : Int) < (j : Int)) = false := decide_eq_false (by omega)
                  have d9n : decide (j < j) = false := decide_eq_false (by omega)
                  go_wp2
                  go_roundw
                  case rel => exact ⟨j + 1, by omega, by go_num, by rw [HMX.out], hbV⟩
                  case measure => (simp [intOf]) <;> omega
                have d4 : decide ((j : Int) < (i : Int)) = true := decide_eq_true (by omega)
                have d4n : decide (j < i) = true := decide_eq_true hlj
                have hjl : j < its.length := by rw [HN.out]; omega
                have hjb : j < bs.length := by rw [HN2.out]; omega
                have hjj : j < jl.length := by rw [HJL.out]; omega
                have hrV := hr.below (hbel.trans ((hb7.trans (hbV.mono hb7.size)).mono hbel.size))
                obtain ⟨b8, o8, e8, _, hgi⟩ := it_range hrV hil
                simp only [Option.some.injEq, Addr.mk.injEq, and_true] at e8
                obtain ⟨rfl, rfl⟩ := e8
                obtain ⟨b8, o8, e8, _, hgj⟩ := it_range hrV hjl
                simp only [Option.some.injEq, Addr.mk.injEq, and_true] at e8
                obtain ⟨rfl, rfl⟩ := e8
                have hr7V := hr7.below hbV
                obtain ⟨b8, o8, e8, _, hci⟩ := in_at hr7V (k := i) (by rw [HG.out, List.length_map, List.length_range]; omega)
                simp only [Option.some.injEq, Addr.mk.injEq, and_true] at e8
                obtain ⟨rfl, rfl⟩ := e8
                obtain ⟨b8, o8, e8, _, hcj⟩ := in_at hr7V (k := j) (by rw [HG.out, List.length_map, List.length_range]; omega)
                simp only [Option.some.injEq, Addr.mk.injEq, and_true] at e8
                obtain ⟨rfl, rfl⟩ := e8
                simp only [HG.out, List.getElem_map, List.getElem_range] at hci hcj
                have hsm := fun hin hg => grN_same (js := jl) (i := i) (k := j) hij hjj hin hg
                rw [HXI.out, show jl[j] = (its[j], bs[j]) from Option.some.inj ((List.getElem?_eq_getElem hjj).symm.trans (HJK.out j hjl hjb))] at hsm
                have hst9 := grM_step hjj
                obtain ⟨yi, hyi⟩ : ∃ z, its[j] = z := ⟨_, rfl⟩
                rw [hyi] at hgj hsm
                rw [HXE.out] at hgi
                obtain ⟨H, hH9⟩ : ∃ z, grN jl j = z := ⟨_, rfl⟩
                rw [HGI.out] at hci hsm
                rw [hH9] at hcj hsm
                have x0 : wr.cell? ⟨b1, o1 + i * 5, none⟩ = some (.int .i64 xi.kd) := hgi 0 _ rfl
                have x1 : wr.cell? ⟨b1, o1 + i * 5 + 1, none⟩ = some (.int .i64 xi.to) := hgi 1 _ rfl
                have x2 : wr.cell? ⟨b1, o1 + i * 5 + 2, none⟩ = some (.string xi.port) := hgi 2 _ rfl
                have x3 : wr.cell? ⟨b1, o1 + i * 5 + 3, none⟩ = some (.int .i64 xi.ch) := hgi 3 _ rfl
                have y0 : wr.cell? ⟨b1, o1 + j * 5, none⟩ = some (.int .i64 yi.kd) := hgj 0 _ rfl
                have y1 : wr.cell? ⟨b1, o1 + j * 5 + 1, none⟩ = some (.int .i64 yi.to) := hgj 1 _ rfl
                have y2 : wr.cell? ⟨b1, o1 + j * 5 + 2, none⟩ = some (.string yi.port) := hgj 2 _ rfl
                have y3 : wr.cell? ⟨b1, o1 + j * 5 + 3, none⟩ = some (.int .i64 yi.ch) := hgj 3 _ rfl
                have m0 : (0 : Int) ≤ (j : Int) := by omega
                have m1 : (j : Int) < (k : Int) := by omega
                have m2 : ((j : Nat) : Int).toNat = j := by omega
                unfold sameIt at hsm
                have hEQ := fun V : World => run_equal_endG V xi.port yi.port xi.ch yi.ch
                obtain ⟨s1, hs1⟩ : ∃ z, (xi.kd == yi.kd) = z := ⟨_, rfl⟩
                obtain ⟨s2, hs2⟩ : ∃ z, (xi.to == yi.to) = z := ⟨_, rfl⟩
                obtain ⟨s3, hs3⟩ : ∃ z, ((xi.port.toList == yi.port.toList) && (xi.ch == yi.ch)) = z := ⟨_, rfl⟩
                simp only [hs3] at hEQ
                rw [hs1, hs2, hs3] at hsm
                obtain ⟨gb, hgb⟩ : ∃ z, decide (0 < H) = z := ⟨_, rfl⟩
                obtain ⟨eqb, heqb⟩ : ∃ z, (H == G) = z := ⟨_, rfl⟩
                rw [heqb] at hsm
                have HSM := Lib.hid (fun (hin : inGroup (xi, true) = true) (h : gb = true) => hsm hin (of_decide_eq_true (hgb.trans h)))
                clear hsm hgi hgj hyi hH9 hs3 hst9
                cases s1
                · go_upto_region 24 with fail
                  go_quiet (fail)
                  go_upto_region 25 with fail
                  go_quiet (fail)
                  go_wp2
                  go_roundw
                  case rel => exact ⟨j + 1, by omega, by go_num, hbV.trans ((drewN_below _ _).mono hbV.size)⟩
                  case measure => (simp [intOf]) <;> omega
                · cases s2
                  · go_upto_region 24 with fail
                    go_quiet (fail)
                    go_upto_region 25 with fail
                    go_quiet (fail)
                    go_wp2
                    go_roundw
                    case rel => exact ⟨j + 1, by omega, by go_num, hbV.trans ((drewN_below _ _).mono hbV.size)⟩
                    case measure => (simp [intOf]) <;> omega
                  · go_upto_region 24 with fail
                    go_quiet (fail)
                    go_upto_region 25 with fail
                    go_quiet (fail)
                    go_wp2
                    go_roundw
                    case rel => exact ⟨j + 1, by omega, by go_num, hbV.trans ((drewN_below _ _).mono hbV.size)⟩
                    case measure => (simp [intOf]) <;> omega
            · have HIG : Hid (inGroup (xi, true) = true) := Lib.hid (hig.trans rfl)
              clear hig
              have dG0 : decide (0 < G) = true := by first | exact decide_eq_true (hst.1.2 HIG.out) | exact decide_eq_false (fun h => by have := hst.1.1 h; rw [HIG.out] at this; cases this)
              have dG1 : decide (G < 0) = false := decide_eq_false (by omega)
              have dG2 : decide ((M : Int) + 1 < G) = false := decide_eq_false (by omega)
              have hmx : max (M : Int) G = (M9 : Int) := hst.2.2.2.1
              clear hst
              go_upto_region 22 with fail
              go_loopw [11] (fun kk wr2 => ∃ j : Nat, j ≤ i ∧ kk = .int .i64 j ∧ Below w7.heap.size w7 wr2) (fun kk _ => i - (intOf kk).toNat)
              case atStart => exact ⟨0, Nat.zero_le _, rfl, hbI⟩
              case round =>
                clear hbI
                obtain ⟨j, hj, rfl, hbV⟩ := hrel
                by_cases hlj : j < i
                rotate_left
                · obtain rfl : j = i := by omega
                  have d9 : decide ((j : Int) < (j : Int)) = false := decide_eq_false (by omega)
                  have d9n : decide (j < j) = false := decide_eq_false (by omega)
                  go_wp2
                  go_roundw
                  case rel => exact ⟨j + 1, by omega, by go_num, by rw [HMX.out], hbV⟩
                  case measure => (simp [intOf]) <;> omega
                have d4 : decide ((j : Int) < (i : Int)) = true := decide_eq_true (by omega)
                have d4n : decide (j < i) = true := decide_eq_true hlj
                have hjl : j < its.length := by rw [HN.out]; omega
                have hjb : j < bs.length := by rw [HN2.out]; omega
                have hjj : j < jl.length := by rw [HJL.out]; omega
                have hrV := hr.below (hbel.trans ((hb7.trans (hbV.mono hb7.size)).mono hbel.size))
                obtain ⟨b8, o8, e8, _, hgi⟩ := it_range hrV hil
                simp only [Option.some.injEq, Addr.mk.injEq, and_true] at e8
                obtain ⟨rfl, rfl⟩ := e8
                obtain ⟨b8, o8, e8, _, hgj⟩ := it_range hrV hjl
                simp only [Option.some.injEq, Addr.mk.injEq, and_true] at e8
                obtain ⟨rfl, rfl⟩ := e8
                have hr7V := hr7.below hbV
                obtain ⟨b8, o8, e8, _, hci⟩ := in_at hr7V (k := i) (by rw [HG.out, List.length_map, List.length_range]; omega)
                simp only [Option.some.injEq, Addr.mk.injEq, and_true] at e8
                obtain ⟨rfl, rfl⟩ := e8
                obtain ⟨b8, o8, e8, _, hcj⟩ := in_at hr7V (k := j) (by rw [HG.out, List.length_map, List.length_range]; omega)
                simp only [Option.some.injEq, Addr.mk.injEq, and_true] at e8
                obtain ⟨rfl, rfl⟩ := e8
                simp only [HG.out, List.getElem_map, List.getElem_range] at hci hcj
                have hsm := fun hin hg => grN_same (js := jl) (i := i) (k := j) hij hjj hin hg
                rw [HXI.out, show jl[j] = (its[j], bs[j]) from Option.some.inj ((List.getElem?_eq_getElem hjj).symm.trans (HJK.out j hjl hjb))] at hsm
                have hst9 := grM_step hjj
                obtain ⟨yi, hyi⟩ : ∃ z, its[j] = z := ⟨_, rfl⟩
                rw [hyi] at hgj hsm
                rw [HXE.out] at hgi
                obtain ⟨H, hH9⟩ : ∃ z, grN jl j = z := ⟨_, rfl⟩
                rw [HGI.out] at hci hsm
                rw [hH9] at hcj hsm
                have x0 : wr.cell? ⟨b1, o1 + i * 5, none⟩ = some (.int .i64 xi.kd) := hgi 0 _ rfl
                have x1 : wr.cell? ⟨b1, o1 + i * 5 + 1, none⟩ = some (.int .i64 xi.to) := hgi 1 _ rfl
                have x2 : wr.cell? ⟨b1, o1 + i * 5 + 2, none⟩ = some (.string xi.port) := hgi 2 _ rfl
                have x3 : wr.cell? ⟨b1, o1 + i * 5 + 3, none⟩ = some (.int .i64 xi.ch) := hgi 3 _ rfl
                have y0 : wr.cell? ⟨b1, o1 + j * 5, none⟩ = some (.int .i64 yi.kd) := hgj 0 _ rfl
                have y1 : wr.cell? ⟨b1, o1 + j * 5 + 1, none⟩ = some (.int .i64 yi.to) := hgj 1 _ rfl
                have y2 : wr.cell? ⟨b1, o1 + j * 5 + 2, none⟩ = some (.string yi.port) := hgj 2 _ rfl
                have y3 : wr.cell? ⟨b1, o1 + j * 5 + 3, none⟩ = some (.int .i64 yi.ch) := hgj 3 _ rfl
                have m0 : (0 : Int) ≤ (j : Int) := by omega
                have m1 : (j : Int) < (k : Int) := by omega
                have m2 : ((j : Nat) : Int).toNat = j := by omega
                unfold sameIt at hsm
                have hEQ := fun V : World => run_equal_endG V xi.port yi.port xi.ch yi.ch
                obtain ⟨s1, hs1⟩ : ∃ z, (xi.kd == yi.kd) = z := ⟨_, rfl⟩
                obtain ⟨s2, hs2⟩ : ∃ z, (xi.to == yi.to) = z := ⟨_, rfl⟩
                obtain ⟨s3, hs3⟩ : ∃ z, ((xi.port.toList == yi.port.toList) && (xi.ch == yi.ch)) = z := ⟨_, rfl⟩
                simp only [hs3] at hEQ
                rw [hs1, hs2, hs3] at hsm
                obtain ⟨gb, hgb⟩ : ∃ z, decide (0 < H) = z := ⟨_, rfl⟩
                obtain ⟨eqb, heqb⟩ : ∃ z, (H == G) = z := ⟨_, rfl⟩
                rw [heqb] at hsm
                have HSM := Lib.hid (fun (hin : inGroup (xi, true) = true) (h : gb = true) => hsm hin (of_decide_eq_true (hgb.trans h)))
                clear hsm hgi hgj hyi hH9 hs3 hst9
                cases gb
                · clear HSM
                  cases s1
                  · go_upto_region 24 with fail
                    go_quiet (fail)
                    go_upto_region 25 with fail
                    go_quiet (fail)
                    go_wp2
                    go_roundw
                    case rel => exact ⟨j + 1, by omega, by go_num, hbV.trans ((drewN_below _ _).mono hbV.size)⟩
                    case measure => (simp [intOf]) <;> omega
                  · cases s2
                    · go_upto_region 24 with fail
                      go_quiet (fail)
                      go_upto_region 25 with fail
                      go_quiet (fail)
                      go_wp2
                      go_roundw
                      case rel => exact ⟨j + 1, by omega, by go_num, hbV.trans ((drewN_below _ _).mono hbV.size)⟩
                      case measure => (simp [intOf]) <;> omega
                    · go_upto_region 24 with fail
                      go_quiet (fail)
                      go_upto_region 25 with fail
                      go_quiet (fail)
                      go_wp2
                      go_roundw
                      case rel => exact ⟨j + 1, by omega, by go_num, hbV.trans ((drewN_below _ _).mono hbV.size)⟩
                      case measure => (simp [intOf]) <;> omega
                · have hsm := HSM.out HIG.out rfl
                  cases s1
                  · obtain rfl : eqb = false := hsm
                    go_upto_region 24 with fail
                    go_quiet (fail)
                    go_upto_region 25 with fail
                    go_quiet (fail)
                    go_wp2
                    go_roundw
                    case rel => exact ⟨j + 1, by omega, by go_num, hbV.trans ((drewN_below _ _).mono hbV.size)⟩
                    case measure => (simp [intOf]) <;> omega
                  · cases s2
                    · obtain rfl : eqb = false := hsm
                      go_upto_region 24 with fail
                      go_quiet (fail)
                      go_upto_region 25 with fail
                      go_quiet (fail)
                      go_wp2
                      go_roundw
                      case rel => exact ⟨j + 1, by omega, by go_num, hbV.trans ((drewN_below _ _).mono hbV.size)⟩
                      case measure => (simp [intOf]) <;> omega
                    · obtain rfl : eqb = s3 := hsm.trans (by cases s3 <;> rfl)
                      clear hsm
                      cases eqb
                      · go_upto_region 24 with fail
                        go_quiet (fail)
                        go_upto_region 25 with fail
                        go_quiet (fail)
                        go_wp2
                        go_roundw
                        case rel => exact ⟨j + 1, by omega, by go_num, hbV.trans ((drewN_below _ _).mono hbV.size)⟩
                        case measure => (simp [intOf]) <;> omega
                      · go_upto_region 24 with fail
                        go_quiet (fail)
                        go_upto_region 25 with fail
                        go_quiet (fail)
                        go_wp2
                        go_roundw
                        case rel => exact ⟨j + 1, by omega, by go_num, hbV.trans ((drewN_below _ _).mono hbV.size)⟩
                        case measure => (simp [intOf]) <;> omega
          · have HIG : Hid (inGroup (xi, true) = true) := Lib.hid (hig.trans rfl)
            clear hig
            have dG0 : decide (0 < G) = true := by first | exact decide_eq_true (hst.1.2 HIG.out) | exact decide_eq_false (fun h => by have := hst.1.1 h; rw [HIG.out] at this; cases this)
            have dG1 : decide (G < 0) = false := decide_eq_false (by omega)
            have dG2 : decide ((M : Int) + 1 < G) = false := decide_eq_false (by omega)
            have hmx : max (M : Int) G = (M9 : Int) := hst.2.2.2.1
            clear hst
            go_upto_region 22 with fail
            go_loopw [11] (fun kk wr2 => ∃ j : Nat, j ≤ i ∧ kk = .int .i64 j ∧ Below w7.heap.size w7 wr2) (fun kk _ => i - (intOf kk).toNat)
            case atStart => exact ⟨0, Nat.zero_le _, rfl, hbI⟩
            case round =>
              clear hbI
              obtain ⟨j, hj, rfl, hbV⟩ := hrel
              by_cases hlj : j < i
              rotate_left
              · obtain rfl : j = i := by omega
                have d9 : decide ((j : Int) < (j : Int)) = false := decide_eq_false (by omega)
                have d9n : decide (j < j) = false := decide_eq_false (by omega)
                go_wp2
                go_roundw
                case rel => exact ⟨j + 1, by omega, by go_num, by rw [HMX.out], hbV⟩
                case measure => (simp [intOf]) <;> omega
              have d4 : decide ((j : Int) < (i : Int)) = true := decide_eq_true (by omega)
              have d4n : decide (j < i) = true := decide_eq_true hlj
              have hjl : j < its.length := by rw [HN.out]; omega
              have hjb : j < bs.length := by rw [HN2.out]; omega
              have hjj : j < jl.length := by rw [HJL.out]; omega
              have hrV := hr.below (hbel.trans ((hb7.trans (hbV.mono hb7.size)).mono hbel.size))
              obtain ⟨b8, o8, e8, _, hgi⟩ := it_range hrV hil
              simp only [Option.some.injEq, Addr.mk.injEq, and_true] at e8
              obtain ⟨rfl, rfl⟩ := e8
              obtain ⟨b8, o8, e8, _, hgj⟩ := it_range hrV hjl
              simp only [Option.some.injEq, Addr.mk.injEq, and_true] at e8
              obtain ⟨rfl, rfl⟩ := e8
              have hr7V := hr7.below hbV
              obtain ⟨b8, o8, e8, _, hci⟩ := in_at hr7V (k := i) (by rw [HG.out, List.length_map, List.length_range]; omega)
              simp only [Option.some.injEq, Addr.mk.injEq, and_true] at e8
              obtain ⟨rfl, rfl⟩ := e8
              obtain ⟨b8, o8, e8, _, hcj⟩ := in_at hr7V (k := j) (by rw [HG.out, List.length_map, List.length_range]; omega)
              simp only [Option.some.injEq, Addr.mk.injEq, and_true] at e8
              obtain ⟨rfl, rfl⟩ := e8
              simp only [HG.out, List.getElem_map, List.getElem_range] at hci hcj
              have hsm := fun hin hg => grN_same (js := jl) (i := i) (k := j) hij hjj hin hg
              rw [HXI.out, show jl[j] = (its[j], bs[j]) from Option.some.inj ((List.getElem?_eq_getElem hjj).symm.trans (HJK.out j hjl hjb))] at hsm
              have hst9 := grM_step hjj
              obtain ⟨yi, hyi⟩ : ∃ z, its[j] = z := ⟨_, rfl⟩
              rw [hyi] at hgj hsm
              rw [HXE.out] at hgi
              obtain ⟨H, hH9⟩ : ∃ z, grN jl j = z := ⟨_, rfl⟩
              rw [HGI.out] at hci hsm
              rw [hH9] at hcj hsm
              have x0 : wr.cell? ⟨b1, o1 + i * 5, none⟩ = some (.int .i64 xi.kd) := hgi 0 _ rfl
              have x1 : wr.cell? ⟨b1, o1 + i * 5 + 1, none⟩ = some (.int .i64 xi.to) := hgi 1 _ rfl
              have x2 : wr.cell? ⟨b1, o1 + i * 5 + 2, none⟩ = some (.string xi.port) := hgi 2 _ rfl
              have x3 : wr.cell? ⟨b1, o1 + i * 5 + 3, none⟩ = some (.int .i64 xi.ch) := hgi 3 _ rfl
              have y0 : wr.cell? ⟨b1, o1 + j * 5, none⟩ = some (.int .i64 yi.kd) := hgj 0 _ rfl
              have y1 : wr.cell? ⟨b1, o1 + j * 5 + 1, none⟩ = some (.int .i64 yi.to) := hgj 1 _ rfl
              have y2 : wr.cell? ⟨b1, o1 + j * 5 + 2, none⟩ = some (.string yi.port) := hgj 2 _ rfl
              have y3 : wr.cell? ⟨b1, o1 + j * 5 + 3, none⟩ = some (.int .i64 yi.ch) := hgj 3 _ rfl
              have m0 : (0 : Int) ≤ (j : Int) := by omega
              have m1 : (j : Int) < (k : Int) := by omega
              have m2 : ((j : Nat) : Int).toNat = j := by omega
              unfold sameIt at hsm
              have hEQ := fun V : World => run_equal_endG V xi.port yi.port xi.ch yi.ch
              obtain ⟨s1, hs1⟩ : ∃ z, (xi.kd == yi.kd) = z := ⟨_, rfl⟩
              obtain ⟨s2, hs2⟩ : ∃ z, (xi.to == yi.to) = z := ⟨_, rfl⟩
              obtain ⟨s3, hs3⟩ : ∃ z, ((xi.port.toList == yi.port.toList) && (xi.ch == yi.ch)) = z := ⟨_, rfl⟩
              simp only [hs3] at hEQ
              rw [hs1, hs2, hs3] at hsm
              obtain ⟨gb, hgb⟩ : ∃ z, decide (0 < H) = z := ⟨_, rfl⟩
              obtain ⟨eqb, heqb⟩ : ∃ z, (H == G) = z := ⟨_, rfl⟩
              rw [heqb] at hsm
              have HSM := Lib.hid (fun (hin : inGroup (xi, true) = true) (h : gb = true) => hsm hin (of_decide_eq_true (hgb.trans h)))
              clear hsm hgi hgj hyi hH9 hs3 hst9
              cases gb
              · clear HSM
                cases s1
                · go_upto_region 24 with fail
                  go_quiet (fail)
                  go_upto_region 25 with fail
                  go_quiet (fail)
                  go_wp2
                  go_roundw
                  case rel => exact ⟨j + 1, by omega, by go_num, hbV.trans ((drewN_below _ _).mono hbV.size)⟩
                  case measure => (simp [intOf]) <;> omega
                · cases s2
                  · go_upto_region 24 with fail
                    go_quiet (fail)
                    go_upto_region 25 with fail
                    go_quiet (fail)
                    go_wp2
                    go_roundw
                    case rel => exact ⟨j + 1, by omega, by go_num, hbV.trans ((drewN_below _ _).mono hbV.size)⟩
                    case measure => (simp [intOf]) <;> omega
                  · go_upto_region 24 with fail
                    go_quiet (fail)
                    go_upto_region 25 with fail
                    go_quiet (fail)
                    go_wp2
                    go_roundw
                    case rel => exact ⟨j + 1, by omega, by go_num, hbV.trans ((drewN_below _ _).mono hbV.size)⟩
                    case measure => (simp [intOf]) <;> omega
              · have hsm := HSM.out HIG.out rfl
                cases s1
                · obtain rfl : eqb = false := hsm
                  go_upto_region 24 with fail
                  go_quiet (fail)
                  go_upto_region 25 with fail
                  go_quiet (fail)
                  go_wp2
                  go_roundw
                  case rel => exact ⟨j + 1, by omega, by go_num, hbV.trans ((drewN_below _ _).mono hbV.size)⟩
                  case measure => (simp [intOf]) <;> omega
                · cases s2
                  · obtain rfl : eqb = false := hsm
                    go_upto_region 24 with fail
                    go_quiet (fail)
                    go_upto_region 25 with fail
                    go_quiet (fail)
                    go_wp2
                    go_roundw
                    case rel => exact ⟨j + 1, by omega, by go_num, hbV.trans ((drewN_below _ _).mono hbV.size)⟩
                    case measure => (simp [intOf]) <;> omega
                  · obtain rfl : eqb = s3 := hsm.trans (by cases s3 <;> rfl)
                    clear hsm
                    cases eqb
                    · go_upto_region 24 with fail
                      go_quiet (fail)
                      go_upto_region 25 with fail
                      go_quiet (fail)
                      go_wp2
                      go_roundw
                      case rel => exact ⟨j + 1, by omega, by go_num, hbV.trans ((drewN_below _ _).mono hbV.size)⟩
                      case measure => (simp [intOf]) <;> omega
                    · go_upto_region 24 with fail
                      go_quiet (fail)
                      go_upto_region 25 with fail
                      go_quiet (fail)
                      go_wp2
                      go_roundw
                      case rel => exact ⟨j + 1, by omega, by go_num, hbV.trans ((drewN_below _ _).mono hbV.size)⟩
                      case measure => (simp [intOf]) <;> omega
end Go.Proofs.Ythipnkbfdkmhaaa
