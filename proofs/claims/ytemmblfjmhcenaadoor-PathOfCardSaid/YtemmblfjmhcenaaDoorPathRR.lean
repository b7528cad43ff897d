/- Reading a key in the document's own answer, walked. -/
import Derived.Test.YtemmblfjmhcenaaDoorPathRm
import Derived.BigRegion
import Derived.RegionTactic
import Derived.WalkKit
import Derived.ProofKit
import Derived.Handy
import Derived.Below
import Derived.BigQuiet
import Derived.Lib.Hide
import Derived.IntWalk
import Derived.Outline
import Derived.WalkLawsBesides
import Derived.WalkSpells
namespace Go.Proofs.YtemmblfjmhcenaaDoor
open Go.RowKit
attribute [local go_sem] strV
theorem spl_le : ∀ (l x : List UInt8), x ∈ spl l → x.length ≤ l.length
  | [], x, h => by simp [spl] at h; subst h; simp
  | b :: l, x, h => by
    have ih := spl_le l
    unfold spl at h
    split at h
    · rcases List.mem_cons.1 h with rfl | h
      · simp
      · have := ih x h; simp; omega
    · split at h
      · simp at h; subst h; simp
      · rename_i y r hy
        rcases List.mem_cons.1 h with rfl | h
        · have := ih y (by rw [hy]; exact List.mem_cons_self ..); simp; omega
        · have := ih x (by rw [hy]; exact List.mem_cons_of_mem _ h); simp; omega
theorem five_of {O : List ByteArray} (h : O.length = 5) : ∃ o0 o1 o2 o3 o4, O = [o0, o1, o2, o3, o4] := by
  match O, h with
  | [o0, o1, o2, o3, o4], _ => exact ⟨_, _, _, _, _, rfl⟩
theorem seven_of {O : List ByteArray} (h : O.length = 7) : ∃ o0 o1 o2 o3 o4 o5 o6, O = [o0, o1, o2, o3, o4, o5, o6] := by
  match O, h with
  | [o0, o1, o2, o3, o4, o5, o6], _ => exact ⟨_, _, _, _, _, _, _, rfl⟩
theorem ex_le (o : ByteArray) : (o.extract 8 o.size).size ≤ o.size := by rw [ByteArray.size_extract]; omega
set_option maxRecDepth 100000 in
set_option maxHeartbeats 6400000 in
theorem refRead_any (s : ByteArray) (w : World) (hs : s.size ≤ 300) :
    Calls Tryd.prog 23 #[.string s] w fun e w' => e = readR s ∧ Below w.heap.size w w' := by
  go_enter Tryd.func23, Tryd.ntmps23
  go_wp2_with fail
  refine (split_any _ _ (by omega)).mono ?_
  rintro e w1 ⟨v, rfl, hb, O, hO, hown⟩
  obtain ⟨hc1, hf1⟩ := bcell hb
  have hz1 : w.heap.size < w1.heap.size := by have := hb.size; (try simp at this); omega
  have f0 : w1.frozen? ⟨w.heap.size, 0, none⟩ = false := by rw [hf1 _ _ (by (try simp) <;> omega)]; exact frozen_new _ _ _ _
  have f1 : w1.frozen? ⟨w.heap.size, 1, none⟩ = false := by rw [hf1 _ _ (by (try simp) <;> omega)]; exact frozen_new _ _ _ _
  clear hf1
  have hbel1 : Below w.heap.size w w1 := by repeat (first | assumption | exact Below.refl _ _ | refine bch ?_ (by assumption) | refine Below.alloc ?_ (by (try simp) <;> omega) _)
  have k0 : w1.cell? ⟨w.heap.size, 0, none⟩ = some (.string ⟨#[]⟩) := by rw [hc1 _ _ (by (try simp) <;> omega)]; go_cell
  have k1 : w1.cell? ⟨w.heap.size, 1, none⟩ = some (.int .i64 0) := by rw [hc1 _ _ (by (try simp) <;> omega)]; go_cell
  have hpos : 0 < O.length := by
    rcases Nat.eq_zero_or_pos O.length with h | h
    · have := List.eq_nil_of_length_eq_zero h; subst this; exact absurd hO.symm (spl_ne _)
    · exact h
  have hle : ∀ o ∈ O, o.size ≤ 300 := fun o ho => by
    have := spl_le s.data.toList o.data.toList (by rw [← hO]; exact List.mem_map.2 ⟨o, ho, rfl⟩)
    rw [str_len, str_len] at this; omega
  have hs0 : 2 ≤ O.length → s ≠ ⟨#[]⟩ := by
    rintro h rfl
    have := congrArg List.length hO
    simp [spl] at this; omega
  obtain ⟨g, cap, rfl, hg, hcell⟩ := own_cells hown hpos
  clear hown hb hc1
  by_cases n5 : O.length = 5
  · obtain ⟨o0, o1, o2, o3, o4, rfl⟩ := five_of n5
    have HS0 := Lib.hid (hs0 (by simp))
    have c2 := hcell 2 _ rfl
    have c4 := hcell 4 _ rfl
    have z2 : o2.size ≤ maxLen := Nat.le_trans (hle o2 (by simp)) (by unfold maxLen; decide)
    have z4 : o4.size ≤ 300 := hle o4 (by simp)
    have z5 : (o4.extract 8 o4.size).size ≤ maxLen := Nat.le_trans (ex_le _) (Nat.le_trans z4 (by unfold maxLen; decide))
    clear hcell hle hs0 n5 hpos
    by_cases h9 : o4.size < 9
    · have HR := Lib.hid (read_fail (s := s) (no_read hO fun K P C N p0 p1 p3 p4 e a1 a2 a3 a4 a5 => by
        rcases a5 with ⟨h5, _⟩ | ⟨p5, h5, _⟩ <;> simp at h5
        obtain ⟨_, _, _, _, rfl⟩ := h5; omega))
      clear hO
      have d9 : decide ((o4.size : Int) < 9) = true := decide_eq_true (by omega)
      go_wp2
      obtain ⟨_, q1, q2⟩ := same2 (.string ⟨#[]⟩) (.int .i64 0) k0 k1
      refine bodyPost_ret (by simp [results, Tryd.results23, go_sem, q1, q2]; try rfl) rfl ?_
      exact ⟨by rw [HR.out]; first | done | rfl, by repeat (first | refine Below.drew ?_ | refine Below.setCell ?_ (by simp) _ | assumption | exact Below.refl _ _ | refine bch ?_ (by assumption) | refine Below.alloc ?_ (by (try simp) <;> omega) _)⟩
    have d9 : decide ((o4.size : Int) < 9) = false := decide_eq_false (by omega)
    have d8 : (8 : Int) ≤ (o4.size : Int) := by omega
    obtain ⟨x, hv1⟩ : ∃ x, numVB (o4.extract 8 o4.size) = x := ⟨_, rfl⟩
    obtain ⟨e1, he1⟩ : ∃ x, numEB (o4.extract 8 o4.size) = x := ⟨_, rfl⟩
    have hv2 := hv1; have he2 := he1
    by_cases hn : e1 = 0
    rotate_left
    · have HR := Lib.hid (read_fail (s := s) (no_read hO fun K P C N p0 p1 p3 p4 e a1 a2 a3 a4 a5 => by
        rcases a5 with ⟨h5, _⟩ | ⟨p5, h5, _⟩ <;> simp at h5
        obtain ⟨_, _, _, _, rfl⟩ := h5
        have := (num_it a3 (by omega)).1
        rw [← a2, he1] at this; exact hn this))
      have e0 : (e1 == 0) = false := beq_eq_false_iff_ne.2 hn
      clear hO
      go_wp2_with (go_at_call 20; refine (refNumberB_any _ _ (by with_reducible assumption)).mono ?_; rintro e wn ⟨rfl, hw1⟩; obtain rfl : _ = wn := hw1.symm; first | rw [hv1, he1] | rw [hv2, he2])
      obtain ⟨_, q1, q2⟩ := same2 (.string ⟨#[]⟩) (.int .i64 0) k0 k1
      refine bodyPost_ret (by simp [results, Tryd.results23, go_sem, q1, q2]; try rfl) rfl ?_
      exact ⟨by rw [HR.out]; first | done | rfl, by repeat (first | refine Below.drew ?_ | refine Below.setCell ?_ (by simp) _ | assumption | exact Below.refl _ _ | refine bch ?_ (by assumption) | refine Below.alloc ?_ (by (try simp) <;> omega) _)⟩
    subst hn
    have HNO : Hid ((∀ j : Nat, 1 ≤ j → j < 8 → ofE (j : Int) o2 x 0 ≠ s) → readB s = false) := Lib.hid (fun hno => no_read hO fun K P C N p0 p1 p3 p4 e a1 a2 a3 a4 a5 => by
      rcases a5 with ⟨h5, hN⟩ | ⟨p5, h5, _⟩ <;> simp at h5
      obtain ⟨_, _, rfl, _, rfl⟩ := h5
      have hx := (num_it a3 (by omega)).2
      rw [← a2, hv1] at hx
      obtain ⟨j, rfl, j1, j2⟩ := kind_nat (of_kind e HS0.out)
      exact hno j j1 j2 (by rw [hx, ← hN]; exact e))
    clear hO
    go_wp2_with (go_at_call 20; refine (refNumberB_any _ _ (by with_reducible assumption)).mono ?_; rintro e wn ⟨rfl, hw1⟩; obtain rfl : _ = wn := hw1.symm; first | rw [hv1, he1] | rw [hv2, he2])
    go_loopw [12] (fun i wr => ∃ k : Nat, 1 ≤ k ∧ k ≤ 8 ∧ w.heap.size < wr.heap.size ∧ w1.heap.size < wr.heap.size ∧ Below w.heap.size w wr ∧ wr.cell? ⟨w.heap.size, 0, none⟩ = some (.string ⟨#[]⟩) ∧ wr.cell? ⟨w.heap.size, 1, none⟩ = some (.int .i64 0) ∧
        wr.cell? ⟨w1.heap.size, 0, none⟩ = some (.string o2) ∧ wr.cell? ⟨w1.heap.size, 1, none⟩ = some (.int .i64 x) ∧ wr.frozen? ⟨w.heap.size, 0, none⟩ = false ∧ wr.frozen? ⟨w.heap.size, 1, none⟩ = false ∧ Hid (∀ j : Nat, 1 ≤ j → j < k → ofE (j : Int) o2 x 0 ≠ s) ∧ i = .int .i64 k) (fun i _ => 8 - (intOf i).toNat)
    case atStart => exact ⟨1, by omega, by omega, by (try simp) <;> omega, by simp, hbel1.alloc (Nat.le_of_lt hz1) _, (((Below.refl w1.heap.size w1).alloc (Nat.le_refl _) _).cell (p := ⟨w.heap.size, 0, none⟩) hz1).trans k0, (((Below.refl w1.heap.size w1).alloc (Nat.le_refl _) _).cell (p := ⟨w.heap.size, 1, none⟩) hz1).trans k1, by go_cell, by go_cell, (((Below.refl w1.heap.size w1).alloc (Nat.le_refl _) _).frozen (p := ⟨w.heap.size, 0, none⟩) hz1).trans f0, (((Below.refl w1.heap.size w1).alloc (Nat.le_refl _) _).frozen (p := ⟨w.heap.size, 1, none⟩) hz1).trans f1, Lib.hid (fun j h1 h2 => by omega), rfl⟩
    case round =>
      obtain ⟨k, hk1, hk8, hzr, hzx, hbel, k0, k1, x0, x1, f0, f1, HA, rfl⟩ := hrel
      by_cases h8 : k = 8
      · subst h8
        have HR := Lib.hid (read_fail (s := s) (HNO.out HA.out))
        go_wp2
        obtain ⟨_, q1, q2⟩ := same2 (.string ⟨#[]⟩) (.int .i64 0) k0 k1
        refine bodyPost_ret (by simp [results, Tryd.results23, go_sem, q1, q2]; try rfl) rfl ?_
        exact ⟨by rw [HR.out]; first | done | rfl, by repeat (first | refine Below.drew ?_ | refine Below.setCell ?_ (by simp) _ | assumption | exact Below.refl _ _ | refine bch ?_ (by assumption) | refine Below.alloc ?_ (by (try simp) <;> omega) _)⟩
      · have hk7 : (k : Int) ≤ 7 := by omega
        obtain ⟨t, ho⟩ : ∃ t, ofE (k : Int) o2 x 0 = t := ⟨_, rfl⟩
        cases hq : (t.toList == s.toList)
        · have HS : Hid (∀ j : Nat, 1 ≤ j → j < k + 1 → ofE (j : Int) o2 x 0 ≠ s) := Lib.hid (fun j h1 h2 => by
            by_cases hj : j = k
            · rw [hj, ho]; rintro rfl; simp at hq
            · exact HA.out j h1 (by omega))
          go_wp2_with (go_at_call 25; refine (refOf_any _ _ _ _ _ (by with_reducible assumption)).mono ?_; rintro e wc ⟨rfl, hbc⟩; rw [ho]; obtain ⟨hcc, hfc⟩ := bcell hbc; have hbelc : Below w.heap.size w wc := bch hbel hbc; have f0 := (hfc _ _ hzr).trans f0; have f1 := (hfc _ _ hzr).trans f1; have k0 := (hcc _ _ hzr).trans k0; have k1 := (hcc _ _ hzr).trans k1; have x0 := (hcc _ _ hzx).trans x0; have x1 := (hcc _ _ hzx).trans x1; have hzr := Nat.lt_of_lt_of_le hzr hbc.size; have hzx := Nat.lt_of_lt_of_le hzx hbc.size)
          go_roundw
          case rel => exact ⟨k + 1, by omega, by omega, hzr, hzx, hbelc, k0, k1, x0, x1, f0, f1, HS, by go_num⟩
          case measure => (simp [intOf]) <;> omega
        · have hts : ofE (k : Int) o2 x 0 = s := by
            rw [ho]; rw [ByteArray.toList_eq, ByteArray.toList_eq, beq_iff_eq] at hq; exact ByteArray.ext (Array.toList_inj.1 hq)
          have HR : Hid (readR s = .returned (.tuple #[.int .i64 (k : Int), .agg #[.string o2, .int .i64 x], .int .i64 0, .int .i64 0])) := Lib.hid (by rw [← hts]; exact read_back (by rw [hts]; exact HS0.out))
          go_wp2_with (go_at_call 25; refine (refOf_any _ _ _ _ _ (by with_reducible assumption)).mono ?_; rintro e wc ⟨rfl, hbc⟩; rw [ho]; obtain ⟨hcc, hfc⟩ := bcell hbc; have hbelc : Below w.heap.size w wc := bch hbel hbc; have f0 := (hfc _ _ hzr).trans f0; have f1 := (hfc _ _ hzr).trans f1; have k0 := (hcc _ _ hzr).trans k0; have k1 := (hcc _ _ hzr).trans k1; have x0 := (hcc _ _ hzx).trans x0; have x1 := (hcc _ _ hzx).trans x1; have hzr := Nat.lt_of_lt_of_le hzr hbc.size; have hzx := Nat.lt_of_lt_of_le hzx hbc.size)
          go_region
          all_goals go_wp2
          obtain ⟨_, q1, q2⟩ := same2 (.string o2) (.int .i64 x) k0 k1
          refine bodyPost_ret (by simp [results, Tryd.results23, go_sem, q1, q2]; try rfl) rfl ?_
          exact ⟨by rw [HR.out]; first | done | rfl, by repeat (first | refine Below.drew ?_ | refine Below.setCell ?_ (by simp) _ | assumption | exact Below.refl _ _ | refine bch ?_ (by assumption) | refine Below.alloc ?_ (by (try simp) <;> omega) _)⟩
  by_cases n7 : O.length = 7
  · obtain ⟨o0, o1, o2, o3, o4, o5, o6, rfl⟩ := seven_of n7
    have HS0 := Lib.hid (hs0 (by simp))
    have c2 := hcell 2 _ rfl
    have c4 := hcell 4 _ rfl
    have c6 := hcell 6 _ rfl
    have z2 : o2.size ≤ maxLen := Nat.le_trans (hle o2 (by simp)) (by unfold maxLen; decide)
    have z4 : o4.size ≤ 300 := hle o4 (by simp)
    have z5 : (o4.extract 8 o4.size).size ≤ maxLen := Nat.le_trans (ex_le _) (Nat.le_trans z4 (by unfold maxLen; decide))
    have z6 : o6.size ≤ maxLen := Nat.le_trans (hle o6 (by simp)) (by unfold maxLen; decide)
    clear hcell hle hs0 n5 n7 hpos
    by_cases h9 : o4.size < 9
    · have HR := Lib.hid (read_fail (s := s) (no_read hO fun K P C N p0 p1 p3 p4 e a1 a2 a3 a4 a5 => by
        rcases a5 with ⟨h5, _⟩ | ⟨p5, h5, _⟩ <;> simp at h5
        obtain ⟨_, _, _, _, rfl, _⟩ := h5; omega))
      clear hO
      have d9 : decide ((o4.size : Int) < 9) = true := decide_eq_true (by omega)
      go_wp2
      obtain ⟨_, q1, q2⟩ := same2 (.string ⟨#[]⟩) (.int .i64 0) k0 k1
      refine bodyPost_ret (by simp [results, Tryd.results23, go_sem, q1, q2]; try rfl) rfl ?_
      exact ⟨by rw [HR.out]; first | done | rfl, by repeat (first | refine Below.drew ?_ | refine Below.setCell ?_ (by simp) _ | assumption | exact Below.refl _ _ | refine bch ?_ (by assumption) | refine Below.alloc ?_ (by (try simp) <;> omega) _)⟩
    have d9 : decide ((o4.size : Int) < 9) = false := decide_eq_false (by omega)
    have d8 : (8 : Int) ≤ (o4.size : Int) := by omega
    obtain ⟨x, hv1⟩ : ∃ x, numVB (o4.extract 8 o4.size) = x := ⟨_, rfl⟩
    obtain ⟨e1, he1⟩ : ∃ x, numEB (o4.extract 8 o4.size) = x := ⟨_, rfl⟩
    obtain ⟨y, hv2⟩ : ∃ x, numVB o6 = x := ⟨_, rfl⟩
    obtain ⟨e2, he2⟩ : ∃ x, numEB o6 = x := ⟨_, rfl⟩
    by_cases hn : e1 = 0
    rotate_left
    · have HR := Lib.hid (read_fail (s := s) (no_read hO fun K P C N p0 p1 p3 p4 e a1 a2 a3 a4 a5 => by
        rcases a5 with ⟨h5, _⟩ | ⟨p5, h5, _⟩ <;> simp at h5
        obtain ⟨_, _, _, _, rfl, _⟩ := h5
        have := (num_it a3 (by omega)).1
        rw [← a2, he1] at this; exact hn this))
      have e0 : (e1 == 0) = false := beq_eq_false_iff_ne.2 hn
      clear hO
      go_wp2_with (go_at_call 20; refine (refNumberB_any _ _ (by with_reducible assumption)).mono ?_; rintro e wn ⟨rfl, hw1⟩; obtain rfl : _ = wn := hw1.symm; first | rw [hv1, he1] | rw [hv2, he2])
      obtain ⟨_, q1, q2⟩ := same2 (.string ⟨#[]⟩) (.int .i64 0) k0 k1
      refine bodyPost_ret (by simp [results, Tryd.results23, go_sem, q1, q2]; try rfl) rfl ?_
      exact ⟨by rw [HR.out]; first | done | rfl, by repeat (first | refine Below.drew ?_ | refine Below.setCell ?_ (by simp) _ | assumption | exact Below.refl _ _ | refine bch ?_ (by assumption) | refine Below.alloc ?_ (by (try simp) <;> omega) _)⟩
    subst hn
    by_cases hn : e2 = 0
    rotate_left
    · have HR := Lib.hid (read_fail (s := s) (no_read hO fun K P C N p0 p1 p3 p4 e a1 a2 a3 a4 a5 => by
        rcases a5 with ⟨h5, _⟩ | ⟨p5, h5, n1, n2⟩ <;> simp at h5
        obtain ⟨_, _, _, _, _, _, rfl⟩ := h5
        have := (num_it (c := N) (by omega) (by omega)).1
        rw [he2] at this; exact hn this))
      have e0 : (e2 == 0) = false := beq_eq_false_iff_ne.2 hn
      clear hO
      go_wp2_with (go_at_call 20; refine (refNumberB_any _ _ (by with_reducible assumption)).mono ?_; rintro e wn ⟨rfl, hw1⟩; obtain rfl : _ = wn := hw1.symm; first | rw [hv1, he1] | rw [hv2, he2])
      obtain ⟨_, q1, q2⟩ := same2 (.string ⟨#[]⟩) (.int .i64 0) k0 k1
      refine bodyPost_ret (by simp [results, Tryd.results23, go_sem, q1, q2]; try rfl) rfl ?_
      exact ⟨by rw [HR.out]; first | done | rfl, by repeat (first | refine Below.drew ?_ | refine Below.setCell ?_ (by simp) _ | assumption | exact Below.refl _ _ | refine bch ?_ (by assumption) | refine Below.alloc ?_ (by (try simp) <;> omega) _)⟩
    subst hn
    have HNO : Hid ((∀ j : Nat, 1 ≤ j → j < 8 → ofE (j : Int) o2 x y ≠ s) → readB s = false) := Lib.hid (fun hno => no_read hO fun K P C N p0 p1 p3 p4 e a1 a2 a3 a4 a5 => by
      rcases a5 with ⟨h5, _⟩ | ⟨p5, h5, n1, n2⟩ <;> simp at h5
      obtain ⟨_, _, rfl, _, rfl, _, rfl⟩ := h5
      have hx := (num_it a3 (by omega)).2
      rw [← a2, hv1] at hx
      have hy := (num_it (c := N) (by omega) (by omega)).2
      rw [hv2] at hy
      obtain ⟨j, rfl, j1, j2⟩ := kind_nat (of_kind e HS0.out)
      exact hno j j1 j2 (by rw [hx, hy]; exact e))
    clear hO
    go_wp2_with (go_at_call 20; refine (refNumberB_any _ _ (by with_reducible assumption)).mono ?_; rintro e wn ⟨rfl, hw1⟩; obtain rfl : _ = wn := hw1.symm; first | rw [hv1, he1] | rw [hv2, he2])
    go_loopw [12] (fun i wr => ∃ k : Nat, 1 ≤ k ∧ k ≤ 8 ∧ w.heap.size < wr.heap.size ∧ w1.heap.size < wr.heap.size ∧ Below w.heap.size w wr ∧ wr.cell? ⟨w.heap.size, 0, none⟩ = some (.string ⟨#[]⟩) ∧ wr.cell? ⟨w.heap.size, 1, none⟩ = some (.int .i64 0) ∧
        wr.cell? ⟨w1.heap.size, 0, none⟩ = some (.string o2) ∧ wr.cell? ⟨w1.heap.size, 1, none⟩ = some (.int .i64 x) ∧ wr.frozen? ⟨w.heap.size, 0, none⟩ = false ∧ wr.frozen? ⟨w.heap.size, 1, none⟩ = false ∧ Hid (∀ j : Nat, 1 ≤ j → j < k → ofE (j : Int) o2 x y ≠ s) ∧ i = .int .i64 k) (fun i _ => 8 - (intOf i).toNat)
    case atStart => exact ⟨1, by omega, by omega, by (try simp) <;> omega, by simp, hbel1.alloc (Nat.le_of_lt hz1) _, (((Below.refl w1.heap.size w1).alloc (Nat.le_refl _) _).cell (p := ⟨w.heap.size, 0, none⟩) hz1).trans k0, (((Below.refl w1.heap.size w1).alloc (Nat.le_refl _) _).cell (p := ⟨w.heap.size, 1, none⟩) hz1).trans k1, by go_cell, by go_cell, (((Below.refl w1.heap.size w1).alloc (Nat.le_refl _) _).frozen (p := ⟨w.heap.size, 0, none⟩) hz1).trans f0, (((Below.refl w1.heap.size w1).alloc (Nat.le_refl _) _).frozen (p := ⟨w.heap.size, 1, none⟩) hz1).trans f1, Lib.hid (fun j h1 h2 => by omega), rfl⟩
    case round =>
      obtain ⟨k, hk1, hk8, hzr, hzx, hbel, k0, k1, x0, x1, f0, f1, HA, rfl⟩ := hrel
      by_cases h8 : k = 8
      · subst h8
        have HR := Lib.hid (read_fail (s := s) (HNO.out HA.out))
        go_wp2
        obtain ⟨_, q1, q2⟩ := same2 (.string ⟨#[]⟩) (.int .i64 0) k0 k1
        refine bodyPost_ret (by simp [results, Tryd.results23, go_sem, q1, q2]; try rfl) rfl ?_
        exact ⟨by rw [HR.out]; first | done | rfl, by repeat (first | refine Below.drew ?_ | refine Below.setCell ?_ (by simp) _ | assumption | exact Below.refl _ _ | refine bch ?_ (by assumption) | refine Below.alloc ?_ (by (try simp) <;> omega) _)⟩
      · have hk7 : (k : Int) ≤ 7 := by omega
        obtain ⟨t, ho⟩ : ∃ t, ofE (k : Int) o2 x y = t := ⟨_, rfl⟩
        cases hq : (t.toList == s.toList)
        · have HS : Hid (∀ j : Nat, 1 ≤ j → j < k + 1 → ofE (j : Int) o2 x y ≠ s) := Lib.hid (fun j h1 h2 => by
            by_cases hj : j = k
            · rw [hj, ho]; rintro rfl; simp at hq
            · exact HA.out j h1 (by omega))
          go_wp2_with (go_at_call 25; refine (refOf_any _ _ _ _ _ (by with_reducible assumption)).mono ?_; rintro e wc ⟨rfl, hbc⟩; rw [ho]; obtain ⟨hcc, hfc⟩ := bcell hbc; have hbelc : Below w.heap.size w wc := bch hbel hbc; have f0 := (hfc _ _ hzr).trans f0; have f1 := (hfc _ _ hzr).trans f1; have k0 := (hcc _ _ hzr).trans k0; have k1 := (hcc _ _ hzr).trans k1; have x0 := (hcc _ _ hzx).trans x0; have x1 := (hcc _ _ hzx).trans x1; have hzr := Nat.lt_of_lt_of_le hzr hbc.size; have hzx := Nat.lt_of_lt_of_le hzx hbc.size)
          go_roundw
          case rel => exact ⟨k + 1, by omega, by omega, hzr, hzx, hbelc, k0, k1, x0, x1, f0, f1, HS, by go_num⟩
          case measure => (simp [intOf]) <;> omega
        · have hts : ofE (k : Int) o2 x y = s := by
            rw [ho]; rw [ByteArray.toList_eq, ByteArray.toList_eq, beq_iff_eq] at hq; exact ByteArray.ext (Array.toList_inj.1 hq)
          have HR : Hid (readR s = .returned (.tuple #[.int .i64 (k : Int), .agg #[.string o2, .int .i64 x], .int .i64 y, .int .i64 0])) := Lib.hid (by rw [← hts]; exact read_back (by rw [hts]; exact HS0.out))
          go_wp2_with (go_at_call 25; refine (refOf_any _ _ _ _ _ (by with_reducible assumption)).mono ?_; rintro e wc ⟨rfl, hbc⟩; rw [ho]; obtain ⟨hcc, hfc⟩ := bcell hbc; have hbelc : Below w.heap.size w wc := bch hbel hbc; have f0 := (hfc _ _ hzr).trans f0; have f1 := (hfc _ _ hzr).trans f1; have k0 := (hcc _ _ hzr).trans k0; have k1 := (hcc _ _ hzr).trans k1; have x0 := (hcc _ _ hzx).trans x0; have x1 := (hcc _ _ hzx).trans x1; have hzr := Nat.lt_of_lt_of_le hzr hbc.size; have hzx := Nat.lt_of_lt_of_le hzx hbc.size)
          go_region
          all_goals go_wp2
          obtain ⟨_, q1, q2⟩ := same2 (.string o2) (.int .i64 x) k0 k1
          refine bodyPost_ret (by simp [results, Tryd.results23, go_sem, q1, q2]; try rfl) rfl ?_
          exact ⟨by rw [HR.out]; first | done | rfl, by repeat (first | refine Below.drew ?_ | refine Below.setCell ?_ (by simp) _ | assumption | exact Below.refl _ _ | refine bch ?_ (by assumption) | refine Below.alloc ?_ (by (try simp) <;> omega) _)⟩
  have HR := Lib.hid (read_fail (s := s) (no_read hO fun K P C N p0 p1 p3 p4 e a1 a2 a3 a4 a5 => by
    rcases a5 with ⟨h5, _⟩ | ⟨p5, h5, _⟩
    · rw [h5] at n5; exact n5 rfl
    · rw [h5] at n7; exact n7 rfl))
  have b5 : ((O.length : Int) == 5) = false := by rw [beq_eq_false_iff_ne]; omega
  have b7 : ((O.length : Int) == 7) = false := by rw [beq_eq_false_iff_ne]; omega
  clear hO hcell hle hs0
  go_wp2
  obtain ⟨_, q1, q2⟩ := same2 (.string ⟨#[]⟩) (.int .i64 0) k0 k1
  refine bodyPost_ret (by simp [results, Tryd.results23, go_sem, q1, q2]; try rfl) rfl ?_
  exact ⟨by rw [HR.out]; first | done | rfl, by repeat (first | refine Below.drew ?_ | refine Below.setCell ?_ (by simp) _ | assumption | exact Below.refl _ _ | refine bch ?_ (by assumption) | refine Below.alloc ?_ (by (try simp) <;> omega) _)⟩
end Go.Proofs.YtemmblfjmhcenaaDoor
