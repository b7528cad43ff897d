/- Reading the text of an end, in the document's own answer. -/
import Derived.Test.YtemmblfjmhcenaaDoorPathNm
import Derived.WalkKit
import Derived.ProofKit
import Derived.Handy
import Derived.Below
import Derived.BigQuiet
import Derived.Lib.Hide
import Derived.IntWalk
import Derived.Outline
import Derived.WalkLawsBesides
import Derived.WalkSpells
namespace Go.Proofs.YtemmblfjmhcenaaDoor
open Go.RowKit
attribute [local go_sem] strV
theorem index_first : ∀ (l : List UInt8) (k : Nat), 47 ∉ l.take k → l[k]? = some 47 → Lib.index l [47] = k
  | [], k, _, h => by simp at h
  | b :: l, 0, _, h => by
    simp only [List.getElem?_cons_zero, Option.some.injEq] at h
    subst h
    simp [Lib.index]
  | b :: l, k + 1, hn, h => by
    rw [List.take_succ_cons] at hn
    have hb : b ≠ 47 := fun e => hn (by rw [e]; exact List.mem_cons_self ..)
    have ih := index_first l k (fun e => hn (List.mem_cons_of_mem _ e)) (by simpa using h)
    unfold Lib.index
    rw [ih]
    have : ([47] : List UInt8).isPrefixOf (b :: l) = false := by simp [List.isPrefixOf]; exact fun e => hb e.symm
    rw [this]
    simp
theorem index_none : ∀ (l : List UInt8), 47 ∉ l → Lib.index l [47] = -1
  | [], _ => by decide
  | b :: l, hn => by
    have hb : b ≠ 47 := fun e => hn (by rw [e]; exact List.mem_cons_self ..)
    have ih := index_none l (fun e => hn (List.mem_cons_of_mem _ e))
    unfold Lib.index
    rw [ih]
    have : ([47] : List UInt8).isPrefixOf (b :: l) = false := by simp [List.isPrefixOf]; exact fun e => hb e.symm
    rw [this]
    simp
theorem cut_first {s : ByteArray} {k : Nat} (hn : 47 ∉ s.data.toList.take k) (h : s.data.toList[k]? = some 47) : pPort s = s.extract 0 k ∧ pRest s = s.extract (k + 1) s.size := by
  have e : cutL s ⟨#[47]⟩ = (s.data.toList.take k, s.data.toList.drop (k + 1), true) := by
    unfold cutL Lib.cut
    show (if 0 ≤ Lib.index s.data.toList [47] then (s.data.toList.take (Lib.index s.data.toList [47]).toNat, s.data.toList.drop ((Lib.index s.data.toList [47]).toNat + 1), true) else _) = _
    rw [index_first _ _ hn h, if_pos (by omega)]; rfl
  constructor
  · apply ByteArray.ext; apply Array.toList_inj.1
    unfold pPort; rw [e, str_take]
  · apply ByteArray.ext; apply Array.toList_inj.1
    unfold pRest; rw [e, str_drop]
theorem cut_none {s : ByteArray} (hn : 47 ∉ s.data.toList) : pRest s = ⟨#[]⟩ := by
  unfold pRest cutL Lib.cut
  show (⟨(if 0 ≤ Lib.index s.data.toList [47] then _ else (s.data.toList, ([] : List UInt8), false)).2.1.toArray⟩ : ByteArray) = _
  rw [index_none _ hn, if_neg (by decide)]
theorem frozen_new (w : World) (cs : Array Value) (e : TypeId) (k : Nat) : (w.alloc (.cells cs e)).frozen? ⟨w.heap.size, k, none⟩ = false := by
  unfold World.frozen?
  rw [show (w.alloc (.cells cs e)).heap[w.heap.size]? = some (.cells cs e) from by show (w.heap.push _)[w.heap.size]? = _; rw [Array.getElem?_push_size]]
  simp
def chanL : List UInt8 := (⟨#[99, 104, 97, 110, 110, 101, 108, 45]⟩ : ByteArray).data.toList
theorem chan_take (r : List UInt8) : Lib.hasPrefix r chanL = (r.take 8 == chanL) := by
  unfold Lib.hasPrefix
  rw [Bool.eq_iff_iff, List.isPrefixOf_iff_prefix, List.prefix_iff_eq_take, beq_iff_eq]
  exact ⟨fun e => e.symm, fun e => e.symm⟩
theorem slice_front {l : List UInt8} {k : Nat} (h : l[k]? = some 47) : (l.take (k + 9)).drop k = 47 :: (l.drop (k + 1)).take 8 := by
  obtain ⟨hk, h2⟩ := List.getElem?_eq_some_iff.1 h
  rw [List.drop_take, show k + 9 - k = 9 by omega, List.drop_eq_getElem_cons hk, h2]; rfl
theorem parse_fail {s : ByteArray} (h : okE (pPort s) (pRest s) = false) : parseR s = .returned (.tuple #[.agg #[.string ⟨#[]⟩, .int .i64 0], .int .i64 3]) := by unfold parseR; rw [h]; rfl
theorem ok_empty (p : ByteArray) : okE p ⟨#[]⟩ = false := by
  unfold okE
  have : hasCh ⟨#[]⟩ = false := by decide +kernel
  rw [this]; rfl
theorem ok_other {s : ByteArray} {k : Nat} (p : ByteArray) (h : s.data.toList[k]? = some 47) (hq : ((s.extract k (k + 9)).toList == [47, 99, 104, 97, 110, 110, 101, 108, 45]) = false) : okE p (s.extract (k + 1) s.size) = false := by
  unfold okE
  have : hasCh (s.extract (k + 1) s.size) = false := by
    unfold hasCh
    rw [ByteArray.toList_eq, str_cut, slice_front h] at hq
    rw [str_drop]
    have e := chan_take (s.data.toList.drop (k + 1))
    unfold chanL at e
    rw [e]
    have e2 : ((47 :: (s.data.toList.drop (k + 1)).take 8 : List UInt8) == [47, 99, 104, 97, 110, 110, 101, 108, 45]) = ((s.data.toList.drop (k + 1)).take 8 == [99, 104, 97, 110, 110, 101, 108, 45]) := by simp
    rw [e2] at hq
    exact hq
  rw [this]; rfl
theorem ok_short {s : ByteArray} {k : Nat} (p : ByteArray) (hs : s.size - k ≤ 9) : okE p (s.extract (k + 1) s.size) = false := by
  cases hc : hasCh (s.extract (k + 1) s.size)
  · unfold okE; rw [hc]; rfl
  · have hd : digs (s.extract (k + 1) s.size) = ⟨#[]⟩ := by
      unfold digs Lib.trimPrefix
      unfold hasCh at hc
      rw [hc, if_pos rfl]
      have : (List.drop ((⟨#[99, 104, 97, 110, 110, 101, 108, 45]⟩ : ByteArray).data.toList).length (s.extract (k + 1) s.size).data.toList) = [] := by
        apply List.drop_of_length_le
        rw [str_drop, List.length_drop, str_len]
        show _ ≤ 8; omega
      rw [this]
    unfold okE; rw [hd]
    have : (numEB ⟨#[]⟩ == 0) = false := by decide +kernel
    rw [this, Bool.and_false]; rfl
theorem ok_digs {s : ByteArray} {k : Nat} (h : s.data.toList[k]? = some 47) (hq : ((s.extract k (k + 9)).toList == [47, 99, 104, 97, 110, 110, 101, 108, 45]) = true) :
    hasCh (s.extract (k + 1) s.size) = true ∧ digs (s.extract (k + 1) s.size) = s.extract (k + 9) s.size := by
  have hc : hasCh (s.extract (k + 1) s.size) = true := by
    unfold hasCh
    rw [ByteArray.toList_eq, str_cut, slice_front h] at hq
    rw [str_drop]
    have e := chan_take (s.data.toList.drop (k + 1))
    unfold chanL at e
    rw [e]
    have e2 : ((47 :: (s.data.toList.drop (k + 1)).take 8 : List UInt8) == [47, 99, 104, 97, 110, 110, 101, 108, 45]) = ((s.data.toList.drop (k + 1)).take 8 == [99, 104, 97, 110, 110, 101, 108, 45]) := by simp
    rw [e2] at hq
    exact hq
  refine ⟨hc, ?_⟩
  apply ByteArray.ext; apply Array.toList_inj.1
  unfold digs Lib.trimPrefix
  unfold hasCh at hc
  rw [hc, if_pos rfl, str_drop, str_drop]
  show ((s.data.toList.drop (k + 1)).drop 8).toArray.toList = _
  rw [List.drop_drop]

set_option maxRecDepth 100000 in
set_option maxHeartbeats 6400000 in
theorem refParse_any (s : ByteArray) (w : World) (hs : s.size ≤ 1000000) :
    Calls Tryd.prog 10 #[.string s] w fun e w' => e = parseR s ∧ Below w.heap.size w w' := by
  go_enter Tryd.func10, Tryd.ntmps10
  go_wp2
  go_loopw [4] (fun i wr => ∃ k : Nat, k ≤ s.size ∧ Hid (47 ∉ s.data.toList.take k) ∧ w.heap.size < wr.heap.size ∧ Below w.heap.size w wr ∧ wr.cell? ⟨w.heap.size, 0, none⟩ = some (.string ⟨#[]⟩) ∧ wr.cell? ⟨w.heap.size, 1, none⟩ = some (.int .i64 0) ∧ wr.frozen? ⟨w.heap.size, 0, none⟩ = false ∧ wr.frozen? ⟨w.heap.size, 1, none⟩ = false ∧ i = .int .i64 k) (fun i _ => s.size - (intOf i).toNat)
  case atStart => exact ⟨0, by omega, Lib.hid (by simp), by simp, by repeat (first | assumption | exact Below.refl _ _ | refine bch ?_ (by assumption) | refine Below.alloc ?_ (by (try simp) <;> omega) _), by go_cell, by go_cell, frozen_new _ _ _ _, frozen_new _ _ _ _, rfl⟩
  case round =>
    obtain ⟨k, hk, HA, hzr, hbel, k0, k1, f0, f1, rfl⟩ := hrel
    by_cases hlt : k < s.size
    · obtain ⟨b, hb⟩ : ∃ b, s[k] = b := ⟨_, rfl⟩
      have hg := str_get hlt
      rw [hb] at hg
      have HG := Lib.hid hg; clear hg
      by_cases h47 : b = 47
      rotate_left
      · have e47 : ((b.toNat : Int) == 47) = false := byte_ne (n := 47) (by decide) h47
        have HS : Hid (47 ∉ s.data.toList.take (k + 1)) := Lib.hid (by
          rw [List.take_add_one, HG.out]
          simp only [Option.toList_some, List.mem_append, List.mem_singleton, not_or]
          exact ⟨HA.out, fun e => h47 e.symm⟩)
        go_wp2
        go_roundw
        case rel => exact ⟨k + 1, by omega, HS, hzr, hbel, k0, k1, f0, f1, by go_num⟩
        case measure => (simp [intOf]) <;> omega
      · subst h47
        obtain ⟨hP, hR⟩ := cut_first HA.out HG.out
        have HP := Lib.hid hP; have HRR := Lib.hid hR; clear hP hR
        by_cases h9 : s.size - k ≤ 9
        · have HR := Lib.hid (parse_fail (s := s) (by rw [HP.out, HRR.out]; exact ok_short _ h9))
          have h9i : (s.size : Int) - (k : Int) ≤ 9 := by omega
          go_wp2
          obtain ⟨_, q1, q2⟩ := same2 (.string ⟨#[]⟩) (.int .i64 0) k0 k1
          refine bodyPost_ret (by simp [results, Tryd.results10, go_sem, q1, q2]; try rfl) rfl ?_
          exact ⟨by rw [HR.out]; first | done | rfl, by repeat (first | refine Below.setCell ?_ (by simp) _ | assumption | exact Below.refl _ _ | refine bch ?_ (by assumption) | refine Below.alloc ?_ (by (try simp) <;> omega) _)⟩
        have h9i : (9 : Int) < (s.size : Int) - (k : Int) := by omega
        cases hq : ((s.extract k (k + 9)).toList == [47, 99, 104, 97, 110, 110, 101, 108, 45])
        · have HR := Lib.hid (parse_fail (s := s) (by rw [HP.out, HRR.out]; exact ok_other _ HG.out hq))
          go_wp2
          obtain ⟨_, q1, q2⟩ := same2 (.string ⟨#[]⟩) (.int .i64 0) k0 k1
          refine bodyPost_ret (by simp [results, Tryd.results10, go_sem, q1, q2]; try rfl) rfl ?_
          exact ⟨by rw [HR.out]; first | done | rfl, by repeat (first | refine Below.setCell ?_ (by simp) _ | assumption | exact Below.refl _ _ | refine bch ?_ (by assumption) | refine Below.alloc ?_ (by (try simp) <;> omega) _)⟩
        obtain ⟨hch, hdg⟩ := ok_digs HG.out hq
        have s1 : (s.extract (k + 9) s.size).size ≤ maxLen := by rw [ByteArray.size_extract]; unfold maxLen; omega
        have s2 : (s.extract 0 k).size ≤ maxLen := by rw [ByteArray.size_extract]; unfold maxLen; omega
        obtain ⟨v, hv⟩ : ∃ v, numVB (s.extract (k + 9) s.size) = v := ⟨_, rfl⟩
        obtain ⟨n, he⟩ : ∃ v, numEB (s.extract (k + 9) s.size) = v := ⟨_, rfl⟩
        by_cases hn : n = 0
        rotate_left
        · have e0 : (n == 0) = false := beq_eq_false_iff_ne.2 hn
          have HR := Lib.hid (parse_fail (s := s) (by rw [HP.out, HRR.out]; unfold okE; rw [hch, hdg, he, e0]; rfl))
          go_wp2_with (go_at_call 20; refine (refNumberB_any _ _ (by with_reducible assumption)).mono ?_; rintro e w1 ⟨rfl, hw1⟩; obtain rfl : _ = w1 := hw1.symm; rw [hv, he])
          obtain ⟨q1, q2⟩ := same2a (.string ⟨#[]⟩) (.int .i64 0) (.cells #[.string (s.extract 0 k), .int .i64 v] 23) k0 k1 hzr
          refine bodyPost_ret (by simp [results, Tryd.results10, go_sem, q1, q2]; try rfl) rfl ?_
          exact ⟨by rw [HR.out]; first | done | rfl, by repeat (first | refine Below.setCell ?_ (by simp) _ | assumption | exact Below.refl _ _ | refine bch ?_ (by assumption) | refine Below.alloc ?_ (by (try simp) <;> omega) _)⟩
        subst hn
        cases hm : mayE (s.extract 0 k) v
        · have HR := Lib.hid (parse_fail (s := s) (by rw [HP.out, HRR.out]; unfold okE; rw [hch, hdg, he, hv, hm]; rfl))
          go_wp2_with (first | (go_at_call 20; refine (refNumberB_any _ _ (by with_reducible assumption)).mono ?_; rintro e w1 ⟨rfl, hw1⟩; obtain rfl : _ = w1 := hw1.symm; rw [hv, he]) | (go_at_call 14; refine (refMayEnd_any _ _ _ (by with_reducible assumption)).mono ?_; rintro e w1 ⟨rfl, hb⟩; rw [hm]; obtain ⟨hc1, hf1⟩ := bcell hb; have hz1 : w.heap.size < w1.heap.size := (by have := hb.size; (try simp at this); omega)))
          have k0' : w1.cell? ⟨w.heap.size, 0, none⟩ = some (.string ⟨#[]⟩) := by rw [hc1 _ _ (by simp; omega)]; go_cell
          have k1' : w1.cell? ⟨w.heap.size, 1, none⟩ = some (.int .i64 0) := by rw [hc1 _ _ (by simp; omega)]; go_cell
          obtain ⟨_, q1, q2⟩ := same2 (.string ⟨#[]⟩) (.int .i64 0) k0' k1'
          refine bodyPost_ret (by simp [results, Tryd.results10, go_sem, q1, q2]; try rfl) rfl ?_
          exact ⟨by rw [HR.out]; first | done | rfl, by repeat (first | refine Below.setCell ?_ (by simp) _ | assumption | exact Below.refl _ _ | refine bch ?_ (by assumption) | refine Below.alloc ?_ (by (try simp) <;> omega) _)⟩
        · have HR : Hid (parseR s = .returned (.tuple #[.agg #[.string (s.extract 0 k), .int .i64 v], .int .i64 0])) := Lib.hid (by
            have ho : okE (pPort s) (pRest s) = true := by rw [HP.out, HRR.out]; unfold okE; rw [hch, hdg, he, hv, hm]; rfl
            unfold parseR; rw [ho, HP.out, HRR.out, hdg, hv]; rfl)
          go_wp2_with (first | (go_at_call 20; refine (refNumberB_any _ _ (by with_reducible assumption)).mono ?_; rintro e w1 ⟨rfl, hw1⟩; obtain rfl : _ = w1 := hw1.symm; rw [hv, he]) | (go_at_call 14; refine (refMayEnd_any _ _ _ (by with_reducible assumption)).mono ?_; rintro e w1 ⟨rfl, hb⟩; rw [hm]; obtain ⟨hc1, hf1⟩ := bcell hb; have hz1 : w.heap.size < w1.heap.size := (by have := hb.size; (try simp at this); omega)))
          have k0' : w1.cell? ⟨w.heap.size, 0, none⟩ = some (.string ⟨#[]⟩) := by rw [hc1 _ _ (by simp; omega)]; go_cell
          have k1' : w1.cell? ⟨w.heap.size, 1, none⟩ = some (.int .i64 0) := by rw [hc1 _ _ (by simp; omega)]; go_cell
          obtain ⟨_, q1, q2⟩ := same2 (.string (s.extract 0 k)) (.int .i64 v) k0' k1'
          refine bodyPost_ret (by simp [results, Tryd.results10, go_sem, q1, q2]; try rfl) rfl ?_
          exact ⟨by rw [HR.out]; first | done | rfl, by repeat (first | refine Below.setCell ?_ (by simp) _ | assumption | exact Below.refl _ _ | refine bch ?_ (by assumption) | refine Below.alloc ?_ (by (try simp) <;> omega) _)⟩
    · have HR := Lib.hid (parse_fail (s := s) (by rw [cut_none (by have := HA.out; rwa [take_all (by omega)] at this)]; exact ok_empty _))
      go_wp2
      obtain ⟨_, q1, q2⟩ := same2 (.string ⟨#[]⟩) (.int .i64 0) k0 k1
      refine bodyPost_ret (by simp [results, Tryd.results10, go_sem, q1, q2]; try rfl) rfl ?_
      exact ⟨by rw [HR.out]; first | done | rfl, by repeat (first | refine Below.setCell ?_ (by simp) _ | assumption | exact Below.refl _ _ | refine bch ?_ (by assumption) | refine Below.alloc ?_ (by (try simp) <;> omega) _)⟩
end Go.Proofs.YtemmblfjmhcenaaDoor
