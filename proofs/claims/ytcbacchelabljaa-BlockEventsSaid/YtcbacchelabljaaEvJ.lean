/- Events: unlike ones have unlike bytes. -/
import Derived.Test.YtcbacchelabljaaEvE
import Derived.Test.YtcbacchelabljaaGA
namespace Go.Proofs.Ytcbacchelabljaa
open Go.RowKit
theorem putL_cut {x y : Int} {r r' : List UInt8} (hx : 0 ≤ x ∧ x ≤ 72057594037927935) (hy : 0 ≤ y ∧ y ≤ 72057594037927935) (h : putL x ++ r = putL y ++ r') : x = y ∧ r = r' := by
  obtain ⟨a, rfl⟩ : ∃ a : Nat, x = a := ⟨x.toNat, by omega⟩
  obtain ⟨b, rfl⟩ : ∃ b : Nat, y = b := ⟨y.toNat, by omega⟩
  have h1 := next_put (A := []) (B := r) (x := a) (by omega)
  have h2 := next_put (A := []) (B := r') (x := b) (by omega)
  rw [List.nil_append] at h1 h2
  rw [h, h2] at h1
  simp only [Prod.mk.injEq] at h1
  have hab : a = b := by have := h1.1; omega
  subst hab
  exact ⟨rfl, List.append_cancel_left h⟩
theorem text_cut {s t : ByteArray} {r r' : List UInt8} (hs : s.size ≤ 1000) (ht : t.size ≤ 1000) (h : (putL (s.size : Int) ++ s.data.toList) ++ r = (putL (t.size : Int) ++ t.data.toList) ++ r') : s = t ∧ r = r' := by
  rw [List.append_assoc, List.append_assoc] at h
  obtain ⟨h1, h2⟩ := putL_cut (by omega) (by omega) h
  have hl : s.data.toList.length = t.data.toList.length := by rw [str_len, str_len]; omega
  obtain ⟨h3, h4⟩ := List.append_inj h2 hl
  refine ⟨?_, h4⟩
  apply ByteArray.ext; apply Array.ext'; exact h3
theorem endBy_cut {p p' : ByteArray} {c c' : Int} {r r' : List UInt8} (h1 : mayE p c = true) (h2 : mayE p' c' = true) (h : endBy p c ++ r = endBy p' c' ++ r') : p = p' ∧ c = c' ∧ r = r' := by
  obtain ⟨a1, a2, a3⟩ := mayE_bounds h1
  obtain ⟨b1, b2, b3⟩ := mayE_bounds h2
  unfold endBy at h
  rw [List.append_assoc (putL (p.size : Int) ++ p.data.toList), List.append_assoc (putL (p'.size : Int) ++ p'.data.toList)] at h
  obtain ⟨e1, h⟩ := text_cut (by omega) (by omega) h
  obtain ⟨e2, h⟩ := putL_cut (by omega) (by omega) h
  exact ⟨e1, e2, h⟩
theorem mayK_ends {sp : ByteArray} {sc : Int} {dp : ByteArray} {dc sq : Int} {da : ByteArray} {th ta : Int} (h : mayK sp sc dp dc sq da th ta = true) : mayE sp sc = true ∧ mayE dp dc = true := by
  unfold mayK at h
  simp only [Bool.and_eq_true] at h
  exact h.1.1.1.1.1.1.1
theorem pkBy_cut {sp sp' : ByteArray} {sc sc' : Int} {dp dp' : ByteArray} {dc dc' sq sq' : Int} {da da' : ByteArray} {th th' ta ta' : Int} {r r' : List UInt8} (h1 : mayK sp sc dp dc sq da th ta = true) (h2 : mayK sp' sc' dp' dc' sq' da' th' ta' = true)
    (h : pkBy sp sc dp dc sq da th ta ++ r = pkBy sp' sc' dp' dc' sq' da' th' ta' ++ r') : (sp = sp' ∧ sc = sc' ∧ dp = dp' ∧ dc = dc' ∧ sq = sq' ∧ da = da' ∧ th = th' ∧ ta = ta') ∧ r = r' := by
  have a := mayK_bounds h1
  have b := mayK_bounds h2
  obtain ⟨k1, k2⟩ := mayK_ends h1
  obtain ⟨k3, k4⟩ := mayK_ends h2
  have e : ∀ (sp : ByteArray) (sc : Int) (dp : ByteArray) (dc sq : Int) (da : ByteArray) (th ta : Int) (r : List UInt8), pkBy sp sc dp dc sq da th ta ++ r = endBy sp sc ++ (endBy dp dc ++ (putL sq ++ ((putL (da.size : Int) ++ da.data.toList) ++ (putL th ++ (putL ta ++ r))))) := by
    intros; unfold pkBy; simp only [List.append_assoc]
  rw [e, e] at h
  obtain ⟨e1, e2, h⟩ := endBy_cut k1 k3 h
  obtain ⟨e3, e4, h⟩ := endBy_cut k2 k4 h
  obtain ⟨e5, h⟩ := putL_cut (by omega) (by omega) h
  obtain ⟨e6, h⟩ := text_cut (by omega) (by omega) h
  obtain ⟨e7, h⟩ := putL_cut (by omega) (by omega) h
  obtain ⟨e8, h⟩ := putL_cut (by omega) (by omega) h
  exact ⟨⟨e1, e2, e3, e4, e5, e6, e7, e8⟩, h⟩
theorem evB_iff (a b : Ev) : evB a b = true ↔ a = b := by
  constructor
  · intro h
    unfold evB at h
    simp only [Bool.and_eq_true, beq_iff_eq, ByteArray.toList_eq] at h
    have ba : ∀ x y : ByteArray, x.data.toList = y.data.toList → x = y := fun x y e => by apply ByteArray.ext; apply Array.ext'; exact e
    cases a; cases b
    simp only [Ev.mk.injEq] at h ⊢
    obtain ⟨⟨⟨⟨⟨⟨⟨⟨⟨⟨⟨⟨e1, e2⟩, e3⟩, e4⟩, e5⟩, e6⟩, e7⟩, e8⟩, e9⟩, e10⟩, e11⟩, e12⟩, e13⟩ := h
    exact ⟨e1, ba _ _ e2, e3, ba _ _ e4, e5, e6, ba _ _ e7, e8, e9, ba _ _ e10, ba _ _ e11, e12, e13⟩
  · rintro rfl
    unfold evB
    simp
theorem mayEv_parts {e : Ev} (h : mayEv e = true) : e = plainE e ∧ bodyE e = true := by
  unfold mayEv at h
  rw [Bool.and_eq_true, evB_iff] at h
  exact h
theorem kd_of {e : Ev} (h : bodyE e = true) : 1 ≤ e.kd ∧ e.kd ≤ 7 := by
  unfold bodyE at h
  split at h
  · omega
  · split at h
    · omega
    · split at h
      · omega
      · rw [Bool.and_eq_true] at h
        have h2 := h.1
        unfold hasP at h2
        rw [Bool.and_eq_true, decide_eq_true_eq, decide_eq_true_eq] at h2
        omega
theorem encE_inj {a b : Ev} (ha : mayEv a = true) (hb : mayEv b = true) (h : encE a = encE b) : a = b := by
  obtain ⟨pa, ba⟩ := mayEv_parts ha
  obtain ⟨pb, bb⟩ := mayEv_parts hb
  have ka := kd_of ba
  have kb := kd_of bb
  unfold encE at h
  obtain ⟨ek, h⟩ := putL_cut (by omega) (by omega) h
  rw [pa, pb]
  unfold plainE
  unfold bodyE at ba bb
  rw [← ek] at h bb ⊢
  by_cases k6 : a.kd = 6
  · rw [if_pos k6] at ba bb
    rw [k6] at h ⊢
    simp only [show hasP 6 = false from rfl, show ((6 : Int) == 3) = false from rfl, show ((6 : Int) == 6) = true from rfl, show ((6 : Int) == 7) = false from rfl, cond_true, cond_false, List.nil_append] at h ⊢
    obtain ⟨e1, e2, _⟩ := endBy_cut ba bb h
    rw [e1, e2]
  rw [if_neg k6] at ba bb
  by_cases k7 : a.kd = 7
  · rw [if_pos k7, Bool.and_eq_true, decide_eq_true_eq, decide_eq_true_eq] at ba bb
    rw [k7] at h ⊢
    simp only [show hasP 7 = false from rfl, show ((7 : Int) == 3) = false from rfl, show ((7 : Int) == 6) = false from rfl, show ((7 : Int) == 7) = true from rfl, cond_true, cond_false, List.nil_append] at h ⊢
    have h' : putL a.ht ++ [] = putL b.ht ++ [] := by rw [h]
    obtain ⟨e1, _⟩ := putL_cut (by omega) (by omega) h'
    rw [e1]
  rw [if_neg k7] at ba bb
  by_cases k3 : a.kd = 3
  · rw [if_pos k3, Bool.and_eq_true, Bool.and_eq_true, decide_eq_true_eq] at ba bb
    rw [k3] at h ⊢
    simp only [show hasP 3 = true from rfl, show ((3 : Int) == 3) = true from rfl, show ((3 : Int) == 6) = false from rfl, show ((3 : Int) == 7) = false from rfl, cond_true, cond_false] at h ⊢
    obtain ⟨⟨e1, e2, e3, e4, e5, e6, e7, e8⟩, h⟩ := pkBy_cut ba.1.1 bb.1.1 h
    obtain ⟨e9, _⟩ := text_cut (by omega) (by omega) h
    rw [e1, e2, e3, e4, e5, e6, e7, e8, e9]
  rw [if_neg k3, Bool.and_eq_true] at ba bb
  rw [show (a.kd == 3) = false from beq_eq_false_iff_ne.2 k3, show (a.kd == 6) = false from beq_eq_false_iff_ne.2 k6, show (a.kd == 7) = false from beq_eq_false_iff_ne.2 k7, ba.1] at h ⊢
  simp only [cond_true, cond_false] at h ⊢
  obtain ⟨⟨e1, e2, e3, e4, e5, e6, e7, e8⟩, _⟩ := pkBy_cut ba.2 bb.2 h
  rw [e1, e2, e3, e4, e5, e6, e7, e8]
end Go.Proofs.Ytcbacchelabljaa
