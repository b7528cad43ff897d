/- GlobStars, walked. -/
import Derived.Test.YtohggmbnehgdiaaDoorGlobPlain
import Derived.WalkKit
import Derived.ProofKit
import Derived.Handy
import Derived.Below
import Derived.BigQuiet
import Derived.Lib.Hide
import Derived.IntWalk
import Derived.Outline
import Derived.WalkLawsBesides
import Derived.WalkSpells
namespace Go.Proofs.YtohggmbnehgdiaaDoor
open Go.RowKit
attribute [local go_sem] strV

/-- The answer of Plain, by its argument; nothing that simp looks into. -/
def plB (q : ByteArray) : Bool := plainP q.data.toList
theorem plainB_any (q : ByteArray) (w : World) (hq : q.size ≤ maxLen) :
    Calls Tryd.prog 12 #[.string q] w fun e w' => e = .returned (.bool (plB q)) ∧ Below w.heap.size w w' := plain_any q w hq

theorem gm_star2 (p s : List UInt8) : gm (42 :: 42 :: p) s = gm (42 :: p) s := by
  rw [Bool.eq_iff_iff, gm_star, gm_star]
  constructor
  · rintro ⟨j, hj, h⟩
    obtain ⟨k, hk, h2⟩ := (gm_star _ _).1 h
    rw [List.length_drop] at hk
    exact ⟨j + k, by omega, by rwa [List.drop_drop] at h2⟩
  · rintro ⟨j, hj, h⟩
    exact ⟨0, by omega, (gm_star _ _).2 ⟨j, by simpa using hj, by simpa using h⟩⟩
theorem gm_between {a b : List UInt8} (ha : plainL a = true) (hb : plainL b = true) (s : List UInt8) :
    gm (a ++ 42 :: b) s = (decide (a.length + b.length ≤ s.length) && (s.take a.length == a) && (s.drop (s.length - b.length) == b)) := by
  obtain ⟨a1, a2⟩ := plain_no ha
  obtain ⟨b1, b2⟩ := plain_no hb
  rw [Bool.eq_iff_iff, gm_append]
  simp only [Bool.and_eq_true, decide_eq_true_eq, beq_iff_eq]
  constructor
  · rintro ⟨j, hj, h1, h2⟩
    rw [gm_plain a1 a2, beq_iff_eq] at h1
    obtain ⟨k, hk, h3⟩ := (gm_star _ _).1 h2
    rw [gm_plain b1 b2, beq_iff_eq, List.drop_drop] at h3
    rw [List.length_drop] at hk
    have e1 : a.length = j := by rw [h1, List.length_take]; omega
    have e2 : b.length = s.length - (j + k) := by rw [h3, List.length_drop]
    refine ⟨⟨by omega, by rw [e1]; exact h1.symm⟩, ?_⟩
    rw [e2, show s.length - (s.length - (j + k)) = j + k by omega]; exact h3.symm
  · rintro ⟨⟨h1, h2⟩, h3⟩
    refine ⟨a.length, by omega, by rw [h2]; exact gm_self a1, (gm_star _ _).2 ⟨s.length - b.length - a.length, by rw [List.length_drop]; omega, ?_⟩⟩
    rw [List.drop_drop, show a.length + (s.length - b.length - a.length) = s.length - b.length by omega, h3]
    exact gm_self b1
theorem allL_app (a b : List UInt8) : allL (a ++ b) = (allL a && allL b) := by unfold allL; rw [List.all_append]
theorem may_all {l : List UInt8} (h : mayP l = true) : allL l = true := by unfold mayP at h; simp only [Bool.and_eq_true] at h; exact h.2
theorem may_mk {l : List UInt8} (h1 : 1 ≤ l.length) (h2 : l.length ≤ 40) (h : allL l = true) : mayP l = true := by unfold mayP; rw [h]; simp [h1, h2]

set_option maxRecDepth 100000 in
set_option maxHeartbeats 6400000 in
theorem walkGlobStars (a b s : ByteArray) (w : World) (ha : a.size ≤ maxLen) (hb' : b.size ≤ maxLen) (hs : s.size ≤ maxLen) :
    Calls Tryd.prog 4 #[.string a, .string b, .string s] w fun e w' => e = .returned (.bool true) ∧ Below w.heap.size w w' := by
  by_cases h1 : 19 < a.size
  · go_enter Tryd.func4, Tryd.ntmps4
    go_wp2_with (go_at_call 7; refine (first20_any _).mono ?_; rintro e w1 ⟨rfl, hb⟩)
    go_ret
    exact ⟨rfl, by repeat (first | assumption | exact Below.refl _ _ | refine bch ?_ (by assumption) | refine Below.alloc ?_ (by simp) _)⟩
  by_cases h2 : 19 < b.size
  · go_enter Tryd.func4, Tryd.ntmps4
    go_wp2_with (go_at_call 7; refine (first20_any _).mono ?_; rintro e w1 ⟨rfl, hb⟩)
    go_ret
    exact ⟨rfl, by repeat (first | assumption | exact Below.refl _ _ | refine bch ?_ (by assumption) | refine Below.alloc ?_ (by simp) _)⟩
  by_cases h3 : 200 < s.size
  · go_enter Tryd.func4, Tryd.ntmps4
    go_wp2_with (go_at_call 7; refine (first20_any _).mono ?_; rintro e w1 ⟨rfl, hb⟩)
    go_ret
    exact ⟨rfl, by repeat (first | assumption | exact Below.refl _ _ | refine bch ?_ (by assumption) | refine Below.alloc ?_ (by simp) _)⟩
  cases HPA : plB a
  · have HPB := HPA
    go_enter Tryd.func4, Tryd.ntmps4
    go_wp2_with (first | (go_at_call 7; refine (first20_any _).mono ?_; rintro e w1 ⟨rfl, hb⟩) | (go_at_call 12; refine (plainB_any _ _ (by with_reducible assumption)).mono ?_; rintro e w1 ⟨rfl, hb⟩; first | rw [HPA] | rw [HPB]))
    go_ret
    exact ⟨rfl, by repeat (first | assumption | exact Below.refl _ _ | refine bch ?_ (by assumption) | refine Below.alloc ?_ (by simp) _)⟩
  cases HPB : plB b
  · go_enter Tryd.func4, Tryd.ntmps4
    go_wp2_with (first | (go_at_call 7; refine (first20_any _).mono ?_; rintro e w1 ⟨rfl, hb⟩) | (go_at_call 12; refine (plainB_any _ _ (by with_reducible assumption)).mono ?_; rintro e w1 ⟨rfl, hb⟩; first | rw [HPA] | rw [HPB]))
    go_ret
    exact ⟨rfl, by repeat (first | assumption | exact Below.refl _ _ | refine bch ?_ (by assumption) | refine Below.alloc ?_ (by simp) _)⟩
  have pa := HPA; have pb := HPB
  unfold plB plainP at pa pb
  rw [Bool.and_eq_true] at pa pb
  obtain ⟨a42, a63⟩ := plain_no pa.2
  obtain ⟨b42, b63⟩ := plain_no pb.2
  have al := may_all pa.1; have bl := may_all pb.1
  have La : a.data.toList.length = a.size := str_len a
  have Lb : b.data.toList.length = b.size := str_len b
  have Ls : s.data.toList.length = s.size := str_len s
  have l42 : (⟨#[42]⟩ : ByteArray).data.toList = [42] := rfl
  have l422 : (⟨#[42, 42]⟩ : ByteArray).data.toList = [42, 42] := rfl
  have M3 : gmB (a ++ ⟨#[42]⟩) (a ++ s) = true := by
    unfold gmB matchP
    rw [str_append, str_append, l42, may_mk (by simp) (by simp [La]; omega) (by rw [allL_app, al]; rfl), gm_front (fixed_self a42), gm_allstar]; rfl
  have M4 : gmB (⟨#[42]⟩ ++ b) (s ++ b) = true := by
    unfold gmB matchP
    rw [str_append, str_append, l42, may_mk (by simp) (by simp [Lb]; omega) (by rw [allL_app, bl]; rfl)]
    exact (gm_star _ _).2 ⟨s.data.toList.length, by simp, by rw [List.drop_left]; exact gm_self b42⟩
  have M5 : gmB ⟨#[42]⟩ s = true := by
    unfold gmB matchP
    rw [l42, gm_allstar]; rfl
  have S1 : (a ++ ⟨#[42]⟩ ++ b).size ≤ maxLen := by rw [ByteArray.size_append, ByteArray.size_append]; show a.size + 1 + b.size ≤ maxLen; unfold maxLen; omega
  have S2 : (a ++ ⟨#[42, 42]⟩ ++ b).size ≤ maxLen := by rw [ByteArray.size_append, ByteArray.size_append]; show a.size + 2 + b.size ≤ maxLen; unfold maxLen; omega
  have S3 : (a ++ ⟨#[42]⟩).size ≤ maxLen := by rw [ByteArray.size_append]; show a.size + 1 ≤ maxLen; unfold maxLen; omega
  have S4 : (⟨#[42]⟩ ++ b : ByteArray).size ≤ maxLen := by rw [ByteArray.size_append]; show 1 + b.size ≤ maxLen; unfold maxLen; omega
  have S5 : (⟨#[42]⟩ : ByteArray).size ≤ maxLen := by unfold maxLen; decide
  have S6 : (a ++ s).size ≤ maxLen := by rw [ByteArray.size_append]; unfold maxLen; omega
  have S7 : (s ++ b).size ≤ maxLen := by rw [ByteArray.size_append]; unfold maxLen; omega
  have main : ∀ (b1 b2 : Bool) (E1 : a.size + b.size ≤ s.size → ((s.extract 0 a.size).toList == a.toList) = b1) (E2 : a.size + b.size ≤ s.size → ((s.extract (s.size - b.size) s.size).toList == b.toList) = b2)
      (M1 : gmB (a ++ ⟨#[42]⟩ ++ b) s = (decide (a.size + b.size ≤ s.size) && b1 && b2)) (M2 : gmB (a ++ ⟨#[42, 42]⟩ ++ b) s = (decide (a.size + b.size ≤ s.size) && b1 && b2)),
      Calls Tryd.prog 4 #[.string a, .string b, .string s] w fun e w' => e = .returned (.bool true) ∧ Below w.heap.size w w' := by
    intro b1 b2 E1 E2 M1 M2
    clear pa pb a42 a63 b42 b63 al bl La Lb Ls l42 l422
    by_cases hl : a.size + b.size ≤ s.size
    · have F1 := E1 hl
      have F2 := E2 hl
      rw [decide_eq_true hl] at M1 M2
      clear E1 E2
      cases b1 <;> cases b2
      all_goals
        simp only [Bool.and_true, Bool.and_false] at M1 M2
        go_enter Tryd.func4, Tryd.ntmps4
        go_wp2_with (first | (go_at_call 7; refine (first20_any _).mono ?_; rintro e w1 ⟨rfl, hb⟩) | (go_at_call 12; refine (plainB_any _ _ (by with_reducible assumption)).mono ?_; rintro e w1 ⟨rfl, hb⟩; first | rw [HPA] | rw [HPB]) | (go_at_call 10; refine (matchB_any _ _ _ (by with_reducible assumption) (by with_reducible assumption)).mono ?_; rintro e w1 ⟨rfl, hb⟩; first | rw [M1] | rw [M2] | rw [M3] | rw [M4] | rw [M5]))
        go_ret
        exact ⟨rfl, by repeat (first | assumption | exact Below.refl _ _ | refine bch ?_ (by assumption) | refine Below.alloc ?_ (by simp) _)⟩
    · rw [decide_eq_false hl] at M1 M2
      clear E1 E2
      simp only [Bool.false_and] at M1 M2
      go_enter Tryd.func4, Tryd.ntmps4
      go_wp2_with (first | (go_at_call 7; refine (first20_any _).mono ?_; rintro e w1 ⟨rfl, hb⟩) | (go_at_call 12; refine (plainB_any _ _ (by with_reducible assumption)).mono ?_; rintro e w1 ⟨rfl, hb⟩; first | rw [HPA] | rw [HPB]) | (go_at_call 10; refine (matchB_any _ _ _ (by with_reducible assumption) (by with_reducible assumption)).mono ?_; rintro e w1 ⟨rfl, hb⟩; first | rw [M1] | rw [M2] | rw [M3] | rw [M4] | rw [M5]))
      go_ret
      exact ⟨rfl, by repeat (first | assumption | exact Below.refl _ _ | refine bch ?_ (by assumption) | refine Below.alloc ?_ (by simp) _)⟩
  refine main _ _ (fun _ => rfl) (fun _ => rfl) ?_ ?_
  · unfold gmB matchP
    rw [str_append, str_append, l42, may_mk (by simp; omega) (by simp [La, Lb]; omega) (by rw [allL_app, allL_app, al, bl]; rfl), Bool.true_and, List.append_assoc, List.singleton_append, gm_between pa.2 pb.2,
      ByteArray.toList_eq, ByteArray.toList_eq, ByteArray.toList_eq, ByteArray.toList_eq, str_take, str_drop, La, Lb, Ls]
  · unfold gmB matchP
    rw [str_append, str_append, l422, may_mk (by simp; omega) (by simp [La, Lb]; omega) (by rw [allL_app, allL_app, al, bl]; rfl), Bool.true_and, List.append_assoc]
    have st : gm (a.data.toList ++ ([42, 42] ++ b.data.toList)) s.data.toList = gm (a.data.toList ++ 42 :: b.data.toList) s.data.toList := by
      rw [Bool.eq_iff_iff, gm_append, gm_append]
      constructor <;> (rintro ⟨j, h1, h2, h3⟩; refine ⟨j, h1, h2, ?_⟩)
      · rw [← gm_star2]; exact h3
      · rw [← gm_star2] at h3; exact h3
    rw [st, gm_between pa.2 pb.2, ByteArray.toList_eq, ByteArray.toList_eq, ByteArray.toList_eq, ByteArray.toList_eq, str_take, str_drop, La, Lb, Ls]
end Go.Proofs.YtohggmbnehgdiaaDoor
