/- ClassAlone, walked. -/
import Derived.Test.YtnngjbheamegjaaClassRuns
import Derived.Test.YtnngjbheamegjaaPhi
import Derived.WalkKit
import Derived.ProofKit
import Derived.Handy
import Derived.Below
import Derived.Lib.Hide
import Derived.IntWalk
import Derived.Outline
import Derived.WalkLawsBesides
import Derived.WalkSpells
namespace Go.Proofs.Ytnngjbheamegjaa
open Go.RowKit

/-- A row of the call's own, with its capacity. -/
theorem RowAt.ownc {w : World} {base : Nat} {e : TypeId} {size n : Nat} {v : Value} {xs : List Value} (h : w.ownsRow base e size v n xs) :
    ∃ a cap, v = .slice a n cap ∧ RowAt w a xs ∧ n ≤ cap ∧ cap ≤ maxLen := by
  have h' := h
  rcases h.2 with ⟨rfl, rfl⟩ | ⟨g, cap, cur, rfl, hb, hg, hnc, hcm, hcs, htake⟩
  · obtain ⟨a, cap, e, hr, _⟩ := RowAt.own h'
    injection e with e1 e2 e3
    exact ⟨none, 0, rfl, by rw [e1]; exact hr, by omega, Nat.zero_le _⟩
  · obtain ⟨a, cap', e, hr, _⟩ := RowAt.own h'
    injection e with e1 e2 e3
    subst e1 e3
    exact ⟨_, _, rfl, hr, hnc, hcm⟩
/-- One element of a row, as a row. -/
theorem RowAt.one {w : World} {b off : Nat} {α : Type} {f : α → List Value} {c : Nat} {l : List α} (h : RowAt w (some ⟨b, off, none⟩) (l.flatMap f)) (hf : ∀ x, (f x).length = c) {k : Nat} (hk : k < l.length) (hc0 : 0 < c) :
    RowAt w (some ⟨b, off + k * c, none⟩) ([l[k]].flatMap f) := by
  obtain ⟨b', off', e, hb, hc⟩ := h.elem hf hk hc0
  cases e
  refine .inr ⟨b, _, rfl, hb, fun j hj => ?_⟩
  have hj' : j < c := by simpa [hf] using hj
  rw [Nat.add_assoc, hc j hj']
  simp
theorem chn_set0 {w : World} {g : Nat} {c : Chn} (h : ChnAt w g c) (o : Bool) : ChnAt (w.setCell ⟨g, 0, none⟩ (.bool o)) g { c with ordered := o } := by
  obtain ⟨f0, f1, f2, f3, f4, f5, f6, f7, f8, f9, f10, f11, f12⟩ := h
  have hne : ∀ j, 0 < j → (w.setCell ⟨g, 0, none⟩ (.bool o)).cell? ⟨g, j, none⟩ = w.cell? ⟨g, j, none⟩ := fun j hj => by
    apply World.cell?_setCell_other; intro e; injection e with e1 e2; omega
  constructor
  · apply World.cell?_setCell_same; exact f0
  all_goals (rw [hne _ (by omega)]; assumption)
theorem chn_size {w : World} {g : Nat} {c : Chn} (h : ChnAt w g c) : g < w.heap.size := by
  obtain ⟨f0, f1, f2, f3, f4, f5, f6, f7, f8, f9, f10, f11, f12⟩ := h
  rcases Nat.lt_or_ge g w.heap.size with hlt | hge
  · exact hlt
  · simp [World.cell?, Array.getElem?_eq_none hge] at f0
theorem oneI_un {c : Chn} (ho : c.ordered = false) (na nr na' nr' : Int) (p : Pk) : oneI c na nr p = oneI c na' nr' p := by
  simp [oneI, acksB, recvB, turnB, ho]
theorem of_one {c : Chn} (ho : c.ordered = false) (na nr : Int) (p : Pk) : ofL c [p] = [oneI c na nr p] := by
  have h := cls_step c c.nextAck c.nextRecv p []
  unfold ofL
  rw [if_pos (show riseB [p] = true from rfl), h, oneI_un ho c.nextAck c.nextRecv na nr]
  rfl

set_option maxRecDepth 100000 in
set_option maxHeartbeats 6400000 in
theorem walkClassAlone (o opn oo oc : Bool) (st nr nd na ht tm ah at_ sh : Int) (a : Option Addr) (n cap : Nat) (ps : List Pk) (w : World) (hr : RowAt w a (ps.flatMap Pk.cells)) (hn : ps.length = n) (hcap : n ≤ cap) (hm : cap ≤ maxLen) :
    Calls Try.prog 8 #[.agg #[.bool o, .bool opn, .bool oo, .bool oc, .int .i64 st, .int .i64 nr, .int .i64 nd, .int .i64 na, .int .i64 ht, .int .i64 tm, .int .i64 ah, .int .i64 at_, .int .i64 sh], .slice a n cap] w fun e w' => e = .returned (.bool true) ∧ Below w.heap.size w w' := by
  have hl : n ≤ maxLen := Nat.le_trans hcap hm
  have hm' := hm; unfold maxLen at hm'
  have hl' := hl; unfold maxLen at hl'
  have hbA := (Below.refl w.heap.size w).alloc (Nat.le_refl _) (.cells #[.bool o, .bool opn, .bool oo, .bool oc, .int .i64 st, .int .i64 nr, .int .i64 nd, .int .i64 na, .int .i64 ht, .int .i64 tm, .int .i64 ah, .int .i64 at_, .int .i64 sh] 33)
  have hrB := hr.below hbA
  have hcA : ChnAt (w.alloc (.cells #[.bool o, .bool opn, .bool oo, .bool oc, .int .i64 st, .int .i64 nr, .int .i64 nd, .int .i64 na, .int .i64 ht, .int .i64 tm, .int .i64 ah, .int .i64 at_, .int .i64 sh] 33)) w.heap.size ⟨o, opn, oo, oc, st, nr, nd, na, ht, tm, ah, at_, sh⟩ := chn_new w ⟨o, opn, oo, oc, st, nr, nd, na, ht, tm, ah, at_, sh⟩ _
  have hzL : w.heap.size < (w.alloc (.cells #[.bool o, .bool opn, .bool oo, .bool oc, .int .i64 st, .int .i64 nr, .int .i64 nd, .int .i64 na, .int .i64 ht, .int .i64 tm, .int .i64 ah, .int .i64 at_, .int .i64 sh] 33)).heap.size := by simp
  have HN := Lib.hid hn; clear hn
  have hfA : (w.alloc (.cells #[.bool o, .bool opn, .bool oo, .bool oc, .int .i64 st, .int .i64 nr, .int .i64 nd, .int .i64 na, .int .i64 ht, .int .i64 tm, .int .i64 ah, .int .i64 at_, .int .i64 sh] 33)).frozen? ⟨w.heap.size, 0, none⟩ = false := by go_simp
  cases hrise : riseB ps
  · have HR := Lib.hid hrise; clear hrise
    by_cases h60 : 60 < n
    all_goals
      go_enter Try.func8, Try.ntmps8
      go_wp2_with (first | (go_at_call 20; have hbA := hbA.setCell (p := ⟨w.heap.size, 0, none⟩) (Nat.le_refl _) (.bool false); have hrB := hr.below hbA; have hcA := chn_set0 hcA false; have hzL := chn_size hcA; refine (rise_n hrB HN.out hl).mono ?_; rintro e w1 ⟨rfl, hb⟩; rw [HR.out]; have hrB := hrB.below hb; have hbA := hbA.trans (hb.mono (Nat.le_of_lt hzL)); have hcA := hcA.below hb hzL; have hzL := Nat.lt_of_lt_of_le hzL hb.size; have hcC := hcA; obtain ⟨f0, f1, f2, f3, f4, f5, f6, f7, f8, f9, f10, f11, f12⟩ := hcC; simp only at f0 f1 f2 f3 f4 f5 f6 f7 f8 f9 f10 f11 f12) | (go_at_call 19; refine (first25_any _).mono ?_; rintro e w1 ⟨rfl, hb⟩; have hrB := hrB.below hb; have hfA := (hb.frozen (p := ⟨w.heap.size, 0, none⟩) hzL).trans hfA; have hbA := hbA.trans (hb.mono (Nat.le_of_lt hzL)); have hcA := hcA.below hb hzL; have hzL := Nat.lt_of_lt_of_le hzL hb.size; have hcC := hcA; obtain ⟨f0, f1, f2, f3, f4, f5, f6, f7, f8, f9, f10, f11, f12⟩ := hcC; simp only at f0 f1 f2 f3 f4 f5 f6 f7 f8 f9 f10 f11 f12) | (go_at_call 19; have hbA := hbA.setCell (p := ⟨w.heap.size, 0, none⟩) (Nat.le_refl _) (.bool false); have hrB := hr.below hbA; have hcA := chn_set0 hcA false; have hzL := chn_size hcA; refine (first25_any _).mono ?_; rintro e w1 ⟨rfl, hb⟩; have hrB := hrB.below hb;  have hbA := hbA.trans (hb.mono (Nat.le_of_lt hzL)); have hcA := hcA.below hb hzL; have hzL := Nat.lt_of_lt_of_le hzL hb.size; have hcC := hcA; obtain ⟨f0, f1, f2, f3, f4, f5, f6, f7, f8, f9, f10, f11, f12⟩ := hcC; simp only at f0 f1 f2 f3 f4 f5 f6 f7 f8 f9 f10 f11 f12) | (go_at_call 19; refine (first25_any _).mono ?_; rintro e w1 ⟨rfl, hb⟩; have hrB := hrB.below hb; have hbA := hbA.trans (hb.mono (Nat.le_of_lt hzL)); have hcA := hcA.below hb hzL; have hzL := Nat.lt_of_lt_of_le hzL hb.size; have hcC := hcA; obtain ⟨f0, f1, f2, f3, f4, f5, f6, f7, f8, f9, f10, f11, f12⟩ := hcC; simp only at f0 f1 f2 f3 f4 f5 f6 f7 f8 f9 f10 f11 f12))
      go_ret
      exact ⟨rfl, hbA⟩
  · have HR := Lib.hid hrise; clear hrise
    by_cases h60 : 60 < n
    · skip
      go_enter Try.func8, Try.ntmps8
      go_wp2_with (first | (go_at_call 20; have hbA := hbA.setCell (p := ⟨w.heap.size, 0, none⟩) (Nat.le_refl _) (.bool false); have hrB := hr.below hbA; have hcA := chn_set0 hcA false; have hzL := chn_size hcA; refine (rise_n hrB HN.out hl).mono ?_; rintro e w1 ⟨rfl, hb⟩; rw [HR.out]; have hrB := hrB.below hb; have hbA := hbA.trans (hb.mono (Nat.le_of_lt hzL)); have hcA := hcA.below hb hzL; have hzL := Nat.lt_of_lt_of_le hzL hb.size; have hcC := hcA; obtain ⟨f0, f1, f2, f3, f4, f5, f6, f7, f8, f9, f10, f11, f12⟩ := hcC; simp only at f0 f1 f2 f3 f4 f5 f6 f7 f8 f9 f10 f11 f12) | (go_at_call 19; refine (first25_any _).mono ?_; rintro e w1 ⟨rfl, hb⟩; have hrB := hrB.below hb; have hfA := (hb.frozen (p := ⟨w.heap.size, 0, none⟩) hzL).trans hfA; have hbA := hbA.trans (hb.mono (Nat.le_of_lt hzL)); have hcA := hcA.below hb hzL; have hzL := Nat.lt_of_lt_of_le hzL hb.size; have hcC := hcA; obtain ⟨f0, f1, f2, f3, f4, f5, f6, f7, f8, f9, f10, f11, f12⟩ := hcC; simp only at f0 f1 f2 f3 f4 f5 f6 f7 f8 f9 f10 f11 f12) | (go_at_call 19; have hbA := hbA.setCell (p := ⟨w.heap.size, 0, none⟩) (Nat.le_refl _) (.bool false); have hrB := hr.below hbA; have hcA := chn_set0 hcA false; have hzL := chn_size hcA; refine (first25_any _).mono ?_; rintro e w1 ⟨rfl, hb⟩; have hrB := hrB.below hb;  have hbA := hbA.trans (hb.mono (Nat.le_of_lt hzL)); have hcA := hcA.below hb hzL; have hzL := Nat.lt_of_lt_of_le hzL hb.size; have hcC := hcA; obtain ⟨f0, f1, f2, f3, f4, f5, f6, f7, f8, f9, f10, f11, f12⟩ := hcC; simp only at f0 f1 f2 f3 f4 f5 f6 f7 f8 f9 f10 f11 f12) | (go_at_call 19; refine (first25_any _).mono ?_; rintro e w1 ⟨rfl, hb⟩; have hrB := hrB.below hb; have hbA := hbA.trans (hb.mono (Nat.le_of_lt hzL)); have hcA := hcA.below hb hzL; have hzL := Nat.lt_of_lt_of_le hzL hb.size; have hcC := hcA; obtain ⟨f0, f1, f2, f3, f4, f5, f6, f7, f8, f9, f10, f11, f12⟩ := hcC; simp only at f0 f1 f2 f3 f4 f5 f6 f7 f8 f9 f10 f11 f12))
      go_ret
      exact ⟨rfl, hbA⟩
    have HOF : Hid (ofL ⟨false, opn, oo, oc, st, nr, nd, na, ht, tm, ah, at_, sh⟩ ps = clsL ⟨false, opn, oo, oc, st, nr, nd, na, ht, tm, ah, at_, sh⟩ na nr ps) := Lib.hid (by unfold ofL; rw [if_pos HR.out])
    have HLEN : Hid ((clsL ⟨false, opn, oo, oc, st, nr, nd, na, ht, tm, ah, at_, sh⟩ na nr ps).length = n) := Lib.hid (by rw [clsL_len, HN.out])
    go_enter Try.func8, Try.ntmps8
    go_wp2_with (first | (go_at_call 19; refine (first25_any _).mono ?_; rintro e w1 ⟨rfl, hb⟩; have hrB := hrB.below hb; have hfA := (hb.frozen (p := ⟨w.heap.size, 0, none⟩) hzL).trans hfA; have hbA := hbA.trans (hb.mono (Nat.le_of_lt hzL)); have hcA := hcA.below hb hzL; have hzL := Nat.lt_of_lt_of_le hzL hb.size; have hcC := hcA; obtain ⟨f0, f1, f2, f3, f4, f5, f6, f7, f8, f9, f10, f11, f12⟩ := hcC; simp only at f0 f1 f2 f3 f4 f5 f6 f7 f8 f9 f10 f11 f12) | (go_at_call 20; have hbA := hbA.setCell (p := ⟨w.heap.size, 0, none⟩) (Nat.le_refl _) (.bool false); have hrB := hr.below hbA; have hcA := chn_set0 hcA false; have hzL := chn_size hcA; refine (rise_n hrB HN.out hl).mono ?_; rintro e w1 ⟨rfl, hb⟩; rw [HR.out]; have hrB := hrB.below hb; have hbA := hbA.trans (hb.mono (Nat.le_of_lt hzL)); have hcA := hcA.below hb hzL; have hzL := Nat.lt_of_lt_of_le hzL hb.size; have hcC := hcA; obtain ⟨f0, f1, f2, f3, f4, f5, f6, f7, f8, f9, f10, f11, f12⟩ := hcC; simp only at f0 f1 f2 f3 f4 f5 f6 f7 f8 f9 f10 f11 f12) | (go_at_call 26; refine (of_any _ _ _ _ _ _ _ _ _ _ _ _ _ _ _ _ _ _ hrB HN.out hl (by omega)).mono ?_; rintro e w1 ⟨v, rfl, hown, hb⟩; rw [HOF.out, HLEN.out] at hown; obtain ⟨a', cap', rfl, hrow, hnc, _⟩ := RowAt.ownc hown; have hrB := hrB.below hb; have hbA := hbA.trans (hb.mono (Nat.le_of_lt hzL)); have hcA := hcA.below hb hzL; have hzL := Nat.lt_of_lt_of_le hzL hb.size))
    generalize hX : clsL ⟨false, opn, oo, oc, st, nr, nd, na, ht, tm, ah, at_, sh⟩ na nr ps = X at hrow
    have HX := Lib.hid hX; clear hX
    have HXL : Hid (X.length = n) := Lib.hid (by rw [← HX.out]; exact HLEN.out)
    go_loopw [6] (fun i wr => ∃ k : Nat, k ≤ n ∧ Below w1.heap.size w1 wr ∧ i = .int .i64 k) (fun i _ => n - (intOf i).toNat)
    case atStart => exact ⟨0, by omega, Below.refl _ _, rfl⟩
    case round =>
      obtain ⟨k, hk, hbel, rfl⟩ := hrel
      have hzR := hbel.size
      by_cases hlt : k < n
      · have hrK := hrB.below hbel
        have hrowK := hrow.below hbel
        obtain ⟨b, off, rfl, hbl, _⟩ := pk_at hrK (k := k) (by rw [HN.out]; exact hlt)
        obtain ⟨b', off', rfl, hbl', hz⟩ := row_get hrowK (k := k) (by rw [HXL.out]; exact hlt)
        have hsp := hrK.one Pk.cells_len (k := k) (by rw [HN.out]; exact hlt) (by omega)
        have hsz : RowAt wr (some ⟨b', off' + k, none⟩) ([X[k]'(by rw [HXL.out]; exact hlt)].map (Value.int .i64)) := .inr ⟨b', _, rfl, hbl', fun j hj => by
          obtain rfl : j = 0 := by simpa using hj
          simpa using hz⟩
        obtain ⟨NA, NR, hone⟩ := cls_one ⟨false, opn, oo, oc, st, nr, nd, na, ht, tm, ah, at_, sh⟩ ps na nr k _ (List.getElem?_eq_getElem (show k < ps.length by rw [HN.out]; exact hlt))
        have hxk : X[k]'(by rw [HXL.out]; exact hlt) = oneI ⟨false, opn, oo, oc, st, nr, nd, na, ht, tm, ah, at_, sh⟩ NA NR (ps[k]'(by rw [HN.out]; exact hlt)) := by
          have h1 : X[k]? = some (X[k]'(by rw [HXL.out]; exact hlt)) := List.getElem?_eq_getElem _
          rw [HX.out, h1] at hone; exact Option.some.inj hone
        have HOF1 : Hid (ofL ⟨false, opn, oo, oc, st, nr, nd, na, ht, tm, ah, at_, sh⟩ [ps[k]'(by rw [HN.out]; exact hlt)] = [X[k]'(by rw [HXL.out]; exact hlt)]) := Lib.hid (by rw [of_one rfl NA NR, hxk])
        clear hone hxk hz
        generalize X[k]'(by rw [HXL.out]; exact hlt) = z at hsz HOF1
        generalize ps[k]'(by rw [HN.out]; exact hlt) = p at hsp HOF1
        have HZZ : Hid ((([z] : List Int) == [z]) = true) := Lib.hid (by simp)
        have hc1 := hcA.below hbel hzL
        have hz1 : w.heap.size < wr.heap.size := Nat.lt_of_lt_of_le hzL hbel.size
        go_upto_region 12 with fail
        refine wp_region_facts [Fact.eq (.agg #[.bool false, .bool opn, .bool oo, .bool oc, .int .i64 st, .int .i64 nr, .int .i64 nd, .int .i64 na, .int .i64 ht, .int .i64 tm, .int .i64 ah, .int .i64 at_, .int .i64 sh]), Fact.eq (.slice (some ⟨b, off, none⟩) n cap), Fact.eq (.int .i64 k), Fact.eq (.int .i64 k), Fact.eq (.int .i64 (k + 1)), Fact.row (1) ([p].flatMap Pk.cells), Fact.row (1) ([z].map (Value.int .i64)), Fact.eq (.slice (some ⟨b', off', none⟩) n cap'), Fact.eq (.int .i64 k), Fact.eq (.int .i64 k), Fact.eq (.int .i64 (k + 1)), Fact.row (1) ([z].map (Value.int .i64)), Fact.eq (.bool true), Fact.eq (.bool false)] (by kernel_rfl) (by kernel_rfl) (by kernel_rfl) (by kernel_rfl) (fun x => by simp only [fillFrom, Act.put, List.setIfInBounds_toArray, List.set_cons_succ, List.set_cons_zero]; rfl) ?_ ?_
        · refine ⟨?_, ?_, ?_, ?_, ?_, ?_, ?_, ?_, ?_, ?_, ?_, ?_, ?_, ?_, trivial⟩
          · intro x w' hbw hd
            clear hd
            obtain ⟨f0, f1, f2, f3, f4, f5, f6, f7, f8, f9, f10, f11, f12⟩ := hc1.below hbw hz1
            simp only at f0 f1 f2 f3 f4 f5 f6 f7 f8 f9 f10 f11 f12
            go_wp2_with fail
            exact frPost_mk rfl (by repeat (first | assumption | exact Below.refl _ _ | refine bch ?_ (by assumption) | refine Below.alloc ?_ (by simp) _)) rfl
          · intro x w' hbw hd
            clear hd
            go_wp2_with fail
            exact frPost_mk rfl (by repeat (first | assumption | exact Below.refl _ _ | refine bch ?_ (by assumption) | refine Below.alloc ?_ (by simp) _)) rfl
          · intro x w' hbw hd
            clear hd
            go_wp2_with fail
            exact frPost_mk rfl (by repeat (first | assumption | exact Below.refl _ _ | refine bch ?_ (by assumption) | refine Below.alloc ?_ (by simp) _)) rfl
          · intro x w' hbw hd
            clear hd
            go_wp2_with fail
            exact frPost_mk rfl (by repeat (first | assumption | exact Below.refl _ _ | refine bch ?_ (by assumption) | refine Below.alloc ?_ (by simp) _)) rfl
          · intro x w' hbw hd
            have d3 : x 3 = .int .i64 k := hd 3 rfl
            clear hd
            go_wp2_with fail
            exact frPost_mk rfl (by repeat (first | assumption | exact Below.refl _ _ | refine bch ?_ (by assumption) | refine Below.alloc ?_ (by simp) _)) (by go_num)
          · intro x w' hbw hd
            have d1 : x 1 = .slice (some ⟨b, off, none⟩) n cap := hd 1 rfl
            have d2 : x 2 = .int .i64 k := hd 2 rfl
            have d4 : x 4 = .int .i64 (k + 1) := hd 4 rfl
            clear hd
            go_wp2_with fail
            exact frPost_mk rfl (by repeat (first | assumption | exact Below.refl _ _ | refine bch ?_ (by assumption) | refine Below.alloc ?_ (by simp) _)) ⟨_, _, rfl, hsp.below hbw⟩
          · intro x w' hbw hd
            have d0 : x 0 = .agg #[.bool false, .bool opn, .bool oo, .bool oc, .int .i64 st, .int .i64 nr, .int .i64 nd, .int .i64 na, .int .i64 ht, .int .i64 tm, .int .i64 ah, .int .i64 at_, .int .i64 sh] := hd 0 rfl
            obtain ⟨a5, cap5, d5, r5⟩ := (show (Fact.row (1) ([p].flatMap Pk.cells)).holds (x 5) w' from hd 5 rfl)
            clear hd
            go_wp2_with (first | (go_at_call 26; refine (of_any _ _ _ _ _ _ _ _ _ _ _ _ _ _ _ 1 [p] _ r5 rfl (by unfold maxLen; omega) (by omega)).mono ?_; rintro e w1 ⟨v, rfl, hown, hb⟩; rw [HOF1.out] at hown; obtain ⟨a', cap', rfl, hrow, _⟩ := RowAt.own hown))
            exact frPost_mk rfl (by repeat (first | assumption | exact Below.refl _ _ | refine bch ?_ (by assumption) | refine Below.alloc ?_ (by simp) _)) ⟨_, _, rfl, by assumption⟩
          · intro x w' hbw hd
            clear hd
            go_wp2_with fail
            exact frPost_mk rfl (by repeat (first | assumption | exact Below.refl _ _ | refine bch ?_ (by assumption) | refine Below.alloc ?_ (by simp) _)) rfl
          · intro x w' hbw hd
            clear hd
            go_wp2_with fail
            exact frPost_mk rfl (by repeat (first | assumption | exact Below.refl _ _ | refine bch ?_ (by assumption) | refine Below.alloc ?_ (by simp) _)) rfl
          · intro x w' hbw hd
            clear hd
            go_wp2_with fail
            exact frPost_mk rfl (by repeat (first | assumption | exact Below.refl _ _ | refine bch ?_ (by assumption) | refine Below.alloc ?_ (by simp) _)) rfl
          · intro x w' hbw hd
            have d9 : x 9 = .int .i64 k := hd 9 rfl
            clear hd
            go_wp2_with fail
            exact frPost_mk rfl (by repeat (first | assumption | exact Below.refl _ _ | refine bch ?_ (by assumption) | refine Below.alloc ?_ (by simp) _)) (by go_num)
          · intro x w' hbw hd
            have d7 : x 7 = .slice (some ⟨b', off', none⟩) n cap' := hd 7 rfl
            have d8 : x 8 = .int .i64 k := hd 8 rfl
            have d10 : x 10 = .int .i64 (k + 1) := hd 10 rfl
            clear hd
            go_wp2_with fail
            exact frPost_mk rfl (by repeat (first | assumption | exact Below.refl _ _ | refine bch ?_ (by assumption) | refine Below.alloc ?_ (by simp) _)) ⟨_, _, rfl, hsz.below hbw⟩
          · intro x w' hbw hd
            obtain ⟨a6, cap6, d6, r6⟩ := (show (Fact.row (1) ([z].map (Value.int .i64))).holds (x 6) w' from hd 6 rfl)
            obtain ⟨a11, cap11, d11, r11⟩ := (show (Fact.row (1) ([z].map (Value.int .i64))).holds (x 11) w' from hd 11 rfl)
            clear hd
            go_wp2_with (first | (go_at_call 25; refine (ints_any (n := 1) (n' := 1) (x := [z]) (y := [z]) r6 r11 rfl rfl (by unfold maxLen; omega) (by unfold maxLen; omega)).mono ?_; rintro e w1 ⟨he, hb⟩; rw [HZZ.out] at he; subst he))
            exact frPost_mk rfl (by repeat (first | assumption | exact Below.refl _ _ | refine bch ?_ (by assumption) | refine Below.alloc ?_ (by simp) _)) rfl
          · intro x w' hbw hd
            have d12 : x 12 = .bool true := hd 12 rfl
            clear hd
            go_wp2_with fail
            exact frPost_mk rfl (by repeat (first | assumption | exact Below.refl _ _ | refine bch ?_ (by assumption) | refine Below.alloc ?_ (by simp) _)) rfl
        · intro x w' hbw hall
          have h13 : x 13 = .bool false := hall 13 (by decide)
          clear hall
          simp only [Nat.zero_add, Nat.reduceAdd, h13]
          go_wp2
          go_roundw
          case rel => exact ⟨k + 1, by omega, hbel.trans (hbw.mono hzR), by go_num⟩
          case measure => simp [intOf]; omega
      · go_wp2
        go_ret
        exact ⟨rfl, hbA.trans (hbel.mono (Nat.le_of_lt hzL))⟩
end Go.Proofs.Ytnngjbheamegjaa
