/- span.Of. -/
import Derived.Test.YtdlngadcgcgenaaSp3
import Derived.BigRegion
import Derived.RegionTactic
import Derived.BigQuiet
import Derived.Deep.QuietTactic
import Derived.Deep.MidRow
import Derived.LoopTactic
import Derived.BigFrame
import Derived.Laws.OwnMore
import Derived.WalkKit
import Derived.ProofKit
import Derived.Handy
import Derived.Below
import Derived.Lib.Hide
import Derived.IntWalk
import Derived.Outline
import Derived.WalkLawsBesides
import Derived.WalkSpells
namespace Go.Proofs.Ytdlngadcgcgenaa
open Go.RowKit
attribute [local go_sem] strV
set_option linter.unusedVariables false
def ofStep (R : List (Int × Int)) (x : Int) : List (Int × Int) :=
  if insideB x = true then (match R.getLast? with | some r => if x ≤ r.2 + 1 then R.dropLast ++ [(r.1, x)] else R ++ [(x, x)] | none => R ++ [(x, x)]) else R
def ofF (s : List Int) : List (Int × Int) := s.foldl ofStep []
def ofR (l : List Int) : List (Int × Int) := ofF (sortZ l)
theorem ofF_take {s : List Int} {k : Nat} (hk : k < s.length) : ofF (s.take (k + 1)) = ofStep (ofF (s.take k)) s[k] := by
  unfold ofF
  rw [List.take_succ_eq_append_getElem hk, List.foldl_append]; rfl
theorem ofStep_len (R : List (Int × Int)) (x : Int) : (ofStep R x).length ≤ R.length + 1 := by
  unfold ofStep
  split
  · split
    · split
      · rw [List.length_append, List.length_dropLast]; simp
      · simp
    · simp
  · omega
theorem ofF_len (s : List Int) : ∀ k, (ofF (s.take k)).length ≤ k := by
  intro k
  induction k with
  | zero => exact Nat.le_refl _
  | succ k ih =>
    rcases Nat.lt_or_ge k s.length with h | h
    · rw [ofF_take h]; exact Nat.le_trans (ofStep_len _ _) (by omega)
    · rw [List.take_of_length_le (by omega)]; rw [List.take_of_length_le h] at ih; omega
theorem good_last {A : List (Int × Int)} : ∀ {p : Int} {q : Int × Int}, goodFrom p A = true → A.getLast? = some q → p + 2 ≤ q.2 := by
  induction A with
  | nil => intro p q _ h; cases h
  | cons x A ih =>
    intro p q hg h
    obtain ⟨⟨h1, h2, h3, h4⟩, h5⟩ := goodFrom_cons.1 hg
    cases A with
    | nil => simp at h; subst h; omega
    | cons y A => rw [List.getLast?_cons_cons] at h; have := ih h5 h; omega
/-- What the ranges say of the sorted numbers so far. -/
structure OfOk (R : List (Int × Int)) (s : List Int) : Prop where
  good : goodR R = true
  has : ∀ v, hasR R v = true ↔ (v ∈ s ∧ insideB v = true)
  top : ∀ r, R.getLast? = some r → r.2 ∈ s
  cnt : countR R ≤ s.length
theorem goodFrom_app {A : List (Int × Int)} : ∀ {p : Int} {r : Int × Int}, (goodFrom p (A ++ [r]) = true ↔ goodFrom p A = true ∧ 0 ≤ r.1 ∧ r.1 ≤ r.2 ∧ r.2 ≤ maxN ∧ p + 2 ≤ r.1 ∧ ∀ q, A.getLast? = some q → q.2 + 2 ≤ r.1) := by
  induction A with
  | nil =>
    intro p r
    rw [List.nil_append, goodFrom_cons]
    constructor
    · rintro ⟨⟨h1, h2, h3, h4⟩, _⟩; exact ⟨rfl, h1, h2, h3, h4, fun q hq => by cases hq⟩
    · rintro ⟨_, h1, h2, h3, h4, _⟩; exact ⟨⟨h1, h2, h3, h4⟩, rfl⟩
  | cons x A ih =>
    intro p r
    rw [List.cons_append, goodFrom_cons, goodFrom_cons, ih]
    constructor
    · rintro ⟨⟨h1, h2, h3, h4⟩, h5, h6, h7, h8, h9, h10⟩
      refine ⟨⟨⟨h1, h2, h3, h4⟩, h5⟩, h6, h7, h8, by omega, fun q hq => ?_⟩
      cases A with
      | nil => simp at hq; subst hq; exact h9
      | cons y A => rw [List.getLast?_cons_cons] at hq; exact h10 q hq
    · rintro ⟨⟨⟨h1, h2, h3, h4⟩, h5⟩, h6, h7, h8, h9, h10⟩
      refine ⟨⟨h1, h2, h3, h4⟩, h5, h6, h7, h8, ?_, fun q hq => ?_⟩
      · cases A with
        | nil => exact h10 x rfl
        | cons y A =>
          obtain ⟨⟨g1, g2, g3, g4⟩, _⟩ := goodFrom_cons.1 h5
          cases hl : (y :: A).getLast? with
          | none => simp at hl
          | some q =>
            have h11 := h10 q (by rw [List.getLast?_cons_cons]; exact hl)
            have h12 := good_last h5 hl
            omega
      · cases A with
        | nil => cases hq
        | cons y A => exact h10 q (by rw [List.getLast?_cons_cons]; exact hq)
theorem countR_app (A B : List (Int × Int)) : countR (A ++ B) = countR A + countR B := by
  unfold countR
  rw [List.map_append, List.sum_append]
theorem OfOk.nil : OfOk [] [] := ⟨rfl, fun v => by simp [hasR], fun r h => (by cases h), Int.le_refl _⟩
theorem OfOk.step {R : List (Int × Int)} {s : List Int} (h : OfOk R s) {x : Int} (hx : ∀ y ∈ s, y ≤ x) : OfOk (ofStep R x) (s ++ [x]) := by
  unfold ofStep
  by_cases hin : insideB x = true
  · rw [if_pos hin]
    have hb : 0 ≤ x ∧ x ≤ maxN := by unfold insideB at hin; simpa using hin
    have new : (∀ r, R.getLast? = some r → r.2 + 2 ≤ x) → OfOk (R ++ [(x, x)]) (s ++ [x]) := fun hl => by
      refine ⟨?_, fun v => ?_, fun r hr => ?_, ?_⟩
      · exact goodFrom_app.2 ⟨h.good, hb.1, Int.le_refl _, hb.2, by show -2 + 2 ≤ x; omega, hl⟩
      · rw [hasR_app, Bool.or_eq_true, h.has v, List.mem_append, List.mem_singleton]
        have e : hasR [(x, x)] v = true ↔ v = x := by simp [hasR]; omega
        rw [e]
        constructor
        · rintro (⟨h1, h2⟩ | rfl)
          · exact ⟨.inl h1, h2⟩
          · exact ⟨.inr rfl, hin⟩
        · rintro ⟨h1 | h1, h2⟩
          · exact .inl ⟨h1, h2⟩
          · exact .inr h1
      · rw [List.getLast?_append] at hr
        simp at hr; subst hr; simp
      · rw [countR_app, List.length_append]
        have := h.cnt
        show countR R + (x - x + 1 + 0) ≤ _
        simp; omega
    cases hl : R.getLast? with
    | none =>
      simp only []
      exact new (fun r hr => by rw [hl] at hr; cases hr)
    | some r =>
      simp only []
      by_cases hx1 : x ≤ r.2 + 1
      · rw [if_pos hx1]
        have hd : R.dropLast ++ [r] = R := by
          have hne : R ≠ [] := fun e => by rw [e] at hl; cases hl
          have h1 := List.getLast?_eq_some_getLast hne
          rw [hl] at h1
          rw [Option.some.inj h1]
          exact List.dropLast_concat_getLast hne
        have hg := h.good
        have ht := hx _ (h.top r hl)
        have hcn := h.cnt
        have hha := h.has
        rw [← hd] at hg hcn hha
        unfold goodR at hg
        obtain ⟨g1, g2, g3, g4, g5, g6⟩ := goodFrom_app.1 hg
        refine ⟨goodFrom_app.2 ⟨g1, g2, by show r.1 ≤ x; omega, hb.2, g5, g6⟩, fun v => ?_, fun q hq => ?_, ?_⟩
        · have hv := hha v
          rw [hasR_app, Bool.or_eq_true] at hv ⊢
          have e1 : hasR [(r.1, x)] v = true ↔ r.1 ≤ v ∧ v ≤ x := by simp [hasR]
          have e2 : hasR [r] v = true ↔ r.1 ≤ v ∧ v ≤ r.2 := by simp [hasR]
          rw [e2] at hv
          rw [e1, List.mem_append, List.mem_singleton]
          constructor
          · rintro (h1 | ⟨h1, h2⟩)
            · have := hv.1 (.inl h1); exact ⟨.inl this.1, this.2⟩
            · by_cases h3 : v ≤ r.2
              · have := hv.1 (.inr ⟨h1, h3⟩); exact ⟨.inl this.1, this.2⟩
              · obtain rfl : v = x := by omega
                exact ⟨.inr rfl, hin⟩
          · rintro ⟨h1 | rfl, h2⟩
            · rcases hv.2 ⟨h1, h2⟩ with h3 | h3
              · exact .inl h3
              · exact .inr ⟨h3.1, by omega⟩
            · exact .inr ⟨by omega, Int.le_refl _⟩
        · rw [List.getLast?_append] at hq
          simp at hq; subst hq; simp
        · rw [countR_app] at hcn ⊢
          rw [List.length_append]
          have e1 : countR [r] = r.2 - r.1 + 1 := by show r.2 - r.1 + 1 + 0 = _; omega
          have e2 : countR [(r.1, x)] = x - r.1 + 1 := by show x - r.1 + 1 + 0 = _; omega
          rw [e1] at hcn
          rw [e2]
          simp
          omega
      · rw [if_neg hx1]
        exact new (fun q hq => by rw [hl] at hq; cases hq; omega)
  · rw [if_neg hin]
    refine ⟨h.good, fun v => ?_, fun r hr => List.mem_append_left _ (h.top r hr), by rw [List.length_append]; have := h.cnt; simp; omega⟩
    rw [h.has v, List.mem_append, List.mem_singleton]
    constructor
    · rintro ⟨h1, h2⟩; exact ⟨.inl h1, h2⟩
    · rintro ⟨h1 | rfl, h2⟩
      · exact ⟨h1, h2⟩
      · exact absurd h2 hin
theorem ofF_ok {s : List Int} (hs : List.Pairwise (fun x y => x ≤ y) s) : ∀ k, k ≤ s.length → OfOk (ofF (s.take k)) (s.take k) := by
  intro k
  induction k with
  | zero => intro _; exact OfOk.nil
  | succ k ih =>
    intro hk
    have h := ih (by omega)
    rw [ofF_take (by omega), List.take_succ_eq_append_getElem (by omega)]
    refine h.step (fun y hy => ?_)
    obtain ⟨i, hi, rfl⟩ := List.getElem_of_mem hy
    rw [List.length_take] at hi
    rw [List.getElem_take]
    exact (List.pairwise_iff_getElem.1 hs) i k (by omega) (by omega) (by omega)
theorem ofR_ok (l : List Int) : OfOk (ofR l) (sortZ l) := by
  have h := ofF_ok (sortZ_up l) (sortZ l).length (Nat.le_refl _)
  rwa [List.take_length] at h
theorem ofR_len (l : List Int) : (ofR l).length ≤ l.length := by
  have h := ofF_len (sortZ l) (sortZ l).length
  rw [List.take_length, sortZ_len] at h
  exact h
theorem ofR_has (l : List Int) (v : Int) : hasR (ofR l) v = true ↔ (v ∈ l ∧ insideB v = true) := by rw [(ofR_ok l).has v, sortZ_mem]
theorem ofR_cnt (l : List Int) : countR (ofR l) ≤ l.length := by have := (ofR_ok l).cnt; rwa [sortZ_len] at this
theorem own_apartS {w : World} {b1 b2 : Nat} {e1 e2 : TypeId} {s1 s2 n1 n2 : Nat} {v u : Value} {xs ys : List Value} (h : w.ownsRow b1 e1 s1 v n1 xs) (h2 : w.ownsRow b2 e2 s2 u n2 ys) (hne : e1 ≠ e2) : v.ownBlock = none ∨ v.ownBlock ≠ u.ownBlock := by
  rcases h.2 with ⟨rfl, _⟩ | ⟨g, cap, cur, rfl, _, hg, _⟩
  · exact .inl rfl
  · exact .inr (fun e => hne (own_tagS h2 e.symm hg))
theorem own_formS {w : World} {base : Nat} {e : TypeId} {size n : Nat} {v : Value} {xs : List Value} (h : w.ownsRow base e size v n xs) (hn : 0 < n) : ∃ g cap, v = .slice (some ⟨g, 0, none⟩) n cap := by
  rcases h.2 with ⟨_, h0⟩ | ⟨g, cap, cur, h1, _⟩
  · omega
  · exact ⟨g, cap, h1⟩
theorem rg_set (R : List (Int × Int)) (r : Int × Int) (x : Int) {q : Nat} (hq : R.length = q) : ((R ++ [r]).flatMap rgL).set (q * 2 + 1) (.int .i64 x) = (R ++ [(r.1, x)]).flatMap rgL := by
  have hl := rg_flat_len R
  rw [hq] at hl
  rw [List.flatMap_append, List.flatMap_append, List.set_append_right _ _ (by omega), hl, show q * 2 + 1 - q * 2 = 1 by omega]
  rfl
set_option maxRecDepth 100000 in
set_option maxHeartbeats 6400000 in
theorem of_any (a : Option Addr) (n cap : Nat) (l : List Int) (w : World) (hr : RowAt w a (l.map (Value.int .i64))) (hn : l.length = n) (hm : n ≤ 100000) :
    Calls Try.prog 13 #[.slice a n cap] w fun e w' => ∃ v, e = .returned v ∧ w'.ownsRow w.heap.size 62 2 v (ofR l).length ((ofR l).flatMap rgL) ∧ Below w.heap.size w w' := by
  have hb0 : Below w.heap.size w (w.alloc (.cells #[.slice a n cap] 29)) := Below.alloc (Below.refl _ _) (Nat.le_refl _) _
  have CS := sorted_any w.heap.size a n cap l hn (by omega) (w.alloc (.cells #[.slice a n cap] 29)) (by simp) (cell_heap (heap_push _ _ _) 0) (hr.below hb0)
  obtain ⟨iR, hiR, hzR, hsR, hbR⟩ := info_parts Try.infoRg
  have hok := ofF_ok (sortZ_up l)
  have hln := ofF_len (sortZ l)
  unfold ofR
  obtain ⟨s, hs⟩ : ∃ s, sortZ l = s := ⟨_, rfl⟩
  have hsl : s.length = n := by rw [← hs, sortZ_len, hn]
  rw [hs] at hok hln ⊢
  rw [hs, hn] at CS
  have HSL := Lib.hid hsl
  clear hs hsl hn
  go_enter Try.func13, Try.ntmps13
  go_upto_region 3 with (first | (go_at_call 37; refine (values_any a n cap w).mono ?_; rintro e w2 ⟨rfl, rfl⟩) | (go_at_call 36; refine CS.mono ?_; rintro e w3 ⟨v3, rfl, hS, hb3⟩; obtain ⟨aS, cS, rfl, _⟩ := own_slice hS))
  have hbel : Below w.heap.size w w3 := hb0.trans (hb3.mono hb0.size)
  have hS : w3.ownsRow w.heap.size 3 1 (.slice aS n cS) n (s.map (Value.int .i64)) := own_lowerM hS (by simp)
  clear CS hb3 hb0 hr
  go_loopw [3, 11] (fun v i wr => ∃ (k : Nat) (R : List (Int × Int)), k ≤ n ∧ i = .int .i64 k ∧ Hid (R = ofF (s.take k)) ∧ wr.ownsRow w.heap.size 62 2 v R.length (R.flatMap rgL) ∧ wr.ownsRow w.heap.size 3 1 (.slice aS n cS) n (s.map (Value.int .i64)) ∧ w.heap.size ≤ wr.heap.size ∧ Below w.heap.size w wr) (fun _ i _ => n - (intOf i).toNat)
  case atStart => exact ⟨0, [], Nat.zero_le _, rfl, Lib.hid rfl, World.ownsRow_nil _ _ _ _, hS, hbel.size, hbel⟩
  case round =>
    clear hbel hS
    obtain ⟨k, R, hk, rfl, HR, hown, hS, hsz, hbel⟩ := hrel
    have hR1 := hok k (by rw [HSL.out]; exact hk)
    have hR2 := hln k
    rw [← HR.out] at hR1 hR2
    by_cases hlt : k < n
    rotate_left
    · have d9 : decide ((k : Int) < (n : Int)) = false := decide_eq_false (by omega)
      have d9n : decide (k < n) = false := decide_eq_false hlt
      have he : R = ofF s := by rw [HR.out, List.take_of_length_le (by rw [HSL.out]; omega)]
      rw [he] at hown
      clear he
      go_wp2
      go_ret
      exact ⟨_, rfl, hown, hbel⟩
    have d9 : decide ((k : Int) < (n : Int)) = true := decide_eq_true (by omega)
    have d9n : decide (k < n) = true := decide_eq_true hlt
    have hkl : k < s.length := by rw [HSL.out]; exact hlt
    obtain ⟨aS9, cS9, hSv, hSr, _⟩ := own_slice hS
    simp only [Value.slice.injEq] at hSv
    obtain ⟨e1, _, e2⟩ := hSv
    subst e1 e2
    obtain ⟨bS, oS, e3, hbS, hcS⟩ := row_get hSr hkl
    subst e3
    have hst := ofF_take hkl
    rw [← HR.out] at hst
    obtain ⟨x, hx⟩ : ∃ x, s[k] = x := ⟨_, rfl⟩
    rw [hx] at hcS hst
    have HST := Lib.hid hst
    have hgood := hR1.good
    have n0 : (0 : Int) ≤ (k : Int) := by omega
    have n1 : (k : Int) < (n : Int) := by omega
    have n2 : ((k : Nat) : Int).toNat = k := by omega
    clear hst hx hSr hR1
    have CI := inside_any x
    obtain ⟨ib, hib⟩ : ∃ b, insideB x = b := ⟨_, rfl⟩
    simp only [hib] at CI
    have HIB := Lib.hid hib
    clear hib
    go_upto_if 17 with (go_at_call 38; refine (CI _).mono ?_; rintro e w4 ⟨rfl, hb4⟩)
    have hown := own_kept9 hown hb4
    have hS := own_kept9 hS hb4
    have hsz := Nat.le_trans hsz hb4.size
    have hbel := hbel.trans (hb4.mono hbel.size)
    clear hb4 hcS hbS
    cases ib
    · go_wp2
      go_roundw
      case rel => exact ⟨k + 1, R, by omega, by go_num, Lib.hid (by rw [HST.out]; unfold ofStep; rw [HIB.out]; rfl), hown, hS, hsz, hbel⟩
      case measure => (simp [intOf]) <;> omega
    have hb5 : Below w4.heap.size w4 (w4.alloc (.cells #[.int .i64 x, .int .i64 x] 62)) := Below.alloc (Below.refl _ _) (Nat.le_refl _) _
    have hown5 := own_kept9 hown hb5
    have hS5 := own_kept9 hS hb5
    rcases List.eq_nil_or_concat R with hRn | ⟨R', r, hRc⟩
    · subst hRn
      obtain ⟨a5, c5, rfl, _⟩ := own_slice hown
      go_wp2_with (at_builtin; refine wpList_append_own_at _ rfl (.tmp 38) (.tmp 42) 22 rfl w.heap.size 62 iR (.agg #[.int .i64 0, .int .i64 0]) 2 16 Try.underlying22 hiR hzR hsR hbR rfl (by decide) _ _ _ rfl hown5 ⟨w4.heap.size, 0, none⟩ 1 1 [.int .i64 (x), .int .i64 (x)] rfl rfl (cell_two_new _ _ _ _) (two_one _ _) (by unfold maxLen; omega) (by omega) (Nat.le_trans hsz hb5.size) ?_; intro v9 w9 hown9 hgr9 _ hat9)
      go_roundw
      case rel => exact ⟨k + 1, [(x, x)], by omega, by go_num, Lib.hid (by rw [HST.out]; unfold ofStep; rw [HIB.out]; rfl), rg_snoc (R := []) rfl hown9, hS5.kept hgr9 (own_apartS hS5 hown5 (by decide)), Nat.le_trans (Nat.le_trans hsz hb5.size) hgr9.size, (hbel.trans (hb5.mono hbel.size)).grown hgr9 (Nat.le_trans hbel.size hb5.size) (fun j hj => (hown5.lt j hj).1)⟩
      case measure => (simp [intOf]) <;> omega
    rw [List.concat_eq_append] at hRc
    subst hRc
    obtain ⟨q, hq⟩ : ∃ q, R'.length = q := ⟨_, rfl⟩
    have hl9 : (R' ++ [r]).length = q + 1 := by rw [List.length_append, hq]; rfl
    rw [hl9] at hR2
    have hrk := good_take hgood (k := q) (r := r) (by rw [← hq]; simp)
    unfold maxN at hrk
    obtain ⟨hr1, hr2, hr3⟩ := hrk
    obtain ⟨g, c5, hv5⟩ := own_formS hown (by rw [hl9]; omega)
    subst hv5
    rw [hl9] at hown hown5
    simp only [hl9]
    have hcell : w4.cell? ⟨g, q * 2 + 1, none⟩ = some (.int .i64 r.2) := by
      rw [hown.cellAt (q * 2 + 1) (by omega), List.flatMap_append, List.getElem?_append_right (by rw [rg_flat_len, hq]; omega), rg_flat_len, hq, show q * 2 + 1 - q * 2 = 1 by omega]
      rfl
    have hfz := hown.frozenAt (q * 2 + 1)
    obtain ⟨rx, ry⟩ := r
    simp only [] at hr1 hr2 hr3 hcell
    have HQ := Lib.hid hq
    have HGD := Lib.hid hgood
    have q1 : ((q + 1 : Nat) : Int) - 1 = (q : Int) := by omega
    have q2 : (q : Int) + 1 - 1 = (q : Int) := by omega
    have q3 : decide ((0 : Int) ≤ (q : Int)) = true := decide_eq_true (by omega)
    have q4 : (0 : Int) ≤ (q : Int) := by omega
    have q5 : (q : Int) < ((q + 1 : Nat) : Int) := by omega
    have q6 : (q : Int) < (q : Int) + 1 := by omega
    have q7 : ((q : Nat) : Int).toNat = q := by omega
    have hll : (R' ++ [(rx, ry)]).getLast? = some (rx, ry) := by simp
    have hdl : (R' ++ [(rx, ry)]).dropLast = R' := by simp
    have HLL := Lib.hid hll
    have HDL := Lib.hid hdl
    clear hq hl9 hgood hll hdl
    by_cases hxy : x ≤ ry + 1
    · have f1 : decide (x ≤ ry + 1) = true := decide_eq_true hxy
      clear hown5 hS5 hb5
      go_wp2
      go_roundw
      case rel =>
        obtain ⟨hw1, hg1⟩ := hown.stored (q * 2 + 1) (.int .i64 x)
        rw [rg_set R' (rx, ry) x HQ.out] at hw1
        exact ⟨k + 1, R' ++ [(rx, x)], by omega, by go_num, Lib.hid (by rw [HST.out]; unfold ofStep; rw [HIB.out, if_pos rfl, HLL.out]; simp only []; rw [if_pos hxy, HDL.out]), by rw [List.length_append, HQ.out]; exact hw1, hS.kept hg1 (own_apartS hS hown (by decide)), Nat.le_trans hsz hg1.size, hbel.grown hg1 hbel.size (fun j hj => by cases hj; exact (hown.lt g rfl).1)⟩
      case measure => (simp [intOf]) <;> omega
    · have f1 : decide (x ≤ ry + 1) = false := decide_eq_false hxy
      go_wp2_with (at_builtin; refine wpList_append_own_at _ rfl (.tmp 38) (.tmp 42) 22 rfl w.heap.size 62 iR (.agg #[.int .i64 0, .int .i64 0]) 2 16 Try.underlying22 hiR hzR hsR hbR rfl (by decide) _ _ _ rfl hown5 ⟨w4.heap.size, 0, none⟩ 1 1 [.int .i64 (x), .int .i64 (x)] rfl rfl (cell_two_new _ _ _ _) (two_one _ _) (by unfold maxLen; omega) (by omega) (Nat.le_trans hsz hb5.size) ?_; intro v9 w9 hown9 hgr9 _ hat9)
      go_roundw
      case rel => exact ⟨k + 1, R' ++ [(rx, ry)] ++ [(x, x)], by omega, by go_num, Lib.hid (by rw [HST.out]; unfold ofStep; rw [HIB.out, if_pos rfl, HLL.out]; simp only []; rw [if_neg hxy]), rg_snoc (by rw [List.length_append, HQ.out]; rfl) hown9, hS5.kept hgr9 (own_apartS hS5 hown5 (by decide)), Nat.le_trans (Nat.le_trans hsz hb5.size) hgr9.size, (hbel.trans (hb5.mono hbel.size)).grown hgr9 (Nat.le_trans hbel.size hb5.size) (fun j hj => (hown5.lt j hj).1)⟩
      case measure => (simp [intOf]) <;> omega
end Go.Proofs.Ytdlngadcgcgenaa
