/- Lists of texts, each of which is read further: what was written is read, what is read was written so, cut short it is none. -/
import Derived.Test.YthipnkbfdkmhaaaCodec
namespace Go.Proofs.Ythipnkbfdkmhaaa
open Go.RowKit
set_option linter.unusedVariables false
section
variable {α : Type}
/-- A text that is read further by dec. -/
def itemP (dec : ByteArray → α × Int) (z : α) (most : Int) (s : ByteArray) (a e : Int) : α × Int × Int :=
  let x := textG s a e most
  if x.2.2 = 0 then ((dec x.1).1, x.2.1, (dec x.1).2) else (z, x.2.1, x.2.2)
theorem item_codec {dec : ByteArray → α × Int} {enc : α → List UInt8} {may : α → Bool} {z : α} {most : Int} (hm : most ≤ 1000000)
    (h1 : ∀ x v, may x = true → v.data.toList = enc x → dec v = (x, 0)) (h2 : ∀ v, (dec v).2 = 0 → may (dec v).1 = true ∧ enc (dec v).1 = v.data.toList) (hl : ∀ x, may x = true → ((enc x).length : Int) ≤ most) :
    Codec (itemP dec z most) (fun x => textB ⟨(enc x).toArray⟩) (fun x => may x = true) := by
  have T := text_codec most hm
  refine ⟨fun {s A B x} hx hs => ?_, fun {s A x k} hx hs hk => ?_, fun {s a e} he => ?_, fun {s i a' x} hi' h => ?_⟩
  · have g : textG s A.length 0 most = _ := T.good (show (((⟨(enc x).toArray⟩ : ByteArray).size : Nat) : Int) ≤ most from hl x hx) hs
    unfold itemP
    simp only [g, if_pos]
    rw [h1 x ⟨(enc x).toArray⟩ hx (by simp)]
  · have g : (textG s A.length 0 most).2.2 = 2 := T.cut (show (((⟨(enc x).toArray⟩ : ByteArray).size : Nat) : Int) ≤ most from hl x hx) hs hk
    unfold itemP
    simp only [g]
    rw [if_neg (by decide)]
  · have g : (textG s a e most).2.2 = e := T.stay he
    unfold itemP
    simp only [g]
    rw [if_neg he]
  · unfold itemP at h
    obtain ⟨⟨t, a1, e1⟩, hx⟩ : ∃ t, textG s i 0 most = t := ⟨_, rfl⟩
    simp only [hx] at h
    by_cases he : e1 = 0
    · subst he
      rw [if_pos rfl] at h
      simp only [Prod.mk.injEq] at h
      obtain ⟨q1, q2, q3⟩ := h
      obtain ⟨m1, m2⟩ := h2 t q3
      rw [q1] at m1 m2
      obtain ⟨_, m, r1, r2, r3⟩ := T.back hi' hx
      refine ⟨m1, m, by rw [← q2]; exact r1, r2, ?_⟩
      rw [← r3]
      unfold textB
      rw [m2]
    · rw [if_neg he] at h
      simp only [Prod.mk.injEq] at h
      exact absurd h.2.2 he
/-- n things, one behind the other. -/
def listP (P : ByteArray → Int → Int → α × Int × Int) : Nat → ByteArray → Int → Int → List α × Int × Int
  | 0, _, a, e => ([], a, e)
  | n + 1, s, a, e => ((P s a e).1 :: (listP P n s (P s a e).2.1 (P s a e).2.2).1, (listP P n s (P s a e).2.1 (P s a e).2.2).2.1, (listP P n s (P s a e).2.1 (P s a e).2.2).2.2)
variable {P : ByteArray → Int → Int → α × Int × Int} {enc : α → List UInt8} {ok : α → Prop}
theorem listP_stay (hs : ∀ s a e, e ≠ 0 → (P s a e).2.2 = e) : ∀ (n : Nat) (s : ByteArray) (a e : Int), e ≠ 0 → (listP P n s a e).2.2 = e
  | 0, _, _, _, _ => rfl
  | n + 1, s, a, e, he => by
    show (listP P n s (P s a e).2.1 (P s a e).2.2).2.2 = e
    rw [hs s a e he]
    exact listP_stay hs n s _ _ he
theorem list_codec (h : Codec P enc ok) : ∀ n, Codec (listP P n) (fun l => l.flatMap enc) (fun l => l.length = n ∧ ∀ x ∈ l, ok x)
  | 0 => by
    refine ⟨fun {s A B x} hx hs => ?_, fun {s A x k} hx hs hk => ?_, fun {s a e} he => rfl, fun {s i a' x} hi' hh => ?_⟩
    · obtain rfl := List.eq_nil_of_length_eq_zero hx.1
      simp [listP]
    · obtain rfl := List.eq_nil_of_length_eq_zero hx.1
      simp at hk
    · simp only [listP, Prod.mk.injEq] at hh
      obtain ⟨rfl, rfl, _⟩ := hh
      exact ⟨⟨rfl, by simp⟩, 0, by simp, by omega, by simp⟩
  | n + 1 => by
    have ih := list_codec h n
    refine ⟨fun {s A B x} hx hs => ?_, fun {s A x k} hx hs hk => ?_, fun {s a e} he => listP_stay (fun _ _ _ q => h.stay q) _ _ _ _ he, fun {s i a' x} hi' hh => ?_⟩
    · obtain ⟨x, t, rfl⟩ : ∃ y t, x = y :: t := by
        cases x with
        | nil => simp at hx
        | cons y t => exact ⟨y, t, rfl⟩
      simp only [List.length_cons, Nat.add_right_cancel_iff, List.mem_cons, forall_eq_or_imp, List.flatMap_cons] at hx hs ⊢
      have g1 := h.good (s := s) (A := A) (B := t.flatMap enc ++ B) hx.2.1 (by rw [hs]; simp)
      have g2 := ih.good (s := s) (A := A ++ enc x) (B := B) ⟨hx.1, hx.2.2⟩ (by rw [hs]; simp)
      rw [List.length_append] at g2
      unfold listP
      simp only [g1, g2]
      rw [List.length_append, Nat.add_assoc]
    · obtain ⟨x, t, rfl⟩ : ∃ y t, x = y :: t := by
        cases x with
        | nil => simp at hx
        | cons y t => exact ⟨y, t, rfl⟩
      simp only [List.length_cons, Nat.add_right_cancel_iff, List.mem_cons, forall_eq_or_imp, List.flatMap_cons] at hx hs hk
      show (listP P n s (P s A.length 0).2.1 (P s A.length 0).2.2).2.2 = 2
      rcases Nat.lt_or_ge k (enc x).length with hlt | hge
      · rw [List.take_append_of_le_length (by omega)] at hs
        rw [h.cut hx.2.1 hs hlt]
        exact listP_stay (fun _ _ _ q => h.stay q) _ _ _ _ (by decide)
      · obtain ⟨j, rfl⟩ : ∃ j, k = (enc x).length + j := ⟨k - (enc x).length, by omega⟩
        rw [List.take_length_add_append, ← List.append_assoc] at hs
        rw [List.length_append] at hk
        have g1 := h.good (s := s) (A := A) (B := (t.flatMap enc).take j) hx.2.1 hs
        have g2 := ih.cut (s := s) (A := A ++ enc x) (k := j) ⟨hx.1, hx.2.2⟩ hs (by omega)
        rw [List.length_append] at g2
        rw [g1]
        exact g2
    · obtain ⟨⟨x1, a1, e1⟩, hx⟩ : ∃ t, P s i 0 = t := ⟨_, rfl⟩
      unfold listP at hh
      simp only [hx] at hh
      by_cases he : e1 = 0
      · subst he
        obtain ⟨ok1, m, rfl, hm, q1⟩ := h.back hi' hx
        obtain ⟨⟨x2, a2, e2⟩, hy⟩ : ∃ t, listP P n s ((i + m : Nat) : Int) 0 = t := ⟨_, rfl⟩
        simp only [hy, Prod.mk.injEq] at hh
        obtain ⟨rfl, rfl, rfl⟩ := hh
        obtain ⟨⟨l2, ok2⟩, k, rfl, hk, q2⟩ := ih.back hm hy
        refine ⟨⟨by simp [l2], by simpa using ⟨ok1, ok2⟩⟩, m + k, by omega, by omega, ?_⟩
        simp only [List.flatMap_cons, q1, q2]
        rw [List.take_add, List.drop_drop]
      · have := listP_stay (fun s a e (q : e ≠ 0) => h.stay (s := s) (a := a) q) n s a1 e1 he
        simp only [Prod.mk.injEq] at hh
        rw [hh.2.2] at this
        exact absurd this.symm he
/-- The same codec, in other words. -/
theorem Codec.as {enc' : α → List UInt8} {ok' : α → Prop} (h : Codec P enc ok) (h1 : ∀ x, ok' x → ok x ∧ enc x = enc' x) (h2 : ∀ x, ok x → ok' x) : Codec P enc' ok' := by
  refine ⟨fun {s A B x} hx hs => ?_, fun {s A x k} hx hs hk => ?_, fun {s a e} he => h.stay he, fun {s i a' x} hi' hh => ?_⟩
  · rw [← (h1 x hx).2] at hs ⊢
    exact h.good (h1 x hx).1 hs
  · rw [← (h1 x hx).2] at hs hk
    exact h.cut (h1 x hx).1 hs hk
  · obtain ⟨o, m, r1, r2, r3⟩ := h.back hi' hh
    exact ⟨h2 x o, m, r1, r2, by rw [← (h1 x (h2 x o)).2]; exact r3⟩
end
end Go.Proofs.Ythipnkbfdkmhaaa
