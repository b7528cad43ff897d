/- Readers and what they read, put together: what was written is read, what is read was written so, cut short it is none. -/
import Derived.Test.YthipnkbfdkmhaaaGD
namespace Go.Proofs.Ythipnkbfdkmhaaa
open Go.RowKit
set_option linter.unusedVariables false
/-- A reading P of values whose bytes are enc; ok: the values that it reads. -/
structure Codec {α : Type} (P : ByteArray → Int → Int → α × Int × Int) (enc : α → List UInt8) (ok : α → Prop) : Prop where
  good : ∀ {s : ByteArray} {A B : List UInt8} {x : α}, ok x → s.data.toList = A ++ enc x ++ B → P s A.length 0 = (x, ((A.length + (enc x).length : Nat) : Int), 0)
  cut : ∀ {s : ByteArray} {A : List UInt8} {x : α} {k : Nat}, ok x → s.data.toList = A ++ (enc x).take k → k < (enc x).length → (P s A.length 0).2.2 = 2
  stay : ∀ {s : ByteArray} {a e : Int}, e ≠ 0 → (P s a e).2.2 = e
  back : ∀ {s : ByteArray} {i : Nat} {a' : Int} {x : α}, i ≤ s.size → P s i 0 = (x, a', 0) → ok x ∧ ∃ m : Nat, a' = ((i + m : Nat) : Int) ∧ i + m ≤ s.size ∧ enc x = (s.data.toList.drop i).take m
theorem next_cuts {A : List UInt8} {x k : Nat} (hx : x ≤ 72057594037927935) (hk : k < (putL (x : Int)).length) : nextS (A ++ (putL (x : Int)).take k) A.length = (0, 0, 2) := by
  have hn := next_put (A := A) (B := []) hx
  obtain ⟨i, m, y, e1, _, e3, _, _, _, _, hcut⟩ := next_ok hn
  have := hcut (A.length + k) (by omega) (by omega)
  rw [List.append_nil, List.take_length_add_append] at this
  exact this
theorem num_codec (lo hi : Int) (h0 : 0 ≤ lo) (h1 : hi ≤ 72057594037927935) : Codec (fun s a e => numG s a e lo hi) putL (fun n => lo ≤ n ∧ n ≤ hi) := by
  refine ⟨fun {s A B x} hx hs => ?_, fun {s A x k} hx hs hk => ?_, fun {s a e} he => ?_, fun {s i a' x} hi' h => ?_⟩
  · obtain ⟨n, rfl⟩ : ∃ n : Nat, x = n := ⟨x.toNat, by omega⟩
    have := numF_at (v := s) (A := A) (B := B) (x := n) (lo := lo) (hi := hi) hs (by omega) (by omega) (by omega)
    rw [List.length_append] at this
    exact this
  · obtain ⟨n, rfl⟩ : ∃ n : Nat, x = n := ⟨x.toNat, by omega⟩
    have hn := next_cuts (A := A) (x := n) (by omega) hk
    rw [← hs] at hn
    show (numG s A.length 0 lo hi).2.2 = 2
    unfold numG
    rw [if_pos rfl, numF_err hn (by decide)]
  · show (numG s a e lo hi).2.2 = e
    unfold numG
    rw [if_neg he]
  · obtain ⟨_, g⟩ := numG_ok h
    obtain ⟨j, m, e1, e2, e3, e4, e5, e6, _⟩ := numF_ok g
    obtain rfl : j = i := by omega
    exact ⟨⟨e5, e6⟩, m, e2, e3, e4⟩
def textB (t : ByteArray) : List UInt8 := putL (t.size : Int) ++ t.data.toList
theorem text_codec (most : Int) (h1 : most ≤ 1000000) : Codec (fun s a e => textG s a e most) textB (fun t => (t.size : Int) ≤ most) := by
  refine ⟨fun {s A B x} hx hs => ?_, fun {s A x k} hx hs hk => ?_, fun {s a e} he => ?_, fun {s i a' x} hi' h => ?_⟩
  · have := textF_at (v := s) (t := x) (A := A) (B := B) (most := most) hs (by omega) hx
    rw [List.length_append] at this
    exact this
  · show (textG s A.length 0 most).2.2 = 2
    unfold textG textF
    rw [if_pos rfl]
    unfold textB at hs hk
    rcases Nat.lt_or_ge k (putL (x.size : Int)).length with hlt | hge
    · have hn := next_cuts (A := A) (x := x.size) (by omega) hlt
      rw [List.take_append_of_le_length (by omega)] at hs
      rw [← hs] at hn
      rw [hn]
      rfl
    · obtain ⟨j, rfl⟩ : ∃ j, k = (putL (x.size : Int)).length + j := ⟨k - (putL (x.size : Int)).length, by omega⟩
      rw [List.take_length_add_append, ← List.append_assoc] at hs
      rw [List.length_append, str_len] at hk
      have hn := next_put (A := A) (B := x.data.toList.take j) (show x.size ≤ 72057594037927935 by omega)
      rw [← hs] at hn
      have hsz : s.size = A.length + (putL (x.size : Int)).length + j := by
        rw [← str_len, hs, List.length_append, List.length_append, List.length_take, str_len]; omega
      rw [hn]
      simp only [if_pos trivial]
      rw [if_neg (by omega), if_pos (by omega)]
  · show (textG s a e most).2.2 = e
    unfold textG
    rw [if_neg he]
  · obtain ⟨_, g⟩ := textG_ok h
    obtain ⟨j, m, e1, e2, e3, e4, e5⟩ := textF_ok g
    obtain rfl : j = i := by omega
    exact ⟨e5, m, e2, e3, e4⟩
/-- One thing after another; how the second is read may go by the first. -/
def seqP {α β : Type} (P : ByteArray → Int → Int → α × Int × Int) (Q : α → ByteArray → Int → Int → β × Int × Int) (s : ByteArray) (a e : Int) : (α × β) × Int × Int :=
  let x := P s a e
  let y := Q x.1 s x.2.1 x.2.2
  ((x.1, y.1), y.2.1, y.2.2)
theorem Codec.seq {α β : Type} {P : ByteArray → Int → Int → α × Int × Int} {Q : α → ByteArray → Int → Int → β × Int × Int} {encP : α → List UInt8} {encQ : α → β → List UInt8} {okP : α → Prop} {okQ : α → β → Prop}
    (hP : Codec P encP okP) (hQ : ∀ x, okP x → Codec (Q x) (encQ x) (okQ x)) (hS : ∀ x s a e, e ≠ 0 → (Q x s a e).2.2 = e) :
    Codec (seqP P Q) (fun p => encP p.1 ++ encQ p.1 p.2) (fun p => okP p.1 ∧ okQ p.1 p.2) := by
  refine ⟨fun {s A B x} hx hs => ?_, fun {s A x k} hx hs hk => ?_, fun {s a e} he => ?_, fun {s i a' x} hi' h => ?_⟩
  · obtain ⟨x1, x2⟩ := x
    simp only at hx hs
    have g1 := hP.good (s := s) (A := A) (B := encQ x1 x2 ++ B) hx.1 (by rw [hs]; simp)
    have g2 := (hQ x1 hx.1).good (s := s) (A := A ++ encP x1) (B := B) hx.2 (by rw [hs]; simp)
    rw [List.length_append] at g2
    unfold seqP
    simp only [g1, g2]
    rw [List.length_append, Nat.add_assoc]
  · obtain ⟨x1, x2⟩ := x
    simp only at hx hs hk
    unfold seqP
    simp only
    rcases Nat.lt_or_ge k (encP x1).length with hlt | hge
    · rw [List.take_append_of_le_length (by omega)] at hs
      have g1 := hP.cut (s := s) (A := A) (k := k) hx.1 hs hlt
      rw [g1]
      exact hS _ _ _ _ (by decide)
    · obtain ⟨j, rfl⟩ : ∃ j, k = (encP x1).length + j := ⟨k - (encP x1).length, by omega⟩
      rw [List.take_length_add_append, ← List.append_assoc] at hs
      rw [List.length_append] at hk
      have g1 := hP.good (s := s) (A := A) (B := (encQ x1 x2).take j) hx.1 hs
      have g2 := (hQ x1 hx.1).cut (s := s) (A := A ++ encP x1) (k := j) hx.2 hs (by omega)
      rw [List.length_append] at g2
      simp only [g1]
      exact g2
  · show (Q (P s a e).1 s (P s a e).2.1 (P s a e).2.2).2.2 = e
    rw [hP.stay he]
    exact hS _ _ _ _ he
  · unfold seqP at h
    obtain ⟨⟨x1, a1, e1⟩, hx⟩ : ∃ t, P s i 0 = t := ⟨_, rfl⟩
    simp only [hx] at h
    by_cases he : e1 = 0
    · subst he
      obtain ⟨ok1, m, rfl, hm, q1⟩ := hP.back hi' hx
      obtain ⟨⟨x2, a2, e2⟩, hy⟩ : ∃ t, Q x1 s ((i + m : Nat) : Int) 0 = t := ⟨_, rfl⟩
      simp only [hy, Prod.mk.injEq] at h
      obtain ⟨rfl, rfl, rfl⟩ := h
      obtain ⟨ok2, n, rfl, hn, q2⟩ := (hQ x1 ok1).back hm hy
      refine ⟨⟨ok1, ok2⟩, m + n, by omega, by omega, ?_⟩
      simp only [q1, q2]
      rw [List.take_add, List.drop_drop]
    · have := hS x1 s a1 e1 he
      simp only [Prod.mk.injEq] at h
      rw [h.2.2] at this
      exact absurd this.symm he
theorem Codec.map {α β : Type} {P : ByteArray → Int → Int → α × Int × Int} {enc : α → List UInt8} {ok : α → Prop} (h : Codec P enc ok) (f : α → β) (g : β → α) (hgf : ∀ x, ok x → g (f x) = x) :
    Codec (fun s a e => (f (P s a e).1, (P s a e).2.1, (P s a e).2.2)) (fun b => enc (g b)) (fun b => ok (g b) ∧ f (g b) = b) := by
  refine ⟨fun {s A B x} hx hs => ?_, fun {s A x k} hx hs hk => ?_, fun {s a e} he => ?_, fun {s i a' x} hi' hh => ?_⟩
  · simp only [h.good hx.1 hs, hx.2]
  · exact h.cut hx.1 hs hk
  · exact h.stay he
  · obtain ⟨⟨x1, a1, e1⟩, hx⟩ : ∃ t, P s i 0 = t := ⟨_, rfl⟩
    simp only [hx, Prod.mk.injEq] at hh
    obtain ⟨rfl, rfl, rfl⟩ := hh
    obtain ⟨o, m, r1, r2, r3⟩ := h.back hi' hx
    exact ⟨⟨by rw [hgf _ o]; exact o, by rw [hgf _ o]⟩, m, r1, r2, by rw [hgf _ o]; exact r3⟩
/-- Nothing is read. -/
theorem pure_codec {α : Type} (x : α) : Codec (fun _ a e => (x, a, e)) (fun _ => []) (fun y => y = x) := by
  refine ⟨fun {s A B y} hx hs => ?_, fun {s A y k} hx hs hk => ?_, fun {s a e} he => rfl, fun {s i a' y} hi' hh => ?_⟩
  · subst hx; simp
  · simp at hk
  · simp only [Prod.mk.injEq] at hh
    exact ⟨hh.1.symm, 0, by rw [← hh.2.1]; simp, by omega, by simp⟩
/-- What a Decode answers: the value and an error. -/
def decP {α : Type} (P : ByteArray → Int → Int → α × Int × Int) (may : α → Bool) (z : α) (v : ByteArray) : α × Int :=
  let x := P v 0 0
  let f := endF v x.2.1 x.2.2
  if f = 0 then (bif may x.1 then (x.1, 0) else (z, 1)) else (z, f)
section
variable {α : Type} {P : ByteArray → Int → Int → α × Int × Int} {enc : α → List UInt8} {ok : α → Prop} {may : α → Bool} {z : α} {v : ByteArray} {x : α}
theorem Codec.dec_enc (h : Codec P enc ok) (hm : may x = true) (ho : ok x) (hv : v.data.toList = enc x) : decP P may z v = (x, 0) := by
  have g := h.good (s := v) (A := []) (B := []) ho (by simpa using hv)
  have hs : v.size = (enc x).length := by rw [← str_len, hv]
  unfold decP
  rw [show ((([] : List UInt8).length : Nat) : Int) = 0 from rfl] at g
  simp only [g]
  have hE : endF v (((([] : List UInt8).length + (enc x).length : Nat)) : Int) 0 = 0 := by
    unfold endF
    rw [if_pos rfl, if_neg (by rw [hs]; simp)]
  rw [hE, if_pos rfl, hm]
  rfl
theorem Codec.dec_more (h : Codec P enc ok) (ho : ok x) {b : UInt8} {B : List UInt8} (hv : v.data.toList = enc x ++ (b :: B)) : decP P may z v = (z, 3) := by
  have g := h.good (s := v) (A := []) (B := b :: B) ho (by simpa using hv)
  have hs : v.size = (enc x).length + (B.length + 1) := by rw [← str_len, hv]; simp
  unfold decP
  rw [show ((([] : List UInt8).length : Nat) : Int) = 0 from rfl] at g
  simp only [g]
  have hE : endF v (((([] : List UInt8).length + (enc x).length : Nat)) : Int) 0 = 3 := by
    unfold endF
    rw [if_pos rfl, if_pos (by rw [hs]; simp; omega)]
  rw [hE, if_neg (by decide)]
theorem Codec.dec_cut (h : Codec P enc ok) (ho : ok x) {k : Nat} (hv : v.data.toList = (enc x).take k) (hk : k < (enc x).length) : decP P may z v = (z, 2) := by
  have g := h.cut (s := v) (A := []) ho (by simpa using hv) hk
  rw [show ((([] : List UInt8).length : Nat) : Int) = 0 from rfl] at g
  have hE : endF v (P v 0 0).2.1 (P v 0 0).2.2 = 2 := by
    rw [g]; unfold endF; rw [if_neg (by decide)]
  unfold decP
  simp only [hE]
  rw [if_neg (by decide)]
theorem Codec.dec_back (h : Codec P enc ok) (hd : (decP P may z v).2 = 0) : may (decP P may z v).1 = true ∧ ok (decP P may z v).1 ∧ enc (decP P may z v).1 = v.data.toList := by
  obtain ⟨⟨x1, a1, e1⟩, hx⟩ : ∃ t, P v 0 0 = t := ⟨_, rfl⟩
  have hD : decP P may z v = if endF v a1 e1 = 0 then (bif may x1 then (x1, 0) else (z, 1)) else (z, endF v a1 e1) := by
    unfold decP
    simp only [hx]
  rw [hD] at hd ⊢
  by_cases hE : endF v a1 e1 = 0
  · rw [if_pos hE] at hd ⊢
    cases hm : may x1
    · rw [hm] at hd; cases hd
    · simp only [cond_true]
      obtain ⟨rfl, hend⟩ := endF_ok hE
      obtain ⟨o, m, rfl, r2, r3⟩ := h.back (i := 0) (Nat.zero_le _) (by exact hx)
      refine ⟨hm, o, ?_⟩
      rw [r3, List.drop_zero, List.take_of_length_le (by rw [str_len]; omega)]
  · rw [if_neg hE] at hd; exact absurd hd hE
theorem decP_err (hd : (decP P may z v).2 ≠ 0) : (decP P may z v).1 = z := by
  obtain ⟨⟨x1, a1, e1⟩, hx⟩ : ∃ t, P v 0 0 = t := ⟨_, rfl⟩
  have hD : decP P may z v = if endF v a1 e1 = 0 then (bif may x1 then (x1, 0) else (z, 1)) else (z, endF v a1 e1) := by
    unfold decP
    simp only [hx]
  rw [hD] at hd ⊢
  split
  · rename_i hE
    rw [if_pos hE] at hd
    cases hm : may x1
    · rfl
    · rw [hm] at hd; exact absurd rfl hd
  · rfl
end
end Go.Proofs.Ythipnkbfdkmhaaa
