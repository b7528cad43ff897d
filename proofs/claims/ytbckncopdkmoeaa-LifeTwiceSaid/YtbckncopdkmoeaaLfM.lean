/- Folds of events whose ends lie apart. -/
import Derived.Test.YtbckncopdkmoeaaLf11
import Derived.Test.YtbckncopdkmoeaaLfT
import Derived.WalkKit
import Derived.ProofKit
import Derived.Handy
import Derived.Below
import Derived.Lib.Hide
import Derived.IntWalk
import Derived.Outline
import Derived.WalkLawsBesides
import Derived.WalkSpells
namespace Go.Proofs.Ytbckncopdkmoeaa
open Go.RowKit
attribute [local go_sem] strV
set_option linter.unusedVariables false
set_option linter.unusedSimpArgs false
/-- What a table holds. -/
structure Tb where
  f : Lk → Option Ent
  cl : ByteArray → Int → Bool
noncomputable def stepT (s : Tb) (e : Ev) : Tb := ⟨foldF s.f e, foldC s.cl e⟩
noncomputable def foldT (s : Tb) (l : List Ev) : Tb := l.foldl stepT s
def t0 : Tb := ⟨fun _ => none, fun _ _ => false⟩
/-- Two tables say the same of an end. -/
def SameAt (p : ByteArray) (c : Int) (s t : Tb) : Prop := (∀ x : Lk, x.po = p → x.ch = c → s.f x = t.f x) ∧ s.cl p c = t.cl p c
def Owns (e : Ev) (p : ByteArray) (c : Int) : Prop := ownB e = true ∧ ownP e = p ∧ ownC e = c
theorem SameAt.refl (p : ByteArray) (c : Int) (s : Tb) : SameAt p c s s := ⟨fun _ _ _ => rfl, rfl⟩
theorem SameAt.symm {p : ByteArray} {c : Int} {s t : Tb} (h : SameAt p c s t) : SameAt p c t s := ⟨fun x a b => (h.1 x a b).symm, h.2.symm⟩
theorem SameAt.trans {p : ByteArray} {c : Int} {s t u : Tb} (h : SameAt p c s t) (k : SameAt p c t u) : SameAt p c s u := ⟨fun x a b => (h.1 x a b).trans (k.1 x a b), h.2.trans k.2⟩
theorem own_pk {e : Ev} (h : mayEv e = true) (hp : hasP e.kd = true) : ownB e = true ∧ ownP e = (keyE e).po ∧ ownC e = (keyE e).ch := by
  have hk : 1 ≤ e.kd ∧ e.kd ≤ 5 := by
    unfold hasP at hp
    rw [Bool.and_eq_true, decide_eq_true_eq, decide_eq_true_eq] at hp
    exact hp
  have h7 : (e.kd == 7) = false := by rw [beq_eq_false_iff_ne]; omega
  have hB : ownB e = true := by unfold ownB; rw [h, h7]; rfl
  refine ⟨hB, ?_, ?_⟩
  · unfold ownP keyE
    rw [if_pos hB, if_neg (by omega)]
    split <;> rfl
  · unfold ownC keyE
    rw [if_pos hB, if_neg (by omega)]
    split <;> rfl
theorem own_cl {e : Ev} (h : mayEv e = true) (h6 : e.kd = 6) : ownB e = true ∧ ownP e = e.ep ∧ ownC e = e.ec := by
  have h7 : (e.kd == 7) = false := by rw [h6]; rfl
  have hB : ownB e = true := by unfold ownB; rw [h, h7]; rfl
  refine ⟨hB, ?_, ?_⟩
  · unfold ownP; rw [if_pos hB, if_pos h6]
  · unfold ownC; rw [if_pos hB, if_pos h6]
theorem step_off {e : Ev} {p : ByteArray} {c : Int} (h : ¬ Owns e p c) (s : Tb) : SameAt p c (stepT s e) s := by
  refine ⟨fun x hx hc => ?_, ?_⟩
  · show foldF s.f e x = s.f x
    unfold foldF
    split
    · rename_i hq
      obtain ⟨h1, h2, _⟩ := hq
      obtain ⟨o1, o2, o3⟩ := own_pk h1 h2
      exact setF_other (fun q => h ⟨o1, by rw [o2, ← q, hx], by rw [o3, ← q, hc]⟩)
    · rfl
  · show foldC s.cl e p c = s.cl p c
    unfold foldC
    split
    · rename_i hq
      obtain ⟨o1, o2, o3⟩ := own_cl hq.1 hq.2
      split
      · rfl
      · have hne : ¬ (p = e.ep ∧ c = e.ec) := fun q => h ⟨o1, by rw [o2, q.1], by rw [o3, q.2]⟩
        simp [clPut, hne]
    · rfl
theorem foldA_on {e : Ev} {s t : Tb} (h : ownB e = true → SameAt (ownP e) (ownC e) s t) : foldA s.f s.cl e = foldA t.f t.cl e := by
  unfold foldA
  split
  · rename_i hM
    by_cases h7 : e.kd = 7
    · rw [if_pos h7, if_pos h7]
    · rw [if_neg h7, if_neg h7]
      by_cases h6 : e.kd = 6
      · obtain ⟨o1, o2, o3⟩ := own_cl hM h6
        have hs := (h o1).2
        rw [o2, o3] at hs
        rw [if_pos h6, if_pos h6, hs]
      · rw [if_neg h6, if_neg h6]
        have hp := may_hasP hM h6 h7
        obtain ⟨o1, o2, o3⟩ := own_pk hM hp
        have hs := (h o1).1 (keyE e) o2.symm o3.symm
        unfold foldE
        rw [hs]
  · rfl
theorem step_on {e : Ev} {p : ByteArray} {c : Int} {s t : Tb} (h : SameAt p c s t) : SameAt p c (stepT s e) (stepT t e) := by
  by_cases ho : Owns e p c
  · obtain ⟨o1, o2, o3⟩ := ho
    refine ⟨fun x hx hc => ?_, ?_⟩
    · show foldF s.f e x = foldF t.f e x
      by_cases hq : mayEv e = true ∧ hasP e.kd = true
      · obtain ⟨q1, q2, q3⟩ := own_pk hq.1 hq.2
        have hk := h.1 (keyE e) (by rw [← q2, o2]) (by rw [← q3, o3])
        have hE : foldE s.f e = foldE t.f e := by unfold foldE; rw [hk]
        have hR : foldR s.f e = foldR t.f e := by unfold foldR; rw [hk]
        unfold foldF
        rw [hE, hR]
        split
        · by_cases hxk : x = keyE e
          · rw [hxk, setF_same, setF_same]
          · rw [setF_other hxk, setF_other hxk]; exact h.1 x hx hc
        · exact h.1 x hx hc
      · unfold foldF
        rw [if_neg (fun z => hq ⟨z.1, z.2.1⟩), if_neg (fun z => hq ⟨z.1, z.2.1⟩)]
        exact h.1 x hx hc
    · show foldC s.cl e p c = foldC t.cl e p c
      unfold foldC
      split
      · rename_i hq
        obtain ⟨q1, q2, q3⟩ := own_cl hq.1 hq.2
        have h2 := h.2
        rw [← o2, ← o3, q2, q3] at h2 ⊢
        rw [h2]
        split
        · exact h2
        · simp [clPut]
      · exact h.2
  · exact ((step_off ho s).trans h).trans (step_off ho t).symm
theorem fold_off {p : ByteArray} {c : Int} : ∀ {l : List Ev}, (∀ e ∈ l, ¬ Owns e p c) → ∀ s, SameAt p c (foldT s l) s := by
  intro l
  induction l with
  | nil => intro _ s; exact SameAt.refl _ _ _
  | cons e l ih => intro h s; exact (ih (fun x hx => h x (List.mem_cons_of_mem _ hx)) (stepT s e)).trans (step_off (h e (List.mem_cons_self ..)) s)
theorem fold_on {p : ByteArray} {c : Int} : ∀ {l : List Ev} {s t : Tb}, SameAt p c s t → SameAt p c (foldT s l) (foldT t l) := by
  intro l
  induction l with
  | nil => intro s t h; exact h
  | cons e l ih => intro s t h; exact ih (step_on h)
/-- The ends of l and of m lie apart. -/
def ApartE (l m : List Ev) : Prop := ∀ a ∈ l, ∀ b ∈ m, ¬ (ownB a = true ∧ ownB b = true ∧ ownP a = ownP b ∧ ownC a = ownC b)
theorem apart_off {l m : List Ev} (h : ApartE l m) {b : Ev} (hb : b ∈ m) (ho : ownB b = true) : ∀ a ∈ l, ¬ Owns a (ownP b) (ownC b) := fun a ha q => h a ha b hb ⟨q.1, ho, q.2.1, q.2.2⟩
theorem apart_says {l m m1 : List Ev} (h : ApartE l m) {b : Ev} (hb : b ∈ m) : foldA (foldT (foldT t0 l) m1).f (foldT (foldT t0 l) m1).cl b = foldA (foldT t0 m1).f (foldT t0 m1).cl b :=
  foldA_on (fun ho => fold_on (fold_off (apart_off h hb ho) t0))
theorem tb_ext {s t : Tb} (h : ∀ p c, SameAt p c s t) : s = t := by
  cases s; cases t
  congr 1
  · funext x; exact (h x.po x.ch).1 x rfl rfl
  · funext p c; exact (h p c).2
theorem apart_all {l m : List Ev} (h : ApartE l m) : foldT (foldT t0 l) m = foldT (foldT t0 m) l := by
  refine tb_ext (fun p c => ?_)
  by_cases hm : ∃ b ∈ m, Owns b p c
  · obtain ⟨b, hb, o1, rfl, rfl⟩ := hm
    have hl := apart_off h hb o1
    exact (fold_on (fold_off hl t0)).trans (fold_off hl (foldT t0 m)).symm
  · have hm2 : ∀ b ∈ m, ¬ Owns b p c := fun b hb q => hm ⟨b, hb, q⟩
    exact (fold_off hm2 (foldT t0 l)).trans (fold_on (fold_off hm2 t0)).symm
/-- The keys, the closed ends of a table, in order. -/
def KeysOf (s : Tb) (ks : List Lk) : Prop := ks.Pairwise (fun x y => lkLess x y = true) ∧ (∀ x ∈ ks, x.wf) ∧ ∀ x : Lk, x.wf → ((s.f x).isSome = true ↔ x ∈ ks)
def EndsOf (s : Tb) (es : List Pe) : Prop := es.Pairwise (fun x y => peLess x y = true) ∧ (∀ x ∈ es, x.wf) ∧ ∀ x : Pe, x.wf → (s.cl x.po x.ch = true ↔ x ∈ es)
theorem ins_up {α : Type} {lt : α → α → Bool} (ht : ∀ x y z, lt x y = true → lt y z = true → lt x z = true) {ks : List α} (h : ks.Pairwise (fun x y => lt x y = true)) (k : α) : (ks.filter (fun y => lt y k) ++ k :: ks.filter (fun y => lt k y)).Pairwise (fun x y => lt x y = true) := by
  refine List.pairwise_append.2 ⟨h.filter _, List.pairwise_cons.2 ⟨fun y hy => (List.mem_filter.1 hy).2, h.filter _⟩, fun x hx y hy => ?_⟩
  have h1 := (List.mem_filter.1 hx).2
  rcases List.mem_cons.1 hy with rfl | hy
  · exact h1
  · exact ht _ _ _ h1 (List.mem_filter.1 hy).2
theorem ins_mem {α : Type} {lt : α → α → Bool} (h3 : ∀ x y, lt x y = false → lt y x = false → x = y) {ks : List α} {k x : α} : x ∈ ks.filter (fun y => lt y k) ++ k :: ks.filter (fun y => lt k y) ↔ x = k ∨ x ∈ ks := by
  simp only [List.mem_append, List.mem_filter, List.mem_cons]
  constructor
  · rintro (h | h | h)
    · exact .inr h.1
    · exact .inl h
    · exact .inr h.1
  · rintro (h | h)
    · exact .inr (.inl h)
    · cases h1 : lt x k
      · cases h2 : lt k x
        · exact .inr (.inl (h3 x k h1 h2))
        · exact .inr (.inr ⟨h, rfl⟩)
      · exact .inl ⟨h, rfl⟩
theorem keys_step {s : Tb} {ks : List Lk} (h : KeysOf s ks) (e : Ev) : ∃ ks', KeysOf (stepT s e) ks' := by
  by_cases hq : mayEv e = true ∧ hasP e.kd = true ∧ foldE s.f e = 0
  · have hw := key_wf hq.1 hq.2.1
    refine ⟨_, ins_up (lt := lkLess) (fun _ _ _ a b => lkLess_trans a b) h.1 (keyE e), fun x hx => ?_, fun x hx => ?_⟩
    · rcases (ins_mem (lt := lkLess) (fun _ _ a b => lkLess_tri a b)).1 hx with rfl | hx
      · exact hw
      · exact h.2.1 x hx
    · rw [ins_mem (lt := lkLess) (fun _ _ a b => lkLess_tri a b)]
      show (foldF s.f e x).isSome = true ↔ _
      unfold foldF
      rw [if_pos hq]
      by_cases hxk : x = keyE e
      · subst hxk; rw [setF_same]; simp
      · rw [setF_other hxk, h.2.2 x hx]; simp [hxk]
  · refine ⟨ks, h.1, h.2.1, fun x hx => ?_⟩
    show (foldF s.f e x).isSome = true ↔ _
    unfold foldF
    rw [if_neg hq]
    exact h.2.2 x hx
theorem ends_step {s : Tb} {es : List Pe} (h : EndsOf s es) (e : Ev) : ∃ es', EndsOf (stepT s e) es' := by
  by_cases hq : mayEv e = true ∧ e.kd = 6
  · have hb := may_body hq.1
    unfold bodyE at hb
    rw [if_pos hq.2] at hb
    have hw : (⟨e.ep, e.ec⟩ : Pe).wf := ⟨(mayE_wf hb).1, (show (Lit.int .i64 0).wf = true by decide), (mayE_wf hb).2⟩
    refine ⟨_, ins_up (lt := peLess) (fun _ _ _ a b => peLess_trans a b) h.1 ⟨e.ep, e.ec⟩, fun x hx => ?_, fun x hx => ?_⟩
    · rcases (ins_mem (lt := peLess) (fun _ _ a b => peLess_tri a b)).1 hx with rfl | hx
      · exact hw
      · exact h.2.1 x hx
    · rw [ins_mem (lt := peLess) (fun _ _ a b => peLess_tri a b)]
      show foldC s.cl e x.po x.ch = true ↔ _
      unfold foldC
      rw [if_pos hq]
      have hxe : x = ⟨e.ep, e.ec⟩ ↔ (x.po = e.ep ∧ x.ch = e.ec) := by cases x; simp
      split
      · rename_i hc
        rw [h.2.2 x hx]
        constructor
        · intro z; exact .inr z
        · rintro (z | z)
          · subst z; exact (h.2.2 _ hw).1 hc
          · exact z
      · rw [hxe, ← h.2.2 x hx]; simp [clPut]
  · refine ⟨es, h.1, h.2.1, fun x hx => ?_⟩
    show foldC s.cl e x.po x.ch = true ↔ _
    unfold foldC
    rw [if_neg hq]
    exact h.2.2 x hx
theorem fold_keys : ∀ (l : List Ev) {s : Tb}, (∃ ks, KeysOf s ks) → (∃ es, EndsOf s es) → (∃ ks, KeysOf (foldT s l) ks) ∧ ∃ es, EndsOf (foldT s l) es := by
  intro l
  induction l with
  | nil => intro s h k; exact ⟨h, k⟩
  | cons e l ih =>
    intro s h k
    obtain ⟨ks, h⟩ := h
    obtain ⟨es, k⟩ := k
    exact ih (keys_step h e) (ends_step k e)
theorem keys0 : ∃ ks, KeysOf t0 ks := ⟨[], List.Pairwise.nil, by simp, fun x _ => by simp [t0]⟩
theorem ends0 : ∃ es, EndsOf t0 es := ⟨[], List.Pairwise.nil, by simp, fun x _ => by simp [t0]⟩
theorem foldT_snoc (s : Tb) (l : List Ev) (e : Ev) : foldT s (l ++ [e]) = stepT (foldT s l) e := by unfold foldT; rw [List.foldl_append]; rfl
theorem foldT_take {s : Tb} {l : List Ev} {k : Nat} (h : k < l.length) : foldT s (l.take (k + 1)) = stepT (foldT s (l.take k)) l[k] := by
  rw [List.take_succ_eq_append_getElem h, foldT_snoc]
end Go.Proofs.Ytbckncopdkmoeaa
