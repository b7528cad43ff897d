/- life.Table's Keys and Closed. -/
import Derived.Test.YtbckncopdkmoeaaSoK
import Derived.Test.YtbckncopdkmoeaaLf3
import Derived.Deep.Cut
import Derived.WalkKit
import Derived.ProofKit
import Derived.Handy
import Derived.Below
import Derived.Lib.Hide
import Derived.IntWalk
import Derived.Outline
import Derived.WalkLawsBesides
import Derived.WalkSpells
namespace Go.Proofs.Ytbckncopdkmoeaa
open Go.RowKit
attribute [local go_sem] strV
set_option linter.unusedVariables false
open Go.Sort Go.Shelf Go.Maps
set_option linter.unusedSimpArgs false
theorem sort_uniq {α : Type} {lt : α → α → Bool} (hi : ∀ x, lt x x = false) (ht : ∀ x y z, lt x y = true → lt y z = true → lt x z = true) (h3 : ∀ x y, lt x y = false → lt y x = false → x = y) {l ks : List α} (hl : l.Nodup) (hk : ks.Pairwise (fun x y => lt x y = true)) (hm : ∀ x, x ∈ l ↔ x ∈ ks) : l.mergeSort (fun x y => !lt y x) = ks := by
  have has : ∀ x y, lt x y = true → lt y x = false := fun x y h => by
    cases h2 : lt y x
    · rfl
    · have := ht x y x h h2; rw [hi] at this; cases this
  have tr : ∀ a b c : α, (!lt b a) = true → (!lt c b) = true → (!lt c a) = true := fun a b c h1 h2 => by
    simp only [Bool.not_eq_true'] at h1 h2 ⊢
    cases h4 : lt c a
    · rfl
    · cases h5 : lt b c
      · have := h3 b c h5 h2; subst this; rw [h1] at h4; cases h4
      · have := ht b c a h5 h4; rw [h1] at this; cases this
  have tot : ∀ a b : α, ((!lt b a) || (!lt a b)) = true := fun a b => by
    cases h4 : lt b a
    · simp
    · simp [has b a h4]
  have hkn : ks.Nodup := hk.imp (fun {a b} h e => by subst e; rw [hi] at h; cases h)
  have hp : l.Perm ks := (List.perm_ext_iff_of_nodup hl hkn).2 hm
  refine List.Perm.eq_of_pairwise (le := fun a b => (!lt b a) = true) (fun a b _ _ h1 h2 => ?_) (List.pairwise_mergeSort tr tot l) (hk.imp (fun {a b} h => by simp [has a b h])) ((List.mergeSort_perm l _).trans hp)
  simp only [Bool.not_eq_true'] at h1 h2
  exact h3 a b h2 h1
theorem swo_of {α : Type} {lt : α → α → Bool} (hi : ∀ x, lt x x = false) (ht : ∀ x y z, lt x y = true → lt y z = true → lt x z = true) (h3 : ∀ x y, lt x y = false → lt y x = false → x = y) : SWO lt where
  irrefl := hi
  trans := ht
  ntrans x y z h1 h2 := by
    cases h4 : lt x z
    · rfl
    · cases h5 : lt y x
      · have := h3 x y h1 h5; subst this; rw [h2] at h4; cases h4
      · have := ht y x z h5 h4; rw [h2] at this; cases this
theorem ltOf_lk : ltOf lkCmp = lkLess := by funext x y; exact lkCmp_lt x y
/-- The order of ends. -/
def peLess (x y : Pe) : Bool := lessE x.po x.ch y.po y.ch
def peCmp (x y : Pe) : Int := cfE x.po x.ch y.po y.ch
theorem ltOf_pe : ltOf peCmp = peLess := by funext x y; exact cfE_lt _ _ _ _
theorem peLess_irr (x : Pe) : peLess x x = false := lessE_irr _ _
theorem peLess_tri {x y : Pe} (h1 : peLess x y = false) (h2 : peLess y x = false) : x = y := by
  obtain ⟨e1, e2⟩ := lessE_tri h1 h2
  cases x; cases y
  simp at e1 e2
  rw [e1, e2]
theorem peLess_trans {x y z : Pe} (h1 : peLess x y = true) (h2 : peLess y z = true) : peLess x z = true := lessE_trans h1 h2
set_option maxRecDepth 100000 in
set_option maxHeartbeats 1600000 in
theorem sortedL_any (Bm b nn : Nat) (hnn : nn ≤ 100000) (D0 : DataW Value) (w : World) (hBm : Bm < w.heap.size) (hm : w.cell? ⟨Bm, 0, none⟩ = some (.map (some b))) (hown : w.ownsMap Try.prog 62 hdR b nn D0)
    (ks : List Lk) (hks : ks.Pairwise (fun x y => lkLess x y = true)) (hkw : ∀ x ∈ ks, x.wf) (hk : ∀ x : Lk, x.wf → (has D0 x.lit = true ↔ x ∈ ks)) :
    Calls Try.prog 70 #[.func (.func 100) #[] #[.pointer (some ⟨Bm, 0, none⟩)], .func (.func 72) #[] #[]] w fun e w' => ∃ v, e = .returned v ∧ w'.ownsRow w.heap.size 62 4 v ks.length (ks.flatMap Lk.L) ∧ Below w.heap.size w w' := by
  have hsz := hown.size_le
  have CC := colL_any Bm b nn hnn D0 w hBm hm hown
  go_enter Try.func70, Try.ntmps70
  go_upto_region 2 with (go_at_call 98; refine CC.mono ?_; rintro e W ⟨v, ss, rfl, hd, hl, ho, hb⟩)
  have hms : ss.mergeSort (fun x y => !lkLess y x) = ks := sort_uniq lkLess_irr (fun _ _ _ h1 h2 => lkLess_trans h1 h2) (fun _ _ h1 h2 => lkLess_tri h1 h2) hd.1 hks (fun x => by
    constructor
    · intro hx; exact (hk x (hd.2.1 x hx)).1 ((hd.2.2 x (hd.2.1 x hx)).1 hx)
    · intro hx; exact (hd.2.2 x (hkw x hx)).2 ((hk x (hkw x hx)).2 hx))
  have hlen : ks.length = ss.length := by rw [← hms, List.length_mergeSort]
  obtain ⟨a, cap, rfl, _, _, _, hnil⟩ := own_sliceN ho
  cases a with
  | none =>
    obtain ⟨h0, rfl⟩ := hnil rfl
    have hs0 : ss = [] := List.eq_nil_of_length_eq_zero h0
    subst hs0
    have hk0 : ks = [] := List.eq_nil_of_length_eq_zero hlen
    subst hk0
    have CS := AnyF.slices_SortFunc_none Try.sortL none 0 (.func (.func 72) #[] #[]) W
    change Calls Try.prog 99 _ _ _ at CS
    simp only [List.length_nil] at ho ⊢
    go_wp2_with (go_at_call 99; refine CS.mono ?_; rintro e w1 ⟨rfl, hw1⟩; obtain rfl : _ = w1 := hw1.symm)
    go_ret
    exact ⟨_, rfl, ho, hb⟩
  | some ad =>
    obtain ⟨g, off, sp⟩ := ad
    have hgz : off = 0 ∧ sp = none := by
      rcases ho.2 with ⟨h1, _⟩ | ⟨g2, cap2, cur, hv, _⟩
      · cases h1
      · cases hv; exact ⟨rfl, rfl⟩
    obtain ⟨rfl, rfl⟩ := hgz
    obtain ⟨hH, hgl, hafter⟩ := sort_own (enc := Lk.L) (k := 4) (by decide) (fun x => rfl) ho rfl
    have hbg : w.heap.size ≤ g := by
      rcases ho.2 with ⟨h1, _⟩ | ⟨g2, cap2, cur, hv, hbs, _⟩
      · cases h1
      · cases hv; exact hbs
    have CS := AnyQ.slices_SortFunc_total Try.sortL 4 Try.isAgg62 Try.sizeOf62 Lk.L (fun x => rfl) (fun x v hv => by simp [Lk.L] at hv; rcases hv with rfl | rfl | rfl | rfl <;> rfl) lkCmp (by rw [ltOf_lk]; exact swo_of lkLess_irr (fun _ _ _ h1 h2 => lkLess_trans h1 h2) (fun _ _ h1 h2 => lkLess_tri h1 h2)) 72 #[] g 0 cap ss.toArray W
      (enters_of Try.func72 (by kernel_rfl) rfl) (fun m os dk hdk x y => keysCmp_any x y _) hH hgl (by simp; omega) (by rw [ltOf_lk]; exact fun _ _ h1 h2 => lkLess_tri h1 h2)
    change Calls Try.prog 99 _ _ _ at CS
    rw [ltOf_lk] at CS
    simp only [List.size_toArray, hms] at CS
    obtain ⟨N, hN⟩ : ∃ N, ss.length = N := ⟨_, rfl⟩
    have hkN : ks.length = N := by rw [hlen, hN]
    rw [hN] at CS hafter
    simp only [hN]
    go_wp2_with (go_at_call 99; refine CS.mono ?_; rintro e w1 ⟨rfl, m, os, hw1⟩)
    go_ret
    obtain ⟨h8, h9⟩ := hafter m os ks hkN
    exact ⟨_, rfl, by rw [hkN]; exact h8, hb.trans h9⟩
theorem mkeysL_any (mb : Option Nat) (w : World) : Calls Try.prog 71 #[.map mb] w fun e w' => e = .returned (.func (.func 100) #[] #[.pointer (some ⟨w.heap.size, 0, none⟩)]) ∧ w' = w.alloc (.cells #[.map mb] 119) := by
  go_enter Try.func71, Try.ntmps71
  go_wp2
  go_ret
  exact ⟨rfl, rfl⟩
set_option maxRecDepth 100000 in
theorem lfKeys_any (g b c n : Nat) (f : Lk → Option Ent) (cl : ByteArray → Int → Bool) (w : World) (hT : TabAt w g b c n f cl) (hn : n ≤ 100000) (ks : List Lk) (hks : ks.Pairwise (fun x y => lkLess x y = true)) (hkw : ∀ x ∈ ks, x.wf) (hk : ∀ x : Lk, x.wf → ((f x).isSome = true ↔ x ∈ ks)) :
    Calls Try.prog 40 #[.pointer (some ⟨g, 0, none⟩)] w fun e w' => ∃ v, e = .returned v ∧ w'.ownsRow w.heap.size 62 4 v ks.length (ks.flatMap Lk.L) ∧ Below w.heap.size w w' := by
  have hb0 : Below w.heap.size w (w.alloc (.cells #[.map (some b)] 119)) := (Below.refl _ _).alloc (Nat.le_refl _) _
  have hT1 := hT.kept hb0
  obtain ⟨hgc, _, _⟩ := hT
  have hgl := row_lt hgc
  have c0 : w.cell? ⟨g, 0, none⟩ = some (.map (some b)) := cell_heap hgc 0
  have CK := mkeysL_any (some b) w
  obtain ⟨_, ⟨D, hm, hD⟩, _⟩ := hT1
  have CS := sortedL_any w.heap.size b n hn D (w.alloc (.cells #[.map (some b)] 119)) (by simp) (cell_heap (heap_push w _ _) 0) hm ks hks hkw (fun x hx => by rw [← hk x hx, hD.has x hx])
  go_enter Try.func40, Try.ntmps40
  go_wp2_with (first | (go_at_call 71; refine CK.mono ?_; rintro e w1 ⟨rfl, rfl⟩) | (go_at_call 70; refine CS.mono ?_; rintro e w2 ⟨v, rfl, ho, hb⟩))
  go_ret
  exact ⟨v, rfl, own_lowerM ho (by simp), hb0.trans (hb.mono (by simp))⟩
set_option maxRecDepth 100000 in
set_option maxHeartbeats 1600000 in
theorem sortedP_any (Bm b nn : Nat) (hnn : nn ≤ 100000) (D0 : DataW Value) (w : World) (hBm : Bm < w.heap.size) (hm : w.cell? ⟨Bm, 0, none⟩ = some (.map (some b))) (hown : w.ownsMap Try.prog 60 hdR b nn D0)
    (ks : List Pe) (hks : ks.Pairwise (fun x y => peLess x y = true)) (hkw : ∀ x ∈ ks, x.wf) (hk : ∀ x : Pe, x.wf → (has D0 x.lit = true ↔ x ∈ ks)) :
    Calls Try.prog 75 #[.func (.func 105) #[] #[.pointer (some ⟨Bm, 0, none⟩)], .func (.func 73) #[] #[]] w fun e w' => ∃ v, e = .returned v ∧ w'.ownsRow w.heap.size 60 2 v ks.length (ks.flatMap Pe.L) ∧ Below w.heap.size w w' := by
  have hsz := hown.size_le
  have CC := colP_any Bm b nn hnn D0 w hBm hm hown
  go_enter Try.func75, Try.ntmps75
  go_upto_region 2 with (go_at_call 103; refine CC.mono ?_; rintro e W ⟨v, ss, rfl, hd, hl, ho, hb⟩)
  have hms : ss.mergeSort (fun x y => !peLess y x) = ks := sort_uniq peLess_irr (fun _ _ _ h1 h2 => peLess_trans h1 h2) (fun _ _ h1 h2 => peLess_tri h1 h2) hd.1 hks (fun x => by
    constructor
    · intro hx; exact (hk x (hd.2.1 x hx)).1 ((hd.2.2 x (hd.2.1 x hx)).1 hx)
    · intro hx; exact (hd.2.2 x (hkw x hx)).2 ((hk x (hkw x hx)).2 hx))
  have hlen : ks.length = ss.length := by rw [← hms, List.length_mergeSort]
  obtain ⟨a, cap, rfl, _, _, _, hnil⟩ := own_sliceN ho
  cases a with
  | none =>
    obtain ⟨h0, rfl⟩ := hnil rfl
    have hs0 : ss = [] := List.eq_nil_of_length_eq_zero h0
    subst hs0
    have hk0 : ks = [] := List.eq_nil_of_length_eq_zero hlen
    subst hk0
    have CS := AnyF.slices_SortFunc_none Try.sortP none 0 (.func (.func 73) #[] #[]) W
    change Calls Try.prog 104 _ _ _ at CS
    simp only [List.length_nil] at ho ⊢
    go_wp2_with (go_at_call 104; refine CS.mono ?_; rintro e w1 ⟨rfl, hw1⟩; obtain rfl : _ = w1 := hw1.symm)
    go_ret
    exact ⟨_, rfl, ho, hb⟩
  | some ad =>
    obtain ⟨g, off, sp⟩ := ad
    have hgz : off = 0 ∧ sp = none := by
      rcases ho.2 with ⟨h1, _⟩ | ⟨g2, cap2, cur, hv, _⟩
      · cases h1
      · cases hv; exact ⟨rfl, rfl⟩
    obtain ⟨rfl, rfl⟩ := hgz
    obtain ⟨hH, hgl, hafter⟩ := sort_own (enc := Pe.L) (k := 2) (by decide) (fun x => rfl) ho rfl
    have hbg : w.heap.size ≤ g := by
      rcases ho.2 with ⟨h1, _⟩ | ⟨g2, cap2, cur, hv, hbs, _⟩
      · cases h1
      · cases hv; exact hbs
    have CS := AnyQ.slices_SortFunc_total Try.sortP 2 Try.isAgg60 Try.sizeOf60 Pe.L (fun x => rfl) (fun x v hv => by simp [Pe.L] at hv; rcases hv with rfl | rfl <;> rfl) peCmp (by rw [ltOf_pe]; exact swo_of peLess_irr (fun _ _ _ h1 h2 => peLess_trans h1 h2) (fun _ _ h1 h2 => peLess_tri h1 h2)) 73 #[] g 0 cap ss.toArray W
      (enters_of Try.func73 (by kernel_rfl) rfl) (fun m os dk hdk x y => order_any x.po x.ch y.po y.ch _) hH hgl (by simp; omega) (by rw [ltOf_pe]; exact fun _ _ h1 h2 => peLess_tri h1 h2)
    change Calls Try.prog 104 _ _ _ at CS
    rw [ltOf_pe] at CS
    simp only [List.size_toArray, hms] at CS
    obtain ⟨N, hN⟩ : ∃ N, ss.length = N := ⟨_, rfl⟩
    have hkN : ks.length = N := by rw [hlen, hN]
    rw [hN] at CS hafter
    simp only [hN]
    go_wp2_with (go_at_call 104; refine CS.mono ?_; rintro e w1 ⟨rfl, m, os, hw1⟩)
    go_ret
    obtain ⟨h8, h9⟩ := hafter m os ks hkN
    exact ⟨_, rfl, by rw [hkN]; exact h8, hb.trans h9⟩
theorem mkeysP_any (mb : Option Nat) (w : World) : Calls Try.prog 76 #[.map mb] w fun e w' => e = .returned (.func (.func 105) #[] #[.pointer (some ⟨w.heap.size, 0, none⟩)]) ∧ w' = w.alloc (.cells #[.map mb] 120) := by
  go_enter Try.func76, Try.ntmps76
  go_wp2
  go_ret
  exact ⟨rfl, rfl⟩
set_option maxRecDepth 100000 in
theorem lfClosed_any (g b c n : Nat) (f : Lk → Option Ent) (cl : ByteArray → Int → Bool) (w : World) (hT : TabAt w g b c n f cl) (hn : n ≤ 100000) (ks : List Pe) (hks : ks.Pairwise (fun x y => peLess x y = true)) (hkw : ∀ x ∈ ks, x.wf) (hk : ∀ x : Pe, x.wf → (cl x.po x.ch = true ↔ x ∈ ks)) :
    Calls Try.prog 42 #[.pointer (some ⟨g, 0, none⟩)] w fun e w' => ∃ v, e = .returned v ∧ w'.ownsRow w.heap.size 60 2 v ks.length (ks.flatMap Pe.L) ∧ Below w.heap.size w w' := by
  have hb0 : Below w.heap.size w (w.alloc (.cells #[.map (some c)] 120)) := (Below.refl _ _).alloc (Nat.le_refl _) _
  have hT1 := hT.kept hb0
  obtain ⟨hgc, _, _⟩ := hT
  have hgl := row_lt hgc
  have c0 : w.cell? ⟨g, 1, none⟩ = some (.map (some c)) := cell_heap hgc 1
  have CK := mkeysP_any (some c) w
  obtain ⟨_, _, ⟨D, hm, hD⟩, _⟩ := hT1
  have CS := sortedP_any w.heap.size c n hn D (w.alloc (.cells #[.map (some c)] 120)) (by simp) (cell_heap (heap_push w _ _) 0) hm ks hks hkw (fun x hx => by rw [← hk x hx, show has D x.lit = cl x.po x.ch from hD.has x.lk hx])
  go_enter Try.func42, Try.ntmps42
  go_wp2_with (first | (go_at_call 76; refine CK.mono ?_; rintro e w1 ⟨rfl, rfl⟩) | (go_at_call 75; refine CS.mono ?_; rintro e w2 ⟨v, rfl, ho, hb⟩))
  go_ret
  exact ⟨v, rfl, own_lowerM ho (by simp), hb0.trans (hb.mono (by simp))⟩
end Go.Proofs.Ytbckncopdkmoeaa
