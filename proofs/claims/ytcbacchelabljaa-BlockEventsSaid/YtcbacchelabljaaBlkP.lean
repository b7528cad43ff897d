/- The beginning of a block; BlockPeek, walked. -/
import Derived.Test.YtcbacchelabljaaBlkN
import Derived.Test.YtcbacchelabljaaEvRP
import Derived.WalkKit
import Derived.ProofKit
import Derived.Handy
import Derived.Below
import Derived.Lib.Hide
import Derived.IntWalk
import Derived.Outline
import Derived.WalkLawsBesides
import Derived.WalkSpells
namespace Go.Proofs.Ytcbacchelabljaa
open Go.RowKit
attribute [local go_sem] strV
set_option linter.unusedVariables false
def headG (s : ByteArray) (at_ err : Int) : ByteArray × Int × Int × Int :=
  let x := textG s at_ err 12
  let y := numG s x.2.1 x.2.2 1 1099511627776
  (x.1, y.1, y.2.1, y.2.2)
def peekV (v : ByteArray) : ByteArray × Int × Int :=
  let x := headG v 0 0
  if x.2.2.2 = 0 then (bif nameP x.1.data.toList then (x.1, x.2.1, 0) else (⟨#[]⟩, 0, 1)) else (⟨#[]⟩, 0, x.2.2.2)
theorem peek_of {b : Blk} (h : mayBlk b = true) {v : ByteArray} {X : List UInt8} (hv : v.data.toList = encBlk b ++ X) : peekV v = (b.ch, b.ht, 0) := by
  obtain ⟨o1, ⟨o2, o3⟩, _⟩ := okBlk_of h
  have hn : nameP b.ch.data.toList = true := by
    unfold mayBlk hdBlk at h
    simp only [Bool.and_eq_true] at h
    exact h.1.1.1.1.1.1
  unfold encBlk at hv
  have g1 : textG v ((([] : List UInt8).length : Nat) : Int) 0 12 = _ := (text_codec 12 (by decide)).good (A := []) (B := putL b.ht ++ (putL b.tm ++ (putL (b.evs.length : Int) ++ b.evs.flatMap itemE)) ++ X) o1 (by rw [hv]; simp)
  have g2 : numG v ((([] ++ textB b.ch : List UInt8).length : Nat) : Int) 0 1 1099511627776 = _ := (num_codec 1 1099511627776 (by decide) (by decide)).good (A := [] ++ textB b.ch) (B := putL b.tm ++ (putL (b.evs.length : Int) ++ b.evs.flatMap itemE) ++ X) ⟨o2, o3⟩ (by rw [hv]; simp)
  rw [List.length_append] at g2
  rw [show ((([] : List UInt8).length : Nat) : Int) = 0 from rfl] at g1
  unfold peekV headG
  simp only [g1, g2]
  rw [if_pos trivial, hn]
  rfl
theorem row_one4 (c : ByteArray) (h t : Int) (a : Option Addr) (n cap : Nat) : (#[.string c, .int .i64 h, .int .i64 t, .slice a n cap] : Array Value).all (·.oneCell') = true := by
  rw [Array.all_eq_true_iff_forall_mem]; intro v hv; simp at hv; rcases hv with rfl | rfl | rfl | rfl <;> rfl
set_option maxRecDepth 100000 in
set_option maxHeartbeats 6400000 in
theorem head_any (b : Nat) (w : World) (s : ByteArray) (at_ err : Int) (hR : RAt b w s at_ err) (hs : s.size ≤ 1000000000) :
    Calls Try.prog 30 #[.pointer (some ⟨b, 0, none⟩)] w fun e w' => e = .returned (.agg #[.string (headG s at_ err).1, .int .i64 (headG s at_ err).2.1, .int .i64 0, .slice none 0 0]) ∧ RAt b w' s (headG s at_ err).2.2.1 (headG s at_ err).2.2.2 ∧ Kept b w w' := by
  obtain ⟨⟨c, a1, e1⟩, h1⟩ : ∃ t, textG s at_ err 12 = t := ⟨_, rfl⟩
  obtain ⟨⟨h, a2, e2⟩, h2⟩ : ∃ t, numG s a1 e1 1 1099511627776 = t := ⟨_, rfl⟩
  have hE : headG s at_ err = (c, h, a2, e2) := by unfold headG; simp only [h1, h2]
  rw [hE]
  have C1 := fun W h => rtext_all b W s at_ err 12 h hs
  have C2 := fun W h => rnum_all b W s a1 e1 1 1099511627776 h hs
  simp only [h1] at C1
  simp only [h2] at C2
  clear h1 h2 hE
  have hlt := hR.lt
  have hz0 := heap_push w #[.string ⟨#[]⟩, .int .i64 0, .int .i64 0, .slice none 0 0] 24
  have hbA : Below w.heap.size w (w.alloc (.cells #[.string ⟨#[]⟩, .int .i64 0, .int .i64 0, .slice none 0 0] 24)) := Below.alloc (Below.refl _ _) (Nat.le_refl _) _
  go_enter Try.func30, Try.ntmps30
  go_upto_region 1 with fail
  refine wp_nameE _ (fun W1 hX => ?_)
  have hZ : W1.heap[w.heap.size]? = some (.cells #[.string ⟨#[]⟩, .int .i64 0, .int .i64 0, .slice none 0 0] 24 (0, 0)) := by rw [hX]; exact hz0
  have hb1 : Below w.heap.size w W1 := by rw [hX]; exact hbA
  have hR := hR.below hb1 hlt
  have hK : Kept b w W1 := Kept.of hb1
  have hzb : w.heap.size ≠ b := by omega
  clear hX hz0 hbA hb1
  go_upto_region 2 with (go_at_call 55; refine (C1 _ hR).mono ?_; rintro e w2 ⟨rfl, hR, hk⟩; have hZ := hk.row5 hZ hzb; have hK := hK.trans hk)
  go_wp2_with (first | (go_at_call 31; refine (C2 _ hR).mono ?_; rintro e w3 ⟨rfl, hR, hk⟩; have hZ := hk.row5 hZ hzb; have hK := hK.trans hk) | (refine wpList_storeRowTo (Z := #[.string c, .int .i64 h, .int .i64 0, .slice none 0 0]) rfl (.tmp 2) (.tmp 9) 24 rfl (by kernel_rfl) rfl (by rfl) hZ rfl (row_one4 _ _ _ _ _ _) ?_))
  have hZ2 : (World.setRow _ w.heap.size #[.string c, .int .i64 h, .int .i64 0, .slice none 0 0]).heap[w.heap.size]? = some (.cells #[.string c, .int .i64 h, .int .i64 0, .slice none 0 0] 24 (0, 0)) := setRow_heap _ _ _ _ _ _ hZ
  have hrd := run_loadVar_mid (P := Try.prog) _ w.heap.size 0 24 (#[.string c, .int .i64 h, .int .i64 0, .slice none 0 0] : Array Value).toList _ (rangeAt_row5 hZ2) Try.underlying24 rfl (by kernel_rfl)
  refine bodyPost_ret (v := .agg #[.string c, .int .i64 h, .int .i64 0, .slice none 0 0]) ?_ rfl ?_
  · simp [results, Try.results30, asAddr]
    exact hrd
  exact ⟨rfl, hR.setRow hzb _, hK.setRow (Nat.le_refl _) _⟩
set_option maxRecDepth 100000 in
set_option maxHeartbeats 6400000 in
theorem peek_any (v : ByteArray) (w : World) (hv : v.size ≤ 1000000000) :
    Calls Try.prog 13 #[.string v] w fun e w' => e = .returned (.tuple #[.string (peekV v).1, .int .i64 (peekV v).2.1, .int .i64 (peekV v).2.2]) ∧ Below w.heap.size w w' := by
  have CH := fun b W h => head_any b W v 0 0 h hv
  have hsz : (headG v 0 0).1.size ≤ maxLen := by
    unfold headG
    have := textG_size v 0 0 12
    simp only at this ⊢
    unfold maxLen; omega
  obtain ⟨⟨c, h, a2, e2⟩, hX⟩ : ∃ t, headG v 0 0 = t := ⟨_, rfl⟩
  have hP : peekV v = if e2 = 0 then (bif nameP c.data.toList then (c, h, 0) else (⟨#[]⟩, 0, 1)) else (⟨#[]⟩, 0, e2) := by
    unfold peekV
    simp only [hX]
  simp only [hX] at CH
  rw [hX] at hsz
  simp only at hsz
  have CN := fun W => name_any c W hsz
  have HP := Lib.hid hP
  clear hP hX
  go_enter Try.func13, Try.ntmps13
  go_upto_region 2 with (go_at_call 29; refine (rof_any v _).mono ?_; rintro e wb ⟨rfl, hR, hbb⟩)
  go_upto_region 3 with (first | (go_at_call 30; refine (CH _ _ hR).mono ?_; rintro e w1 ⟨rfl, hR, hk⟩; have hbel := hbb.trans (hk.below (Nat.le_refl _) hbb.size)) | (refine wpList_storeRowTo rfl (.tmp 6) (.tmp 11) 24 rfl (by kernel_rfl) rfl (by rfl) (heap_push _ _ _) rfl (row_one4 _ _ _ _ _ _) ?_))
  refine wp_nameE _ (fun W3 hW3 => ?_)
  have hba : Below w1.heap.size w1 W3 := by rw [hW3]; first | exact below_setRow (Below.alloc (Below.refl _ _) (Nat.le_refl _) _) (Nat.le_refl _) _ | exact Below.alloc (Below.refl _ _) (Nat.le_refl _) _
  have hG : W3.heap[w1.heap.size]? = some (.cells #[.string c, .int .i64 h, .int .i64 0, .slice none 0 0] 24 (0, 0)) := by rw [hW3]; first | exact setRow_heap _ _ _ _ _ _ (heap_push _ _ _) | exact heap_push _ _ _
  have hR := hR.below hba hR.lt
  have hbel := hbel.trans (hba.mono hbel.size)
  clear hW3 hba
  have q0 := cell_heap hG 0; have q1 := cell_heap hG 1; have q2 := cell_heap hG 2; have q3 := cell_heap hG 3
  have CX := rerr_any _ _ _ _ _ hR
  by_cases hE : e2 = 0
  · subst hE
    cases hM : nameP c.data.toList
    · rw [hM] at HP CN
      go_wp2_with (first | (go_at_call 40; refine CX.mono ?_; rintro e wx ⟨rfl, hwx⟩; obtain rfl : _ = wx := hwx.symm) | (go_at_call 41; refine (CN _).mono ?_; rintro e wn ⟨rfl, hwn⟩; obtain rfl : _ = wn := hwn.symm))
      go_returns
      exact ⟨by rw [HP.out]; simp, hbel⟩
    · rw [hM] at HP CN
      go_upto_region 8 with (first | (go_at_call 40; refine CX.mono ?_; rintro e wx ⟨rfl, hwx⟩; obtain rfl : _ = wx := hwx.symm) | (go_at_call 41; refine (CN _).mono ?_; rintro e wn ⟨rfl, hwn⟩; obtain rfl : _ = wn := hwn.symm))
      go_quiet (fail)
      go_wp2
      go_returns
      exact ⟨by rw [HP.out]; simp, by first | exact hbel | exact hbel.trans ((drewN_below _ _).mono hbel.size)⟩
  · have hE0 : (e2 == 0) = false := beq_eq_false_iff_ne.2 hE
    go_wp2_with (first | (go_at_call 40; refine CX.mono ?_; rintro e wx ⟨rfl, hwx⟩; obtain rfl : _ = wx := hwx.symm))
    go_returns
    exact ⟨by rw [HP.out, if_neg hE]; first | rfl | simp, hbel⟩
theorem items_len : ∀ (es : List Ev), (∀ e ∈ es, mayEv e = true) → (es.flatMap itemE).length ≤ es.length * 1010
  | [], _ => Nat.zero_le _
  | e :: es, h => by
    have h1 := encE_len (h e (List.mem_cons_self ..))
    have h2 := items_len es (fun x hx => h x (List.mem_cons_of_mem _ hx))
    have h3 : (itemE e).length ≤ 1008 := by
      have h3 := putL_len8 (((⟨(encE e).toArray⟩ : ByteArray).size : Nat) : Int)
      unfold itemE textB
      rw [List.length_append]
      have h4 : (⟨(encE e).toArray⟩ : ByteArray).data.toList.length = (encE e).length := by simp
      omega
    rw [List.flatMap_cons, List.length_append, List.length_cons]
    omega
theorem encBlk_len {b : Blk} (h : mayBlk b = true) (hn : b.evs.length ≤ 60) : (encBlk b).length ≤ 100000 := by
  obtain ⟨o1, _, _, _, o7⟩ := okBlk_of h
  have i := items_len b.evs o7
  have p1 := putL_len8 (b.ch.size : Int)
  have p2 := putL_len8 b.ht
  have p3 := putL_len8 b.tm
  have p4 := putL_len8 (b.evs.length : Int)
  unfold encBlk textB
  simp only [List.length_append, str_len]
  omega
set_option maxRecDepth 100000 in
set_option maxHeartbeats 12800000 in
theorem walkBlockPeek (ch : ByteArray) (ht tm : Int) (a : Option Addr) (n cap : Nat) (es : List Ev) (more : ByteArray) (w : World) (hch : ch.size ≤ maxLen) (hr : RowAt w a (es.flatMap Ev.cells)) (hn : es.length = n) (hcap : n ≤ cap) (hcm : cap ≤ maxLen) (hq : ∀ e ∈ es, e.small) (hmo : more.size ≤ maxLen) :
    Calls Try.prog 5 #[.agg #[.string ch, .int .i64 ht, .int .i64 tm, .slice a n cap], .string more] w fun e w' => e = .returned (.bool true) ∧ Below w.heap.size w w' := by
  have hg0 := heap_push w #[.string ch, .int .i64 ht, .int .i64 tm, .slice a n cap] 24
  have hbA : Below w.heap.size w (w.alloc (.cells #[.string ch, .int .i64 ht, .int .i64 tm, .slice a n cap] 24)) := Below.alloc (Below.refl _ _) (Nat.le_refl _) _
  have CL := fun W h => lightBlk_any ch ht tm a n cap es W h hn
  have CM := fun W h => mayBlk_any ch ht tm a n cap es W hch h hn hcap hcm hq
  obtain ⟨lb, hlb⟩ : ∃ b, lightBlk ch es = b := ⟨_, rfl⟩
  obtain ⟨mb, hmb⟩ : ∃ b, mayBlk ⟨ch, ht, tm, es⟩ = b := ⟨_, rfl⟩
  simp only [hlb] at CL
  simp only [hmb] at CM
  go_enter Try.func5, Try.ntmps5
  go_upto_region 1 with fail
  refine wp_nameE _ (fun W1 hX => ?_)
  have hg : W1.heap[w.heap.size]? = some (.cells #[.string ch, .int .i64 ht, .int .i64 tm, .slice a n cap] 24 (0, 0)) := by rw [hX]; exact hg0
  have hbel : Below w.heap.size w W1 := by rw [hX]; exact hbA
  clear hX hg0 hbA
  have hgl : w.heap.size < W1.heap.size := (Array.getElem?_eq_some_iff.1 hg).1
  have q0 := cell_heap hg 0; have q1 := cell_heap hg 1; have q2 := cell_heap hg 2; have q3 := cell_heap hg 3
  cases lb
  · go_wp2_with (first | (go_at_call 7; refine (first10_any _).mono ?_; rintro e w9 ⟨rfl, hb⟩; have hg := cells_of hg hb hgl; have hgl := Nat.lt_of_lt_of_le hgl hb.size; have hbel := hbel.trans (hb.mono hbel.size); have q0 := cell_heap hg 0; have q1 := cell_heap hg 1; have q2 := cell_heap hg 2; have q3 := cell_heap hg 3; clear hb) | (go_at_call 8; refine (CL _ (hr.below hbel)).mono ?_; rintro e w9 ⟨rfl, hb⟩; have hg := cells_of hg hb hgl; have hgl := Nat.lt_of_lt_of_le hgl hb.size; have hbel := hbel.trans (hb.mono hbel.size); have q0 := cell_heap hg 0; have q1 := cell_heap hg 1; have q2 := cell_heap hg 2; have q3 := cell_heap hg 3; clear hb))
    go_ret
    exact ⟨rfl, hbel⟩
  by_cases c2 : 200 < more.size
  · have d2 : decide (200 < (more.size : Int)) = true := decide_eq_true (by omega)
    go_wp2_with (first | (go_at_call 7; refine (first10_any _).mono ?_; rintro e w9 ⟨rfl, hb⟩; have hg := cells_of hg hb hgl; have hgl := Nat.lt_of_lt_of_le hgl hb.size; have hbel := hbel.trans (hb.mono hbel.size); have q0 := cell_heap hg 0; have q1 := cell_heap hg 1; have q2 := cell_heap hg 2; have q3 := cell_heap hg 3; clear hb) | (go_at_call 8; refine (CL _ (hr.below hbel)).mono ?_; rintro e w9 ⟨rfl, hb⟩; have hg := cells_of hg hb hgl; have hgl := Nat.lt_of_lt_of_le hgl hb.size; have hbel := hbel.trans (hb.mono hbel.size); have q0 := cell_heap hg 0; have q1 := cell_heap hg 1; have q2 := cell_heap hg 2; have q3 := cell_heap hg 3; clear hb))
    go_ret
    exact ⟨rfl, hbel⟩
  have d2 : decide (200 < (more.size : Int)) = false := decide_eq_false (by omega)
  cases mb
  · go_wp2_with (first | (go_at_call 7; refine (first10_any _).mono ?_; rintro e w9 ⟨rfl, hb⟩; have hg := cells_of hg hb hgl; have hgl := Nat.lt_of_lt_of_le hgl hb.size; have hbel := hbel.trans (hb.mono hbel.size); have q0 := cell_heap hg 0; have q1 := cell_heap hg 1; have q2 := cell_heap hg 2; have q3 := cell_heap hg 3; clear hb) | (go_at_call 8; refine (CL _ (hr.below hbel)).mono ?_; rintro e w9 ⟨rfl, hb⟩; have hg := cells_of hg hb hgl; have hgl := Nat.lt_of_lt_of_le hgl hb.size; have hbel := hbel.trans (hb.mono hbel.size); have q0 := cell_heap hg 0; have q1 := cell_heap hg 1; have q2 := cell_heap hg 2; have q3 := cell_heap hg 3; clear hb) | (go_at_call 15; refine (CM _ (hr.below hbel)).mono ?_; rintro e w9 ⟨rfl, hb⟩; have hg := cells_of hg hb hgl; have hgl := Nat.lt_of_lt_of_le hgl hb.size; have hbel := hbel.trans (hb.mono hbel.size); have q0 := cell_heap hg 0; have q1 := cell_heap hg 1; have q2 := cell_heap hg 2; have q3 := cell_heap hg 3; clear hb))
    go_ret
    exact ⟨rfl, hbel⟩
  have h60 : es.length ≤ 60 := by
    unfold lightBlk lightL at hlb
    simp only [Bool.and_eq_true, decide_eq_true_eq] at hlb
    exact hlb.2.1
  have hel := encBlk_len (b := ⟨ch, ht, tm, es⟩) hmb h60
  have CE := fun W h => encodeBlk_any ch ht tm a n cap es W hch h hn hcap hcm hq (fun _ => by omega)
  rw [show encBk ⟨ch, ht, tm, es⟩ = .tuple #[.string ⟨(encBlk ⟨ch, ht, tm, es⟩).toArray⟩, .int .i64 0] by unfold encBk; rw [hmb]; rfl] at CE
  obtain ⟨T, hT⟩ : ∃ T : ByteArray, (⟨(encBlk ⟨ch, ht, tm, es⟩).toArray⟩ : ByteArray) = T := ⟨_, rfl⟩
  have hTl : T.data.toList = encBlk ⟨ch, ht, tm, es⟩ := by rw [← hT]
  have hTs : T.size ≤ 100000 := by rw [← str_len, hTl]; exact hel
  simp only [hT] at CE
  have CP1 := fun W => peek_any T W (by omega)
  have CP2 := fun W => peek_any (T ++ more) W (by rw [ByteArray.size_append]; omega)
  rw [peek_of (b := ⟨ch, ht, tm, es⟩) hmb (v := T) (X := []) (by rw [hTl, List.append_nil])] at CP1
  rw [peek_of (b := ⟨ch, ht, tm, es⟩) hmb (v := T ++ more) (X := more.data.toList) (by rw [← hTl]; simp)] at CP2
  have hcat : ¬ 9223372036854775807 < T.size + more.size := by omega
  clear hT hTl hel hlb hmb h60
  go_wp2_with (first | (go_at_call 7; refine (first10_any _).mono ?_; rintro e w9 ⟨rfl, hb⟩; have hg := cells_of hg hb hgl; have hgl := Nat.lt_of_lt_of_le hgl hb.size; have hbel := hbel.trans (hb.mono hbel.size); have q0 := cell_heap hg 0; have q1 := cell_heap hg 1; have q2 := cell_heap hg 2; have q3 := cell_heap hg 3; clear hb) | (go_at_call 8; refine (CL _ (hr.below hbel)).mono ?_; rintro e w9 ⟨rfl, hb⟩; have hg := cells_of hg hb hgl; have hgl := Nat.lt_of_lt_of_le hgl hb.size; have hbel := hbel.trans (hb.mono hbel.size); have q0 := cell_heap hg 0; have q1 := cell_heap hg 1; have q2 := cell_heap hg 2; have q3 := cell_heap hg 3; clear hb) | (go_at_call 15; refine (CM _ (hr.below hbel)).mono ?_; rintro e w9 ⟨rfl, hb⟩; have hg := cells_of hg hb hgl; have hgl := Nat.lt_of_lt_of_le hgl hb.size; have hbel := hbel.trans (hb.mono hbel.size); have q0 := cell_heap hg 0; have q1 := cell_heap hg 1; have q2 := cell_heap hg 2; have q3 := cell_heap hg 3; clear hb) | (go_at_call 9; refine (CE _ (hr.below hbel)).mono ?_; rintro e w9 ⟨rfl, hb⟩; have hg := cells_of hg hb hgl; have hgl := Nat.lt_of_lt_of_le hgl hb.size; have hbel := hbel.trans (hb.mono hbel.size); have q0 := cell_heap hg 0; have q1 := cell_heap hg 1; have q2 := cell_heap hg 2; have q3 := cell_heap hg 3; clear hb) | (go_at_call 13; first | (with_reducible refine (CP1 _).mono ?_; rintro e w9 ⟨rfl, hb⟩; have hg := cells_of hg hb hgl; have hgl := Nat.lt_of_lt_of_le hgl hb.size; have hbel := hbel.trans (hb.mono hbel.size); have q0 := cell_heap hg 0; have q1 := cell_heap hg 1; have q2 := cell_heap hg 2; have q3 := cell_heap hg 3; clear hb) | (with_reducible refine (CP2 _).mono ?_; rintro e w9 ⟨rfl, hb⟩; have hg := cells_of hg hb hgl; have hgl := Nat.lt_of_lt_of_le hgl hb.size; have hbel := hbel.trans (hb.mono hbel.size); have q0 := cell_heap hg 0; have q1 := cell_heap hg 1; have q2 := cell_heap hg 2; have q3 := cell_heap hg 3; clear hb)))
  go_ret
  exact ⟨rfl, hbel⟩
end Go.Proofs.Ytcbacchelabljaa
