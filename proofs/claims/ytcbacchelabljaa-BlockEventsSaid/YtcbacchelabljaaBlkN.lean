/- Blocks in bytes; what the chapter's examples fix; the beginning of a block. -/
import Derived.Test.YtcbacchelabljaaBlkE
import Derived.WalkKit
import Derived.ProofKit
import Derived.Handy
import Derived.Below
import Derived.Lib.Hide
import Derived.IntWalk
import Derived.Outline
import Derived.WalkLawsBesides
import Derived.WalkSpells
namespace Go.Proofs.Ytcbacchelabljaa
open Go.RowKit
attribute [local go_sem] strV
set_option linter.unusedVariables false
def encBk (b : Blk) : Value := bif mayBlk b then .tuple #[.string ⟨(encBlk b).toArray⟩, .int .i64 0] else .tuple #[.string ⟨#[]⟩, .int .i64 1]
theorem item_take {es : List Ev} {k : Nat} (hk : k < es.length) : (es.take (k + 1)).flatMap itemE = (es.take k).flatMap itemE ++ itemE es[k] := by
  rw [List.take_add_one, List.getElem?_eq_getElem hk, List.flatMap_append]; simp
theorem item_le {es : List Ev} {k : Nat} : ((es.take k).flatMap itemE).length ≤ (es.flatMap itemE).length := by
  have : es.flatMap itemE = (es.take k).flatMap itemE ++ (es.drop k).flatMap itemE := by rw [← List.flatMap_append, List.take_append_drop]
  rw [this, List.length_append]; omega
set_option maxRecDepth 100000 in
set_option maxHeartbeats 12800000 in
theorem encodeBlk_any (ch : ByteArray) (ht tm : Int) (a : Option Addr) (n cap : Nat) (es : List Ev) (w : World) (hch : ch.size ≤ maxLen) (hr : RowAt w a (es.flatMap Ev.cells)) (hn : es.length = n) (hcap : n ≤ cap) (hcm : cap ≤ maxLen) (hq : ∀ e ∈ es, e.small) (hlen : mayBlk ⟨ch, ht, tm, es⟩ = true → (encBlk ⟨ch, ht, tm, es⟩).length ≤ 800000) :
    Calls Try.prog 9 #[.agg #[.string ch, .int .i64 ht, .int .i64 tm, .slice a n cap]] w fun e w' => e = .returned (encBk ⟨ch, ht, tm, es⟩) ∧ Below w.heap.size w w' := by
  have hg0 := heap_push w #[.string ch, .int .i64 ht, .int .i64 tm, .slice a n cap] 24
  have hbA : Below w.heap.size w (w.alloc (.cells #[.string ch, .int .i64 ht, .int .i64 tm, .slice a n cap] 24)) := Below.alloc (Below.refl _ _) (Nat.le_refl _) _
  have CM := fun W h => mayBlk_any ch ht tm a n cap es W hch h hn hcap hcm hq
  cases hM : mayBlk ⟨ch, ht, tm, es⟩
  · have hR : encBk ⟨ch, ht, tm, es⟩ = .tuple #[.string ⟨#[]⟩, .int .i64 1] := by unfold encBk; rw [hM]; rfl
    rw [hR]
    simp only [hM] at CM
    clear hR hM hlen
    go_enter Try.func9, Try.ntmps9
    go_upto_region 1 with fail
    refine wp_nameE _ (fun W1 hX => ?_)
    have hg : W1.heap[w.heap.size]? = some (.cells #[.string ch, .int .i64 ht, .int .i64 tm, .slice a n cap] 24 (0, 0)) := by rw [hX]; exact hg0
    have hbel : Below w.heap.size w W1 := by rw [hX]; exact hbA
    clear hX hg0 hbA
    have hgl : w.heap.size < W1.heap.size := (Array.getElem?_eq_some_iff.1 hg).1
    have q0 := cell_heap hg 0; have q1 := cell_heap hg 1; have q2 := cell_heap hg 2; have q3 := cell_heap hg 3
    go_wp2_with (go_at_call 15; refine (CM _ (hr.below hbel)).mono ?_; rintro e w2 ⟨rfl, hb⟩; have hbel := hbel.trans (hb.mono hbel.size); clear hb)
    go_returns
    exact ⟨rfl, hbel⟩
  have hok := okBlk_of hM
  obtain ⟨o1, ⟨o2, o3⟩, ⟨o4, o5⟩, o6, o7⟩ := hok
  simp only at o1 o2 o3 o4 o5 o6 o7
  have hl8 := hlen hM
  obtain ⟨htN, rfl⟩ : ∃ x : Nat, ht = x := ⟨ht.toNat, by omega⟩
  obtain ⟨tmN, rfl⟩ : ∃ x : Nat, tm = x := ⟨tm.toNat, by omega⟩
  have hR : encBk ⟨ch, htN, tmN, es⟩ = .tuple #[.string ⟨(encBlk ⟨ch, htN, tmN, es⟩).toArray⟩, .int .i64 0] := by unfold encBk; rw [hM]; rfl
  rw [hR]
  have hE : encBlk ⟨ch, htN, tmN, es⟩ = putL (ch.size : Int) ++ ch.data.toList ++ putL (htN : Int) ++ putL (tmN : Int) ++ putL (n : Int) ++ es.flatMap itemE := by
    unfold encBlk textB
    simp only [hn, List.append_assoc]
  rw [hE] at hl8 ⊢
  obtain ⟨P0, hP0⟩ : ∃ P, putL (ch.size : Int) ++ ch.data.toList ++ putL (htN : Int) ++ putL (tmN : Int) ++ putL (n : Int) = P := ⟨_, rfl⟩
  have p1 := putL_len' (ch.size : Int)
  have p2 := putL_len' (htN : Int)
  have p3 := putL_len' (tmN : Int)
  have p4 := putL_len' (n : Int)
  have hPl : P0.length ≤ 100 := by rw [← hP0]; simp only [List.length_append, str_len]; omega
  rw [hP0] at hl8 ⊢
  have HP := Lib.hid hP0
  have HN := Lib.hid hn
  obtain ⟨FIN, hFIN⟩ : ∃ F : ByteArray, (⟨(P0 ++ es.flatMap itemE).toArray⟩ : ByteArray) = F := ⟨_, rfl⟩
  rw [hFIN]
  have HF := Lib.hid hFIN
  rw [List.length_append] at hl8
  simp only [hM] at CM
  have hn2 : n ≤ 1073741824 := by omega
  clear hR hM hE hlen hP0 hFIN
  go_enter Try.func9, Try.ntmps9
  go_upto_region 1 with fail
  refine wp_nameE _ (fun W1 hX => ?_)
  have hg : W1.heap[w.heap.size]? = some (.cells #[.string ch, .int .i64 (htN : Int), .int .i64 (tmN : Int), .slice a n cap] 24 (0, 0)) := by rw [hX]; exact hg0
  have hbel : Below w.heap.size w W1 := by rw [hX]; exact hbA
  clear hX hg0 hbA
  have hgl : w.heap.size < W1.heap.size := (Array.getElem?_eq_some_iff.1 hg).1
  have q0 := cell_heap hg 0; have q1 := cell_heap hg 1; have q2 := cell_heap hg 2; have q3 := cell_heap hg 3
  go_upto_region 3 with (go_at_call 15; refine (CM _ (hr.below hbel)).mono ?_; rintro e w2 ⟨rfl, hb⟩; have hg := cells_of hg hb hgl; have hgl := Nat.lt_of_lt_of_le hgl hb.size; have hbel := hbel.trans (hb.mono hbel.size); have q0 := cell_heap hg 0; have q1 := cell_heap hg 1; have q2 := cell_heap hg 2; have q3 := cell_heap hg 3; clear hb)
  clear CM
  have hwB : w.heap.size ≤ w2.heap.size := hbel.size
  have hgB := hgl
  go_upto_region 4 with (go_at_call 21; refine (wnew_any w2.heap.size _ (Nat.le_refl _)).mono ?_; rintro e w3 ⟨rfl, hW, hb⟩; have hBw := Nat.le_refl w2.heap.size; have hg := cells_of hg hb hgB; have hgl := Nat.lt_of_lt_of_le hgl hb.size; have hBw := Nat.le_trans hBw hb.size; have hbel := hbel.trans (hb.mono hwB); have q0 := cell_heap hg 0; have q1 := cell_heap hg 1; have q2 := cell_heap hg 2; have q3 := cell_heap hg 3; clear hb)
  go_upto_region 5 with (go_at_call 22; refine (wtext_ok w2.heap.size _ _ _ ch hW hBw ?_ ?_).mono ?_; omega; (first | exact Nat.zero_le _ | omega | (simp only [List.nil_append, List.length_append, str_len]; omega)); rintro e w4 ⟨rfl, hW, hb⟩; have hg := cells_of hg hb hgB; have hgl := Nat.lt_of_lt_of_le hgl hb.size; have hBw := Nat.le_trans hBw hb.size; have hbel := hbel.trans (hb.mono hwB); have q0 := cell_heap hg 0; have q1 := cell_heap hg 1; have q2 := cell_heap hg 2; have q3 := cell_heap hg 3; clear hb)
  go_upto_region 6 with (go_at_call 23; refine (wnum_ok w2.heap.size _ _ _ htN hW hBw ?_ ?_).mono ?_; omega; (first | exact Nat.zero_le _ | omega | (simp only [List.nil_append, List.length_append, str_len]; omega)); rintro e w5 ⟨rfl, hW, hb⟩; have hg := cells_of hg hb hgB; have hgl := Nat.lt_of_lt_of_le hgl hb.size; have hBw := Nat.le_trans hBw hb.size; have hbel := hbel.trans (hb.mono hwB); have q0 := cell_heap hg 0; have q1 := cell_heap hg 1; have q2 := cell_heap hg 2; have q3 := cell_heap hg 3; clear hb)
  go_upto_region 7 with (go_at_call 23; refine (wnum_ok w2.heap.size _ _ _ tmN hW hBw ?_ ?_).mono ?_; omega; (first | exact Nat.zero_le _ | omega | (simp only [List.nil_append, List.length_append, str_len]; omega)); rintro e w6 ⟨rfl, hW, hb⟩; have hg := cells_of hg hb hgB; have hgl := Nat.lt_of_lt_of_le hgl hb.size; have hBw := Nat.le_trans hBw hb.size; have hbel := hbel.trans (hb.mono hwB); have q0 := cell_heap hg 0; have q1 := cell_heap hg 1; have q2 := cell_heap hg 2; have q3 := cell_heap hg 3; clear hb)
  go_upto_region 8 with (go_at_call 23; refine (wnum_ok w2.heap.size _ _ _ n hW hBw ?_ ?_).mono ?_; omega; (first | exact Nat.zero_le _ | omega | (simp only [List.nil_append, List.length_append, str_len]; omega)); rintro e w7 ⟨rfl, hW, hb⟩; have hg := cells_of hg hb hgB; have hgl := Nat.lt_of_lt_of_le hgl hb.size; have hBw := Nat.le_trans hBw hb.size; have hbel := hbel.trans (hb.mono hwB); have q0 := cell_heap hg 0; have q1 := cell_heap hg 1; have q2 := cell_heap hg 2; have q3 := cell_heap hg 3; clear hb)
  go_upto_region 9 with fail
  simp only [List.nil_append] at hW
  rw [HP.out] at hW
  clear q0 q1 q2 q3 hg hgl hgB
  go_loopw [33] (fun i wr => ∃ k : Nat, k ≤ n ∧ WAt w2.heap.size w2.heap.size wr (P0 ++ (es.take k).flatMap itemE) 0 ∧ w2.heap.size ≤ wr.heap.size ∧ i = .int .i64 k ∧ Below w.heap.size w wr) (fun i _ => n - (intOf i).toNat)
  case atStart => exact ⟨0, Nat.zero_le _, by simpa using hW, hBw, rfl, hbel⟩
  case round =>
    clear hbel hW hBw
    obtain ⟨k, hk, hW, hBw, rfl, hbel⟩ := hrel
    by_cases hlt : k < n
    · have e1 : decide ((k : Int) < (n : Int)) = true := decide_eq_true (by omega)
      have e1n : decide (k < n) = true := decide_eq_true hlt
      have hkl : k < es.length := by rw [HN.out]; exact hlt
      obtain ⟨b, off, rfl, hb, hrg⟩ := ev_range (hr.below hbel) hkl
      have hsm := hq _ (List.getElem_mem hkl)
      have hmay := o7 _ (List.getElem_mem hkl)
      have hit := item_take hkl
      have hle := item_le (es := es) (k := k + 1)
      obtain ⟨⟨kd, sp, sc, dp, dc, sq, da, th, ta, ack, ep, ec, eh⟩, hp⟩ : ∃ p, es[k] = p := ⟨_, rfl⟩
      rw [hp] at hrg hsm hit hmay
      obtain ⟨s1, s2, s3⟩ := hsm
      simp only at s1 s2 s3
      have hrg : wr.rangeAt b (off + k * 13) [.int .i64 kd, .string sp, .int .i64 sc, .string dp, .int .i64 dc, .int .i64 sq, .string da, .int .i64 th, .int .i64 ta, .string ack, .string ep, .int .i64 ec, .int .i64 eh] := hrg
      have CE := fun W => encodeEv_any kd sp sc dp dc sq da th ta ack ep ec eh W s1 s2 s3
      have hEL := encE_len hmay
      rw [show encEv ⟨kd, sp, sc, dp, dc, sq, da, th, ta, ack, ep, ec, eh⟩ = .tuple #[.string ⟨(encE ⟨kd, sp, sc, dp, dc, sq, da, th, ta, ack, ep, ec, eh⟩).toArray⟩, .int .i64 0] by unfold encEv; rw [hmay]; rfl] at CE
      rw [show itemE ⟨kd, sp, sc, dp, dc, sq, da, th, ta, ack, ep, ec, eh⟩ = textB ⟨(encE ⟨kd, sp, sc, dp, dc, sq, da, th, ta, ack, ep, ec, eh⟩).toArray⟩ from rfl] at hit
      obtain ⟨X, hX⟩ : ∃ X : ByteArray, (⟨(encE ⟨kd, sp, sc, dp, dc, sq, da, th, ta, ack, ep, ec, eh⟩).toArray⟩ : ByteArray) = X := ⟨_, rfl⟩
      have hXs : X.size ≤ 1000 := by rw [← hX]; exact hEL
      simp only [hX] at CE hit
      rw [hit] at hle
      unfold textB at hle hit
      rw [List.length_append, List.length_append, str_len] at hle
      have n0 : (0 : Int) ≤ (k : Int) := by omega
      have n1 : (k : Int) < (n : Int) := by omega
      have n2 : ((k : Nat) : Int).toNat = k := by omega
      have HIT := Lib.hid hit
      clear hmay hEL hX hp hit
      go_upto_region 11 with (first | (refine wpList_load_mid rfl 43 (.tmp 35) rfl b _ rfl _ _ hrg Try.underlying43 rfl (by kernel_rfl) ?_) | (refine wpList_storeRowTo rfl (.tmp 6) (.tmp 36) 43 rfl (by kernel_rfl) rfl (by rfl) (heap_push _ _ _) rfl (Ev.row_one _ _ _ _ _ _ _ _ _ _ _ _ _) ?_))
      refine wp_nameE _ (fun W6 hX => ?_)
      have hE : W6.heap[wr.heap.size]? = some (.cells #[.int .i64 kd, .string sp, .int .i64 sc, .string dp, .int .i64 dc, .int .i64 sq, .string da, .int .i64 th, .int .i64 ta, .string ack, .string ep, .int .i64 ec, .int .i64 eh] 43 (0, 0)) := by rw [hX]; first | exact setRow_heap _ _ _ _ _ _ (heap_push _ _ _) | exact heap_push _ _ _
      have hb6 : Below wr.heap.size wr W6 := by rw [hX]; first | exact below_setRow (Below.alloc (Below.refl _ _) (Nat.le_refl _) _) (Nat.le_refl _) _ | exact Below.alloc (Below.refl _ _) (Nat.le_refl _) _
      have hW := hW.below hb6
      have hBw := Nat.le_trans hBw hb6.size
      have hbel := hbel.trans (hb6.mono hbel.size)
      clear hX hb6 hrg
      have q0 := cell_heap hE 0; have q1 := cell_heap hE 1; have q2 := cell_heap hE 2; have q3 := cell_heap hE 3; have q4 := cell_heap hE 4; have q5 := cell_heap hE 5; have q6 := cell_heap hE 6; have q7 := cell_heap hE 7; have q8 := cell_heap hE 8; have q9 := cell_heap hE 9; have q10 := cell_heap hE 10; have q11 := cell_heap hE 11; have q12 := cell_heap hE 12
      go_upto_region 15 with (first | (go_at_call 24; refine (CE _).mono ?_; rintro e we ⟨rfl, hb⟩; have hW := hW.below hb; have hBw := Nat.le_trans hBw hb.size; have hbel := hbel.trans (hb.mono hbel.size); clear hb) | (go_at_call 22; refine (wtext_ok w2.heap.size _ _ _ X hW hBw ?_ ?_).mono ?_; omega; (rw [List.length_append]; omega); rintro e wt ⟨rfl, hW, hb⟩; have hBw := Nat.le_trans hBw hb.size; have hbel := hbel.trans (hb.mono hwB); clear hb))
      go_wp2
      go_roundw
      case rel => exact ⟨k + 1, by omega, by rw [HIT.out]; simp only [List.append_assoc] at hW ⊢; exact hW, hBw, by go_num, hbel⟩
      case measure => (simp [intOf]) <;> omega
    · have e1 : decide ((k : Int) < (n : Int)) = false := decide_eq_false (by omega)
      have e1n : decide (k < n) = false := decide_eq_false hlt
      rw [List.take_of_length_le (by rw [HN.out]; omega)] at hW
      have CB := wbytes_rd w2.heap.size _ _ _ hW.rd hBw
      go_wp2_with (go_at_call 25; refine CB.mono ?_; rintro e w9 ⟨rfl, hW9, hb⟩; have hbel := hbel.trans (hb.mono hwB); clear hb)
      go_returns
      exact ⟨by rw [← HF.out]; first | rfl | simp, hbel⟩
theorem first10_val : encBk ⟨⟨#[97]⟩, 1, 2, []⟩ = .tuple #[.string ⟨#[1, 97, 1, 2, 0]⟩, .int .i64 0] := by
  have h1 : mayBlk ⟨⟨#[97]⟩, 1, 2, []⟩ = true := by decide +kernel
  have h2 : encBlk ⟨⟨#[97]⟩, 1, 2, []⟩ = [1, 97, 1, 2, 0] := by decide +kernel
  unfold encBk
  rw [h1, h2]
  rfl
set_option maxRecDepth 100000 in
set_option maxHeartbeats 6400000 in
theorem first10_any (w : World) :
    Calls Try.prog 7 #[] w fun e w' => e = .returned (.bool true) ∧ Below w.heap.size w w' := by
  have CE := fun W => encodeBlk_any ⟨#[97]⟩ 1 2 none 0 0 [] W (by decide) (RowAt.nil _ _) rfl (Nat.le_refl _) (Nat.zero_le _) (by simp) (fun _ => by decide +kernel)
  rw [first10_val] at CE
  go_enter Try.func7, Try.ntmps7
  go_wp2_with (go_at_call 9; refine (CE _).mono ?_; rintro e w1 ⟨rfl, hb⟩)
  go_ret
  exact ⟨rfl, hb⟩
end Go.Proofs.Ytcbacchelabljaa
