/- Records, one behind the other, and what is none behind them. -/
import Derived.Test.YtfblbholkhdldaaDoorFrM
import Derived.Test.YtfblbholkhdldaaDoorTxt
import Derived.WalkKit
import Derived.ProofKit
import Derived.Handy
import Derived.Below
import Derived.Lib.Hide
import Derived.IntWalk
import Derived.Outline
import Derived.WalkLawsBesides
import Derived.WalkSpells
namespace Go.Proofs.YtfblbholkhdldaaDoor
open Go.RowKit
attribute [local go_sem] strV
set_option linter.unusedVariables false
/-- The records of bodies. -/
def recs (bs : List ByteArray) : List UInt8 := bs.flatMap fun b => (putB b).data.toList
theorem recs_app (a b : List ByteArray) : recs (a ++ b) = recs a ++ recs b := by simp [recs]
theorem recs_split {bs : List ByteArray} {k : Nat} (hk : k < bs.length) : recs bs = recs (bs.take k) ++ ((putB bs[k]).data.toList ++ recs (bs.drop (k + 1))) := by
  have h : bs = bs.take k ++ (bs[k] :: bs.drop (k + 1)) := by rw [← List.drop_eq_getElem_cons hk, List.take_append_drop]
  rw [show recs bs = recs (bs.take k ++ (bs[k] :: bs.drop (k + 1))) by rw [← h], recs_app]
  rfl
theorem recs_take {bs : List ByteArray} {k : Nat} (hk : k < bs.length) : recs (bs.take (k + 1)) = recs (bs.take k) ++ (putB bs[k]).data.toList := by
  rw [List.take_add_one, List.getElem?_eq_getElem hk, recs_app]
  simp [recs]
theorem recs_le {bs : List ByteArray} {k : Nat} : (recs (bs.take k)).length ≤ (recs bs).length := by
  have : recs bs = recs (bs.take k) ++ recs (bs.drop k) := by rw [← recs_app, List.take_append_drop]
  rw [this, List.length_append]; omega
theorem next_at {S : ByteArray} {bs : List ByteArray} {t : List UInt8} (hS : S.data.toList = recs bs ++ t) (hb : ∀ b ∈ bs, b.size ≤ 1000000) {k : Nat} (hk : k < bs.length) :
    nextFr S ((recs (bs.take k)).length : Nat) = (bs[k], (((recs (bs.take (k + 1))).length : Nat) : Int), (0 : Int)) := by
  have hbk : bs[k].size ≤ 1000000 := hb _ (List.getElem_mem _)
  have hsp := recs_split hk
  have hle : (recs (bs.take k)).length ≤ S.size := by rw [← str_len, hS, List.length_append]; have := recs_le (bs := bs) (k := k); omega
  obtain ⟨L, hL⟩ : ∃ L, S.extract (recs (bs.take k)).length S.size = L := ⟨_, rfl⟩
  have hLl : L.data.toList = b4 bs[k].size ++ (chk bs[k].data.toList ++ bs[k].data.toList) ++ (recs (bs.drop (k + 1)) ++ t) := by
    rw [← hL, ext_list, hS, hsp, List.append_assoc, List.drop_left, putB_list]
    rw [List.take_of_length_le]
    · simp
    · rw [← str_len (s := S), hS, hsp]; simp only [List.length_append, putB_list]; omega
  obtain ⟨h1, h2, h3, h4⟩ := fr_parts (by omega) hLl
  have hput := putB_size bs[k]
  unfold nextFr
  rw [if_neg (by omega), Int.toNat_natCast, hL]
  simp only [h1]
  rw [if_neg (by omega), if_neg (by omega), if_neg (by omega), h4, h3, if_pos rfl]
  have hl : (recs (bs.take (k + 1))).length = (recs (bs.take k)).length + (8 + bs[k].size) := by rw [recs_take hk, List.length_append, str_len, hput]
  rw [hl]
  congr 2
  omega
theorem next_end {S : ByteArray} {bs : List ByteArray} {t : List UInt8} (hS : S.data.toList = recs bs ++ t) (ht : t.length < 8) : nextFr S ((recs bs).length : Nat) = (⟨#[]⟩, 0, 2) := by
  have hsz : S.size = (recs bs).length + t.length := by rw [← str_len, hS, List.length_append]
  unfold nextFr
  rw [if_neg (by omega), Int.toNat_natCast]
  have : (S.extract (recs bs).length S.size).size < 8 := by simp; omega
  simp only [if_pos this]
theorem strs_flat (l : List ByteArray) : l.flatMap sval = l.map Value.string := by
  induction l with
  | nil => rfl
  | cons x l ih => rw [List.flatMap_cons, List.map_cons, ih]; rfl
theorem strs_below {w w' : World} {base : Nat} {e : TypeId} {size n : Nat} {v : Value} {xs : List Value} (h : w.ownsRow base e size v n xs) (hb : Below w.heap.size w w') : w'.ownsRow base e size v n xs := by
  obtain ⟨h1, h2⟩ := h
  refine ⟨h1, ?_⟩
  rcases h2 with h | ⟨g, cap, cur, h3, h4, h5, h6⟩
  · exact .inl h
  · exact .inr ⟨g, cap, cur, h3, h4, (hb.block g (Array.getElem?_eq_some_iff.1 h5).1).trans h5, h6⟩
/-- One round of the classes. -/
theorem info_str : (Tryd.prog.info? 9).map (fun i => (i.zero, i.size, i.bytes)) = some (some (.string ⟨#[]⟩), 1, 16) := by kernel_rfl
set_option maxRecDepth 100000 in
set_option maxHeartbeats 6400000 in
theorem all_recs (S : ByteArray) (bs : List ByteArray) (t : List UInt8) (w : World) (hW : SW w) (hS : S.data.toList = recs bs ++ t) (ht : t.length < 8) (hs : S.size ≤ 1000000) (hb : ∀ b ∈ bs, b.size ≤ 1000000) (hn : bs.length ≤ 1000) :
    Calls Tryd.prog 53 #[.string S] w fun e w' => ∃ a cap, e = .returned (.tuple #[.slice a bs.length cap, .int .i64 (recs bs).length, .int .i64 (if t.length = 0 then 0 else 2)]) ∧ RowAt w' a (bs.flatMap sval) ∧ Below w.heap.size w w' := by
  have hsz : S.size = (recs bs).length + t.length := by rw [← str_len, hS, List.length_append]
  have HS := Lib.hid hS
  obtain ⟨n, hbn⟩ : ∃ n, bs.length = n := ⟨_, rfl⟩
  have HN := Lib.hid hbn
  have HZ := Lib.hid hsz
  obtain ⟨i0, hi, hz0, hz1, hz2⟩ := info_parts info_str
  rw [hbn] at hn
  rw [hbn]
  obtain ⟨E, hE⟩ : ∃ E : Int, (if t.length = 0 then (0 : Int) else 2) = E := ⟨_, rfl⟩
  rw [hE]
  have HE := Lib.hid hE
  clear hS hbn hsz hE
  go_enter Tryd.func53, Tryd.ntmps53
  go_upto_region 3 with fail
  go_loopw [5, 6] (fun v i wr => ∃ k : Nat, k ≤ n ∧ wr.ownsRow w.heap.size 9 1 v k ((bs.take k).map Value.string) ∧ Below w.heap.size w wr ∧ i = .int .i64 ((recs (bs.take k)).length : Nat)) (fun _ i _ => S.size - (intOf i).toNat)
  case atStart => exact ⟨0, Nat.zero_le _, ⟨rfl, .inl ⟨rfl, rfl⟩⟩, Below.refl _ _, rfl⟩
  case round =>
    obtain ⟨k, hk, hown, hbel, rfl⟩ := hrel
    obtain ⟨p, hp⟩ : ∃ p, (recs (bs.take k)).length = p := ⟨_, rfl⟩
    have hle := recs_le (bs := bs) (k := k)
    have hW1 := hW.below hbel
    have hsize := hbel.size
    rw [hp] at hle
    simp only [hp]
    by_cases hlt : k < n
    · have hks : k < bs.length := by have := HN.out; omega
      have hrt := recs_take hks
      have hnx := next_at HS.out hb hks
      obtain ⟨b, hbk⟩ : ∃ b, bs[k] = b := ⟨_, rfl⟩
      have htk : bs.take (k + 1) = bs.take k ++ [b] := by rw [List.take_add_one, List.getElem?_eq_getElem hks, hbk]; rfl
      rw [hbk] at hrt hnx
      have hl2 : (recs (bs.take (k + 1))).length = p + (8 + b.size) := by rw [hrt, List.length_append, hp, str_len, putB_size]
      have hle2 := recs_le (bs := bs) (k := k + 1)
      rw [hl2] at hle2
      rw [hp, hl2] at hnx
      have d0 : p < S.size := by have := HZ.out; omega
      have d1 : decide ((p : Int) < (S.size : Int)) = true := decide_eq_true (by omega)
      have CN := fnext_any S (p : Int) wr hW1 hs
      rw [hnx] at CN
      go_upto_region 7 with (go_at_call 49; refine CN.mono ?_; rintro e w1 ⟨rfl, hb1⟩)
      have hbel1 := hbel.trans (hb1.mono hbel.size)
      have hown1 := strs_below hown hb1
      have hsz1 : w.heap.size ≤ w1.heap.size := hbel1.size
      go_wp2_with (at_builtin; refine wpList_push rfl (.tmp 26) (.tmp 28) 22 rfl 9 i0 (.string ⟨#[]⟩) 16 Tryd.underlying22 hi hz0 hz1 hz2 rfl hown1 rfl _ rfl rfl (by unfold maxLen; omega) (by omega) hsz1 ?_)
      intro v' w' hown2 hbel2
      go_wp2
      go_roundw
      case rel => exact ⟨k + 1, by omega, by rw [htk, List.map_append, List.map_take]; exact hown2, hbel1.trans hbel2, by rw [hl2]; go_num⟩
      case measure => (simp [intOf]) <;> omega
    · obtain rfl : k = n := by omega
      have htk : bs.take k = bs := List.take_of_length_le (by have := HN.out; omega)
      rw [htk] at hp hown
      obtain ⟨a, cap, hv, hrow, _⟩ := RowAt.own hown
      subst hv
      have hrow2 : RowAt wr a (bs.flatMap sval) := by rw [strs_flat]; exact hrow
      have hz := HZ.out
      rw [hp] at hz
      by_cases h0 : t.length = 0
      · have d0 : ¬ p < S.size := by omega
        have d1 : decide ((p : Int) < (S.size : Int)) = false := decide_eq_false (by omega)
        have hE := HE.out
        rw [if_pos h0] at hE
        subst hE
        go_wp2
        go_returns
        exact ⟨_, _, by rw [← hp]; rfl, hrow2, hbel⟩
      · have d0 : p < S.size := by omega
        have d1 : decide ((p : Int) < (S.size : Int)) = true := decide_eq_true (by omega)
        have hE := HE.out
        rw [if_neg h0] at hE
        subst hE
        have hnx := next_end HS.out ht
        rw [hp] at hnx
        have CN := fnext_any S (p : Int) wr hW1 hs
        rw [hnx] at CN
        go_wp2_with (go_at_call 49; refine CN.mono ?_; rintro e w1 ⟨rfl, hb1⟩)
        go_returns
        exact ⟨_, _, by rw [← hp]; rfl, hrow2.below hb1, hbel.trans (hb1.mono hbel.size)⟩
end Go.Proofs.YtfblbholkhdldaaDoor
