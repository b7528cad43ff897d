/- Reading a key in the document's own answer: the mathematics. -/
import Derived.Test.YtemmblfjmhcenaaDoorPathSp
import Derived.WalkKit
import Derived.ProofKit
import Derived.Handy
import Derived.Below
import Derived.BigQuiet
import Derived.Lib.Hide
import Derived.IntWalk
import Derived.Outline
import Derived.WalkLawsBesides
import Derived.WalkSpells
namespace Go.Proofs.YtemmblfjmhcenaaDoor
open Go.RowKit
theorem read_found {s : ByteArray} (h : readB s = true) : ∃ K P C N, ofE K P C N = s ∧ s ≠ ⟨#[]⟩ := by
  unfold readB at h
  rw [Bool.and_eq_true] at h
  refine ⟨rdK s, rdP s, rdC s, rdN s, ?_, ?_⟩
  · have := h.2
    rw [ByteArray.toList_eq, ByteArray.toList_eq, beq_iff_eq] at this
    exact ByteArray.ext (Array.toList_inj.1 this)
  · rintro rfl
    have : rdOk ⟨#[]⟩ = false := by decide +kernel
    rw [this] at h; exact absurd h.1 (by decide)
theorem ext_list {a b : ByteArray} (h : a.data.toList = b.data.toList) : a = b := ByteArray.ext (Array.toList_inj.1 h)
/-- The pieces of a key. -/
theorem of_pieces {k : Int} {p : ByteArray} {c n : Int} (h : ofE k p c n ≠ ⟨#[]⟩) {O : List ByteArray} (hO : O.map (fun x => x.data.toList) = spl (ofE k p c n).data.toList) :
    ∃ o0 o1 o3 o4, 9 ≤ o4.size ∧ o4.extract 8 o4.size = itB c ∧ 0 ≤ c ∧ c ≤ 999 ∧ ((O = [o0, o1, p, o3, o4] ∧ n = 0) ∨ ∃ o5, O = [o0, o1, p, o3, o4, o5, itB n] ∧ 1 ≤ n ∧ n ≤ 1099511627776) := by
  obtain ⟨hk, hm, hs, hl⟩ := of_list h
  obtain ⟨_, c0, c9⟩ := mayE_bd hm
  rw [hl, spl_piece _ _ (word_noslash hk), spl_piece _ _ (by decide), spl_piece _ _ (nm_noslash (mayE_nm hm)), spl_piece _ _ (by decide), ← List.append_assoc] at hO
  obtain ⟨ch, hch⟩ : ∃ l, (⟨#[99, 104, 97, 110, 110, 101, 108, 45]⟩ : ByteArray).data.toList ++ (itB c).data.toList = l := ⟨_, rfl⟩
  have hns : 47 ∉ ch := by rw [← hch]; exact chan_noslash c0
  have h8 : ch.drop 8 = (itB c).data.toList := by rw [← hch]; exact List.drop_left' rfl
  have h9 : 9 ≤ ch.length := by
    have : 1 ≤ (itB c).data.toList.length := by
      rw [itB_list c0, Lib.decDigits_length]; unfold Lib.nDigits; split <;> omega
    have e8 : (⟨#[99, 104, 97, 110, 110, 101, 108, 45]⟩ : ByteArray).data.toList.length = 8 := rfl
    rw [← hch, List.length_append, e8]; omega
  rw [hch] at hO
  have four : ∀ o4 : ByteArray, o4.data.toList = ch → 9 ≤ o4.size ∧ o4.extract 8 o4.size = itB c := fun o4 e => by
    refine ⟨by rw [← str_len, e]; exact h9, ext_list ?_⟩
    rw [str_drop, e, h8]
  cases hn : numdB k
  · rw [hn] at hs
    simp only [Bool.false_eq_true, if_false] at hs
    have ht : tailL k n = [] := by unfold tailL; rw [hn]; rfl
    rw [ht, List.append_nil, spl_last _ hns] at hO
    have hlen : O.length = 5 := by simpa using congrArg List.length hO
    match O, hO, hlen with
    | [o0, o1, o2, o3, o4], hO, _ =>
      simp only [List.map_cons, List.map_nil, List.cons.injEq, and_true] at hO
      obtain ⟨_, _, e2, _, e4⟩ := hO
      obtain rfl := ext_list e2
      exact ⟨o0, o1, o3, o4, (four o4 e4).1, (four o4 e4).2, c0, c9, .inl ⟨rfl, hs⟩⟩
  · rw [hn] at hs
    simp only [if_true] at hs
    unfold seqB at hs
    simp only [Bool.and_eq_true, decide_eq_true_eq] at hs
    have ht : tailL k n = 47 :: ((⟨#[115, 101, 113, 117, 101, 110, 99, 101, 115]⟩ : ByteArray).data.toList ++ 47 :: (itB n).data.toList) := by unfold tailL; rw [hn, if_pos rfl]
    rw [ht, spl_piece _ _ hns, spl_piece _ _ (by decide), spl_last _ (it_noslash (by omega))] at hO
    have hlen : O.length = 7 := by simpa using congrArg List.length hO
    match O, hO, hlen with
    | [o0, o1, o2, o3, o4, o5, o6], hO, _ =>
      simp only [List.map_cons, List.map_nil, List.cons.injEq, and_true] at hO
      obtain ⟨_, _, e2, _, e4, _, e6⟩ := hO
      obtain rfl := ext_list e2
      obtain rfl := ext_list e6
      exact ⟨o0, o1, o3, o4, (four o4 e4).1, (four o4 e4).2, c0, c9, .inr ⟨o5, rfl, hs.1, hs.2⟩⟩
theorem no_read {s : ByteArray} {O : List ByteArray} (hO : O.map (fun x => x.data.toList) = spl s.data.toList)
    (h : ∀ K P C N o0 o1 o3 o4, ofE K P C N = s → 9 ≤ o4.size → o4.extract 8 o4.size = itB C → 0 ≤ C → C ≤ 999 → ((O = [o0, o1, P, o3, o4] ∧ N = 0) ∨ ∃ o5, O = [o0, o1, P, o3, o4, o5, itB N] ∧ 1 ≤ N ∧ N ≤ 1099511627776) → False) : readB s = false := by
  rw [Bool.eq_false_iff]
  intro hr
  obtain ⟨K, P, C, N, e, hne⟩ := read_found hr
  subst e
  obtain ⟨o0, o1, o3, o4, a1, a2, a3, a4, a5⟩ := of_pieces hne hO
  exact h K P C N o0 o1 o3 o4 rfl a1 a2 a3 a4 a5
theorem kind_nat {k : Int} (h : kindB k = true) : ∃ j : Nat, k = j ∧ 1 ≤ j ∧ j < 8 := by
  unfold kindB at h; simp only [Bool.and_eq_true, decide_eq_true_eq] at h
  exact ⟨k.toNat, by omega, by omega, by omega⟩
theorem of_kind {k : Int} {p : ByteArray} {c n : Int} {s : ByteArray} (h : ofE k p c n = s) (hs : s ≠ ⟨#[]⟩) : kindB k = true := (of_list (by rw [h]; exact hs)).1
theorem num_it {c : Int} (h0 : 0 ≤ c) (h1 : c ≤ 72057594037927935) : numEB (itB c) = 0 ∧ numVB (itB c) = c := by
  obtain ⟨C, rfl⟩ := Int.eq_ofNat_of_zero_le h0
  exact num_dec (by omega)
theorem own_cells {w : World} {base : Nat} {e : TypeId} {v : Value} {n : Nat} {xs : List Value} (h : w.ownsRow base e 1 v n xs) (hn : 0 < n) :
    ∃ g cap, v = .slice (some ⟨g, 0, none⟩) n cap ∧ g < w.heap.size ∧ ∀ k x, xs[k]? = some x → w.cell? ⟨g, k, none⟩ = some x := by
  obtain ⟨hl, hr⟩ := h
  rcases hr with ⟨_, h0⟩ | ⟨g, cap, cur, hv, hb, hg, hnc, hcm, hcs, htake⟩
  · omega
  refine ⟨g, cap, hv, (Array.getElem?_eq_some_iff.1 hg).1, fun k x hk => ?_⟩
  unfold World.cell?; rw [hg]
  rw [← htake] at hk
  have hk2 := (List.getElem?_eq_some_iff.1 hk).1
  rw [List.getElem?_take_of_lt (by rw [List.length_take] at hk2; omega), Array.getElem?_toList] at hk
  exact hk
end Go.Proofs.YtemmblfjmhcenaaDoor
