/- What Of tells is read as it was: the mathematics. -/
import Derived.Test.YtemmblfjmhcenaaDoorPathRead
import Derived.WalkKit
import Derived.ProofKit
import Derived.Handy
import Derived.Below
import Derived.BigQuiet
import Derived.Lib.Hide
import Derived.IntWalk
import Derived.Outline
import Derived.WalkLawsBesides
import Derived.WalkSpells
namespace Go.Proofs.YtemmblfjmhcenaaDoor
open Go.RowKit
/-- The first place of a text that begins with a slash, behind what has none. -/
theorem index_sep (t : List UInt8) : ∀ (x y : List UInt8), 47 ∉ x → Lib.index (x ++ ((47 :: t) ++ y)) (47 :: t) = x.length
  | [], y, _ => by
    have : (47 :: t : List UInt8).isPrefixOf (47 :: (t ++ y)) = true := by
      rw [List.isPrefixOf_iff_prefix]; exact ⟨y, by simp⟩
    show Lib.index (47 :: (t ++ y)) (47 :: t) = _
    unfold Lib.index
    rw [this]; rfl
  | b :: x, y, hn => by
    have hb : b ≠ 47 := fun e => hn (by rw [e]; exact List.mem_cons_self ..)
    have ih := index_sep t x y (fun e => hn (List.mem_cons_of_mem _ e))
    show Lib.index (b :: (x ++ ((47 :: t) ++ y))) (47 :: t) = _
    unfold Lib.index
    have : (47 :: t : List UInt8).isPrefixOf (b :: (x ++ ((47 :: t) ++ y))) = false := by
      simp only [List.isPrefixOf, Bool.and_eq_false_iff]; left; exact beq_eq_false_iff_ne.2 (fun e => hb e.symm)
    rw [this, ih]
    simp
theorem index_nosep (t : List UInt8) : ∀ (x : List UInt8), 47 ∉ x → Lib.index x (47 :: t) = -1
  | [], _ => by rfl
  | b :: x, hn => by
    have hb : b ≠ 47 := fun e => hn (by rw [e]; exact List.mem_cons_self ..)
    have ih := index_nosep t x (fun e => hn (List.mem_cons_of_mem _ e))
    unfold Lib.index
    have : (47 :: t : List UInt8).isPrefixOf (b :: x) = false := by
      simp only [List.isPrefixOf, Bool.and_eq_false_iff]; left; exact beq_eq_false_iff_ne.2 (fun e => hb e.symm)
    rw [this, ih]; rfl
theorem cut_sep (t x y : List UInt8) (h : 47 ∉ x) : Lib.cut (x ++ ((47 :: t) ++ y)) (47 :: t) = (x, y, true) := by
  unfold Lib.cut
  rw [index_sep t x y h, if_pos (by omega)]
  congr 1
  · rw [Int.toNat_natCast, List.take_left]
  · congr 1
    rw [Int.toNat_natCast, ← List.append_assoc, ← List.length_append, List.drop_left]
theorem cut_nosep (t x : List UInt8) (h : 47 ∉ x) : Lib.cut x (47 :: t) = (x, [], false) := by
  unfold Lib.cut
  rw [index_nosep t x h, if_neg (by decide)]
theorem ba_eq {x : ByteArray} {l : List UInt8} (h : x.data.toList = l) : (⟨l.toArray⟩ : ByteArray) = x := by
  subst h; exact ByteArray.ext (by simp)
theorem chan_noslash {n : Int} (h : 0 ≤ n) : 47 ∉ (⟨#[99, 104, 97, 110, 110, 101, 108, 45]⟩ : ByteArray).data.toList ++ (itB n).data.toList := by
  intro hm
  rcases List.mem_append.1 hm with h1 | h1
  · revert h1; decide
  · exact it_noslash h h1
theorem read_of {k : Int} {p : ByteArray} {c n : Int} (h : ofE k p c n ≠ ⟨#[]⟩) :
    rdK (ofE k p c n) = k ∧ rdP (ofE k p c n) = p ∧ rdC (ofE k p c n) = c ∧ rdN (ofE k p c n) = n ∧ rdOk (ofE k p c n) = true := by
  obtain ⟨hk, hm, hs, hl⟩ := of_list h
  obtain ⟨_, c0, c9⟩ := mayE_bd hm
  obtain ⟨s, hse⟩ : ∃ s, ofE k p c n = s := ⟨_, rfl⟩
  rw [hse] at hl ⊢
  obtain ⟨ch, hch⟩ : ∃ l, (⟨#[99, 104, 97, 110, 110, 101, 108, 45]⟩ : ByteArray).data.toList ++ (itB c).data.toList = l := ⟨_, rfl⟩
  have hns : 47 ∉ ch := by rw [← hch]; exact chan_noslash c0
  have e1 : s.data.toList = (wordB k).data.toList ++ ((47 :: [112, 111, 114, 116, 115, 47]) ++ (p.data.toList ++ ((47 :: [99, 104, 97, 110, 110, 101, 108, 115, 47]) ++ (ch ++ tailL k n)))) := by
    rw [hl, ← hch, List.append_assoc]; rfl
  have c1 : cutL s (⟨#[47, 112, 111, 114, 116, 115, 47]⟩ : ByteArray) = ((wordB k).data.toList, p.data.toList ++ ((47 :: [99, 104, 97, 110, 110, 101, 108, 115, 47]) ++ (ch ++ tailL k n)), true) := by
    unfold cutL; rw [e1]; exact cut_sep _ _ _ (word_noslash hk)
  have hK : rdK s = k := by
    unfold rdK cutA; rw [c1]; simp only []
    rw [ba_eq rfl]; exact kindOf_of hk rfl
  have hR : rdR s = ⟨(p.data.toList ++ ((47 :: [99, 104, 97, 110, 110, 101, 108, 115, 47]) ++ (ch ++ tailL k n))).toArray⟩ := by unfold rdR cutR; rw [c1]
  have c2 : cutL (rdR s) (⟨#[47, 99, 104, 97, 110, 110, 101, 108, 115, 47]⟩ : ByteArray) = (p.data.toList, ch ++ tailL k n, true) := by
    unfold cutL; rw [hR]; exact cut_sep _ _ _ (nm_noslash (mayE_nm hm))
  have hP : rdP s = p := by unfold rdP cutA; rw [c2]
  have hQ : rdQ s = ⟨(ch ++ tailL k n).toArray⟩ := by unfold rdQ cutR; rw [c2]
  have hc3 : rdM s = ⟨ch.toArray⟩ ∧ (if numdB k = true then rdO s = itB n else rdO s = ⟨#[]⟩) := by
    cases hn : numdB k
    · have ht : tailL k n = [] := by unfold tailL; rw [hn]; rfl
      rw [ht, List.append_nil] at hQ
      have c3 : cutL (rdQ s) (⟨#[47, 115, 101, 113, 117, 101, 110, 99, 101, 115, 47]⟩ : ByteArray) = (ch, [], false) := by unfold cutL; rw [hQ]; exact cut_nosep _ _ hns
      exact ⟨by unfold rdM cutA; rw [c3], by rw [if_neg (by decide)]; unfold rdO cutR; rw [c3]⟩
    · have ht : tailL k n = (47 :: [115, 101, 113, 117, 101, 110, 99, 101, 115, 47]) ++ (itB n).data.toList := by unfold tailL; rw [hn, if_pos rfl]; rfl
      rw [ht] at hQ
      have c3 : cutL (rdQ s) (⟨#[47, 115, 101, 113, 117, 101, 110, 99, 101, 115, 47]⟩ : ByteArray) = (ch, (itB n).data.toList, true) := by unfold cutL; rw [hQ]; exact cut_sep _ _ _ hns
      exact ⟨by unfold rdM cutA; rw [c3], by rw [if_pos rfl]; unfold rdO cutR; rw [c3]⟩
  obtain ⟨hM, hO⟩ := hc3
  obtain ⟨C, rfl⟩ := Int.eq_ofNat_of_zero_le c0
  have hD : digs (rdM s) = itB (C : Int) ∧ hasCh (rdM s) = true := by
    have hp : Lib.hasPrefix (rdM s).data.toList (⟨#[99, 104, 97, 110, 110, 101, 108, 45]⟩ : ByteArray).data.toList = true := by
      rw [hM]; show Lib.hasPrefix ch _ = true
      unfold Lib.hasPrefix; rw [List.isPrefixOf_iff_prefix]; exact ⟨_, hch⟩
    refine ⟨?_, hp⟩
    unfold digs Lib.trimPrefix
    rw [hp, if_pos rfl, hM]
    show (⟨(List.drop _ ch).toArray⟩ : ByteArray) = _
    rw [← hch, List.drop_left]
  obtain ⟨hE, hV⟩ := num_dec (u := C) (by omega)
  have hC : rdC s = C := by unfold rdC; rw [hD.1, hV]
  have hok : okE (rdP s) (rdM s) = true := by unfold okE; rw [hD.2, hD.1, hE, hV, hP, hm]; rfl
  cases hn : numdB k
  · rw [hn] at hs hO
    simp only [Bool.false_eq_true, if_false] at hs hO
    subst hs
    have h0 : (rdO s).size = 0 := by rw [hO]; rfl
    exact ⟨hK, hP, hC, by unfold rdN; rw [if_pos h0], by unfold rdOk; rw [hok, decide_eq_true h0]; rfl⟩
  · rw [hn] at hs hO
    simp only [if_true] at hs hO
    unfold seqB at hs
    simp only [Bool.and_eq_true, decide_eq_true_eq] at hs
    obtain ⟨N, rfl⟩ := Int.eq_ofNat_of_zero_le (show 0 ≤ n by omega)
    obtain ⟨hE2, hV2⟩ := num_dec (u := N) (by omega)
    have h0 : ¬ (rdO s).size = 0 := by
      rw [hO, ← str_len, itB_list (by omega), Int.toNat_natCast, Lib.decDigits_length]
      unfold Lib.nDigits; split <;> omega
    exact ⟨hK, hP, hC, by unfold rdN; rw [if_neg h0, hO, hV2], by unfold rdOk; rw [hok, hO, hE2]; simp⟩
theorem read_back {k : Int} {p : ByteArray} {c n : Int} (h : ofE k p c n ≠ ⟨#[]⟩) : readR (ofE k p c n) = .returned (.tuple #[.int .i64 k, .agg #[.string p, .int .i64 c], .int .i64 n, .int .i64 0]) := by
  obtain ⟨h1, h2, h3, h4, h5⟩ := read_of h
  rw [read_ok (by unfold readB; rw [h5, h1, h2, h3, h4]; simp), h1, h2, h3, h4]
theorem parse_back {p : ByteArray} {c : Int} (h : mayE p c = true) : parseR (textE p c) = .returned (.tuple #[.agg #[.string p, .int .i64 c], .int .i64 0]) := by
  obtain ⟨_, c0, c9⟩ := mayE_bd h
  have hl : (textE p c).data.toList = p.data.toList ++ ((47 :: []) ++ ((⟨#[99, 104, 97, 110, 110, 101, 108, 45]⟩ : ByteArray).data.toList ++ (itB c).data.toList)) := by
    unfold textE; rw [if_pos h]; simp only [str_append, List.append_assoc]
    first | done | rfl
  obtain ⟨ch, hch⟩ : ∃ l, (⟨#[99, 104, 97, 110, 110, 101, 108, 45]⟩ : ByteArray).data.toList ++ (itB c).data.toList = l := ⟨_, rfl⟩
  rw [hch] at hl
  have c1 : cutL (textE p c) (⟨#[47]⟩ : ByteArray) = (p.data.toList, ch, true) := by unfold cutL; rw [hl]; exact cut_sep [] _ _ (nm_noslash (mayE_nm h))
  have hP : pPort (textE p c) = p := by unfold pPort; rw [c1]
  have hM : pRest (textE p c) = ⟨ch.toArray⟩ := by unfold pRest; rw [c1]
  obtain ⟨C, rfl⟩ := Int.eq_ofNat_of_zero_le c0
  have hp : Lib.hasPrefix (pRest (textE p (C : Int))).data.toList (⟨#[99, 104, 97, 110, 110, 101, 108, 45]⟩ : ByteArray).data.toList = true := by
    rw [hM]; show Lib.hasPrefix ch _ = true
    unfold Lib.hasPrefix; rw [List.isPrefixOf_iff_prefix]; exact ⟨_, hch⟩
  have hD : digs (pRest (textE p (C : Int))) = itB (C : Int) := by
    unfold digs Lib.trimPrefix
    rw [hp, if_pos rfl, hM]
    show (⟨(List.drop _ ch).toArray⟩ : ByteArray) = _
    rw [← hch, List.drop_left]
  obtain ⟨hE, hV⟩ := num_dec (u := C) (by omega)
  have hok : okE (pPort (textE p (C : Int))) (pRest (textE p (C : Int))) = true := by unfold okE; rw [show hasCh (pRest (textE p (C : Int))) = true from hp, hD, hE, hV, hP, h]; rfl
  unfold parseR; rw [if_pos hok, hP, hD, hV]
theorem of_size (k : Int) (p : ByteArray) (c n : Int) : (ofE k p c n).size ≤ 160 := by
  by_cases h : ofE k p c n = ⟨#[]⟩
  · rw [h]; exact Nat.zero_le _
  · obtain ⟨hk, hm, hs, hl⟩ := of_list h
    obtain ⟨h12, c0, c9⟩ := mayE_bd hm
    have w16 := (word_some hk).2
    have i1 := itB_size c (by omega) (by omega)
    rw [← str_len, hl]
    simp only [List.length_append, List.length_cons, List.length_nil, str_len]
    have t : (tailL k n).length ≤ 40 := by
      unfold tailL
      cases hn : numdB k
      · rw [if_neg (by decide)]; exact Nat.zero_le _
      · rw [if_pos rfl]
        rw [hn] at hs
        simp only [if_true] at hs
        unfold seqB at hs
        simp only [Bool.and_eq_true, decide_eq_true_eq] at hs
        have i2 := itB_size n (by omega) (by omega)
        simp only [List.length_append, List.length_cons, List.length_nil, str_len]
        have : ((⟨#[115, 101, 113, 117, 101, 110, 99, 101, 115]⟩ : ByteArray)).size = 9 := rfl
        omega
    have a1 : ((⟨#[112, 111, 114, 116, 115]⟩ : ByteArray)).size = 5 := rfl
    have a2 : ((⟨#[99, 104, 97, 110, 110, 101, 108, 115]⟩ : ByteArray)).size = 8 := rfl
    have a3 : ((⟨#[99, 104, 97, 110, 110, 101, 108, 45]⟩ : ByteArray)).size = 8 := rfl
    omega
end Go.Proofs.YtemmblfjmhcenaaDoor
