/- The pieces between slashes, walked. -/
import Derived.Test.YtemmblfjmhcenaaDoorPathRO
import Derived.WalkKit
import Derived.ProofKit
import Derived.Handy
import Derived.Below
import Derived.BigQuiet
import Derived.Lib.Hide
import Derived.IntWalk
import Derived.Outline
import Derived.WalkLawsBesides
import Derived.WalkSpells
namespace Go.Proofs.YtemmblfjmhcenaaDoor
open Go.RowKit
attribute [local go_sem] strV
/-- The pieces between slashes. -/
def spl : List UInt8 → List (List UInt8)
  | [] => [[]]
  | b :: l => if b = 47 then [] :: spl l else (match spl l with | [] => [[b]] | x :: r => (b :: x) :: r)
theorem spl_ne : ∀ l, spl l ≠ []
  | [] => by simp [spl]
  | b :: l => by
    unfold spl
    split
    · simp
    · split <;> simp
theorem spl_piece : ∀ (x y : List UInt8), 47 ∉ x → spl (x ++ 47 :: y) = x :: spl y
  | [], y, _ => by simp [spl]
  | b :: x, y, h => by
    have hb : b ≠ 47 := fun e => h (by rw [e]; exact List.mem_cons_self ..)
    have ih := spl_piece x y (fun e => h (List.mem_cons_of_mem _ e))
    show spl (b :: (x ++ 47 :: y)) = _
    rw [spl, if_neg hb, ih]
theorem spl_last : ∀ (x : List UInt8), 47 ∉ x → spl x = [x]
  | [], _ => by simp [spl]
  | b :: x, h => by
    have hb : b ≠ 47 := fun e => h (by rw [e]; exact List.mem_cons_self ..)
    have ih := spl_last x (fun e => h (List.mem_cons_of_mem _ e))
    rw [spl, if_neg hb, ih]
theorem spl_at {l : List UInt8} {f i : Nat} (hf : f ≤ i) (hn : 47 ∉ (l.take i).drop f) (h : l[i]? = some 47) : spl (l.drop f) = (l.take i).drop f :: spl (l.drop (i + 1)) := by
  obtain ⟨hi, h2⟩ := List.getElem?_eq_some_iff.1 h
  rw [← spl_piece _ _ hn]
  congr 1
  conv => lhs; rw [← List.take_append_drop i l, List.drop_append_of_le_length (by rw [List.length_take]; omega)]
  rw [List.drop_eq_getElem_cons hi, h2]
theorem spl_stop {l : List UInt8} {f i : Nat} (hn : 47 ∉ (l.take i).drop f) (h : l.length ≤ i) : spl (l.drop f) = [(l.take i).drop f] := by
  rw [List.take_of_length_le h] at hn ⊢
  exact spl_last _ hn
theorem Tryd.infoStr : (Tryd.prog.info? 9).map (fun i => (i.zero, i.size, i.bytes)) = some (some (.string ⟨#[]⟩), 1, 16) := by kernel_rfl
set_option maxRecDepth 100000 in
set_option maxHeartbeats 3200000 in
theorem split_any (s : ByteArray) (w : World) (hs : s.size ≤ 1000000) :
    Calls Tryd.prog 32 #[.string s] w fun e w' => ∃ v : Value, e = .returned v ∧ Below w.heap.size w w' ∧ ∃ O : List ByteArray, O.map (fun x => x.data.toList) = spl s.data.toList ∧
      w'.ownsRow w.heap.size 9 1 v O.length (O.map Value.string) := by
  obtain ⟨i0, hi, hz0, hz1, hz2⟩ := info_parts Tryd.infoStr
  go_enter Tryd.func32, Tryd.ntmps32
  go_wp2
  go_loopw [3, 4, 5] (fun o f i wr => ∃ (v : Value) (O : List ByteArray) (fr k : Nat), O.length ≤ k ∧ k ≤ s.size + 1 ∧ Below w.heap.size w wr ∧ wr.ownsRow w.heap.size 9 1 v O.length (O.map Value.string) ∧
      Hid ((k ≤ s.size ∧ fr ≤ k ∧ spl s.data.toList = O.map (fun x => x.data.toList) ++ spl (s.data.toList.drop fr) ∧ 47 ∉ (s.data.toList.take k).drop fr) ∨ (k = s.size + 1 ∧ spl s.data.toList = O.map (fun x => x.data.toList))) ∧
      fr ≤ k ∧ o = v ∧ f = .int .i64 fr ∧ i = .int .i64 k) (fun _ _ i _ => s.size + 1 - (intOf i).toNat)
  case atStart => exact ⟨_, [], 0, 0, by simp, by omega, Below.refl _ _, ⟨rfl, .inl ⟨rfl, rfl⟩⟩, Lib.hid (.inl ⟨by omega, by omega, by simp, by simp⟩), by omega, rfl, rfl, rfl⟩
  case round =>
    obtain ⟨v, O, fr, i, hOi, hk, hbel, hown, HI, hfi, rfl, rfl, rfl⟩ := hrel
    have hsz := hbel.size
    by_cases hend : i = s.size + 1
    · have HS : Hid (O.map (fun x => x.data.toList) = spl s.data.toList) := Lib.hid (by
        rcases HI.out with ⟨h1, _⟩ | ⟨_, h2⟩
        · omega
        · exact h2.symm)
      subst hend
      go_wp2
      go_ret
      exact ⟨_, rfl, hbel, O, HS.out, hown⟩
    have hI := HI.out
    have hle : i ≤ s.size := by omega
    have hI2 : fr ≤ i ∧ spl s.data.toList = O.map (fun x => x.data.toList) ++ spl (s.data.toList.drop fr) ∧ 47 ∉ (s.data.toList.take i).drop fr := by
      rcases hI with ⟨_, h⟩ | ⟨h, _⟩
      · exact h
      · exact absurd h hend
    have H2 := Lib.hid hI2.2; clear hI hI2 HI
    by_cases hlast : i = s.size
    · subst hlast
      have HN : Hid (spl s.data.toList = (O ++ [s.extract fr s.size]).map (fun x => x.data.toList)) := Lib.hid (by
        rw [H2.out.1, spl_stop H2.out.2 (by rw [str_len]; omega), List.map_append, List.map_cons, List.map_nil, str_cut])
      go_wp2_with (at_builtin; refine wpList_push rfl (.tmp 22) (.tmp 27) 50 rfl 9 i0 (.string ⟨#[]⟩) 16 Tryd.underlying50 hi hz0 hz1 hz2 rfl hown rfl _ rfl rfl (by unfold maxLen; omega) (by omega) hsz ?_)
      intro v' w' hown1 hbel1
      go_wp2
      go_roundw
      case rel => exact ⟨_, O ++ [s.extract fr s.size], s.size + 1, s.size + 1, by simp; omega, by omega, hbel.trans hbel1, by rw [List.map_append, List.length_append]; exact hown1, Lib.hid (.inr ⟨by omega, HN.out⟩), by omega, rfl, by go_num, by go_num⟩
      case measure => (simp [intOf]) <;> omega
    · have hlt : i < s.size := by omega
      have ee : ((i : Int) == (s.size : Int)) = false := by rw [beq_eq_false_iff_ne]; omega
      obtain ⟨b, hb⟩ : ∃ b, s[i] = b := ⟨_, rfl⟩
      have hg := str_get hlt
      rw [hb] at hg
      have HG := Lib.hid hg; clear hg
      by_cases h47 : b = 47
      · subst h47
        have HN : Hid (spl s.data.toList = (O ++ [s.extract fr i]).map (fun x => x.data.toList) ++ spl (s.data.toList.drop (i + 1))) := Lib.hid (by
          rw [H2.out.1, spl_at hfi H2.out.2 HG.out, List.map_append, List.map_cons, List.map_nil, str_cut, List.append_assoc]; rfl)
        go_wp2_with (at_builtin; refine wpList_push rfl (.tmp 22) (.tmp 27) 50 rfl 9 i0 (.string ⟨#[]⟩) 16 Tryd.underlying50 hi hz0 hz1 hz2 rfl hown rfl _ rfl rfl (by unfold maxLen; omega) (by omega) hsz ?_)
        intro v' w' hown1 hbel1
        go_wp2
        go_roundw
        case rel => exact ⟨_, O ++ [s.extract fr i], i + 1, i + 1, by simp; omega, by omega, hbel.trans hbel1, by rw [List.map_append, List.length_append]; exact hown1, Lib.hid (.inl ⟨by omega, by omega, HN.out, by rw [List.drop_of_length_le (by rw [List.length_take]; omega)]; simp⟩), by omega, rfl, by go_num, by go_num⟩
        case measure => (simp [intOf]) <;> omega
      · have e47 : ((b.toNat : Int) == 47) = false := byte_ne (n := 47) (by decide) h47
        have HN : Hid (47 ∉ (s.data.toList.take (i + 1)).drop fr) := Lib.hid (by
          rw [List.take_add_one, HG.out, List.drop_append_of_le_length (by rw [List.length_take, str_len]; omega)]
          simp only [Option.toList_some, List.mem_append, List.mem_singleton, not_or]
          exact ⟨H2.out.2, fun e => h47 e.symm⟩)
        go_wp2
        go_roundw
        case rel => exact ⟨_, O, fr, i + 1, by omega, by omega, hbel, hown, Lib.hid (.inl ⟨by omega, by omega, H2.out.1, HN.out⟩), by omega, rfl, rfl, by go_num⟩
        case measure => (simp [intOf]) <;> omega
end Go.Proofs.YtemmblfjmhcenaaDoor
