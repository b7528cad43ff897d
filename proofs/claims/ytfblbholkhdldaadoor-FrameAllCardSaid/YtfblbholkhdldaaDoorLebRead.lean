/- leb.Next and ligref1.NextNum: both return what 'nextS' says. -/
import Derived.Test.YtfblbholkhdldaaDoorRows
import Derived.Test.YtfblbholkhdldaaDoorLebMath
import Derived.WalkKit
import Derived.ProofKit
import Derived.Handy
import Derived.Below
import Derived.Lib.Hide
import Derived.IntWalk
import Derived.Outline
import Derived.WalkLawsBesides
import Derived.WalkSpells
namespace Go.Proofs.YtfblbholkhdldaaDoor
open Go.RowKit

theorem bget {s : ByteArray} {i : Nat} (h : i < s.size) : s.data.toList[i]? = some s[i] := by
  rw [List.getElem?_eq_getElem (by simpa using h)]; rfl

def trip (x : Int × Int × Int) : Value := .tuple #[.int .i64 x.1, .int .i64 x.2.1, .int .i64 x.2.2]

set_option maxRecDepth 100000 in
set_option maxHeartbeats 400000 in
theorem next_any (s : ByteArray) (a : Int) (w : World) (hs : s.size ≤ maxLen) :
    Calls Tryd.prog 114 #[.string s, .int .i64 a] w fun e w' => e = .returned (trip (nextS s.data.toList a)) ∧ w = w' := by
  unfold maxLen at hs
  have hlen : s.data.toList.length = s.size := by simp
  by_cases hlo : a < 0
  · have hr : nextS s.data.toList a = (0, 0, 1) := by unfold nextS; rw [if_pos (.inl hlo)]
    have H := Lib.hid hr; clear hr hlen
    go_enter Tryd.func114, Tryd.ntmps114
    go_wp2
    go_ret3
    exact ⟨by rw [H.out]; rfl, rfl⟩
  obtain ⟨a, rfl⟩ := Int.eq_ofNat_of_zero_le (Int.not_lt.1 hlo)
  by_cases hhi : s.size < a
  · have hr : nextS s.data.toList a = (0, 0, 1) := by unfold nextS; rw [if_pos (.inr (by rw [hlen]; omega))]
    have H := Lib.hid hr; clear hr hlen
    go_enter Tryd.func114, Tryd.ntmps114
    go_wp2
    go_ret3
    exact ⟨by rw [H.out]; rfl, rfl⟩
  have hr : nextS s.data.toList a = nx s.data.toList 8 0 0 a := by
    unfold nextS; rw [if_neg (by rw [hlen]; omega)]; simp
  have H := Lib.hid hr; have HL := Lib.hid hlen; clear hr hlen
  go_enter Tryd.func114, Tryd.ntmps114
  go_wp2
  go_loop [7, 18] (fun v i => ∃ k u : Nat, k ≤ 8 ∧ u < 128 ^ k ∧ a + k ≤ s.size ∧ Hid (nx s.data.toList (8 - k) k u (a + k) = nx s.data.toList 8 0 0 a) ∧ i = .int .i64 k ∧ v = .int .i64 u) (fun _ i => 8 - (intOf i).toNat)
  case atStart => exact ⟨0, 0, by omega, by omega, by omega, Lib.hid rfl, rfl, rfl⟩
  case round =>
    obtain ⟨k, u, hk, hu, hin, HN, rfl, rfl⟩ := hrel
    by_cases hlt : k < 8
    · by_cases he : a + k = s.size
      · have hb : ((a:Int) + (k:Int) == (s.size : Int)) = true := by simp; omega
        have HR : Hid (nx s.data.toList 8 0 0 a = (0, 0, 2)) := Lib.hid (by
          rw [← HN.out, show 8 - k = (7 - k) + 1 from by omega]; exact nx_short (by rw [HL.out]; omega))
        go_wp2
        go_ret3
        exact ⟨by rw [H.out, HR.out]; rfl, rfl⟩
      · have hlt2 : a + k < s.size := by omega
        have heq : ((a:Int) + (k:Int) == (s.size : Int)) = false := by simp; omega
        obtain ⟨b, hb⟩ : ∃ b, s[a + k] = b := ⟨_, rfl⟩
        have hget : s.data.toList[a + k]? = some b := by rw [bget hlt2, hb]
        have hbb : b.toNat < 256 := b.toNat_lt
        have G := Lib.hid (group_or hlt hu hbb)
        have G2 := group_bound (b := b.toNat) hu
        have e8 : 8 - k = (7 - k) + 1 := by omega
        by_cases h1 : 128 ≤ b.toNat
        · have HR : Hid (nx s.data.toList (8 - (k + 1)) (k + 1) (u + b.toNat % 128 * 128 ^ k) (a + (k + 1)) = nx s.data.toList 8 0 0 a) := Lib.hid (by
            rw [← HN.out, e8, nx_more hget h1, show 8 - (k + 1) = 7 - k from by omega]; rfl)
          have E8 := Lib.hid e8; have HG := Lib.hid hget; clear e8 hget
          go_wp2
          go_round
          case rel => exact ⟨k + 1, u + b.toNat % 128 * 128 ^ k, by omega, G2, by omega, HR, by go_num, by rw [G.out]⟩
          case measure => simp [intOf]; omega
        · by_cases h2 : b.toNat = 0 ∧ 0 < k
          · have HR : Hid (nx s.data.toList 8 0 0 a = (0, 0, 3)) := Lib.hid (by
              rw [← HN.out, e8, nx_form hget h2.1 h2.2])
            have E8 := Lib.hid e8; have HG := Lib.hid hget; clear e8 hget
            obtain ⟨h2a, h2b⟩ := h2
            go_wp2
            go_ret3
            exact ⟨by rw [H.out, HR.out]; rfl, rfl⟩
          · have HR : Hid (nx s.data.toList 8 0 0 a = (((u + b.toNat % 128 * 128 ^ k : Nat) : Int), ((a + k + 1 : Nat) : Int), 0)) := Lib.hid (by
              rw [← HN.out, e8, nx_done hget (by omega) h2])
            have E8 := Lib.hid e8; have HG := Lib.hid hget; clear e8 hget
            by_cases h3 : b.toNat = 0
            · have H3 := Lib.hid h3
              rw [h3] at G
              have hk0 : ¬ (0 < k) := by omega
              go_wp2
              go_ret3
              exact ⟨by rw [H.out, HR.out, H3.out, ← G.out]; rfl, rfl⟩
            · go_wp2
              go_ret3
              exact ⟨by rw [H.out, HR.out, ← G.out]; rfl, rfl⟩
    · have HR : Hid (nx s.data.toList 8 0 0 a = (0, 0, 4)) := Lib.hid (by
        rw [← HN.out, show 8 - k = 0 from by omega]; rfl)
      go_wp2
      go_ret3
      exact ⟨by rw [H.out, HR.out]; rfl, rfl⟩

end Go.Proofs.YtfblbholkhdldaaDoor
