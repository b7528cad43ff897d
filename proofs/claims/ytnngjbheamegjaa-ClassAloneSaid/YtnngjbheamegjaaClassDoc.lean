/- doc (the packets as the document's) and ligref22.Class. -/
import Derived.Test.YtnngjbheamegjaaClassRef
import Derived.Test.YtnngjbheamegjaaClassKeep
import Derived.WalkKit
import Derived.ProofKit
import Derived.Handy
import Derived.Below
import Derived.Lib.Hide
import Derived.IntWalk
import Derived.Outline
import Derived.WalkLawsBesides
import Derived.WalkSpells
import Derived.Deep.LoopGhost
import Derived.Deep.CutRange
import Derived.Deep.DeepCutAuto
namespace Go.Proofs.Ytnngjbheamegjaa
open Go.RowKit

theorem Try.infoP : (Try.prog.info? 51).map (fun i => (i.zero, i.size, i.bytes)) = some (some (.agg #[.int .i64 0, .int .i64 0, .int .i64 0, .bool false, .bool false, .bool false, .bool false, .bool false]), 8, 32) := by kernel_rfl

set_option maxRecDepth 100000 in
set_option maxHeartbeats 1600000 in
theorem doc_any {a : Option Addr} {cap n : Nat} {ps : List Pk} {w : World} (hr : RowAt w a (ps.flatMap Pk.cells)) (hn : ps.length = n) (h8 : n ≤ 1000000) :
    Calls Try.prog 22 #[.slice a n cap] w fun e w' => ∃ a' cap', e = .returned (.slice a' n cap') ∧ RowAt w' a' (ps.flatMap Pk.cells) ∧ Below w.heap.size w w' := by
  obtain ⟨i0, hi, hz0, hz1, hz2⟩ := info_parts Try.infoP
  have HN := Lib.hid hn; clear hn
  go_enter Try.func22, Try.ntmps22
  go_wp2
  go_loopw [3, 4] (fun v i wr => ∃ k : Nat, k ≤ n ∧ wr.ownsRow w.heap.size 51 8 v k ((ps.take k).flatMap Pk.cells) ∧ Below w.heap.size w wr ∧ i = .int .i64 k) (fun _ i _ => n - (intOf i).toNat)
  case atStart => exact ⟨0, by omega, World.ownsRow_nil _ _ _ _, Below.refl _ _, rfl⟩
  case round =>
    obtain ⟨k, hk, hown, hbel, rfl⟩ := hrel
    by_cases hlt : k < n
    · obtain ⟨b, off, rfl, hbl, hp⟩ := pk_at (hr.below hbel) (k := k) (by rw [HN.out]; exact hlt)
      have htk : (ps.take (k + 1)).flatMap Pk.cells = (ps.take k).flatMap Pk.cells ++ Pk.cells (ps[k]'(by rw [HN.out]; exact hlt)) := by
        rw [List.take_succ_eq_append_getElem (by rw [HN.out]; exact hlt), List.flatMap_append, List.flatMap_cons, List.flatMap_nil, List.append_nil]
      generalize ps[k]'(by rw [HN.out]; exact hlt) = p at hp htk
      obtain ⟨sq, pth, pta, kp, shn, rcv, dn, ack⟩ := p
      obtain ⟨p0, p1, p2, p3, p4, p5, p6, p7⟩ := hp
      simp only at p0 p1 p2 p3 p4 p5 p6 p7
      have HT := Lib.hid htk; clear htk
      go_wp2_with (first | (go_at_call 31; refine keepPacket_any.mono ?_; rintro e w1 ⟨rfl, hb⟩; have hown1 := own_below hown hb; have hzS : w.heap.size ≤ w1.heap.size := Nat.le_trans hbel.size hb.size) | (at_builtin; refine wpList_pushG rfl (.tmp 11) (.tmp 17) 37 rfl 51 i0 (.agg #[.int .i64 0, .int .i64 0, .int .i64 0, .bool false, .bool false, .bool false, .bool false, .bool false]) 8 32 Try.underlying37 hi hz0 hz1 hz2 rfl (by decide) hown1 rfl [_, _, _, _, _, _, _, _] rfl rfl rfl rfl (by unfold maxLen; omega) (by omega) hzS ?_; intro b1 w9 hown9 hbel9))
      go_roundw
      case rel => exact ⟨k + 1, by omega, by rw [HT.out]; exact hown9, (hbel.trans (hb.mono hbel.size)).trans hbel9, by go_num⟩
      case measure => simp [intOf]; omega
    · have hkn : k = n := by omega
      subst hkn
      have HT : Hid (ps.take k = ps) := Lib.hid (List.take_of_length_le (by rw [HN.out]; exact Nat.le_refl _))
      rw [HT.out] at hown
      obtain ⟨a', cap', rfl, hrow, _⟩ := RowAt.own hown
      go_wp2
      go_ret
      exact ⟨a', cap', rfl, hrow, hbel⟩
end Go.Proofs.Ytnngjbheamegjaa
