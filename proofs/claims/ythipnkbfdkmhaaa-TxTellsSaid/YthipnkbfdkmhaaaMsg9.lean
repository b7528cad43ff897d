/- GasMore: a longer answer costs more, by just so much. -/
import Derived.Test.YthipnkbfdkmhaaaMsg8
import Derived.Test.YthipnkbfdkmhaaaMeterF
import Derived.BigQuiet
import Derived.WalkKit
import Derived.ProofKit
import Derived.Handy
import Derived.Below
import Derived.Lib.Hide
import Derived.IntWalk
import Derived.Outline
import Derived.WalkLawsBesides
import Derived.WalkSpells
namespace Go.Proofs.Ythipnkbfdkmhaaa
open Go.RowKit
attribute [local go_sem] strV
set_option linter.unusedVariables false

theorem putL_pos {v : Int} (h : encB v = true) : 0 < (putL v).length := by unfold putL; rw [h, if_pos rfl]; exact grp_pos _ _
theorem msgS_pos {m : MsgV} (h : mayMsgB m = true) : 0 < (msgS m).size := by
  unfold msgS
  rw [if_pos h]
  show 0 < (msgBy m).toArray.size
  rw [List.size_toArray]
  have p1 := putL_pos (v := 1) (by decide); have p2 := putL_pos (v := 2) (by decide); have p3 := putL_pos (v := 3) (by decide); have p4 := putL_pos (v := 4) (by decide); have p5 := putL_pos (v := 5) (by decide)
  unfold msgBy
  repeat' split
  all_goals (simp only [List.length_append]; omega)
def MsgV.more (m : MsgV) : MsgV := { m with ack := m.ack ++ (⟨#[120]⟩ : ByteArray) }
theorem more_ok {m : MsgV} {w : World} (h : m.ok w) : m.more.ok w := ⟨h.p, h.plen, h.pcap, h.pcM, h.c, h.clen, h.ccap, h.ccM, h.spM, h.dpM⟩
theorem more_price {m : MsgV} (h1 : mayMsgB m = true) (h2 : mayMsgB m.more = true) : priceM m.more = priceM m + 3 * (((msgS m.more).size : Nat) - ((msgS m).size : Nat) : Int) := by
  have a := msgS_pos h1; have b := msgS_pos h2
  unfold priceM
  rw [if_neg (by omega), if_neg (by omega)]
  show _ + 50 * ((stepsD m.pxs : Int) + (stepsD m.cxs : Int)) = _
  omega
theorem more_row (m : MsgV) : m.more.row = m.row.setIfInBounds 43 (.string (m.ack ++ (⟨#[120]⟩ : ByteArray))) := by
  rw [MsgV.row_split, MsgV.row_split, back_set _ _ m.front_len 8]
  rfl
end Go.Proofs.Ythipnkbfdkmhaaa
