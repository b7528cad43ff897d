/- Events: their values, when two are the same. -/
import Derived.Test.YtcbacchelabljaaGD
import Derived.WalkKit
import Derived.ProofKit
import Derived.Handy
import Derived.Below
import Derived.BigQuiet
import Derived.Lib.Hide
import Derived.IntWalk
import Derived.Outline
import Derived.WalkLawsBesides
import Derived.WalkSpells
namespace Go.Proofs.Ytcbacchelabljaa
open Go.RowKit
structure Ev where
  kd : Int
  sp : ByteArray
  sc : Int
  dp : ByteArray
  dc : Int
  sq : Int
  da : ByteArray
  th : Int
  ta : Int
  ack : ByteArray
  ep : ByteArray
  ec : Int
  ht : Int
def evB (a b : Ev) : Bool := (a.kd == b.kd) && (a.sp.toList == b.sp.toList) && (a.sc == b.sc) && (a.dp.toList == b.dp.toList) && (a.dc == b.dc) && (a.sq == b.sq) && (a.da.toList == b.da.toList) && (a.th == b.th) && (a.ta == b.ta) && (a.ack.toList == b.ack.toList) && (a.ep.toList == b.ep.toList) && (a.ec == b.ec) && (a.ht == b.ht)
set_option maxRecDepth 100000 in
set_option maxHeartbeats 1600000 in
theorem run_equal_ev (kd1 kd2 : Int) (sp1 sp2 : ByteArray) (sc1 sc2 : Int) (dp1 dp2 : ByteArray) (dc1 dc2 : Int) (sq1 sq2 : Int) (da1 da2 : ByteArray) (th1 th2 : Int) (ta1 ta2 : Int) (ack1 ack2 : ByteArray) (ep1 ep2 : ByteArray) (ec1 ec2 : Int) (ht1 ht2 : Int) (W : World) :
    (Op.equalIn 10000 43 (.agg #[.int .i64 kd1, .string sp1, .int .i64 sc1, .string dp1, .int .i64 dc1, .int .i64 sq1, .string da1, .int .i64 th1, .int .i64 ta1, .string ack1, .string ep1, .int .i64 ec1, .int .i64 ht1]) (.agg #[.int .i64 kd2, .string sp2, .int .i64 sc2, .string dp2, .int .i64 dc2, .int .i64 sq2, .string da2, .int .i64 th2, .int .i64 ta2, .string ack2, .string ep2, .int .i64 ec2, .int .i64 ht2])).run Try.prog W = .ok (evB ⟨kd1, sp1, sc1, dp1, dc1, sq1, da1, th1, ta1, ack1, ep1, ec1, ht1⟩ ⟨kd2, sp2, sc2, dp2, dc2, sq2, da2, th2, ta2, ack2, ep2, ec2, ht2⟩) W := by
  unfold evB
  simp only
  cases hkd : (kd1 == kd2)
  · simp [go_sem, hkd]
  cases hsp : (sp1.toList == sp2.toList)
  · simp [go_sem, hkd, hsp]
  cases hsc : (sc1 == sc2)
  · simp [go_sem, hkd, hsp, hsc]
  cases hdp : (dp1.toList == dp2.toList)
  · simp [go_sem, hkd, hsp, hsc, hdp]
  cases hdc : (dc1 == dc2)
  · simp [go_sem, hkd, hsp, hsc, hdp, hdc]
  cases hsq : (sq1 == sq2)
  · simp [go_sem, hkd, hsp, hsc, hdp, hdc, hsq]
  cases hda : (da1.toList == da2.toList)
  · simp [go_sem, hkd, hsp, hsc, hdp, hdc, hsq, hda]
  cases hth : (th1 == th2)
  · simp [go_sem, hkd, hsp, hsc, hdp, hdc, hsq, hda, hth]
  cases hta : (ta1 == ta2)
  · simp [go_sem, hkd, hsp, hsc, hdp, hdc, hsq, hda, hth, hta]
  cases hack : (ack1.toList == ack2.toList)
  · simp [go_sem, hkd, hsp, hsc, hdp, hdc, hsq, hda, hth, hta, hack]
  cases hep : (ep1.toList == ep2.toList)
  · simp [go_sem, hkd, hsp, hsc, hdp, hdc, hsq, hda, hth, hta, hack, hep]
  cases hec : (ec1 == ec2)
  · simp [go_sem, hkd, hsp, hsc, hdp, hdc, hsq, hda, hth, hta, hack, hep, hec]
  cases hht : (ht1 == ht2)
  · simp [go_sem, hkd, hsp, hsc, hdp, hdc, hsq, hda, hth, hta, hack, hep, hec, hht]
  simp [go_sem, hkd, hsp, hsc, hdp, hdc, hsq, hda, hth, hta, hack, hep, hec, hht]
end Go.Proofs.Ytcbacchelabljaa
