/- Packets in bytes: Write. -/
import Derived.Test.YtfikbaoiialfeaaDoorWriterK
import Derived.Test.YtfikbaoiialfeaaDoorPacket
import Derived.Test.YtfikbaoiialfeaaDoorGD
import Derived.Deep.MidRow
import Derived.Deep.Cut
import Derived.WalkKit
import Derived.ProofKit
import Derived.Handy
import Derived.Below
import Derived.BigQuiet
import Derived.Lib.Hide
import Derived.IntWalk
import Derived.Outline
import Derived.WalkLawsBesides
import Derived.WalkSpells
namespace Go.Proofs.YtfikbaoiialfeaaDoor
open Go.RowKit
attribute [local go_sem] strV
set_option linter.unusedVariables false
theorem KW.row2 {b g : Nat} {w w' : World} {C : Array Value} {e : TypeId} {fz : Nat × Nat} (h : KW b w w') (hg : w.heap[g]? = some (.cells C e fz)) (hb : g ≠ b) (he : e ≠ 5) : w'.heap[g]? = some (.cells C e fz) := by
  rw [h.keep g (Array.getElem?_eq_some_iff.1 hg).1 hb (fun cur fz' e2 => by rw [hg] at e2; simp only [Option.some.injEq, Obj.cells.injEq] at e2; exact he e2.2.1)]; exact hg
def endBy (p : ByteArray) (c : Int) : List UInt8 := (putL (p.size : Int) ++ p.data.toList) ++ putL c
theorem endBy_len (p : ByteArray) (c : Int) (hp : p.size ≤ 12) : (endBy p c).length ≤ 28 := by
  unfold endBy
  have := putL_len' (p.size : Int); have := putL_len' c
  simp only [List.length_append, str_len]; omega
def pkBy (sp : ByteArray) (sc : Int) (dp : ByteArray) (dc sq : Int) (da : ByteArray) (th ta : Int) : List UInt8 := endBy sp sc ++ endBy dp dc ++ putL sq ++ (putL (da.size : Int) ++ da.data.toList) ++ putL th ++ putL ta
theorem pkBy_len (sp : ByteArray) (sc : Int) (dp : ByteArray) (dc sq : Int) (da : ByteArray) (th ta : Int) (h1 : sp.size ≤ 12) (h2 : dp.size ≤ 12) (h3 : da.size ≤ 200) : (pkBy sp sc dp dc sq da th ta).length ≤ 288 := by
  unfold pkBy
  have := endBy_len sp sc h1; have := endBy_len dp dc h2
  have := putL_len' (da.size : Int); have := putL_len' sq; have := putL_len' th; have := putL_len' ta
  simp only [List.length_append, str_len]; omega
end Go.Proofs.YtfikbaoiialfeaaDoor
