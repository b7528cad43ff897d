/- Cutting messages into transactions: whole. -/
import Derived.Test.YthipnkbfdkmhaaaBt4
import Derived.WalkKit
import Derived.ProofKit
import Derived.Handy
import Derived.Below
import Derived.Lib.Hide
import Derived.IntWalk
import Derived.Outline
import Derived.WalkLawsBesides
import Derived.WalkSpells
namespace Go.Proofs.Ythipnkbfdkmhaaa
open Go.RowKit
attribute [local go_sem] strV
set_option linter.unusedVariables false
theorem bt_cut (lg lb lc : Int) (a : Option Addr) (n cap : Nat) (up : List MsgV) (b : Option Addr) (n2 cap2 : Nat) (ms : List MsgV) (c : Option Addr) (n3 cap3 : Nat) (gs : List Int) (w : World)
    (hu : RowAt w a (up.flatMap MsgV.cellsL)) (hun : up.length = n) (huo : ∀ m ∈ up, m.ok w) (hul : ∀ m ∈ up, lightM m = true)
    (hr : RowAt w b (ms.flatMap MsgV.cellsL)) (hn : ms.length = n2) (hok : ∀ m ∈ ms, m.ok w) (hl : ∀ m ∈ ms, lightM m = true) (h70 : n2 ≤ 70)
    (hg : RowAt w c (gs.map (Value.int .i64))) (hgn : gs.length = n3) (hgw : ∀ z ∈ gs, (Lit.int .i64 z).wf = true) :
    Calls Try.prog 39 #[.agg #[.int .i64 (lg), .int .i64 (lb), .int .i64 (lc)], .slice a n cap, .slice b n2 cap2, .slice c n3 cap3] w fun e w' => cutPost (lg, lb, lc) up ms gs w e w' := by
  by_cases hgl : gs.length = ms.length
  · exact bt_cut1 lg lb lc a n cap up b n2 cap2 ms c n3 cap3 gs w hu hun huo hul hr hn hok hl h70 hg hgn hgw hgl
  · exact bt_cut2 lg lb lc a n cap up b n2 cap2 ms c n3 cap3 gs w hu hun huo hul hr hn hok hl h70 hg hgn hgw hgl
end Go.Proofs.Ythipnkbfdkmhaaa
