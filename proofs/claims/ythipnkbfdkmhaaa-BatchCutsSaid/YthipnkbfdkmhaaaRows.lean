/-
  No cell of these rows narrows 'for every input' (looked for: loops, veiled, ifaces, maps, wideKeys, modest, calm, conditions, laid).
  DERIVED. THE GIVEN ROWS OF THIS SEAT. 11 by the template 'for every input the law returns true; each argument reads behind the call as it read before'; 0 by the template 'total and deterministic' (their statements: YthipnkbfdkmhaaaTotals.lean).
  GIVEN WITH THE SEED: the statements are not yours to turn. If you find one false, say at which input.
  Laid BY PROGRAM, IN A SANDBOX (cutbox-rows.mjs): the forced cells as the released guide's own fill.sh prints them over the translation e8d841651ba0e2e2… (all of the seat's roots in one cut). By AI agents, Wed Nov 11 2026. No macro, syntax, notation, axiom, sorry.
-/
import Derived.Test.YthipnkbfdkmhaaaChecked
import GoSem.Claim
import GoSem.ClaimJoined
import GoSem.ClaimMapViews
import Derived.JoinedTies
import Derived.KernelRfl
namespace Go.Proofs.Ythipnkbfdkmhaaa
/- THE CELL 'sum', in the pinned program and in every row, IS THE sha256 OF THE DUMP (.gsa) THAT YthipnkbfdkmhaaaProg.lean LOADS. Nothing in Lean hashes anything: it is a label: what it is worth is what the hold of that sum in a sandbox is worth. -/
noncomputable def Try.pinned : Pinned := { name := "ythipnkbfdkmhaaa", sum := "e8d841651ba0e2e253103f216649e069f2d6ba08b7872026745f56083e04d014", checked := Try.checked }
namespace Rows
def none {H : Type} : Left H := { results := [], args := [] }

/-- 'liglaw8.MsgBack': WHATEVER THE INPUT: true; the input reads as it did. -/
def msgBackSpec : ChangeSpec := { name := "msgBack", fn := fun _ => fun
  | [d1, d2] => { results := [.lit (.bool true)], args := [d1, d2] }
  | _ => none }
def msgBackRow : OpenClaim := { program := "ythipnkbfdkmhaaa", sum := "e8d841651ba0e2e253103f216649e069f2d6ba08b7872026745f56083e04d014", func := "lighterman/liglaw8.MsgBack", spec := "msgBack", inPlace := ["internal/abi.NoEscape"], unfollowed := true, recurses := true, plainKeys := false, apart := false }
def MsgBackSaid : Prop := msgBackRow.holds Try.pinned (OpenSpec.ofChange msgBackSpec)

/-- ITS FALSE NEIGHBOUR: 'it returns false'. Refute it at one input. -/
def msgBackWrong : ChangeSpec := { name := "msgBack", fn := fun _ => fun
  | [d1, d2] => { results := [.lit (.bool false)], args := [d1, d2] }
  | _ => none }
def MsgBackWrongFalsely : Prop := msgBackRow.holds Try.pinned (OpenSpec.ofChange msgBackWrong)

/-- 'liglaw8.MsgTells': WHATEVER THE INPUT: true; the input reads as it did. -/
def msgTellsSpec : ChangeSpec := { name := "msgTells", fn := fun _ => fun
  | [d1, d2, d3] => { results := [.lit (.bool true)], args := [d1, d2, d3] }
  | _ => none }
def msgTellsRow : OpenClaim := { program := "ythipnkbfdkmhaaa", sum := "e8d841651ba0e2e253103f216649e069f2d6ba08b7872026745f56083e04d014", func := "lighterman/liglaw8.MsgTells", spec := "msgTells", inPlace := ["internal/abi.NoEscape"], unfollowed := true, recurses := true, plainKeys := false, apart := false }
def MsgTellsSaid : Prop := msgTellsRow.holds Try.pinned (OpenSpec.ofChange msgTellsSpec)

/-- ITS FALSE NEIGHBOUR: 'it returns false'. Refute it at one input. -/
def msgTellsWrong : ChangeSpec := { name := "msgTells", fn := fun _ => fun
  | [d1, d2, d3] => { results := [.lit (.bool false)], args := [d1, d2, d3] }
  | _ => none }
def MsgTellsWrongFalsely : Prop := msgTellsRow.holds Try.pinned (OpenSpec.ofChange msgTellsWrong)

/-- 'liglaw8.MsgPlain': WHATEVER THE INPUT: true; the input reads as it did. -/
def msgPlainSpec : ChangeSpec := { name := "msgPlain", fn := fun _ => fun
  | [d1, d2, d3] => { results := [.lit (.bool true)], args := [d1, d2, d3] }
  | _ => none }
def msgPlainRow : OpenClaim := { program := "ythipnkbfdkmhaaa", sum := "e8d841651ba0e2e253103f216649e069f2d6ba08b7872026745f56083e04d014", func := "lighterman/liglaw8.MsgPlain", spec := "msgPlain", inPlace := ["internal/abi.NoEscape"], unfollowed := true, recurses := true, plainKeys := false, apart := false }
def MsgPlainSaid : Prop := msgPlainRow.holds Try.pinned (OpenSpec.ofChange msgPlainSpec)

/-- ITS FALSE NEIGHBOUR: 'it returns false'. Refute it at one input. -/
def msgPlainWrong : ChangeSpec := { name := "msgPlain", fn := fun _ => fun
  | [d1, d2, d3] => { results := [.lit (.bool false)], args := [d1, d2, d3] }
  | _ => none }
def MsgPlainWrongFalsely : Prop := msgPlainRow.holds Try.pinned (OpenSpec.ofChange msgPlainWrong)

/-- 'liglaw8.TxTells': WHATEVER THE INPUT: true; the input reads as it did. -/
def txTellsSpec : ChangeSpec := { name := "txTells", fn := fun _ => fun
  | [d1, d2] => { results := [.lit (.bool true)], args := [d1, d2] }
  | _ => none }
def txTellsRow : OpenClaim := { program := "ythipnkbfdkmhaaa", sum := "e8d841651ba0e2e253103f216649e069f2d6ba08b7872026745f56083e04d014", func := "lighterman/liglaw8.TxTells", spec := "txTells", inPlace := ["internal/abi.NoEscape"], unfollowed := true, recurses := true, plainKeys := false, apart := false }
def TxTellsSaid : Prop := txTellsRow.holds Try.pinned (OpenSpec.ofChange txTellsSpec)

/-- ITS FALSE NEIGHBOUR: 'it returns false'. Refute it at one input. -/
def txTellsWrong : ChangeSpec := { name := "txTells", fn := fun _ => fun
  | [d1, d2] => { results := [.lit (.bool false)], args := [d1, d2] }
  | _ => none }
def TxTellsWrongFalsely : Prop := txTellsRow.holds Try.pinned (OpenSpec.ofChange txTellsWrong)

/-- 'liglaw8.TxBack': WHATEVER THE INPUT: true; the input reads as it did. -/
def txBackSpec : ChangeSpec := { name := "txBack", fn := fun _ => fun
  | [d1, d2] => { results := [.lit (.bool true)], args := [d1, d2] }
  | _ => none }
def txBackRow : OpenClaim := { program := "ythipnkbfdkmhaaa", sum := "e8d841651ba0e2e253103f216649e069f2d6ba08b7872026745f56083e04d014", func := "lighterman/liglaw8.TxBack", spec := "txBack", inPlace := ["internal/abi.NoEscape"], unfollowed := true, recurses := true, plainKeys := false, apart := false }
def TxBackSaid : Prop := txBackRow.holds Try.pinned (OpenSpec.ofChange txBackSpec)

/-- ITS FALSE NEIGHBOUR: 'it returns false'. Refute it at one input. -/
def txBackWrong : ChangeSpec := { name := "txBack", fn := fun _ => fun
  | [d1, d2] => { results := [.lit (.bool false)], args := [d1, d2] }
  | _ => none }
def TxBackWrongFalsely : Prop := txBackRow.holds Try.pinned (OpenSpec.ofChange txBackWrong)

/-- 'liglaw17.GasTells': WHATEVER THE INPUT: true; the input reads as it did. -/
def gasTellsSpec : ChangeSpec := { name := "gasTells", fn := fun _ => fun
  | [d] => { results := [.lit (.bool true)], args := [d] }
  | _ => none }
def gasTellsRow : OpenClaim := { program := "ythipnkbfdkmhaaa", sum := "e8d841651ba0e2e253103f216649e069f2d6ba08b7872026745f56083e04d014", func := "lighterman/liglaw17.GasTells", spec := "gasTells", inPlace := ["internal/abi.NoEscape"], unfollowed := true, recurses := true, plainKeys := false, apart := false }
def GasTellsSaid : Prop := gasTellsRow.holds Try.pinned (OpenSpec.ofChange gasTellsSpec)

/-- ITS FALSE NEIGHBOUR: 'it returns false'. Refute it at one input. -/
def gasTellsWrong : ChangeSpec := { name := "gasTells", fn := fun _ => fun
  | [d] => { results := [.lit (.bool false)], args := [d] }
  | _ => none }
def GasTellsWrongFalsely : Prop := gasTellsRow.holds Try.pinned (OpenSpec.ofChange gasTellsWrong)

/-- 'liglaw17.GasMore': WHATEVER THE INPUT: true; the input reads as it did. -/
def gasMoreSpec : ChangeSpec := { name := "gasMore", fn := fun _ => fun
  | [d] => { results := [.lit (.bool true)], args := [d] }
  | _ => none }
def gasMoreRow : OpenClaim := { program := "ythipnkbfdkmhaaa", sum := "e8d841651ba0e2e253103f216649e069f2d6ba08b7872026745f56083e04d014", func := "lighterman/liglaw17.GasMore", spec := "gasMore", inPlace := ["internal/abi.NoEscape"], unfollowed := true, recurses := true, plainKeys := false, apart := false }
def GasMoreSaid : Prop := gasMoreRow.holds Try.pinned (OpenSpec.ofChange gasMoreSpec)

/-- ITS FALSE NEIGHBOUR: 'it returns false'. Refute it at one input. -/
def gasMoreWrong : ChangeSpec := { name := "gasMore", fn := fun _ => fun
  | [d] => { results := [.lit (.bool false)], args := [d] }
  | _ => none }
def GasMoreWrongFalsely : Prop := gasMoreRow.holds Try.pinned (OpenSpec.ofChange gasMoreWrong)

/-- 'liglaw28.BatchCuts': WHATEVER THE INPUT: true; the input reads as it did. -/
def batchCutsSpec : ChangeSpec := { name := "batchCuts", fn := fun _ => fun
  | [d1, d2, d3, d4] => { results := [.lit (.bool true)], args := [d1, d2, d3, d4] }
  | _ => none }
def batchCutsRow : OpenClaim := { program := "ythipnkbfdkmhaaa", sum := "e8d841651ba0e2e253103f216649e069f2d6ba08b7872026745f56083e04d014", func := "lighterman/liglaw28.BatchCuts", spec := "batchCuts", inPlace := ["internal/abi.NoEscape"], unfollowed := true, recurses := true, plainKeys := false, apart := false }
def BatchCutsSaid : Prop := batchCutsRow.holds Try.pinned (OpenSpec.ofChange batchCutsSpec)

/-- ITS FALSE NEIGHBOUR: 'it returns false'. Refute it at one input. -/
def batchCutsWrong : ChangeSpec := { name := "batchCuts", fn := fun _ => fun
  | [d1, d2, d3, d4] => { results := [.lit (.bool false)], args := [d1, d2, d3, d4] }
  | _ => none }
def BatchCutsWrongFalsely : Prop := batchCutsRow.holds Try.pinned (OpenSpec.ofChange batchCutsWrong)

/-- 'liglaw28.BatchWhole': WHATEVER THE INPUT: true; the input reads as it did. -/
def batchWholeSpec : ChangeSpec := { name := "batchWhole", fn := fun _ => fun
  | [d1, d2, d3, d4] => { results := [.lit (.bool true)], args := [d1, d2, d3, d4] }
  | _ => none }
def batchWholeRow : OpenClaim := { program := "ythipnkbfdkmhaaa", sum := "e8d841651ba0e2e253103f216649e069f2d6ba08b7872026745f56083e04d014", func := "lighterman/liglaw28.BatchWhole", spec := "batchWhole", inPlace := ["internal/abi.NoEscape"], unfollowed := true, recurses := true, plainKeys := false, apart := false }
def BatchWholeSaid : Prop := batchWholeRow.holds Try.pinned (OpenSpec.ofChange batchWholeSpec)

/-- ITS FALSE NEIGHBOUR: 'it returns false'. Refute it at one input. -/
def batchWholeWrong : ChangeSpec := { name := "batchWhole", fn := fun _ => fun
  | [d1, d2, d3, d4] => { results := [.lit (.bool false)], args := [d1, d2, d3, d4] }
  | _ => none }
def BatchWholeWrongFalsely : Prop := batchWholeRow.holds Try.pinned (OpenSpec.ofChange batchWholeWrong)

/-- 'liglaw28.BatchMore': WHATEVER THE INPUT: true; the input reads as it did. -/
def batchMoreSpec : ChangeSpec := { name := "batchMore", fn := fun _ => fun
  | [d1, d2, d3, d4, d5] => { results := [.lit (.bool true)], args := [d1, d2, d3, d4, d5] }
  | _ => none }
def batchMoreRow : OpenClaim := { program := "ythipnkbfdkmhaaa", sum := "e8d841651ba0e2e253103f216649e069f2d6ba08b7872026745f56083e04d014", func := "lighterman/liglaw28.BatchMore", spec := "batchMore", inPlace := ["internal/abi.NoEscape"], unfollowed := true, recurses := true, plainKeys := false, apart := false }
def BatchMoreSaid : Prop := batchMoreRow.holds Try.pinned (OpenSpec.ofChange batchMoreSpec)

/-- ITS FALSE NEIGHBOUR: 'it returns false'. Refute it at one input. -/
def batchMoreWrong : ChangeSpec := { name := "batchMore", fn := fun _ => fun
  | [d1, d2, d3, d4, d5] => { results := [.lit (.bool false)], args := [d1, d2, d3, d4, d5] }
  | _ => none }
def BatchMoreWrongFalsely : Prop := batchMoreRow.holds Try.pinned (OpenSpec.ofChange batchMoreWrong)

/-- 'liglaw28.BatchGroups': WHATEVER THE INPUT: true; the input reads as it did. -/
def batchGroupsSpec : ChangeSpec := { name := "batchGroups", fn := fun _ => fun
  | [d1, d2] => { results := [.lit (.bool true)], args := [d1, d2] }
  | _ => none }
def batchGroupsRow : OpenClaim := { program := "ythipnkbfdkmhaaa", sum := "e8d841651ba0e2e253103f216649e069f2d6ba08b7872026745f56083e04d014", func := "lighterman/liglaw28.BatchGroups", spec := "batchGroups", inPlace := ["internal/abi.NoEscape"], unfollowed := true, recurses := true, plainKeys := false, apart := false }
def BatchGroupsSaid : Prop := batchGroupsRow.holds Try.pinned (OpenSpec.ofChange batchGroupsSpec)

/-- ITS FALSE NEIGHBOUR: 'it returns false'. Refute it at one input. -/
def batchGroupsWrong : ChangeSpec := { name := "batchGroups", fn := fun _ => fun
  | [d1, d2] => { results := [.lit (.bool false)], args := [d1, d2] }
  | _ => none }
def BatchGroupsWrongFalsely : Prop := batchGroupsRow.holds Try.pinned (OpenSpec.ofChange batchGroupsWrong)

/- THE SECOND FORM. 'bulk': how many values and letters a reading holds, each counted each time it is reached (what is shared counts as often as it is met; a slice's spare places count too). A statement '..UptoSaid' is the law's where the arguments, and the package variables that the reading takes, are together of bulk at most 1048576: NARROWER than '..Said'. Prove '..Said' where nothing that the law and all that it calls make is longer than what came in: it says more and counts as full. Else prove '..UptoSaid'. A law counts once. -/
mutual
def uptoBulk {H : Type} : DataW H → Nat
  | .lit (.string bytes) => bytes.length + 1
  | .lit _ => 1
  | .nil => 1
  | .ptr d => uptoBulk d + 1
  | .slice elems spare => uptoBulkAll elems + uptoBulkAll spare + 1
  | .agg parts => uptoBulkAll parts + 1
  | .iface _ d => uptoBulk d + 1
  | .map entries => uptoBulkEntries entries + 1
  | .held _ => 1
def uptoBulkAll {H : Type} : List (DataW H) → Nat
  | [] => 0
  | d :: r => uptoBulk d + uptoBulkAll r
def uptoBulkEntries {H : Type} : List (Lit × DataW H) → Nat
  | [] => 0
  | x :: r => uptoBulkEntry x + uptoBulkEntries r
def uptoBulkEntry {H : Type} : Lit × DataW H → Nat
  | (.string bytes, d) => bytes.length + uptoBulk d + 1
  | (_, d) => uptoBulk d + 1
 end
def uptoSmall : (H : Type) → List (DataW H) → Bool := fun _ ds => decide (uptoBulkAll ds ≤ 1048576)
def OpenSpec.upto (s : _root_.Go.ChangeSpec) : _root_.Go.OpenSpec := { _root_.Go.OpenSpec.ofChange s with cond := some uptoSmall }

/-- 'liglaw8.MsgBack', WHERE WHAT IT READS IS OF BULK AT MOST 1048576: true; the input reads as it did. -/
def msgBackUptoRow : OpenClaim := { program := "ythipnkbfdkmhaaa", sum := "e8d841651ba0e2e253103f216649e069f2d6ba08b7872026745f56083e04d014", func := "lighterman/liglaw8.MsgBack", spec := "msgBack", inPlace := ["internal/abi.NoEscape"], unfollowed := true, recurses := true, plainKeys := false, apart := false, narrowed := true }
def MsgBackUptoSaid : Prop := msgBackUptoRow.holds Try.pinned (OpenSpec.upto msgBackSpec)

/-- 'liglaw8.MsgTells', WHERE WHAT IT READS IS OF BULK AT MOST 1048576: true; the input reads as it did. -/
def msgTellsUptoRow : OpenClaim := { program := "ythipnkbfdkmhaaa", sum := "e8d841651ba0e2e253103f216649e069f2d6ba08b7872026745f56083e04d014", func := "lighterman/liglaw8.MsgTells", spec := "msgTells", inPlace := ["internal/abi.NoEscape"], unfollowed := true, recurses := true, plainKeys := false, apart := false, narrowed := true }
def MsgTellsUptoSaid : Prop := msgTellsUptoRow.holds Try.pinned (OpenSpec.upto msgTellsSpec)

/-- 'liglaw8.MsgPlain', WHERE WHAT IT READS IS OF BULK AT MOST 1048576: true; the input reads as it did. -/
def msgPlainUptoRow : OpenClaim := { program := "ythipnkbfdkmhaaa", sum := "e8d841651ba0e2e253103f216649e069f2d6ba08b7872026745f56083e04d014", func := "lighterman/liglaw8.MsgPlain", spec := "msgPlain", inPlace := ["internal/abi.NoEscape"], unfollowed := true, recurses := true, plainKeys := false, apart := false, narrowed := true }
def MsgPlainUptoSaid : Prop := msgPlainUptoRow.holds Try.pinned (OpenSpec.upto msgPlainSpec)

/-- 'liglaw8.TxTells', WHERE WHAT IT READS IS OF BULK AT MOST 1048576: true; the input reads as it did. -/
def txTellsUptoRow : OpenClaim := { program := "ythipnkbfdkmhaaa", sum := "e8d841651ba0e2e253103f216649e069f2d6ba08b7872026745f56083e04d014", func := "lighterman/liglaw8.TxTells", spec := "txTells", inPlace := ["internal/abi.NoEscape"], unfollowed := true, recurses := true, plainKeys := false, apart := false, narrowed := true }
def TxTellsUptoSaid : Prop := txTellsUptoRow.holds Try.pinned (OpenSpec.upto txTellsSpec)

/-- 'liglaw8.TxBack', WHERE WHAT IT READS IS OF BULK AT MOST 1048576: true; the input reads as it did. -/
def txBackUptoRow : OpenClaim := { program := "ythipnkbfdkmhaaa", sum := "e8d841651ba0e2e253103f216649e069f2d6ba08b7872026745f56083e04d014", func := "lighterman/liglaw8.TxBack", spec := "txBack", inPlace := ["internal/abi.NoEscape"], unfollowed := true, recurses := true, plainKeys := false, apart := false, narrowed := true }
def TxBackUptoSaid : Prop := txBackUptoRow.holds Try.pinned (OpenSpec.upto txBackSpec)

/-- 'liglaw17.GasTells', WHERE WHAT IT READS IS OF BULK AT MOST 1048576: true; the input reads as it did. -/
def gasTellsUptoRow : OpenClaim := { program := "ythipnkbfdkmhaaa", sum := "e8d841651ba0e2e253103f216649e069f2d6ba08b7872026745f56083e04d014", func := "lighterman/liglaw17.GasTells", spec := "gasTells", inPlace := ["internal/abi.NoEscape"], unfollowed := true, recurses := true, plainKeys := false, apart := false, narrowed := true }
def GasTellsUptoSaid : Prop := gasTellsUptoRow.holds Try.pinned (OpenSpec.upto gasTellsSpec)

/-- 'liglaw17.GasMore', WHERE WHAT IT READS IS OF BULK AT MOST 1048576: true; the input reads as it did. -/
def gasMoreUptoRow : OpenClaim := { program := "ythipnkbfdkmhaaa", sum := "e8d841651ba0e2e253103f216649e069f2d6ba08b7872026745f56083e04d014", func := "lighterman/liglaw17.GasMore", spec := "gasMore", inPlace := ["internal/abi.NoEscape"], unfollowed := true, recurses := true, plainKeys := false, apart := false, narrowed := true }
def GasMoreUptoSaid : Prop := gasMoreUptoRow.holds Try.pinned (OpenSpec.upto gasMoreSpec)

/-- 'liglaw28.BatchCuts', WHERE WHAT IT READS IS OF BULK AT MOST 1048576: true; the input reads as it did. -/
def batchCutsUptoRow : OpenClaim := { program := "ythipnkbfdkmhaaa", sum := "e8d841651ba0e2e253103f216649e069f2d6ba08b7872026745f56083e04d014", func := "lighterman/liglaw28.BatchCuts", spec := "batchCuts", inPlace := ["internal/abi.NoEscape"], unfollowed := true, recurses := true, plainKeys := false, apart := false, narrowed := true }
def BatchCutsUptoSaid : Prop := batchCutsUptoRow.holds Try.pinned (OpenSpec.upto batchCutsSpec)

/-- 'liglaw28.BatchWhole', WHERE WHAT IT READS IS OF BULK AT MOST 1048576: true; the input reads as it did. -/
def batchWholeUptoRow : OpenClaim := { program := "ythipnkbfdkmhaaa", sum := "e8d841651ba0e2e253103f216649e069f2d6ba08b7872026745f56083e04d014", func := "lighterman/liglaw28.BatchWhole", spec := "batchWhole", inPlace := ["internal/abi.NoEscape"], unfollowed := true, recurses := true, plainKeys := false, apart := false, narrowed := true }
def BatchWholeUptoSaid : Prop := batchWholeUptoRow.holds Try.pinned (OpenSpec.upto batchWholeSpec)

/-- 'liglaw28.BatchMore', WHERE WHAT IT READS IS OF BULK AT MOST 1048576: true; the input reads as it did. -/
def batchMoreUptoRow : OpenClaim := { program := "ythipnkbfdkmhaaa", sum := "e8d841651ba0e2e253103f216649e069f2d6ba08b7872026745f56083e04d014", func := "lighterman/liglaw28.BatchMore", spec := "batchMore", inPlace := ["internal/abi.NoEscape"], unfollowed := true, recurses := true, plainKeys := false, apart := false, narrowed := true }
def BatchMoreUptoSaid : Prop := batchMoreUptoRow.holds Try.pinned (OpenSpec.upto batchMoreSpec)

/-- 'liglaw28.BatchGroups', WHERE WHAT IT READS IS OF BULK AT MOST 1048576: true; the input reads as it did. -/
def batchGroupsUptoRow : OpenClaim := { program := "ythipnkbfdkmhaaa", sum := "e8d841651ba0e2e253103f216649e069f2d6ba08b7872026745f56083e04d014", func := "lighterman/liglaw28.BatchGroups", spec := "batchGroups", inPlace := ["internal/abi.NoEscape"], unfollowed := true, recurses := true, plainKeys := false, apart := false, narrowed := true }
def BatchGroupsUptoSaid : Prop := batchGroupsUptoRow.holds Try.pinned (OpenSpec.upto batchGroupsSpec)

end Rows
end Go.Proofs.Ythipnkbfdkmhaaa
