/-
  No cell of these rows narrows 'for every input' (looked for: loops, veiled, ifaces, maps, wideKeys, modest, calm, conditions, laid).
  DERIVED. THE GIVEN ROWS OF THIS SEAT. 8 by the template 'for every input the law returns true; each argument reads behind the call as it read before'; 0 by the template 'total and deterministic' (their statements: YtbckncopdkmoeaaTotals.lean).
  GIVEN WITH THE SEED: the statements are not yours to turn. If you find one false, say at which input.
  Laid BY PROGRAM, IN A SANDBOX (cutbox-rows.mjs): the forced cells as the released guide's own fill.sh prints them over the translation a3d580b3abd2f79a… (all of the seat's roots in one cut). By AI agents, Wed Nov 11 2026. No macro, syntax, notation, axiom, sorry.
-/
import Derived.Test.YtbckncopdkmoeaaChecked
import GoSem.Claim
import GoSem.ClaimJoined
import GoSem.ClaimMapViews
import Derived.JoinedTies
import Derived.KernelRfl
namespace Go.Proofs.Ytbckncopdkmoeaa
/- THE CELL 'sum', in the pinned program and in every row, IS THE sha256 OF THE DUMP (.gsa) THAT YtbckncopdkmoeaaProg.lean LOADS. Nothing in Lean hashes anything: it is a label: what it is worth is what the hold of that sum in a sandbox is worth. -/
noncomputable def Try.pinned : Pinned := { name := "ytbckncopdkmoeaa", sum := "a3d580b3abd2f79a02f6ad1661f4703d92357fbc00ee77951f43fb005d074809", checked := Try.checked }
namespace Rows
def none {H : Type} : Left H := { results := [], args := [] }

/-- 'liglaw12.StoreUnder': WHATEVER THE INPUT: true; the input reads as it did. -/
def storeUnderSpec : ChangeSpec := { name := "storeUnder", fn := fun _ => fun
  | [d1, d2] => { results := [.lit (.bool true)], args := [d1, d2] }
  | _ => none }
def storeUnderRow : OpenClaim := { program := "ytbckncopdkmoeaa", sum := "a3d580b3abd2f79a02f6ad1661f4703d92357fbc00ee77951f43fb005d074809", func := "lighterman/liglaw12.StoreUnder", spec := "storeUnder", inPlace := ["internal/bytealg.abigen_runtime_cmpstring", "slices.overlaps[lighterman/proof.Pair]"], unfollowed := true, recurses := true, plainKeys := false, apart := false }
def StoreUnderSaid : Prop := storeUnderRow.holds Try.pinned (OpenSpec.ofChange storeUnderSpec)

/-- ITS FALSE NEIGHBOUR: 'it returns false'. Refute it at one input. -/
def storeUnderWrong : ChangeSpec := { name := "storeUnder", fn := fun _ => fun
  | [d1, d2] => { results := [.lit (.bool false)], args := [d1, d2] }
  | _ => none }
def StoreUnderWrongFalsely : Prop := storeUnderRow.holds Try.pinned (OpenSpec.ofChange storeUnderWrong)

/-- 'liglaw14.ClientPlays': WHATEVER THE INPUT: true; the input reads as it did. -/
def clientPlaysSpec : ChangeSpec := { name := "clientPlays", fn := fun _ => fun
  | [d1, d2, d3] => { results := [.lit (.bool true)], args := [d1, d2, d3] }
  | _ => none }
def clientPlaysRow : OpenClaim := { program := "ytbckncopdkmoeaa", sum := "a3d580b3abd2f79a02f6ad1661f4703d92357fbc00ee77951f43fb005d074809", func := "lighterman/liglaw14.ClientPlays", spec := "clientPlays", inPlace := ["maps.clone"], unfollowed := true, recurses := true, plainKeys := false, apart := false }
def ClientPlaysSaid : Prop := clientPlaysRow.holds Try.pinned (OpenSpec.ofChange clientPlaysSpec)

/-- ITS FALSE NEIGHBOUR: 'it returns false'. Refute it at one input. -/
def clientPlaysWrong : ChangeSpec := { name := "clientPlays", fn := fun _ => fun
  | [d1, d2, d3] => { results := [.lit (.bool false)], args := [d1, d2, d3] }
  | _ => none }
def ClientPlaysWrongFalsely : Prop := clientPlaysRow.holds Try.pinned (OpenSpec.ofChange clientPlaysWrong)

/-- 'liglaw14.ClientTold': WHATEVER THE INPUT: true; the input reads as it did. -/
def clientToldSpec : ChangeSpec := { name := "clientTold", fn := fun _ => fun
  | [d1, d2, d3] => { results := [.lit (.bool true)], args := [d1, d2, d3] }
  | _ => none }
def clientToldRow : OpenClaim := { program := "ytbckncopdkmoeaa", sum := "a3d580b3abd2f79a02f6ad1661f4703d92357fbc00ee77951f43fb005d074809", func := "lighterman/liglaw14.ClientTold", spec := "clientTold", unfollowed := true, recurses := true, plainKeys := false, apart := false }
def ClientToldSaid : Prop := clientToldRow.holds Try.pinned (OpenSpec.ofChange clientToldSpec)

/-- ITS FALSE NEIGHBOUR: 'it returns false'. Refute it at one input. -/
def clientToldWrong : ChangeSpec := { name := "clientTold", fn := fun _ => fun
  | [d1, d2, d3] => { results := [.lit (.bool false)], args := [d1, d2, d3] }
  | _ => none }
def ClientToldWrongFalsely : Prop := clientToldRow.holds Try.pinned (OpenSpec.ofChange clientToldWrong)

/-- 'liglaw14.ClientCopies': WHATEVER THE INPUT: true; the input reads as it did. -/
def clientCopiesSpec : ChangeSpec := { name := "clientCopies", fn := fun _ => fun
  | [d1, d2, d3] => { results := [.lit (.bool true)], args := [d1, d2, d3] }
  | _ => none }
def clientCopiesRow : OpenClaim := { program := "ytbckncopdkmoeaa", sum := "a3d580b3abd2f79a02f6ad1661f4703d92357fbc00ee77951f43fb005d074809", func := "lighterman/liglaw14.ClientCopies", spec := "clientCopies", inPlace := ["maps.clone"], unfollowed := true, recurses := true, plainKeys := false, apart := false }
def ClientCopiesSaid : Prop := clientCopiesRow.holds Try.pinned (OpenSpec.ofChange clientCopiesSpec)

/-- ITS FALSE NEIGHBOUR: 'it returns false'. Refute it at one input. -/
def clientCopiesWrong : ChangeSpec := { name := "clientCopies", fn := fun _ => fun
  | [d1, d2, d3] => { results := [.lit (.bool false)], args := [d1, d2, d3] }
  | _ => none }
def ClientCopiesWrongFalsely : Prop := clientCopiesRow.holds Try.pinned (OpenSpec.ofChange clientCopiesWrong)

/-- 'liglaw22.LifeFolds': WHATEVER THE INPUT: true; the input reads as it did. -/
def lifeFoldsSpec : ChangeSpec := { name := "lifeFolds", fn := fun _ => fun
  | [d1, d2] => { results := [.lit (.bool true)], args := [d1, d2] }
  | _ => none }
def lifeFoldsRow : OpenClaim := { program := "ytbckncopdkmoeaa", sum := "a3d580b3abd2f79a02f6ad1661f4703d92357fbc00ee77951f43fb005d074809", func := "lighterman/liglaw22.LifeFolds", spec := "lifeFolds", unfollowed := true, recurses := true, plainKeys := false, apart := false }
def LifeFoldsSaid : Prop := lifeFoldsRow.holds Try.pinned (OpenSpec.ofChange lifeFoldsSpec)

/-- ITS FALSE NEIGHBOUR: 'it returns false'. Refute it at one input. -/
def lifeFoldsWrong : ChangeSpec := { name := "lifeFolds", fn := fun _ => fun
  | [d1, d2] => { results := [.lit (.bool false)], args := [d1, d2] }
  | _ => none }
def LifeFoldsWrongFalsely : Prop := lifeFoldsRow.holds Try.pinned (OpenSpec.ofChange lifeFoldsWrong)

/-- 'liglaw22.LifeTwice': WHATEVER THE INPUT: true; the input reads as it did. -/
def lifeTwiceSpec : ChangeSpec := { name := "lifeTwice", fn := fun _ => fun
  | [d] => { results := [.lit (.bool true)], args := [d] }
  | _ => none }
def lifeTwiceRow : OpenClaim := { program := "ytbckncopdkmoeaa", sum := "a3d580b3abd2f79a02f6ad1661f4703d92357fbc00ee77951f43fb005d074809", func := "lighterman/liglaw22.LifeTwice", spec := "lifeTwice", unfollowed := true, recurses := true, plainKeys := false, apart := false }
def LifeTwiceSaid : Prop := lifeTwiceRow.holds Try.pinned (OpenSpec.ofChange lifeTwiceSpec)

/-- ITS FALSE NEIGHBOUR: 'it returns false'. Refute it at one input. -/
def lifeTwiceWrong : ChangeSpec := { name := "lifeTwice", fn := fun _ => fun
  | [d] => { results := [.lit (.bool false)], args := [d] }
  | _ => none }
def LifeTwiceWrongFalsely : Prop := lifeTwiceRow.holds Try.pinned (OpenSpec.ofChange lifeTwiceWrong)

/-- 'liglaw22.LifeSides': WHATEVER THE INPUT: true; the input reads as it did. -/
def lifeSidesSpec : ChangeSpec := { name := "lifeSides", fn := fun _ => fun
  | [d1, d2] => { results := [.lit (.bool true)], args := [d1, d2] }
  | _ => none }
def lifeSidesRow : OpenClaim := { program := "ytbckncopdkmoeaa", sum := "a3d580b3abd2f79a02f6ad1661f4703d92357fbc00ee77951f43fb005d074809", func := "lighterman/liglaw22.LifeSides", spec := "lifeSides", unfollowed := true, recurses := true, plainKeys := false, apart := false }
def LifeSidesSaid : Prop := lifeSidesRow.holds Try.pinned (OpenSpec.ofChange lifeSidesSpec)

/-- ITS FALSE NEIGHBOUR: 'it returns false'. Refute it at one input. -/
def lifeSidesWrong : ChangeSpec := { name := "lifeSides", fn := fun _ => fun
  | [d1, d2] => { results := [.lit (.bool false)], args := [d1, d2] }
  | _ => none }
def LifeSidesWrongFalsely : Prop := lifeSidesRow.holds Try.pinned (OpenSpec.ofChange lifeSidesWrong)

/-- 'liglaw22.LifeApart': WHATEVER THE INPUT: true; the input reads as it did. -/
def lifeApartSpec : ChangeSpec := { name := "lifeApart", fn := fun _ => fun
  | [d1, d2] => { results := [.lit (.bool true)], args := [d1, d2] }
  | _ => none }
def lifeApartRow : OpenClaim := { program := "ytbckncopdkmoeaa", sum := "a3d580b3abd2f79a02f6ad1661f4703d92357fbc00ee77951f43fb005d074809", func := "lighterman/liglaw22.LifeApart", spec := "lifeApart", unfollowed := true, recurses := true, plainKeys := false, apart := false }
def LifeApartSaid : Prop := lifeApartRow.holds Try.pinned (OpenSpec.ofChange lifeApartSpec)

/-- ITS FALSE NEIGHBOUR: 'it returns false'. Refute it at one input. -/
def lifeApartWrong : ChangeSpec := { name := "lifeApart", fn := fun _ => fun
  | [d1, d2] => { results := [.lit (.bool false)], args := [d1, d2] }
  | _ => none }
def LifeApartWrongFalsely : Prop := lifeApartRow.holds Try.pinned (OpenSpec.ofChange lifeApartWrong)

/- THE SECOND FORM. 'bulk': how many values and letters a reading holds, each counted each time it is reached (what is shared counts as often as it is met; a slice's spare places count too). A statement '..UptoSaid' is the law's where the arguments, and the package variables that the reading takes, are together of bulk at most 1048576: NARROWER than '..Said'. Prove '..Said' where nothing that the law and all that it calls make is longer than what came in: it says more and counts as full. Else prove '..UptoSaid'. A law counts once. -/
mutual
def uptoBulk {H : Type} : DataW H → Nat
  | .lit (.string bytes) => bytes.length + 1
  | .lit _ => 1
  | .nil => 1
  | .ptr d => uptoBulk d + 1
  | .slice elems spare => uptoBulkAll elems + uptoBulkAll spare + 1
  | .agg parts => uptoBulkAll parts + 1
  | .iface _ d => uptoBulk d + 1
  | .map entries => uptoBulkEntries entries + 1
  | .held _ => 1
def uptoBulkAll {H : Type} : List (DataW H) → Nat
  | [] => 0
  | d :: r => uptoBulk d + uptoBulkAll r
def uptoBulkEntries {H : Type} : List (Lit × DataW H) → Nat
  | [] => 0
  | x :: r => uptoBulkEntry x + uptoBulkEntries r
def uptoBulkEntry {H : Type} : Lit × DataW H → Nat
  | (.string bytes, d) => bytes.length + uptoBulk d + 1
  | (_, d) => uptoBulk d + 1
 end
def uptoSmall : (H : Type) → List (DataW H) → Bool := fun _ ds => decide (uptoBulkAll ds ≤ 1048576)
def OpenSpec.upto (s : _root_.Go.ChangeSpec) : _root_.Go.OpenSpec := { _root_.Go.OpenSpec.ofChange s with cond := some uptoSmall }

/-- 'liglaw12.StoreUnder', WHERE WHAT IT READS IS OF BULK AT MOST 1048576: true; the input reads as it did. -/
def storeUnderUptoRow : OpenClaim := { program := "ytbckncopdkmoeaa", sum := "a3d580b3abd2f79a02f6ad1661f4703d92357fbc00ee77951f43fb005d074809", func := "lighterman/liglaw12.StoreUnder", spec := "storeUnder", inPlace := ["internal/bytealg.abigen_runtime_cmpstring", "slices.overlaps[lighterman/proof.Pair]"], unfollowed := true, recurses := true, plainKeys := false, apart := false, narrowed := true }
def StoreUnderUptoSaid : Prop := storeUnderUptoRow.holds Try.pinned (OpenSpec.upto storeUnderSpec)

/-- 'liglaw14.ClientPlays', WHERE WHAT IT READS IS OF BULK AT MOST 1048576: true; the input reads as it did. -/
def clientPlaysUptoRow : OpenClaim := { program := "ytbckncopdkmoeaa", sum := "a3d580b3abd2f79a02f6ad1661f4703d92357fbc00ee77951f43fb005d074809", func := "lighterman/liglaw14.ClientPlays", spec := "clientPlays", inPlace := ["maps.clone"], unfollowed := true, recurses := true, plainKeys := false, apart := false, narrowed := true }
def ClientPlaysUptoSaid : Prop := clientPlaysUptoRow.holds Try.pinned (OpenSpec.upto clientPlaysSpec)

/-- 'liglaw14.ClientTold', WHERE WHAT IT READS IS OF BULK AT MOST 1048576: true; the input reads as it did. -/
def clientToldUptoRow : OpenClaim := { program := "ytbckncopdkmoeaa", sum := "a3d580b3abd2f79a02f6ad1661f4703d92357fbc00ee77951f43fb005d074809", func := "lighterman/liglaw14.ClientTold", spec := "clientTold", unfollowed := true, recurses := true, plainKeys := false, apart := false, narrowed := true }
def ClientToldUptoSaid : Prop := clientToldUptoRow.holds Try.pinned (OpenSpec.upto clientToldSpec)

/-- 'liglaw14.ClientCopies', WHERE WHAT IT READS IS OF BULK AT MOST 1048576: true; the input reads as it did. -/
def clientCopiesUptoRow : OpenClaim := { program := "ytbckncopdkmoeaa", sum := "a3d580b3abd2f79a02f6ad1661f4703d92357fbc00ee77951f43fb005d074809", func := "lighterman/liglaw14.ClientCopies", spec := "clientCopies", inPlace := ["maps.clone"], unfollowed := true, recurses := true, plainKeys := false, apart := false, narrowed := true }
def ClientCopiesUptoSaid : Prop := clientCopiesUptoRow.holds Try.pinned (OpenSpec.upto clientCopiesSpec)

/-- 'liglaw22.LifeFolds', WHERE WHAT IT READS IS OF BULK AT MOST 1048576: true; the input reads as it did. -/
def lifeFoldsUptoRow : OpenClaim := { program := "ytbckncopdkmoeaa", sum := "a3d580b3abd2f79a02f6ad1661f4703d92357fbc00ee77951f43fb005d074809", func := "lighterman/liglaw22.LifeFolds", spec := "lifeFolds", unfollowed := true, recurses := true, plainKeys := false, apart := false, narrowed := true }
def LifeFoldsUptoSaid : Prop := lifeFoldsUptoRow.holds Try.pinned (OpenSpec.upto lifeFoldsSpec)

/-- 'liglaw22.LifeTwice', WHERE WHAT IT READS IS OF BULK AT MOST 1048576: true; the input reads as it did. -/
def lifeTwiceUptoRow : OpenClaim := { program := "ytbckncopdkmoeaa", sum := "a3d580b3abd2f79a02f6ad1661f4703d92357fbc00ee77951f43fb005d074809", func := "lighterman/liglaw22.LifeTwice", spec := "lifeTwice", unfollowed := true, recurses := true, plainKeys := false, apart := false, narrowed := true }
def LifeTwiceUptoSaid : Prop := lifeTwiceUptoRow.holds Try.pinned (OpenSpec.upto lifeTwiceSpec)

/-- 'liglaw22.LifeSides', WHERE WHAT IT READS IS OF BULK AT MOST 1048576: true; the input reads as it did. -/
def lifeSidesUptoRow : OpenClaim := { program := "ytbckncopdkmoeaa", sum := "a3d580b3abd2f79a02f6ad1661f4703d92357fbc00ee77951f43fb005d074809", func := "lighterman/liglaw22.LifeSides", spec := "lifeSides", unfollowed := true, recurses := true, plainKeys := false, apart := false, narrowed := true }
def LifeSidesUptoSaid : Prop := lifeSidesUptoRow.holds Try.pinned (OpenSpec.upto lifeSidesSpec)

/-- 'liglaw22.LifeApart', WHERE WHAT IT READS IS OF BULK AT MOST 1048576: true; the input reads as it did. -/
def lifeApartUptoRow : OpenClaim := { program := "ytbckncopdkmoeaa", sum := "a3d580b3abd2f79a02f6ad1661f4703d92357fbc00ee77951f43fb005d074809", func := "lighterman/liglaw22.LifeApart", spec := "lifeApart", unfollowed := true, recurses := true, plainKeys := false, apart := false, narrowed := true }
def LifeApartUptoSaid : Prop := lifeApartUptoRow.holds Try.pinned (OpenSpec.upto lifeApartSpec)

end Rows
end Go.Proofs.Ytbckncopdkmoeaa
