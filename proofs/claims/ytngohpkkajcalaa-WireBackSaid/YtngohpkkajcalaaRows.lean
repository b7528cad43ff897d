/-
  No cell of these rows narrows 'for every input' (looked for: loops, veiled, ifaces, maps, wideKeys, modest, calm, conditions, laid).
  DERIVED. THE GIVEN ROWS OF THIS SEAT. 5 by the template 'for every input the law returns true; each argument reads behind the call as it read before'; 0 by the template 'total and deterministic' (their statements: YtngohpkkajcalaaTotals.lean).
  GIVEN WITH THE SEED: the statements are not yours to turn. If you find one false, say at which input.
  Laid BY PROGRAM, IN A SANDBOX (cutbox-rows.mjs): the forced cells as the released guide's own fill.sh prints them over the translation 8c9d6e4dbd5ef0f5… (all of the seat's roots in one cut). By AI agents, Wed Nov 11 2026. No macro, syntax, notation, axiom, sorry.
-/
import Derived.Test.YtngohpkkajcalaaChecked
import GoSem.Claim
import GoSem.ClaimJoined
import GoSem.ClaimMapViews
import Derived.JoinedTies
import Derived.KernelRfl
namespace Go.Proofs.Ytngohpkkajcalaa
/- THE CELL 'sum', in the pinned program and in every row, IS THE sha256 OF THE DUMP (.gsa) THAT YtngohpkkajcalaaProg.lean LOADS. Nothing in Lean hashes anything: it is a label: what it is worth is what the hold of that sum in a sandbox is worth. -/
noncomputable def Try.pinned : Pinned := { name := "ytngohpkkajcalaa", sum := "8c9d6e4dbd5ef0f559f48f5630733a343751fa171f50b69cea6e483bf70a7e6a", checked := Try.checked }
namespace Rows
def none {H : Type} : Left H := { results := [], args := [] }

/-- 'liglaw4.WireWrites': WHATEVER THE INPUT: true; the input reads as it did. -/
def wireWritesSpec : ChangeSpec := { name := "wireWrites", fn := fun _ => fun
  | [d] => { results := [.lit (.bool true)], args := [d] }
  | _ => none }
def wireWritesRow : OpenClaim := { program := "ytngohpkkajcalaa", sum := "8c9d6e4dbd5ef0f559f48f5630733a343751fa171f50b69cea6e483bf70a7e6a", func := "lighterman/liglaw4.WireWrites", spec := "wireWrites", inPlace := ["internal/abi.NoEscape"], apart := false }
def WireWritesSaid : Prop := wireWritesRow.holds Try.pinned (OpenSpec.ofChange wireWritesSpec)

/-- ITS FALSE NEIGHBOUR: 'it returns false'. Refute it at one input. -/
def wireWritesWrong : ChangeSpec := { name := "wireWrites", fn := fun _ => fun
  | [d] => { results := [.lit (.bool false)], args := [d] }
  | _ => none }
def WireWritesWrongFalsely : Prop := wireWritesRow.holds Try.pinned (OpenSpec.ofChange wireWritesWrong)

/-- 'liglaw4.WireReads': WHATEVER THE INPUT: true; the input reads as it did. -/
def wireReadsSpec : ChangeSpec := { name := "wireReads", fn := fun _ => fun
  | [d1, d2] => { results := [.lit (.bool true)], args := [d1, d2] }
  | _ => none }
def wireReadsRow : OpenClaim := { program := "ytngohpkkajcalaa", sum := "8c9d6e4dbd5ef0f559f48f5630733a343751fa171f50b69cea6e483bf70a7e6a", func := "lighterman/liglaw4.WireReads", spec := "wireReads", inPlace := ["internal/abi.NoEscape"], apart := false }
def WireReadsSaid : Prop := wireReadsRow.holds Try.pinned (OpenSpec.ofChange wireReadsSpec)

/-- ITS FALSE NEIGHBOUR: 'it returns false'. Refute it at one input. -/
def wireReadsWrong : ChangeSpec := { name := "wireReads", fn := fun _ => fun
  | [d1, d2] => { results := [.lit (.bool false)], args := [d1, d2] }
  | _ => none }
def WireReadsWrongFalsely : Prop := wireReadsRow.holds Try.pinned (OpenSpec.ofChange wireReadsWrong)

/-- 'liglaw4.WireBack': WHATEVER THE INPUT: true; the input reads as it did. -/
def wireBackSpec : ChangeSpec := { name := "wireBack", fn := fun _ => fun
  | [d1, d2] => { results := [.lit (.bool true)], args := [d1, d2] }
  | _ => none }
def wireBackRow : OpenClaim := { program := "ytngohpkkajcalaa", sum := "8c9d6e4dbd5ef0f559f48f5630733a343751fa171f50b69cea6e483bf70a7e6a", func := "lighterman/liglaw4.WireBack", spec := "wireBack", inPlace := ["internal/abi.NoEscape"], apart := false }
def WireBackSaid : Prop := wireBackRow.holds Try.pinned (OpenSpec.ofChange wireBackSpec)

/-- ITS FALSE NEIGHBOUR: 'it returns false'. Refute it at one input. -/
def wireBackWrong : ChangeSpec := { name := "wireBack", fn := fun _ => fun
  | [d1, d2] => { results := [.lit (.bool false)], args := [d1, d2] }
  | _ => none }
def WireBackWrongFalsely : Prop := wireBackRow.holds Try.pinned (OpenSpec.ofChange wireBackWrong)

/-- 'liglaw4.WireStops': WHATEVER THE INPUT: true; the input reads as it did. -/
def wireStopsSpec : ChangeSpec := { name := "wireStops", fn := fun _ => fun
  | [d1, d2, d3, d4] => { results := [.lit (.bool true)], args := [d1, d2, d3, d4] }
  | _ => none }
def wireStopsRow : OpenClaim := { program := "ytngohpkkajcalaa", sum := "8c9d6e4dbd5ef0f559f48f5630733a343751fa171f50b69cea6e483bf70a7e6a", func := "lighterman/liglaw4.WireStops", spec := "wireStops", inPlace := ["internal/abi.NoEscape"], apart := false }
def WireStopsSaid : Prop := wireStopsRow.holds Try.pinned (OpenSpec.ofChange wireStopsSpec)

/-- ITS FALSE NEIGHBOUR: 'it returns false'. Refute it at one input. -/
def wireStopsWrong : ChangeSpec := { name := "wireStops", fn := fun _ => fun
  | [d1, d2, d3, d4] => { results := [.lit (.bool false)], args := [d1, d2, d3, d4] }
  | _ => none }
def WireStopsWrongFalsely : Prop := wireStopsRow.holds Try.pinned (OpenSpec.ofChange wireStopsWrong)

/-- 'liglaw5.PacketOver': WHATEVER THE INPUT: true; the input reads as it did. -/
def packetOverSpec : ChangeSpec := { name := "packetOver", fn := fun _ => fun
  | [d1, d2, d3, d4, d5] => { results := [.lit (.bool true)], args := [d1, d2, d3, d4, d5] }
  | _ => none }
def packetOverRow : OpenClaim := { program := "ytngohpkkajcalaa", sum := "8c9d6e4dbd5ef0f559f48f5630733a343751fa171f50b69cea6e483bf70a7e6a", func := "lighterman/liglaw5.PacketOver", spec := "packetOver", apart := false }
def PacketOverSaid : Prop := packetOverRow.holds Try.pinned (OpenSpec.ofChange packetOverSpec)

/-- ITS FALSE NEIGHBOUR: 'it returns false'. Refute it at one input. -/
def packetOverWrong : ChangeSpec := { name := "packetOver", fn := fun _ => fun
  | [d1, d2, d3, d4, d5] => { results := [.lit (.bool false)], args := [d1, d2, d3, d4, d5] }
  | _ => none }
def PacketOverWrongFalsely : Prop := packetOverRow.holds Try.pinned (OpenSpec.ofChange packetOverWrong)

/- THE SECOND FORM. 'bulk': how many values and letters a reading holds, each counted each time it is reached (what is shared counts as often as it is met; a slice's spare places count too). A statement '..UptoSaid' is the law's where the arguments, and the package variables that the reading takes, are together of bulk at most 1048576: NARROWER than '..Said'. Prove '..Said' where nothing that the law and all that it calls make is longer than what came in: it says more and counts as full. Else prove '..UptoSaid'. A law counts once. -/
mutual
def uptoBulk {H : Type} : DataW H → Nat
  | .lit (.string bytes) => bytes.length + 1
  | .lit _ => 1
  | .nil => 1
  | .ptr d => uptoBulk d + 1
  | .slice elems spare => uptoBulkAll elems + uptoBulkAll spare + 1
  | .agg parts => uptoBulkAll parts + 1
  | .iface _ d => uptoBulk d + 1
  | .map entries => uptoBulkEntries entries + 1
  | .held _ => 1
def uptoBulkAll {H : Type} : List (DataW H) → Nat
  | [] => 0
  | d :: r => uptoBulk d + uptoBulkAll r
def uptoBulkEntries {H : Type} : List (Lit × DataW H) → Nat
  | [] => 0
  | x :: r => uptoBulkEntry x + uptoBulkEntries r
def uptoBulkEntry {H : Type} : Lit × DataW H → Nat
  | (.string bytes, d) => bytes.length + uptoBulk d + 1
  | (_, d) => uptoBulk d + 1
 end
def uptoSmall : (H : Type) → List (DataW H) → Bool := fun _ ds => decide (uptoBulkAll ds ≤ 1048576)
def OpenSpec.upto (s : _root_.Go.ChangeSpec) : _root_.Go.OpenSpec := { _root_.Go.OpenSpec.ofChange s with cond := some uptoSmall }

/-- 'liglaw4.WireWrites', WHERE WHAT IT READS IS OF BULK AT MOST 1048576: true; the input reads as it did. -/
def wireWritesUptoRow : OpenClaim := { program := "ytngohpkkajcalaa", sum := "8c9d6e4dbd5ef0f559f48f5630733a343751fa171f50b69cea6e483bf70a7e6a", func := "lighterman/liglaw4.WireWrites", spec := "wireWrites", inPlace := ["internal/abi.NoEscape"], apart := false, narrowed := true }
def WireWritesUptoSaid : Prop := wireWritesUptoRow.holds Try.pinned (OpenSpec.upto wireWritesSpec)

/-- 'liglaw4.WireReads', WHERE WHAT IT READS IS OF BULK AT MOST 1048576: true; the input reads as it did. -/
def wireReadsUptoRow : OpenClaim := { program := "ytngohpkkajcalaa", sum := "8c9d6e4dbd5ef0f559f48f5630733a343751fa171f50b69cea6e483bf70a7e6a", func := "lighterman/liglaw4.WireReads", spec := "wireReads", inPlace := ["internal/abi.NoEscape"], apart := false, narrowed := true }
def WireReadsUptoSaid : Prop := wireReadsUptoRow.holds Try.pinned (OpenSpec.upto wireReadsSpec)

/-- 'liglaw4.WireBack', WHERE WHAT IT READS IS OF BULK AT MOST 1048576: true; the input reads as it did. -/
def wireBackUptoRow : OpenClaim := { program := "ytngohpkkajcalaa", sum := "8c9d6e4dbd5ef0f559f48f5630733a343751fa171f50b69cea6e483bf70a7e6a", func := "lighterman/liglaw4.WireBack", spec := "wireBack", inPlace := ["internal/abi.NoEscape"], apart := false, narrowed := true }
def WireBackUptoSaid : Prop := wireBackUptoRow.holds Try.pinned (OpenSpec.upto wireBackSpec)

/-- 'liglaw4.WireStops', WHERE WHAT IT READS IS OF BULK AT MOST 1048576: true; the input reads as it did. -/
def wireStopsUptoRow : OpenClaim := { program := "ytngohpkkajcalaa", sum := "8c9d6e4dbd5ef0f559f48f5630733a343751fa171f50b69cea6e483bf70a7e6a", func := "lighterman/liglaw4.WireStops", spec := "wireStops", inPlace := ["internal/abi.NoEscape"], apart := false, narrowed := true }
def WireStopsUptoSaid : Prop := wireStopsUptoRow.holds Try.pinned (OpenSpec.upto wireStopsSpec)

/-- 'liglaw5.PacketOver', WHERE WHAT IT READS IS OF BULK AT MOST 1048576: true; the input reads as it did. -/
def packetOverUptoRow : OpenClaim := { program := "ytngohpkkajcalaa", sum := "8c9d6e4dbd5ef0f559f48f5630733a343751fa171f50b69cea6e483bf70a7e6a", func := "lighterman/liglaw5.PacketOver", spec := "packetOver", apart := false, narrowed := true }
def PacketOverUptoSaid : Prop := packetOverUptoRow.holds Try.pinned (OpenSpec.upto packetOverSpec)

end Rows
end Go.Proofs.Ytngohpkkajcalaa
