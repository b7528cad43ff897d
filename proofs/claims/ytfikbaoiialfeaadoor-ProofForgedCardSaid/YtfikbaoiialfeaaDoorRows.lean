/-
  NARROWER THAN 'FOR EVERY INPUT', by the rows' own cells (each row's printed sentence says how): TreeTells: laid · TreeFolds: laid · ProofShows: laid · ProofTells: laid · ProofBytes: laid · ProofForged: laid.
  DERIVED. THE GIVEN ROWS OF THIS SEAT. 6 by the template 'for every input the law returns true; each argument reads behind the call as it read before'; 0 by the template 'total and deterministic' (their statements: YtfikbaoiialfeaaDoorTotals.lean).
  GIVEN WITH THE SEED: the statements are not yours to turn. If you find one false, say at which input.
  Laid BY PROGRAM, IN A SANDBOX (cutbox-rows.mjs): the forced cells as the released guide's own fill.sh prints them over the translation 39c2181ef7e02ed5… (all of the seat's roots in one cut). By AI agents, Wed Nov 11 2026. No macro, syntax, notation, axiom, sorry.
-/
import Derived.Test.YtfikbaoiialfeaaDoorChecked
import GoSem.Claim
import GoSem.ClaimJoined
import GoSem.ClaimMapViews
import Derived.JoinedTies
import Derived.KernelRfl
namespace Go.Proofs.YtfikbaoiialfeaaDoor
/- THE CELL 'sum', in the pinned program and in every row, IS THE sha256 OF THE DUMP (.gsa) THAT YtfikbaoiialfeaaDoorProg.lean LOADS. Nothing in Lean hashes anything: it is a label: what it is worth is what the hold of that sum in a sandbox is worth. -/
noncomputable def Tryd.pinned : Pinned := { name := "ytfikbaoiialfeaadoor", sum := "39c2181ef7e02ed5403615b14a7fe26e79e427527443b6887dabe01ecc35dd41", checked := Tryd.checked }
namespace Rows
def none {H : Type} : Left H := { results := [], args := [] }

/- WHAT THE LISTED PACKAGE-LEVEL VARIABLES READ AS WHEN THE CALL BEGINS. Each datum BY PROGRAM (the guide's laid-datum.mjs) off the statement by which the dump's own 'gosem.cut.vars' lays the variable. In a bare row this is a premise. The card (YtfikbaoiialfeaaDoorCards.lean) ties it to the program's text. -/
def laid_lighterman_sha_start {H : Type} : DataW H := .agg [.lit (.int .u32 1779033703), .lit (.int .u32 3144134277), .lit (.int .u32 1013904242), .lit (.int .u32 2773480762), .lit (.int .u32 1359893119), .lit (.int .u32 2600822924), .lit (.int .u32 528734635), .lit (.int .u32 1541459225)]
def laid_lighterman_sha_rounds {H : Type} : DataW H := .agg [.lit (.int .u32 1116352408), .lit (.int .u32 1899447441), .lit (.int .u32 3049323471), .lit (.int .u32 3921009573), .lit (.int .u32 961987163), .lit (.int .u32 1508970993), .lit (.int .u32 2453635748), .lit (.int .u32 2870763221), .lit (.int .u32 3624381080), .lit (.int .u32 310598401), .lit (.int .u32 607225278), .lit (.int .u32 1426881987), .lit (.int .u32 1925078388), .lit (.int .u32 2162078206), .lit (.int .u32 2614888103), .lit (.int .u32 3248222580), .lit (.int .u32 3835390401), .lit (.int .u32 4022224774), .lit (.int .u32 264347078), .lit (.int .u32 604807628), .lit (.int .u32 770255983), .lit (.int .u32 1249150122), .lit (.int .u32 1555081692), .lit (.int .u32 1996064986), .lit (.int .u32 2554220882), .lit (.int .u32 2821834349), .lit (.int .u32 2952996808), .lit (.int .u32 3210313671), .lit (.int .u32 3336571891), .lit (.int .u32 3584528711), .lit (.int .u32 113926993), .lit (.int .u32 338241895), .lit (.int .u32 666307205), .lit (.int .u32 773529912), .lit (.int .u32 1294757372), .lit (.int .u32 1396182291), .lit (.int .u32 1695183700), .lit (.int .u32 1986661051), .lit (.int .u32 2177026350), .lit (.int .u32 2456956037), .lit (.int .u32 2730485921), .lit (.int .u32 2820302411), .lit (.int .u32 3259730800), .lit (.int .u32 3345764771), .lit (.int .u32 3516065817), .lit (.int .u32 3600352804), .lit (.int .u32 4094571909), .lit (.int .u32 275423344), .lit (.int .u32 430227734), .lit (.int .u32 506948616), .lit (.int .u32 659060556), .lit (.int .u32 883997877), .lit (.int .u32 958139571), .lit (.int .u32 1322822218), .lit (.int .u32 1537002063), .lit (.int .u32 1747873779), .lit (.int .u32 1955562222), .lit (.int .u32 2024104815), .lit (.int .u32 2227730452), .lit (.int .u32 2361852424), .lit (.int .u32 2428436474), .lit (.int .u32 2756734187), .lit (.int .u32 3204031479), .lit (.int .u32 3329325298)]

/-- 'liglaw6.TreeTells': WHATEVER THE INPUT: true; the input reads as it did. -/
def treeTellsSpec : ChangeSpec := { name := "treeTells", fn := fun _ => fun
  | [d1, d2, d3, d4, d5, d6] => { results := [.lit (.bool true)], args := [d1, d2, d3, d4, d5, d6] }
  | _ => none }
def treeTellsRow : OpenClaim := { program := "ytfikbaoiialfeaadoor", sum := "39c2181ef7e02ed5403615b14a7fe26e79e427527443b6887dabe01ecc35dd41", func := "lighterman/liglaw6.TreeTells", spec := "treeTells", recurses := true, named := ["lighterman/sha.start", "lighterman/sha.rounds"], apart := false, laid := [("lighterman/sha.start", laid_lighterman_sha_start), ("lighterman/sha.rounds", laid_lighterman_sha_rounds)] }
def TreeTellsSaid : Prop := treeTellsRow.holds Tryd.pinned (OpenSpec.ofChange treeTellsSpec)

/-- ITS FALSE NEIGHBOUR: 'it returns false'. Refute it at one input. -/
def treeTellsWrong : ChangeSpec := { name := "treeTells", fn := fun _ => fun
  | [d1, d2, d3, d4, d5, d6] => { results := [.lit (.bool false)], args := [d1, d2, d3, d4, d5, d6] }
  | _ => none }
def TreeTellsWrongFalsely : Prop := treeTellsRow.holds Tryd.pinned (OpenSpec.ofChange treeTellsWrong)

/-- 'liglaw6.TreeFolds': WHATEVER THE INPUT: true; the input reads as it did. -/
def treeFoldsSpec : ChangeSpec := { name := "treeFolds", fn := fun _ => fun
  | [d1, d2, d3] => { results := [.lit (.bool true)], args := [d1, d2, d3] }
  | _ => none }
def treeFoldsRow : OpenClaim := { program := "ytfikbaoiialfeaadoor", sum := "39c2181ef7e02ed5403615b14a7fe26e79e427527443b6887dabe01ecc35dd41", func := "lighterman/liglaw6.TreeFolds", spec := "treeFolds", recurses := true, named := ["lighterman/sha.start", "lighterman/sha.rounds"], apart := false, laid := [("lighterman/sha.start", laid_lighterman_sha_start), ("lighterman/sha.rounds", laid_lighterman_sha_rounds)] }
def TreeFoldsSaid : Prop := treeFoldsRow.holds Tryd.pinned (OpenSpec.ofChange treeFoldsSpec)

/-- ITS FALSE NEIGHBOUR: 'it returns false'. Refute it at one input. -/
def treeFoldsWrong : ChangeSpec := { name := "treeFolds", fn := fun _ => fun
  | [d1, d2, d3] => { results := [.lit (.bool false)], args := [d1, d2, d3] }
  | _ => none }
def TreeFoldsWrongFalsely : Prop := treeFoldsRow.holds Tryd.pinned (OpenSpec.ofChange treeFoldsWrong)

/-- 'liglaw7.ProofShows': WHATEVER THE INPUT: true; the input reads as it did. -/
def proofShowsSpec : ChangeSpec := { name := "proofShows", fn := fun _ => fun
  | [d1, d2] => { results := [.lit (.bool true)], args := [d1, d2] }
  | _ => none }
def proofShowsRow : OpenClaim := { program := "ytfikbaoiialfeaadoor", sum := "39c2181ef7e02ed5403615b14a7fe26e79e427527443b6887dabe01ecc35dd41", func := "lighterman/liglaw7.ProofShows", spec := "proofShows", inPlace := ["internal/bytealg.abigen_runtime_cmpstring"], unfollowed := true, recurses := true, named := ["lighterman/sha.start", "lighterman/sha.rounds"], apart := false, laid := [("lighterman/sha.start", laid_lighterman_sha_start), ("lighterman/sha.rounds", laid_lighterman_sha_rounds)] }
def ProofShowsSaid : Prop := proofShowsRow.holds Tryd.pinned (OpenSpec.ofChange proofShowsSpec)

/-- ITS FALSE NEIGHBOUR: 'it returns false'. Refute it at one input. -/
def proofShowsWrong : ChangeSpec := { name := "proofShows", fn := fun _ => fun
  | [d1, d2] => { results := [.lit (.bool false)], args := [d1, d2] }
  | _ => none }
def ProofShowsWrongFalsely : Prop := proofShowsRow.holds Tryd.pinned (OpenSpec.ofChange proofShowsWrong)

/-- 'liglaw7.ProofTells': WHATEVER THE INPUT: true; the input reads as it did. -/
def proofTellsSpec : ChangeSpec := { name := "proofTells", fn := fun _ => fun
  | [d1, d2, d3, d4, d5, d6] => { results := [.lit (.bool true)], args := [d1, d2, d3, d4, d5, d6] }
  | _ => none }
def proofTellsRow : OpenClaim := { program := "ytfikbaoiialfeaadoor", sum := "39c2181ef7e02ed5403615b14a7fe26e79e427527443b6887dabe01ecc35dd41", func := "lighterman/liglaw7.ProofTells", spec := "proofTells", inPlace := ["internal/bytealg.abigen_runtime_cmpstring"], unfollowed := true, recurses := true, named := ["lighterman/sha.start", "lighterman/sha.rounds"], apart := false, laid := [("lighterman/sha.start", laid_lighterman_sha_start), ("lighterman/sha.rounds", laid_lighterman_sha_rounds)] }
def ProofTellsSaid : Prop := proofTellsRow.holds Tryd.pinned (OpenSpec.ofChange proofTellsSpec)

/-- ITS FALSE NEIGHBOUR: 'it returns false'. Refute it at one input. -/
def proofTellsWrong : ChangeSpec := { name := "proofTells", fn := fun _ => fun
  | [d1, d2, d3, d4, d5, d6] => { results := [.lit (.bool false)], args := [d1, d2, d3, d4, d5, d6] }
  | _ => none }
def ProofTellsWrongFalsely : Prop := proofTellsRow.holds Tryd.pinned (OpenSpec.ofChange proofTellsWrong)

/-- 'liglaw7.ProofBytes': WHATEVER THE INPUT: true; the input reads as it did. -/
def proofBytesSpec : ChangeSpec := { name := "proofBytes", fn := fun _ => fun
  | [d1, d2, d3] => { results := [.lit (.bool true)], args := [d1, d2, d3] }
  | _ => none }
def proofBytesRow : OpenClaim := { program := "ytfikbaoiialfeaadoor", sum := "39c2181ef7e02ed5403615b14a7fe26e79e427527443b6887dabe01ecc35dd41", func := "lighterman/liglaw7.ProofBytes", spec := "proofBytes", inPlace := ["internal/bytealg.abigen_runtime_cmpstring", "internal/abi.NoEscape"], unfollowed := true, recurses := true, named := ["lighterman/sha.start", "lighterman/sha.rounds"], apart := false, laid := [("lighterman/sha.start", laid_lighterman_sha_start), ("lighterman/sha.rounds", laid_lighterman_sha_rounds)] }
def ProofBytesSaid : Prop := proofBytesRow.holds Tryd.pinned (OpenSpec.ofChange proofBytesSpec)

/-- ITS FALSE NEIGHBOUR: 'it returns false'. Refute it at one input. -/
def proofBytesWrong : ChangeSpec := { name := "proofBytes", fn := fun _ => fun
  | [d1, d2, d3] => { results := [.lit (.bool false)], args := [d1, d2, d3] }
  | _ => none }
def ProofBytesWrongFalsely : Prop := proofBytesRow.holds Tryd.pinned (OpenSpec.ofChange proofBytesWrong)

/-- 'liglaw7.ProofForged': WHATEVER THE INPUT: true; the input reads as it did. -/
def proofForgedSpec : ChangeSpec := { name := "proofForged", fn := fun _ => fun
  | [d1, d2, d3] => { results := [.lit (.bool true)], args := [d1, d2, d3] }
  | _ => none }
def proofForgedRow : OpenClaim := { program := "ytfikbaoiialfeaadoor", sum := "39c2181ef7e02ed5403615b14a7fe26e79e427527443b6887dabe01ecc35dd41", func := "lighterman/liglaw7.ProofForged", spec := "proofForged", inPlace := ["internal/bytealg.abigen_runtime_cmpstring"], unfollowed := true, recurses := true, named := ["lighterman/sha.start", "lighterman/sha.rounds"], apart := false, laid := [("lighterman/sha.start", laid_lighterman_sha_start), ("lighterman/sha.rounds", laid_lighterman_sha_rounds)] }
def ProofForgedSaid : Prop := proofForgedRow.holds Tryd.pinned (OpenSpec.ofChange proofForgedSpec)

/-- ITS FALSE NEIGHBOUR: 'it returns false'. Refute it at one input. -/
def proofForgedWrong : ChangeSpec := { name := "proofForged", fn := fun _ => fun
  | [d1, d2, d3] => { results := [.lit (.bool false)], args := [d1, d2, d3] }
  | _ => none }
def ProofForgedWrongFalsely : Prop := proofForgedRow.holds Tryd.pinned (OpenSpec.ofChange proofForgedWrong)

/- THE SECOND FORM. 'bulk': how many values and letters a reading holds, each counted each time it is reached (what is shared counts as often as it is met; a slice's spare places count too). A statement '..UptoSaid' is the law's where the arguments, and the package variables that the reading takes, are together of bulk at most 1048576: NARROWER than '..Said'. Prove '..Said' where nothing that the law and all that it calls make is longer than what came in: it says more and counts as full. Else prove '..UptoSaid'. A law counts once. -/
mutual
def uptoBulk {H : Type} : DataW H → Nat
  | .lit (.string bytes) => bytes.length + 1
  | .lit _ => 1
  | .nil => 1
  | .ptr d => uptoBulk d + 1
  | .slice elems spare => uptoBulkAll elems + uptoBulkAll spare + 1
  | .agg parts => uptoBulkAll parts + 1
  | .iface _ d => uptoBulk d + 1
  | .map entries => uptoBulkEntries entries + 1
  | .held _ => 1
def uptoBulkAll {H : Type} : List (DataW H) → Nat
  | [] => 0
  | d :: r => uptoBulk d + uptoBulkAll r
def uptoBulkEntries {H : Type} : List (Lit × DataW H) → Nat
  | [] => 0
  | x :: r => uptoBulkEntry x + uptoBulkEntries r
def uptoBulkEntry {H : Type} : Lit × DataW H → Nat
  | (.string bytes, d) => bytes.length + uptoBulk d + 1
  | (_, d) => uptoBulk d + 1
 end
def uptoSmall : (H : Type) → List (DataW H) → Bool := fun _ ds => decide (uptoBulkAll ds ≤ 1048576)
def OpenSpec.upto (s : _root_.Go.ChangeSpec) : _root_.Go.OpenSpec := { _root_.Go.OpenSpec.ofChange s with cond := some uptoSmall }

/-- 'liglaw6.TreeTells', WHERE WHAT IT READS IS OF BULK AT MOST 1048576: true; the input reads as it did. -/
def treeTellsUptoRow : OpenClaim := { program := "ytfikbaoiialfeaadoor", sum := "39c2181ef7e02ed5403615b14a7fe26e79e427527443b6887dabe01ecc35dd41", func := "lighterman/liglaw6.TreeTells", spec := "treeTells", recurses := true, named := ["lighterman/sha.start", "lighterman/sha.rounds"], apart := false, laid := [("lighterman/sha.start", laid_lighterman_sha_start), ("lighterman/sha.rounds", laid_lighterman_sha_rounds)], narrowed := true }
def TreeTellsUptoSaid : Prop := treeTellsUptoRow.holds Tryd.pinned (OpenSpec.upto treeTellsSpec)

/-- 'liglaw6.TreeFolds', WHERE WHAT IT READS IS OF BULK AT MOST 1048576: true; the input reads as it did. -/
def treeFoldsUptoRow : OpenClaim := { program := "ytfikbaoiialfeaadoor", sum := "39c2181ef7e02ed5403615b14a7fe26e79e427527443b6887dabe01ecc35dd41", func := "lighterman/liglaw6.TreeFolds", spec := "treeFolds", recurses := true, named := ["lighterman/sha.start", "lighterman/sha.rounds"], apart := false, laid := [("lighterman/sha.start", laid_lighterman_sha_start), ("lighterman/sha.rounds", laid_lighterman_sha_rounds)], narrowed := true }
def TreeFoldsUptoSaid : Prop := treeFoldsUptoRow.holds Tryd.pinned (OpenSpec.upto treeFoldsSpec)

/-- 'liglaw7.ProofShows', WHERE WHAT IT READS IS OF BULK AT MOST 1048576: true; the input reads as it did. -/
def proofShowsUptoRow : OpenClaim := { program := "ytfikbaoiialfeaadoor", sum := "39c2181ef7e02ed5403615b14a7fe26e79e427527443b6887dabe01ecc35dd41", func := "lighterman/liglaw7.ProofShows", spec := "proofShows", inPlace := ["internal/bytealg.abigen_runtime_cmpstring"], unfollowed := true, recurses := true, named := ["lighterman/sha.start", "lighterman/sha.rounds"], apart := false, laid := [("lighterman/sha.start", laid_lighterman_sha_start), ("lighterman/sha.rounds", laid_lighterman_sha_rounds)], narrowed := true }
def ProofShowsUptoSaid : Prop := proofShowsUptoRow.holds Tryd.pinned (OpenSpec.upto proofShowsSpec)

/-- 'liglaw7.ProofTells', WHERE WHAT IT READS IS OF BULK AT MOST 1048576: true; the input reads as it did. -/
def proofTellsUptoRow : OpenClaim := { program := "ytfikbaoiialfeaadoor", sum := "39c2181ef7e02ed5403615b14a7fe26e79e427527443b6887dabe01ecc35dd41", func := "lighterman/liglaw7.ProofTells", spec := "proofTells", inPlace := ["internal/bytealg.abigen_runtime_cmpstring"], unfollowed := true, recurses := true, named := ["lighterman/sha.start", "lighterman/sha.rounds"], apart := false, laid := [("lighterman/sha.start", laid_lighterman_sha_start), ("lighterman/sha.rounds", laid_lighterman_sha_rounds)], narrowed := true }
def ProofTellsUptoSaid : Prop := proofTellsUptoRow.holds Tryd.pinned (OpenSpec.upto proofTellsSpec)

/-- 'liglaw7.ProofBytes', WHERE WHAT IT READS IS OF BULK AT MOST 1048576: true; the input reads as it did. -/
def proofBytesUptoRow : OpenClaim := { program := "ytfikbaoiialfeaadoor", sum := "39c2181ef7e02ed5403615b14a7fe26e79e427527443b6887dabe01ecc35dd41", func := "lighterman/liglaw7.ProofBytes", spec := "proofBytes", inPlace := ["internal/bytealg.abigen_runtime_cmpstring", "internal/abi.NoEscape"], unfollowed := true, recurses := true, named := ["lighterman/sha.start", "lighterman/sha.rounds"], apart := false, laid := [("lighterman/sha.start", laid_lighterman_sha_start), ("lighterman/sha.rounds", laid_lighterman_sha_rounds)], narrowed := true }
def ProofBytesUptoSaid : Prop := proofBytesUptoRow.holds Tryd.pinned (OpenSpec.upto proofBytesSpec)

/-- 'liglaw7.ProofForged', WHERE WHAT IT READS IS OF BULK AT MOST 1048576: true; the input reads as it did. -/
def proofForgedUptoRow : OpenClaim := { program := "ytfikbaoiialfeaadoor", sum := "39c2181ef7e02ed5403615b14a7fe26e79e427527443b6887dabe01ecc35dd41", func := "lighterman/liglaw7.ProofForged", spec := "proofForged", inPlace := ["internal/bytealg.abigen_runtime_cmpstring"], unfollowed := true, recurses := true, named := ["lighterman/sha.start", "lighterman/sha.rounds"], apart := false, laid := [("lighterman/sha.start", laid_lighterman_sha_start), ("lighterman/sha.rounds", laid_lighterman_sha_rounds)], narrowed := true }
def ProofForgedUptoSaid : Prop := proofForgedUptoRow.holds Tryd.pinned (OpenSpec.upto proofForgedSpec)

end Rows
end Go.Proofs.YtfikbaoiialfeaaDoor
