/-
  DERIVED. GIVEN WITH THE SEED: THE CARDS: each row of YtfikbaoiialfeaaDoorRows.lean that lists a variable, with what it lists TIED to the program's text (the seventh form; the later family's looks); each row that meets fmt, with fmt's text TOLD by the authors' own Lean function (tested against real Go, not proved from fmt's source: count such statements apart). THE CARD IS WHAT COUNTS. Prove the row's statement (the work); the ties are given (YtfikbaoiialfeaaDoorTie.lean); close each card by the builder's one call (the guide's Derived/Test/ToyasCard.lean, 'card_holds'). Laid BY PROGRAM, IN A SANDBOX (cutbox-door.mjs). By AI agents, Wed Nov 11 2026. No macro, syntax, notation, axiom, sorry.
-/
import Derived.Test.YtfikbaoiialfeaaDoorRows
import GoSem.ClaimSeven
namespace Go.Proofs.YtfikbaoiialfeaaDoor
namespace Rows

/-- THE TIED CARD OF 'liglaw6.TreeTells'. -/
def treeTellsCard : Claim7 := { stood := { row := treeTellsRow, standIns := [], harness := (true, "1bb117afa347b6b3c41767b6d561f167091ff2edc6b3d1608c2e7b1089f7cd02"), looks := false }, kinds := [], alts := [], laidByText := true, laidKinds := [.data, .data], laidTests := true, laidLooks := .later }
def TreeTellsCardSaid : Prop := Claim7.holds Tryd.pinned (.plain (OpenSpec.ofChange treeTellsSpec)) treeTellsCard

/-- THE TIED CARD OF 'liglaw6.TreeFolds'. -/
def treeFoldsCard : Claim7 := { stood := { row := treeFoldsRow, standIns := [], harness := (true, "1bb117afa347b6b3c41767b6d561f167091ff2edc6b3d1608c2e7b1089f7cd02"), looks := false }, kinds := [], alts := [], laidByText := true, laidKinds := [.data, .data], laidTests := true, laidLooks := .later }
def TreeFoldsCardSaid : Prop := Claim7.holds Tryd.pinned (.plain (OpenSpec.ofChange treeFoldsSpec)) treeFoldsCard

/-- THE TIED CARD OF 'liglaw7.ProofShows'. -/
def proofShowsCard : Claim7 := { stood := { row := proofShowsRow, standIns := [], harness := (true, "1bb117afa347b6b3c41767b6d561f167091ff2edc6b3d1608c2e7b1089f7cd02"), looks := false }, kinds := [], alts := [], laidByText := true, laidKinds := [.data, .data], laidTests := true, laidLooks := .later }
def ProofShowsCardSaid : Prop := Claim7.holds Tryd.pinned (.plain (OpenSpec.ofChange proofShowsSpec)) proofShowsCard

/-- THE TIED CARD OF 'liglaw7.ProofTells'. -/
def proofTellsCard : Claim7 := { stood := { row := proofTellsRow, standIns := [], harness := (true, "1bb117afa347b6b3c41767b6d561f167091ff2edc6b3d1608c2e7b1089f7cd02"), looks := false }, kinds := [], alts := [], laidByText := true, laidKinds := [.data, .data], laidTests := true, laidLooks := .later }
def ProofTellsCardSaid : Prop := Claim7.holds Tryd.pinned (.plain (OpenSpec.ofChange proofTellsSpec)) proofTellsCard

/-- THE TIED CARD OF 'liglaw7.ProofBytes'. -/
def proofBytesCard : Claim7 := { stood := { row := proofBytesRow, standIns := [], harness := (true, "1bb117afa347b6b3c41767b6d561f167091ff2edc6b3d1608c2e7b1089f7cd02"), looks := false }, kinds := [], alts := [], laidByText := true, laidKinds := [.data, .data], laidTests := true, laidLooks := .later }
def ProofBytesCardSaid : Prop := Claim7.holds Tryd.pinned (.plain (OpenSpec.ofChange proofBytesSpec)) proofBytesCard

/-- THE TIED CARD OF 'liglaw7.ProofForged'. -/
def proofForgedCard : Claim7 := { stood := { row := proofForgedRow, standIns := [], harness := (true, "1bb117afa347b6b3c41767b6d561f167091ff2edc6b3d1608c2e7b1089f7cd02"), looks := false }, kinds := [], alts := [], laidByText := true, laidKinds := [.data, .data], laidTests := true, laidLooks := .later }
def ProofForgedCardSaid : Prop := Claim7.holds Tryd.pinned (.plain (OpenSpec.ofChange proofForgedSpec)) proofForgedCard

/-- THE SECOND FORM's CARD OF 'liglaw6.TreeTells'. -/
def treeTellsUptoCard : Claim7 := { stood := { row := treeTellsUptoRow, standIns := [], harness := (true, "1bb117afa347b6b3c41767b6d561f167091ff2edc6b3d1608c2e7b1089f7cd02"), looks := false }, kinds := [], alts := [], laidByText := true, laidKinds := [.data, .data], laidTests := true, laidLooks := .later }
def TreeTellsUptoCardSaid : Prop := Claim7.holds Tryd.pinned (.plain (OpenSpec.upto treeTellsSpec)) treeTellsUptoCard

/-- THE SECOND FORM's CARD OF 'liglaw6.TreeFolds'. -/
def treeFoldsUptoCard : Claim7 := { stood := { row := treeFoldsUptoRow, standIns := [], harness := (true, "1bb117afa347b6b3c41767b6d561f167091ff2edc6b3d1608c2e7b1089f7cd02"), looks := false }, kinds := [], alts := [], laidByText := true, laidKinds := [.data, .data], laidTests := true, laidLooks := .later }
def TreeFoldsUptoCardSaid : Prop := Claim7.holds Tryd.pinned (.plain (OpenSpec.upto treeFoldsSpec)) treeFoldsUptoCard

/-- THE SECOND FORM's CARD OF 'liglaw7.ProofShows'. -/
def proofShowsUptoCard : Claim7 := { stood := { row := proofShowsUptoRow, standIns := [], harness := (true, "1bb117afa347b6b3c41767b6d561f167091ff2edc6b3d1608c2e7b1089f7cd02"), looks := false }, kinds := [], alts := [], laidByText := true, laidKinds := [.data, .data], laidTests := true, laidLooks := .later }
def ProofShowsUptoCardSaid : Prop := Claim7.holds Tryd.pinned (.plain (OpenSpec.upto proofShowsSpec)) proofShowsUptoCard

/-- THE SECOND FORM's CARD OF 'liglaw7.ProofTells'. -/
def proofTellsUptoCard : Claim7 := { stood := { row := proofTellsUptoRow, standIns := [], harness := (true, "1bb117afa347b6b3c41767b6d561f167091ff2edc6b3d1608c2e7b1089f7cd02"), looks := false }, kinds := [], alts := [], laidByText := true, laidKinds := [.data, .data], laidTests := true, laidLooks := .later }
def ProofTellsUptoCardSaid : Prop := Claim7.holds Tryd.pinned (.plain (OpenSpec.upto proofTellsSpec)) proofTellsUptoCard

/-- THE SECOND FORM's CARD OF 'liglaw7.ProofBytes'. -/
def proofBytesUptoCard : Claim7 := { stood := { row := proofBytesUptoRow, standIns := [], harness := (true, "1bb117afa347b6b3c41767b6d561f167091ff2edc6b3d1608c2e7b1089f7cd02"), looks := false }, kinds := [], alts := [], laidByText := true, laidKinds := [.data, .data], laidTests := true, laidLooks := .later }
def ProofBytesUptoCardSaid : Prop := Claim7.holds Tryd.pinned (.plain (OpenSpec.upto proofBytesSpec)) proofBytesUptoCard

/-- THE SECOND FORM's CARD OF 'liglaw7.ProofForged'. -/
def proofForgedUptoCard : Claim7 := { stood := { row := proofForgedUptoRow, standIns := [], harness := (true, "1bb117afa347b6b3c41767b6d561f167091ff2edc6b3d1608c2e7b1089f7cd02"), looks := false }, kinds := [], alts := [], laidByText := true, laidKinds := [.data, .data], laidTests := true, laidLooks := .later }
def ProofForgedUptoCardSaid : Prop := Claim7.holds Tryd.pinned (.plain (OpenSpec.upto proofForgedSpec)) proofForgedUptoCard
end Rows
end Go.Proofs.YtfikbaoiialfeaaDoor
