/- From a row's own facts to what sha asks of the world: its two tables. -/
import Derived.Test.YtpledhipdiephaaDoorSt3
import Derived.Test.YtpledhipdiephaaDoorRows
import Derived.Test.YtpledhipdiephaaDoorSha3
import Derived.LaidMore
import Derived.Stop.LaidErr
import Derived.ProofKit
namespace Go.Proofs.YtpledhipdiephaaDoor
open Go.RowKit
theorem sw_of {W : World} (hL : laidMetH Tryd.prog [("lighterman/sha.start", Rows.laid_lighterman_sha_start), ("lighterman/sha.rounds", Rows.laid_lighterman_sha_rounds)] W) : SW W := by
  rw [MakeChecks.laidMetH_plain _ _ _ (by kernel_rfl)] at hL
  exact ⟨Lib.tabIs_of_head (g := 0) (t := (Tryd.prog.globals[0]?).elim 0 (·.type)) (e := 152) (n := 8) (by kernel_rfl) (by kernel_rfl) (by kernel_rfl) (by kernel_rfl) (by kernel_rfl) (by kernel_rfl) hL,
    Lib.tabIs_of_head (g := 2) (t := (Tryd.prog.globals[2]?).elim 0 (·.type)) (e := 152) (n := 64) (by kernel_rfl) (by kernel_rfl) (by kernel_rfl) (by kernel_rfl) (by kernel_rfl) (by kernel_rfl) hL.tail⟩
end Go.Proofs.YtpledhipdiephaaDoor
