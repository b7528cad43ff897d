/- A nil slice that comes in has no room. -/
import Derived.Test.YtdlngadcgcgenaaOpen
namespace Go.Proofs.Ytdlngadcgcgenaa
open Go.RowKit Go.ChangeShapes Go.WideShapes Go.Deep
theorem nil_cap {H : Type} {enc : TypeId × Value → H} {P : Program} {w : World} {base : Nat} {spare : Nat → Bool} {held : Bool} {t e : TypeId} {fuel : Nat} {cs : List Value} {x : DataW H × List MemPlace} {a : Option Addr} {len cap : Nat}
    (hcs : cs = [.slice a len cap]) (ht : P.underlying t = some (.slice e)) (h : DataW.trod enc P w base spare held fuel t cs = some x) : a = none → len = 0 ∧ cap = 0 := by
  intro ha
  subst ha
  rcases open_slice ht h with ⟨h1, _⟩ | ⟨a, l, c, m, n, D, Pl, h1, _⟩
  · rw [hcs] at h1; simp at h1; exact h1
  · rw [hcs] at h1; simp at h1
end Go.Proofs.Ytdlngadcgcgenaa
