/- The specification's PutBig onto bytes that are there, and where its row lies. -/
import Derived.Test.YtenkpgnkkkgdmasDoorPutB
import Derived.Test.YtenkpgnkkkgdmasDoorRowB
namespace Go.Proofs.YtenkpgnkkkgdmasDoor
open Go.RowKit
set_option linter.unusedVariables false

theorem specPutL (b len cap n k m : Nat) (K : Int) (hK : K = (k : Int)) (zs ys : List Int) (w : World) (hs : Seg w (some ⟨b, 0, none⟩) len zs) (hb : b < w.heap.size) (hl : len ≤ 1099511627776) (hn : n ≤ 9223372036854775807) (h1 : 1 ≤ k) (h8 : k ≤ 8) (hm : len + k = m) (hys : zs ++ pbl n k k = ys) :
    Calls Tryd.prog 47 #[.slice (some ⟨b, 0, none⟩) len cap, .int .i64 n, .int .i64 K] w fun e w' => (∃ g c, e = .returned (.slice (some ⟨g, 0, none⟩) m c) ∧ Owns w' w.heap.size (some ⟨g, 0, none⟩) m c ys) ∧ Below w.heap.size w w' := by
  subst hK
  refine (specPut_yes b 0 len cap n k zs w hs hb hl hn h1 h8).mono ?_
  rintro e w' ⟨a', c', rfl, ho, hbl⟩
  rw [hm, hys] at ho
  obtain ⟨g, rfl, _, _⟩ := owns_at ho (by omega)
  exact ⟨⟨g, c', by rw [hm], ho⟩, hbl⟩

end Go.Proofs.YtenkpgnkkkgdmasDoor
