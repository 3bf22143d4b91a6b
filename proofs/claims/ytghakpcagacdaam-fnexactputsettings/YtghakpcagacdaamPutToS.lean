/- The specification's PutBig of so many bytes: where its answer lies. -/
import Derived.Test.YtghakpcagacdaamPutB
namespace Go.Proofs.Ytghakpcagacdaam
open Go.RowKit
set_option linter.unusedVariables false

theorem owns_gotS {w : World} {base n cap : Nat} {a : Option Addr} {zs : List Int} (h : Owns w base a n cap zs) (hn : 0 < n) : ∃ g, a = Option.some ⟨g, 0, Option.none⟩ := by
  rcases h.1.2 with ⟨_, h0⟩ | ⟨g, cap', cur, he, _⟩
  · omega
  · injection he with e1 _ _
    exact ⟨g, e1⟩

theorem specPut_at (b off len cap k m : Nat) (n : Int) (zs : List Int) (w : World) (hs : Seg w (some ⟨b, off, none⟩) len zs) (hb : b < w.heap.size) (hl : len ≤ 1099511627776) (hn : n ≤ 9223372036854775807) (h1 : 1 ≤ k) (h8 : k ≤ 8) (hm : len + k = m) :
    Calls Try.prog 44 #[.slice (some ⟨b, off, none⟩) len cap, .int .i64 n, .int .i64 k] w fun e w' => ∃ g cap', e = .returned (.slice (some ⟨g, 0, none⟩) m cap') ∧ Owns w' w.heap.size (some ⟨g, 0, none⟩) m cap' (zs ++ pbl n.toNat k k) ∧ Below w.heap.size w w' := by
  subst hm
  have e : pb zs n k = zs ++ pbl n.toNat k k := by rw [pb, if_pos ⟨by omega, by omega⟩, Int.toNat_natCast]
  have el : (zs ++ pbl n.toNat k k).length = len + k := by rw [List.length_append, pbl_len, hs.1]
  refine (specPut_any b off len cap n k zs w hs hb hl hn).mono ?_
  rintro e' w' ⟨a', cap', rfl, ho, hb⟩
  rw [e, el] at ho ⊢
  obtain ⟨g, rfl⟩ := owns_gotS ho (by omega)
  exact ⟨g, cap', rfl, ho, hb⟩

end Go.Proofs.Ytghakpcagacdaam
