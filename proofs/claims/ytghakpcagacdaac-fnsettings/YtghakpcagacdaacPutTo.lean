/- The program's PutBig of so many bytes: where its answer lies. -/
import Derived.Test.YtghakpcagacdaacPutImpl
namespace Go.Proofs.Ytghakpcagacdaac
open Go.RowKit
set_option linter.unusedVariables false

theorem owns_got {w : World} {base n cap : Nat} {a : Option Addr} {zs : List Int} (h : Owns w base a n cap zs) (hn : 0 < n) : ∃ g, a = Option.some ⟨g, 0, Option.none⟩ := by
  rcases h.1.2 with ⟨_, h0⟩ | ⟨g, cap', cur, he, _⟩
  · omega
  · injection he with e1 _ _
    exact ⟨g, e1⟩

theorem implPut_to (sa : Option Addr) (len cap k m : Nat) (n : Int) (zs : List Int) (w : World) (hs : Seg w sa len zs) (hl : len ≤ 1099511627776) (hn : n ≤ 9223372036854775807) (h1 : 1 ≤ k) (h8 : k ≤ 8) (hm : len + k = m) :
    Calls Try.prog 65 #[.slice sa len cap, .int .i64 n, .int .i64 k] w fun e w' => ∃ g cap', e = .returned (.slice (some ⟨g, 0, none⟩) m cap') ∧ Owns w' w.heap.size (some ⟨g, 0, none⟩) m cap' (zs ++ pbl n.toNat k k) ∧ Below w.heap.size w w' := by
  subst hm
  have e : pb zs n k = zs ++ pbl n.toNat k k := by rw [pb, if_pos ⟨by omega, by omega⟩, Int.toNat_natCast]
  have el : (zs ++ pbl n.toNat k k).length = len + k := by rw [List.length_append, pbl_len, hs.1]
  refine (implPut_any sa len cap n k zs w hs hl hn).mono ?_
  rintro e' w' ⟨a', cap', rfl, ho, hb⟩
  rw [e, el] at ho ⊢
  obtain ⟨g, rfl⟩ := owns_got ho (by omega)
  exact ⟨g, cap', rfl, ho, hb⟩

end Go.Proofs.Ytghakpcagacdaac
