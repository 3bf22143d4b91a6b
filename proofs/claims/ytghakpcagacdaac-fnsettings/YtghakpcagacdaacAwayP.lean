/- What the program's PutGoAway answers: two numbers of four bytes each, in memory of its own. -/
import Derived.Test.YtghakpcagacdaacPutTo
import Derived.Test.YtghakpcagacdaacBox4
namespace Go.Proofs.Ytghakpcagacdaac
open Go.RowKit
set_option linter.unusedVariables false

/-- The bytes of PutGoAway. -/
def awayB (x y : Int) : List Int := pbl x.toNat 4 4 ++ pbl y.toNat 4 4

set_option maxHeartbeats 400000 in
theorem implAwayP_any (x y : Int) (w : World) (hx : x ≤ 9223372036854775807) (hy : y ≤ 9223372036854775807) :
    Calls Try.prog 33 #[.int .i64 x, .int .i64 y] w fun e w' => ∃ g cap', e = .returned (.slice (some ⟨g, 0, none⟩) 8 cap') ∧ Owns w' w.heap.size (some ⟨g, 0, none⟩) 8 cap' (awayB x y) ∧ Below w.heap.size w w' := by
  have HX : Hid (x ≤ 9223372036854775807) := hx
  have HY : Hid (y ≤ 9223372036854775807) := hy
  clear hx hy
  go_enter Try.func33, Try.ntmps33
  go_wp2_with fail
  refine (implPut_to none 0 0 4 4 x [] w ⟨rfl, by simp, .inl rfl⟩ (by omega) HX.out (by omega) (by omega) rfl).mono ?_
  rintro e x1 ⟨g1, c1, rfl, ho1, hb1⟩
  have HO1 : Hid (Seg x1 (some ⟨g1, 0, none⟩) 4 (pbl x.toNat 4 4)) := ho1.seg
  have HB1 : Hid (Below w.heap.size w x1) := hb1
  clear ho1 hb1
  go_wp2_with fail
  refine (implPut_to _ 4 c1 4 8 y _ x1 HO1.out (by omega) HY.out (by omega) (by omega) rfl).mono ?_
  rintro e x2 ⟨g2, c2, rfl, ho2, hb2⟩
  have HO2 : Hid (Owns x2 w.heap.size (some ⟨g2, 0, none⟩) 8 c2 (awayB x y)) := ho2.low HB1.out.size
  have HB2 : Hid (Below w.heap.size w x2) := HB1.out.trans (hb2.mono HB1.out.size)
  clear ho2 hb2
  go_wp2_with fail
  go_ret
  exact ⟨g2, c2, rfl, HO2.out, HB2.out⟩

end Go.Proofs.Ytghakpcagacdaac
