/- What the specification's PutGoAway answers: two numbers of four bytes each, in memory of its own. -/
import Derived.Test.YtghakpcagacdaanAwayP
import Derived.Test.YtghakpcagacdaanPutToS
namespace Go.Proofs.Ytghakpcagacdaan
open Go.RowKit
set_option linter.unusedVariables false

set_option maxHeartbeats 400000 in
theorem specAwayP_any (x y : Int) (w : World) (hx : x ≤ 9223372036854775807) (hy : y ≤ 9223372036854775807) :
    Calls Try.prog 8 #[.int .i64 x, .int .i64 y] w fun e w' => ∃ g cap', e = .returned (.slice (some ⟨g, 0, none⟩) 8 cap') ∧ Owns w' w.heap.size (some ⟨g, 0, none⟩) 8 cap' (awayB x y) ∧ Below w.heap.size w w' := by
  have HX : Hid (x ≤ 9223372036854775807) := hx
  have HY : Hid (y ≤ 9223372036854775807) := hy
  clear hx hy
  have HB0 : Hid (Below w.heap.size w (w.alloc (.cells #[] 5))) := (Below.refl _ _).alloc (Nat.le_refl _) _
  go_enter Try.func8, Try.ntmps8
  go_wp2_with fail
  refine (specPut_at _ 0 0 0 4 4 x [] _ ⟨rfl, by simp, .inl rfl⟩ (by simp) (by omega) HX.out (by omega) (by omega) rfl).mono ?_
  rintro e x1 ⟨g1, c1, rfl, ho1, hb1⟩
  have HO1 : Hid (Seg x1 (some ⟨g1, 0, none⟩) 4 (pbl x.toNat 4 4)) := ho1.seg
  have HL1 : Hid (g1 < x1.heap.size) := (ho1.lt g1 rfl).2
  have HB1 : Hid (Below w.heap.size w x1) := HB0.out.trans (hb1.mono HB0.out.size)
  clear ho1 hb1
  go_wp2_with fail
  refine (specPut_at _ 0 4 c1 4 8 y _ x1 HO1.out HL1.out (by omega) HY.out (by omega) (by omega) rfl).mono ?_
  rintro e x2 ⟨g2, c2, rfl, ho2, hb2⟩
  have HO2 : Hid (Owns x2 w.heap.size (some ⟨g2, 0, none⟩) 8 c2 (awayB x y)) := ho2.low HB1.out.size
  have HB2 : Hid (Below w.heap.size w x2) := HB1.out.trans (hb2.mono HB1.out.size)
  clear ho2 hb2
  go_wp2_with fail
  go_ret
  exact ⟨g2, c2, rfl, HO2.out, HB2.out⟩

end Go.Proofs.Ytghakpcagacdaan
