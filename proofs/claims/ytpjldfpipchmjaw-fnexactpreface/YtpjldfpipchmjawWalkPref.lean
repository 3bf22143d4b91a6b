/- The walk of the law that Preface answers as the specification's. -/
import Derived.Test.YtpjldfpipchmjawPrefI
import Derived.Test.YtpjldfpipchmjawPrefS
import Derived.Test.YtpjldfpipchmjawMarkBn
import Derived.Test.YtpjldfpipchmjawEqB
namespace Go.Proofs.Ytpjldfpipchmjaw
open Go.RowKit
set_option linter.unusedVariables false

set_option maxRecDepth 10000 in
set_option maxHeartbeats 1600000 in
theorem prefWalk (w : World) : Calls Try.prog 3 #[] w fun e w' => e = .returned (.bool true) ∧ Below w.heap.size w w' := by
  have HI : Hid (∀ W : World, Calls Try.prog 5 #[] W fun e w' => ∃ g cap', e = .returned (.slice (some ⟨g, 0, none⟩) 33 cap') ∧ Owns w' W.heap.size (some ⟨g, 0, none⟩) 33 cap' prefB ∧ Below W.heap.size W w') := fun W => implPref_any W
  have HSp : Hid (∀ W : World, Calls Try.prog 4 #[] W fun e w' => ∃ g cap', e = .returned (.slice (some ⟨g, 0, none⟩) 33 cap') ∧ Owns w' W.heap.size (some ⟨g, 0, none⟩) 33 cap' prefB ∧ Below W.heap.size W w') := fun W => specPref_any W
  generalize prefB = g at *
  go_enter Try.func3, Try.ntmps3
  go_wp2_with fail
  refine (HSp.out w).mono ?_
  rintro e x1 ⟨gw, cw, rfl, ow1, hb1⟩
  have OW1 : Hid (Owns x1 w.heap.size (some ⟨gw, 0, none⟩) 33 cw g) := ow1
  have HB1 : Hid (Below w.heap.size w x1) := hb1
  clear ow1 hb1
  go_wp2_with fail
  refine (HI.out x1).mono ?_
  rintro e x2 ⟨gg, cg, rfl, og2, hb2⟩
  have OG2 : Hid (Owns x2 x1.heap.size (some ⟨gg, 0, none⟩) 33 cg g) := og2
  have OW2 : Hid (Owns x2 w.heap.size (some ⟨gw, 0, none⟩) 33 cw g) := OW1.out.below hb2
  have HB2 : Hid (Below w.heap.size w x2) := HB1.out.trans (hb2.mono HB1.out.size)
  have hne : Hid (gw < gg) := by show _ < _; have h1 := (OW1.out.lt gw rfl).2; have h2 := (og2.lt gg rfl).1; omega
  have hgg : Hid (w.heap.size ≤ gg) := by show _ ≤ _; have h1 := HB1.out.size; have h2 := (og2.lt gg rfl).1; omega
  clear og2 hb2 OW1 HB1
  go_wp2_with fail
  refine (eqByteS_same _ _ _ _ _ _ _ OG2.out.seg OW2.out.seg (by omega)).mono ?_
  rintro e x3 ⟨rfl, st3⟩
  have OG3 : Hid (Owns x3 x1.heap.size (some ⟨gg, 0, none⟩) 33 cg g) := Still.owns st3 OG2.out
  have OW3 : Hid (Owns x3 w.heap.size (some ⟨gw, 0, none⟩) 33 cw g) := Still.owns st3 OW2.out
  have HB3 : Hid (Below w.heap.size w x3) := Still.below st3 HB2.out
  clear st3 OG2 OW2 HB2
  go_wp2_with fail
  refine (mark_one _ _ _ _ _ _ OG3.out (by omega)).mono ?_
  rintro e x4 ⟨rfl, og4, on4⟩
  have OG4 : Hid (Owns x4 x1.heap.size (some ⟨gg, 0, none⟩) 33 cg (marks 1 33)) := og4
  have OW4 : Hid (Owns x4 w.heap.size (some ⟨gw, 0, none⟩) 33 cw g) := OW3.out.only on4 (.inr (fun h => by have := hne.out; simp at h; omega))
  have HB4 : Hid (Below w.heap.size w x4) := on4.below HB3.out HB3.out.size (fun k hk => by have := hgg.out; simp at hk; omega)
  clear og4 on4 OG3 OW3 HB3
  go_wp2_with fail
  refine (held_one _ _ _ _ _ OG4.out (by omega)).mono ?_
  rintro e x5 ⟨rfl, rfl⟩
  go_wp2_with fail
  refine (HI.out x5).mono ?_
  rintro e x6 ⟨gh, ch, rfl, oh6, hb6⟩
  have OH6 : Hid (Owns x6 x5.heap.size (some ⟨gh, 0, none⟩) 33 ch g) := oh6
  have OG6 : Hid (Owns x6 x1.heap.size (some ⟨gg, 0, none⟩) 33 cg (marks 1 33)) := OG4.out.below hb6
  have OW6 : Hid (Owns x6 w.heap.size (some ⟨gw, 0, none⟩) 33 cw g) := OW4.out.below hb6
  have HB6 : Hid (Below w.heap.size w x6) := HB4.out.trans (hb6.mono HB4.out.size)
  clear oh6 hb6 OG4 OW4
  go_wp2_with fail
  refine (eqByteS_same _ _ _ _ _ _ _ OH6.out.seg OW6.out.seg (by omega)).mono ?_
  rintro e x7 ⟨rfl, st7⟩
  have OG7 : Hid (Owns x7 x1.heap.size (some ⟨gg, 0, none⟩) 33 cg (marks 1 33)) := Still.owns st7 OG6.out
  have HB7 : Hid (Below w.heap.size w x7) := Still.below st7 HB6.out
  clear st7 OG6 OW6 OH6
  go_wp2_with fail
  refine (held_one _ _ _ _ _ OG7.out (by omega)).mono ?_
  rintro e x8 ⟨rfl, rfl⟩
  go_wp2
  go_ret
  exact ⟨rfl, HB7.out⟩

end Go.Proofs.Ytpjldfpipchmjaw
