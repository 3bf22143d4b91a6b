/- The walk of Number's law. -/
import Derived.Test.YthojijhafhnclaiDoorNumberS
import Derived.Test.YthojijhafhnclaiDoorNumberI
namespace Go.Proofs.YthojijhafhnclaiDoor
open Go.RowKit
set_option linter.unusedVariables false

set_option maxHeartbeats 400000 in
theorem lawNum_any (s : ByteArray) (w : World) (hm : s.size ≤ maxLen)
    (hst : StdT w) :
    Calls Tryd.prog 4 #[.string s] w fun e w' => e = .returned (.bool true) ∧ Below w.heap.size w w' := by
  unfold maxLen at hm
  have HT : Hid (StdT w) := hst
  have HU : Hid (numR s.data.toList = upR s.data.toList 1000000000) := numR_upR _
  clear hst
  generalize hR : numR s.data.toList = R
  have HR : Hid (numR s.data.toList = R) := hR
  clear hR
  by_cases hbig : 1048576 < s.size
  · have hbi : (1048576 : Int) < (s.size : Int) := by omega
    go_enter Tryd.func4, Tryd.ntmps4
    go_wp2_with fail
    go_ret
    exact ⟨rfl, Below.refl _ _⟩
  · have hbi : ¬ (1048576 : Int) < (s.size : Int) := by omega
    have hm2 : Hid (s.size ≤ 281474976710656) := by show _ ≤ _; omega
    go_enter Tryd.func4, Tryd.ntmps4
    go_wp2_with fail
    refine (specNum_any s _ hm2.out).mono ?_
    rintro e w1 ⟨rfl, rfl⟩
    rw [HR.out]
    go_wp2_with fail
    refine (implNumber_any s _ hm2.out HT.out).mono ?_
    rintro e w2 ⟨rfl, hb2⟩
    rw [← HU.out, HR.out]
    have HB2 : Hid _ := hb2
    clear hb2
    go_wp2
    go_ret
    exact ⟨rfl, HB2.out⟩

end Go.Proofs.YthojijhafhnclaiDoor
