/- What the program's Number answers. For texts of at most 2^47 bytes, under the library's table and two errors. -/
import Derived.Test.YthojijhafhnclaeDoorNumUp
namespace Go.Proofs.YthojijhafhnclaeDoor
open Go.RowKit
set_option linter.unusedVariables false

/-- Number is the reader up to 10^9. -/
theorem implNumber_any (s : ByteArray) (w : World) (hm : s.size ≤ 281474976710656) (hst : StdT w) :
    Calls Tryd.prog 24 #[.string s] w fun e w' => e = .returned (.tuple #[.int .i64 (upR s.data.toList 1000000000).1, .bool (upR s.data.toList 1000000000).2]) ∧ Below w.heap.size w w' := by
  go_enter Tryd.func24, Tryd.ntmps24
  go_wp2_with fail
  refine (implUp_any s 1000000000 w hm (by omega) hst).mono ?_
  rintro e w1 ⟨rfl, hb1⟩
  have HB1 : Hid (Below w.heap.size w w1) := hb1
  clear hb1 hst
  go_wp2_with fail
  go_ret2
  exact ⟨rfl, HB1.out⟩

end Go.Proofs.YthojijhafhnclaeDoor
