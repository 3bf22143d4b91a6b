/- What the specification's SectorAt answers. -/
import Derived.Test.YtnbmlkkjgecigarStrRow
import Derived.Test.YtnbmlkkjgecigarBox2R
import Derived.Test.YtnbmlkkjgecigarDskNum
import Derived.Test.YtnbmlkkjgecigarL1In
namespace Go.Proofs.Ytnbmlkkjgecigar
open Go.RowKit
set_option linter.unusedVariables false

theorem ret_str {a b : ByteArray} (h : a = b) : Ending.returned (.string a) = .returned (.string b) := by rw [h]

set_option maxRecDepth 10000 in
set_option maxHeartbeats 1600000 in
theorem specSec_any (a : Option Addr) (n ca : Nat) (xs : List ByteArray) (a' : Option Addr) (n' ca' : Nat) (i : Int) (w : World) (h1 : Strs w a n xs) (hn : n ≤ 1099511627776) :
    Calls Try.prog 16 #[.agg #[.slice a n ca, .slice a' n' ca'], .int .i64 i] w fun e w' => e = .returned (.string (secAt xs i)) ∧ Below w.heap.size w w' := by
  have HA : Hid (Box2R (w.alloc (Obj.cells #[Value.slice a n ca, Value.slice a' n' ca'] 24)) w.heap.size 24 (.slice a n ca) (.slice a' n' ca')) := Box2R.new _ _ _ _
  have HB : Hid (Below w.heap.size w (w.alloc (Obj.cells #[Value.slice a n ca, Value.slice a' n' ca'] 24))) := (Below.refl _ _).alloc (Nat.le_refl _) _
  have HX : Hid (Strs (w.alloc (Obj.cells #[Value.slice a n ca, Value.slice a' n' ca'] 24)) a n xs) := h1.below HB.out
  have HL : Hid (xs.length = n) := h1.1
  clear h1
  by_cases hin : 0 ≤ i ∧ i < n
  · obtain ⟨k, rfl⟩ := Int.eq_ofNat_of_zero_le hin.1
    have hlt : k < n := by omega
    obtain ⟨p, po, x, rfl, _, hkx, hp⟩ := HX.out.at hlt
    have HS : Hid (secAt xs (k : Int) = x) := by
      show _ = _
      rw [secAt, if_pos ⟨by omega, by have := HL.out; omega⟩, Int.toNat_natCast, List.getD_eq_getElem?_getD, hkx]
      rfl
    have HIn : Hid (∀ W : World, Calls Try.prog 27 #[.int .i64 (k : Int), .int .i64 0, .int .i64 ((n : Int) - 1)] W fun e w' => e = .returned (.bool true) ∧ w' = W) := fun W => l1In_yes _ _ _ W (by omega) (by omega)
    have hki : (k : Int) < (n : Int) := by omega
    have hk0 : (0 : Int) ≤ (k : Int) := by omega
    clear hkx hin
    obtain ⟨c0, c1⟩ := HA.out.cells
    go_enter Try.func16, Try.ntmps16
    go_wp2_with fail
    refine (HIn.out _).mono ?_
    rintro e x1 ⟨rfl, rfl⟩
    go_wp2_with fail
    go_ret
    exact ⟨ret_str HS.out.symm, HB.out⟩
  · have HS : Hid (secAt xs i = ⟨#[]⟩) := if_neg (by have := HL.out; omega)
    have HIn : Hid (∀ W : World, Calls Try.prog 27 #[.int .i64 i, .int .i64 0, .int .i64 ((n : Int) - 1)] W fun e w' => e = .returned (.bool false) ∧ w' = W) := fun W => l1In_no _ _ _ W (by omega)
    clear hin
    go_enter Try.func16, Try.ntmps16
    go_wp2_with fail
    refine (HIn.out _).mono ?_
    rintro e x1 ⟨rfl, rfl⟩
    go_wp2_with fail
    go_ret
    exact ⟨ret_str HS.out.symm, HB.out⟩

end Go.Proofs.Ytnbmlkkjgecigar
