/- What the program's SectorAt answers. -/
import Derived.Test.YtnbmlkkjgecigarHasSecI
namespace Go.Proofs.Ytnbmlkkjgecigar
open Go.RowKit
set_option linter.unusedVariables false

theorem ret_strI {a b : ByteArray} (h : a = b) : Ending.returned (.string a) = .returned (.string b) := by rw [h]

set_option maxRecDepth 10000 in
set_option maxHeartbeats 1600000 in
theorem implSec_any (a : Option Addr) (n ca : Nat) (xs : List ByteArray) (a' : Option Addr) (n' ca' : Nat) (i : Int) (w : World) (h1 : Strs w a n xs) (hn : n ≤ 1099511627776) :
    Calls Try.prog 17 #[.agg #[.slice a n ca, .slice a' n' ca'], .int .i64 i] w fun e w' => e = .returned (.string (secAt xs i)) ∧ Below w.heap.size w w' := by
  obtain ⟨w0, hw0⟩ : ∃ w0, w.alloc (Obj.cells #[Value.slice a n ca, Value.slice a' n' ca'] 24) = w0 := ⟨_, rfl⟩
  have HE : Hid (w.alloc (Obj.cells #[Value.slice a n ca, Value.slice a' n' ca'] 24) = w0) := hw0
  have HA : Hid (Box2R w0 w.heap.size 24 (.slice a n ca) (.slice a' n' ca')) := by show Box2R _ _ _ _ _; rw [← hw0]; exact Box2R.new _ _ _ _
  have HB : Hid (Below w.heap.size w w0) := by show Below _ _ _; rw [← hw0]; exact (Below.refl _ _).alloc (Nat.le_refl _) _
  clear hw0
  have HX : Hid (∀ W, Below w.heap.size w W → Strs W a n xs) := fun W h => h1.below h
  have HL : Hid (xs.length = n) := h1.1
  clear h1
  go_enter Try.func17, Try.ntmps17
  go_wp2_with fail
  rw [HE.out]
  clear HE
  refine (implHas_any a n ca a' n' ca' i _ hn).mono ?_
  rintro e w1 ⟨rfl, hb1⟩
  have HB1 : Hid (Below w.heap.size w w1) := HB.out.trans (hb1.mono HB.out.size)
  obtain ⟨c0, c1⟩ := (HA.out.stays hb1).cells
  clear hb1 HB HA
  by_cases hin : 0 ≤ i ∧ i < n
  · rw [show hasB n i = true from decide_eq_true hin]
    obtain ⟨k, rfl⟩ := Int.eq_ofNat_of_zero_le hin.1
    have hlt : k < n := by omega
    obtain ⟨p, po, x, rfl, _, hkx, hp⟩ := (HX.out _ HB1.out).at hlt
    have HS : Hid (secAt xs (k : Int) = x) := by
      show _ = _
      rw [secAt, if_pos ⟨by omega, by have := HL.out; omega⟩, Int.toNat_natCast, List.getD_eq_getElem?_getD, hkx]
      rfl
    have hki : (k : Int) < (n : Int) := by omega
    have hk0 : (0 : Int) ≤ (k : Int) := by omega
    clear hkx hin
    go_wp2_with fail
    go_ret
    exact ⟨ret_strI HS.out.symm, HB1.out⟩
  · have HS : Hid (secAt xs i = ⟨#[]⟩) := if_neg (by have := HL.out; omega)
    rw [show hasB n i = false from decide_eq_false hin]
    clear hin
    go_wp2_with fail
    go_ret
    exact ⟨ret_strI HS.out.symm, HB1.out⟩

end Go.Proofs.Ytnbmlkkjgecigar
