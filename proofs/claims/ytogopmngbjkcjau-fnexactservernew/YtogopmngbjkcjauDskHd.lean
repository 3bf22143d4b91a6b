/- The marks of a disk, asked for. -/
import Derived.Test.YtogopmngbjkcjauDskMk
import Derived.Test.YtogopmngbjkcjauStrHeld
namespace Go.Proofs.Ytogopmngbjkcjau
open Go.RowKit
set_option linter.unusedVariables false

set_option maxHeartbeats 800000 in
theorem heldDisk_any (a : Option Addr) (n ca : Nat) (a' : Option Addr) (n' ca' : Nat) (k : Nat) (w : World) (h1 : Strs w a n (marksS k n)) (h2 : Strs w a' n' (marksS (k + n) n')) (hn : n ≤ 1073741824) (hn' : n' ≤ 1073741824) (hk : k ≤ 1073741824) :
    Calls Try.prog 51 #[.agg #[.slice a n ca, .slice a' n' ca'], .int .i64 (k : Int)] w fun r w' => r = .returned (.int .i64 ((k + n + n' : Nat) : Int)) ∧ Below w.heap.size w w' := by
  have HX : Hid (∀ W, Below w.heap.size w W → Strs W a n (marksS k n) ∧ Strs W a' n' (marksS (k + n) n')) := fun W h => ⟨h1.below h, h2.below h⟩
  clear h1 h2
  have HA : Hid (Box2R (w.alloc (Obj.cells #[Value.slice a n ca, Value.slice a' n' ca'] 34)) w.heap.size 34 (.slice a n ca) (.slice a' n' ca')) := Box2R.new _ _ _ _
  have HB : Hid (Below w.heap.size w (w.alloc (Obj.cells #[Value.slice a n ca, Value.slice a' n' ca'] 34))) := (Below.refl _ _).alloc (Nat.le_refl _) _
  go_enter Try.func51, Try.ntmps51
  go_wp2_with fail
  refine (heldStrS_any a n ca k _ (HX.out _ HB.out).1 (by omega) (by omega)).mono ?_
  rintro r x1 ⟨rfl, hb1⟩
  have HB1 : Hid (Below w.heap.size w x1) := HB.out.trans (hb1.mono HB.out.size)
  obtain ⟨c0, c1⟩ := (HA.out.stays hb1).cells
  clear hb1 HA HB
  have HM : Hid (Calls Try.prog 56 #[.slice a' n' ca', .int .i64 ((k + n : Nat) : Int)] x1 fun e w' => e = .returned (.int .i64 ((k + n + n' : Nat) : Int)) ∧ Below x1.heap.size x1 w') := heldStrS_any a' n' ca' (k + n) _ (HX.out _ HB1.out).2 (by omega) (by omega)
  clear HX
  obtain ⟨K, hK⟩ : ∃ K, k + n = K := ⟨_, rfl⟩
  rw [hK] at HM ⊢
  have hp1 : ¬ (K : Int) < 0 := by omega
  have hp1d : decide ((K : Int) < 0) = false := by simp
  have HK : Hid (k + n = K) := hK
  clear hK
  go_wp2_with fail
  refine HM.out.mono ?_
  rintro r x2 ⟨rfl, hb2⟩
  have HB2 : Hid (Below w.heap.size w x2) := HB1.out.trans (hb2.mono HB1.out.size)
  clear hb2 HM HB1 c0 c1
  obtain ⟨K2, hK2⟩ : ∃ K2, K + n' = K2 := ⟨_, rfl⟩
  have HK2 : Hid (K + n' = K2) := hK2
  rw [hK2]
  have hp2 : ¬ (K2 : Int) < 0 := by omega
  have hp2d : decide ((K2 : Int) < 0) = false := by simp
  clear hK2
  go_wp2_with fail
  go_ret
  exact ⟨ret_i64 (by rw [HK.out, HK2.out]), HB2.out⟩

end Go.Proofs.Ytogopmngbjkcjau
