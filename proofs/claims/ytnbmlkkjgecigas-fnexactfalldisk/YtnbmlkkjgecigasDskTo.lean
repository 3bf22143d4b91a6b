/- What the laws' own functions do with a disk: the size, the comparison, the copy. -/
import Derived.Test.YtnbmlkkjgecigasStrSz
import Derived.Test.YtnbmlkkjgecigasStrEq
import Derived.Test.YtnbmlkkjgecigasStrTo
import Derived.Test.YtnbmlkkjgecigasBox2R
namespace Go.Proofs.Ytnbmlkkjgecigas
open Go.RowKit
set_option linter.unusedVariables false

set_option maxHeartbeats 800000 in
theorem eqDisk_same (a b : Option Addr) (n ca cb : Nat) (xs : List ByteArray) (a' b' : Option Addr) (n' ca' cb' : Nat) (ys : List ByteArray) (w : World) (h1 : Strs w a n xs) (h2 : Strs w b n xs) (h3 : Strs w a' n' ys) (h4 : Strs w b' n' ys) (hn : n ≤ 1099511627776) (hn' : n' ≤ 1099511627776) :
    Calls Try.prog 11 #[.agg #[.slice a n ca, .slice a' n' ca'], .agg #[.slice b n cb, .slice b' n' cb']] w fun r w' => r = .returned (.bool true) ∧ Below w.heap.size w w' := by
  have HX : Hid (∀ W, Below w.heap.size w W → Strs W a n xs ∧ Strs W b n xs ∧ Strs W a' n' ys ∧ Strs W b' n' ys) := fun W h => ⟨h1.below h, h2.below h, h3.below h, h4.below h⟩
  clear h1 h2 h3 h4
  go_enter Try.func11, Try.ntmps11
  go_wp2_with fail
  have hba : Below w.heap.size w ((w.alloc (Obj.cells #[Value.slice a n ca, Value.slice a' n' ca'] 26)).alloc (Obj.cells #[Value.slice b n cb, Value.slice b' n' cb'] 26)) := ((Below.refl _ _).alloc (Nat.le_refl _) _).alloc (by simp) _
  have HA : Hid (Box2R ((w.alloc (Obj.cells #[Value.slice a n ca, Value.slice a' n' ca'] 26)).alloc (Obj.cells #[Value.slice b n cb, Value.slice b' n' cb'] 26)) w.heap.size 26 (.slice a n ca) (.slice a' n' ca')) := (Box2R.new _ _ _ _).alloc _
  have HC : Hid (Box2R ((w.alloc (Obj.cells #[Value.slice a n ca, Value.slice a' n' ca'] 26)).alloc (Obj.cells #[Value.slice b n cb, Value.slice b' n' cb'] 26)) (w.heap.size + 1) 26 (.slice b n cb) (.slice b' n' cb')) := by
    have := Box2R.new (w.alloc (Obj.cells #[Value.slice a n ca, Value.slice a' n' ca'] 26)) 26 (.slice b n cb) (.slice b' n' cb')
    rwa [World.size_alloc] at this
  have HB : Hid (Below w.heap.size w _) := hba
  clear hba
  refine (eqStrS_same a b n ca cb xs _ (HX.out _ HB.out).1 (HX.out _ HB.out).2.1 hn).mono ?_
  rintro r x3 ⟨rfl, hb3⟩
  have HB3 : Hid (Below w.heap.size w x3) := HB.out.trans (hb3.mono HB.out.size)
  obtain ⟨c0, c1⟩ := (HA.out.stays hb3).cells
  obtain ⟨d0, d1⟩ := (HC.out.stays hb3).cells
  clear hb3 HA HC HB
  go_wp2_with fail
  refine (eqStrS_same a' b' n' ca' cb' ys _ (HX.out _ HB3.out).2.2.1 (HX.out _ HB3.out).2.2.2 hn').mono ?_
  rintro r x4 ⟨rfl, hb4⟩
  have HB4 : Hid (Below w.heap.size w x4) := HB3.out.trans (hb4.mono HB3.out.size)
  clear hb4 HB3 c0 c1 d0 d1
  go_wp2_with fail
  go_ret
  exact ⟨rfl, HB4.out⟩

set_option maxHeartbeats 800000 in
theorem szDisk_any (a : Option Addr) (n ca : Nat) (xs : List ByteArray) (a' : Option Addr) (n' ca' : Nat) (ys : List ByteArray) (m : Int) (w : World) (h1 : Strs w a n xs) (h3 : Strs w a' n' ys) (hm : 0 ≤ m) (hm2 : m ≤ 1048576) (hn : n ≤ maxLen) (hn' : n' ≤ maxLen) :
    Calls Try.prog 7 #[.agg #[.slice a n ca, .slice a' n' ca'], .int .i64 m] w fun r w' => (∃ v : Int, r = .returned (.int .i64 v) ∧ v ≤ m ∧ (0 ≤ v → v + (n + strBytes xs) + (n' + strBytes ys) ≤ m)) ∧ Below w.heap.size w w' := by
  have HX : Hid (∀ W, Below w.heap.size w W → Strs W a n xs ∧ Strs W a' n' ys) := fun W h => ⟨h1.below h, h3.below h⟩
  clear h1 h3
  have HA : Hid (Box2R (w.alloc (Obj.cells #[Value.slice a n ca, Value.slice a' n' ca'] 24)) w.heap.size 24 (.slice a n ca) (.slice a' n' ca')) := Box2R.new _ _ _ _
  have HB : Hid (Below w.heap.size w (w.alloc (Obj.cells #[Value.slice a n ca, Value.slice a' n' ca'] 24))) := (Below.refl _ _).alloc (Nat.le_refl _) _
  go_enter Try.func7, Try.ntmps7
  go_wp2_with fail
  refine (szStrS_any a n ca xs m _ (HX.out _ HB.out).1 hm hm2 hn).mono ?_
  rintro r x3 ⟨⟨v, rfl, hvm, hv⟩, hb3⟩
  have HB3 : Hid (Below w.heap.size w x3) := HB.out.trans (hb3.mono HB.out.size)
  obtain ⟨c0, c1⟩ := (HA.out.stays hb3).cells
  clear hb3 HA HB
  by_cases hneg : v < 0
  · go_wp2_with fail
    go_ret
    exact ⟨⟨_, rfl, by omega, by omega⟩, HB3.out⟩
  have HV : Hid (v + (n + strBytes xs) ≤ m) := hv (by omega)
  clear hv
  go_wp2_with fail
  refine (szStrS_any a' n' ca' ys v _ (HX.out _ HB3.out).2 (by omega) (by omega) hn').mono ?_
  rintro r x4 ⟨⟨v4, rfl, hvm4, hv4⟩, hb4⟩
  have HB4 : Hid (Below w.heap.size w x4) := HB3.out.trans (hb4.mono HB3.out.size)
  have HV4 : Hid (0 ≤ v4 → v4 + (n' + strBytes ys) ≤ v) := hv4
  clear hb4 HB3 c0 c1 hv4
  by_cases hneg4 : v4 < 0
  · go_wp2_with fail
    go_ret
    exact ⟨⟨_, rfl, by omega, by omega⟩, HB4.out⟩
  go_wp2_with fail
  go_ret
  refine ⟨⟨_, rfl, by omega, fun h => ?_⟩, HB4.out⟩
  have h1 := HV.out
  have h2 := HV4.out h
  omega

end Go.Proofs.Ytnbmlkkjgecigas
