/- What the specification's l10At answers: where the first lane of this number lies. -/
import Derived.Test.YtkicfiacnpifkadFlowNum
import Derived.Test.YtkicfiacnpifkadBox3
namespace Go.Proofs.Ytkicfiacnpifkad
open Go.RowKit
set_option linter.unusedVariables false

set_option maxRecDepth 10000 in
set_option maxHeartbeats 800000 in
theorem specAt_any (c i : Int) (a : Option Addr) (len cap : Nat) (l : List Lane) (id : Int) (w : World) (hs : Lanes w a len l) (hl : len ≤ 1099511627776) :
    Calls Try.prog 38 #[.agg #[.int .i64 c, .int .i64 i, .slice a len cap], .int .i64 id] w fun e w' => e = .returned (.int .i64 (atL id l)) ∧ Below w.heap.size w w' := by
  have HL : Hid (l.length = len) := hs.1
  have HB0 : Hid (Below w.heap.size w (w.alloc (.cells #[.int .i64 c, .int .i64 i, .slice a len cap] 36))) := (Below.refl _ _).alloc (Nat.le_refl _) _
  have HX0 : Hid (Box3 (w.alloc (.cells #[.int .i64 c, .int .i64 i, .slice a len cap] 36)) w.heap.size 36 (.int .i64 c) (.int .i64 i) (.slice a len cap)) := Box3.new _ _ _ _ _
  have HS : Hid (Lanes (w.alloc (.cells #[.int .i64 c, .int .i64 i, .slice a len cap] 36)) a len l) := hs.below HB0.out
  clear hs
  go_enter Try.func38, Try.ntmps38
  go_wp2_with fail
  obtain ⟨w1, hw1⟩ : ∃ w1, w.alloc (.cells #[.int .i64 c, .int .i64 i, .slice a len cap] 36) = w1 := ⟨_, rfl⟩
  rw [hw1] at HB0 HX0 HS ⊢
  clear hw1
  obtain ⟨c0, c1, c2⟩ := HX0.out.cells
  go_loopw [5] (fun v wr => ∃ k : Nat, k ≤ len ∧ v = .int .i64 k ∧ wr = w1 ∧ Hid (∀ j, j < k → (laneAt l j).1 ≠ id)) (fun v _ => len - (intOf v).toNat)
  case atStart => exact ⟨0, Nat.zero_le _, rfl, rfl, fun j hj => absurd hj (Nat.not_lt_zero _)⟩
  case round =>
    obtain ⟨k, hk, rfl, hwr, HN⟩ := hrel
    subst hwr
    by_cases hlt : k < len
    · have hki : (k : Int) < (len : Int) := by omega
      obtain ⟨b, off, p, q, rfl, hb, hkx, hp, hq, _, _⟩ := HS.out.at hlt
      have HA : Hid ((laneAt l k).1 = p) := by show _ = _; rw [laneAt_some hkx]
      clear hkx
      by_cases g : p = id
      · have HE : Hid (atL id l = k) := atL_some (by have := HL.out; omega) (HA.out.trans g) HN.out
        have gb : (p == id) = true := by simpa using g
        clear g HN HA HS HL
        go_wp2_with fail
        go_ret
        exact ⟨ret_int HE.out.symm, HB0.out⟩
      · have HN2 : Hid (∀ j, j < k + 1 → (laneAt l j).1 ≠ id) := fun j hj => by
          by_cases e : j = k
          · rw [e, HA.out]; exact g
          · exact HN.out j (by omega)
        have gb : (p == id) = false := by simpa using g
        clear g HN HA HS HL
        go_wp2_with fail
        go_roundw
        case rel => exact ⟨k + 1, by omega, by go_num, by first | rfl | trivial, HN2⟩
        case measure => simp [intOf]; omega
    · have HE : Hid (atL id l = -1) := atL_none fun j hj => HN.out j (by have := HL.out; omega)
      have hkl : len = k := by omega
      clear HN HS HL
      subst hkl
      go_wp2_with fail
      go_ret
      exact ⟨ret_int HE.out.symm, HB0.out⟩

end Go.Proofs.Ytkicfiacnpifkad
