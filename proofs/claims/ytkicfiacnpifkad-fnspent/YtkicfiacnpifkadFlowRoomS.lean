/- What the specification's RoomOf answers: how much may be sent on a lane; nothing that was there is written. -/
import Derived.Test.YtkicfiacnpifkadFlowRoomN
import Derived.Test.YtkicfiacnpifkadFlowAtS
namespace Go.Proofs.Ytkicfiacnpifkad
open Go.RowKit
set_option linter.unusedVariables false

set_option maxRecDepth 10000 in
set_option maxHeartbeats 800000 in
theorem specRoom_any (c i : Int) (a : Option Addr) (len cap : Nat) (l : List Lane) (id : Int) (w : World) (hs : Lanes w a len l) (hl : len ≤ 1099511627776) :
    Calls Try.prog 33 #[.agg #[.int .i64 c, .int .i64 i, .slice a len cap], .int .i64 id] w fun e w' => e = .returned (.int .i64 (roomN c l id)) ∧ Below w.heap.size w w' := by
  have HB0 : Hid (Below w.heap.size w (w.alloc (.cells #[.int .i64 c, .int .i64 i, .slice a len cap] 36))) := (Below.refl _ _).alloc (Nat.le_refl _) _
  have HX0 : Hid (Box3 (w.alloc (.cells #[.int .i64 c, .int .i64 i, .slice a len cap] 36)) w.heap.size 36 (.int .i64 c) (.int .i64 i) (.slice a len cap)) := Box3.new _ _ _ _ _
  have HS : Hid (Lanes w a len l) := hs
  have HL : Hid (l.length = len) := hs.1
  clear hs
  go_enter Try.func33, Try.ntmps33
  go_wp2_with fail
  refine (specAt_any c i a len cap l id _ (HS.out.below HB0.out) hl).mono ?_
  rintro e x1 ⟨rfl, hb1⟩
  have HB1 : Hid (Below w.heap.size w x1) := HB0.out.trans (hb1.mono HB0.out.size)
  obtain ⟨c0, c1, c2⟩ := (HX0.out.stays hb1).cells
  clear hb1 HX0 HB0
  have hr := atL_range id l
  by_cases hn : atL id l < 0
  · have HR : Hid (roomN c l id = 0) := roomN_none hn
    generalize atL id l = k at *
    clear hr
    go_wp2_with fail
    go_ret
    exact ⟨ret_int HR.out.symm, HB1.out⟩
  · obtain ⟨K, hK⟩ := Int.eq_ofNat_of_zero_le (show 0 ≤ atL id l by omega)
    have hKl : K < len := by have := HL.out; omega
    obtain ⟨b, off, p, q, rfl, hb, hkx, hp, hq, _, _⟩ := (HS.out.below HB1.out).at hKl
    have HR : Hid (roomN c l id = if q < c then (if q < 0 then 0 else q) else (if c < 0 then 0 else c)) := roomN_some hK (laneAt_some hkx)
    rw [hK]
    clear hkx hn hr hK
    have hKi : (K : Int) < (len : Int) := by omega
    have hK0 : ¬ (K : Int) < 0 := by omega
    by_cases h1 : q < c
    · by_cases h2 : q < 0
      · rw [if_pos h1, if_pos h2] at HR
        go_wp2_with fail
        go_ret
        exact ⟨ret_int HR.out.symm, HB1.out⟩
      · rw [if_pos h1, if_neg h2] at HR
        go_wp2_with fail
        go_ret
        exact ⟨ret_int HR.out.symm, HB1.out⟩
    · by_cases h2 : c < 0
      · rw [if_neg h1, if_pos h2] at HR
        go_wp2_with fail
        go_ret
        exact ⟨ret_int HR.out.symm, HB1.out⟩
      · rw [if_neg h1, if_neg h2] at HR
        go_wp2_with fail
        go_ret
        exact ⟨ret_int HR.out.symm, HB1.out⟩

end Go.Proofs.Ytkicfiacnpifkad
