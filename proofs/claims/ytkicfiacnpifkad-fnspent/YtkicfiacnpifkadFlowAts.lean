/- What the program's RoomOf answers. -/
import Derived.Test.YtkicfiacnpifkadFlowReach
import Derived.Test.YtkicfiacnpifkadFlowRoomN
import Derived.Test.YtkicfiacnpifkadFlowOkI
namespace Go.Proofs.Ytkicfiacnpifkad
open Go.RowKit
set_option linter.unusedVariables false

/-- Where the lane lies that is reached. -/
theorem reach_some {w : World} {a : Option Addr} {len : Nat} {l : List Lane} {id : Int} (h : Lanes w a len l) (hk : ¬ atL id l < 0) : ∃ K b off p q, atL id l = ((K : Nat) : Int) ∧ K < len ∧ a = some ⟨b, off, none⟩ ∧ b < w.heap.size ∧ reachP a (atL id l) = .pointer (some ⟨b, off + K * 2, none⟩) ∧ laneAt l K = (p, q) ∧ l[K]? = some (p, q) ∧ w.cell? ⟨b, off + K * 2, none⟩ = some (.int .i64 p) ∧ w.cell? ⟨b, off + K * 2 + 1, none⟩ = some (.int .i64 q) ∧ i64b p ∧ i64b q := by
  obtain ⟨K, hK⟩ := Int.eq_ofNat_of_zero_le (show 0 ≤ atL id l by omega)
  have hr := atL_range id l
  have hl := h.1
  have hKl : K < len := by omega
  obtain ⟨b, off, p, q, ha, hb, hkx, hp, hq, h1, h2⟩ := h.at hKl
  subst ha
  exact ⟨K, b, off, p, q, hK, hKl, rfl, hb, by rw [hK]; simp [reachP, reachO], laneAt_some hkx, hkx, hp, hq, h1, h2⟩

theorem reach_none {a : Option Addr} {l : List Lane} {id : Int} (hk : atL id l < 0) : reachP a (atL id l) = .pointer none := by
  cases a <;> simp [reachP, reachO, hk]

theorem reachO_none {w : World} {a : Option Addr} {len : Nat} {l : List Lane} {id : Int} (h : Lanes w a len l) (hn : reachO a (atL id l) = none) : atL id l < 0 := by
  by_cases hk : atL id l < 0
  · exact hk
  · obtain ⟨K, b, off, p, q, _, _, _, _, hr, _⟩ := reach_some h hk
    rw [reachP, hn] at hr
    simp at hr

theorem reachO_some {a : Option Addr} {l : List Lane} {id : Int} {ad : Addr} (hn : reachO a (atL id l) = some ad) : ¬ atL id l < 0 := by
  intro hk
  have := reach_none (a := a) hk
  rw [reachP, hn] at this
  simp at this

end Go.Proofs.Ytkicfiacnpifkad

namespace Go.Proofs.Ytkicfiacnpifkad
open Go.RowKit
set_option linter.unusedVariables false

set_option maxRecDepth 10000 in
set_option maxHeartbeats 800000 in
theorem implRoom_any (c i : Int) (a : Option Addr) (len cap : Nat) (l : List Lane) (id : Int) (w : World) (hs : Lanes w a len l) (hl : len ≤ 1099511627776) :
    Calls Try.prog 15 #[.agg #[.int .i64 c, .int .i64 i, .slice a len cap], .int .i64 id] w fun e w' => e = .returned (.int .i64 (roomN c l id)) ∧ Below w.heap.size w w' := by
  have HB0 : Hid (Below w.heap.size w (w.alloc (.cells #[.int .i64 c, .int .i64 i, .slice a len cap] 36))) := (Below.refl _ _).alloc (Nat.le_refl _) _
  have HX0 : Hid (Box3 (w.alloc (.cells #[.int .i64 c, .int .i64 i, .slice a len cap] 36)) w.heap.size 36 (.int .i64 c) (.int .i64 i) (.slice a len cap)) := Box3.new _ _ _ _ _
  have HS : Hid (Lanes (w.alloc (.cells #[.int .i64 c, .int .i64 i, .slice a len cap] 36)) a len l) := hs.below HB0.out
  clear hs
  go_enter Try.func15, Try.ntmps15
  go_wp2_with fail
  obtain ⟨w1, hw1⟩ : ∃ w1, w.alloc (.cells #[.int .i64 c, .int .i64 i, .slice a len cap] 36) = w1 := ⟨_, rfl⟩
  rw [hw1] at HB0 HX0 HS ⊢
  clear hw1
  obtain ⟨c0, c1, c2⟩ := HX0.out.cells
  refine (implLanesOf_any _ _ _ c2).mono ?_
  rintro e w4 ⟨rfl, hw4⟩
  subst hw4
  go_wp2_with fail
  refine (implReach_any a len cap l id _ HS.out hl).mono ?_
  rintro e w5 ⟨rfl, hb5⟩
  have HX5 := (show Hid (Box3 w5 w.heap.size 36 (.int .i64 c) (.int .i64 i) (.slice a len cap)) from HX0.out.stays hb5)
  have HS5 : Hid (Lanes w5 a len l) := HS.out.below hb5
  have HB5 : Hid (Below w.heap.size w w5) := HB0.out.trans (hb5.mono HB0.out.size)
  clear hb5 HX0 HS HB0 c0 c1 c2
  by_cases hk : atL id l < 0
  · have HR : Hid (roomN c l id = 0) := roomN_none hk
    rw [reach_none hk]
    clear hk
    go_wp2_with fail
    go_ret
    exact ⟨ret_int HR.out.symm, HB5.out⟩
  · obtain ⟨K, b, off, p, q, hK, hKl, rfl, hb, hr, hlk, _, hp, hq, _, _⟩ := reach_some HS5.out hk
    rw [hr]
    have HR : Hid (roomN c l id = if q < c then (if q < 0 then 0 else q) else (if c < 0 then 0 else c)) := roomN_some hK hlk
    obtain ⟨c0, c1, c2⟩ := HX5.out.cells
    clear hk hK hr hlk
    obtain ⟨mn, hmn⟩ : ∃ mn : Int, (if q < c then q else c) = mn := ⟨_, rfl⟩
    obtain ⟨mx, hmx⟩ : ∃ mx : Int, (if mn > 0 then mn else 0) = mx := ⟨_, rfl⟩
    have HR1 : Hid (roomN c l id = mx) := by
      show _ = _
      rw [HR.out, ← hmx, ← hmn]
      by_cases h1 : q < c
      · by_cases h2 : q < 0 <;> simp [h1, h2] <;> omega
      · by_cases h2 : c < 0 <;> simp [h1, h2] <;> omega
    have qn : ∀ w : World, (Builtin.min_ #[3, 3] 3 #[.int .i64 c, .int .i64 q]).run Try.prog w = .ok (.int .i64 mn) w := fun w => by rw [run_min_int2, hmn]
    have qx : ∀ w : World, (Builtin.max_ #[3, 3] 3 #[.int .i64 0, .int .i64 mn]).run Try.prog w = .ok (.int .i64 mx) w := fun w => by rw [run_max_int2, hmx]
    clear hmn hmx HR
    go_wp2_with fail
    go_quiet (fail)
    go_wp2_with fail
    go_ret
    exact ⟨ret_int HR1.out.symm, below_drewN HB5.out _⟩

end Go.Proofs.Ytkicfiacnpifkad
