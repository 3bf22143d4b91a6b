/- Where the lane lies that is reached. No statement of the program but its table of types. -/
import Derived.Test.YtkicfiacnpifkaqFlowReach
import Derived.Test.YtkicfiacnpifkaqFlowRoomN
namespace Go.Proofs.Ytkicfiacnpifkaq
open Go.RowKit
set_option linter.unusedVariables false

/-- Where the lane lies that is reached. -/
theorem reach_some {w : World} {a : Option Addr} {len : Nat} {l : List Lane} {id : Int} (h : Lanes w a len l) (hk : ¬ atL id l < 0) : ∃ K b off p q, atL id l = ((K : Nat) : Int) ∧ K < len ∧ a = some ⟨b, off, none⟩ ∧ b < w.heap.size ∧ reachP a (atL id l) = .pointer (some ⟨b, off + K * 2, none⟩) ∧ laneAt l K = (p, q) ∧ l[K]? = some (p, q) ∧ w.cell? ⟨b, off + K * 2, none⟩ = some (.int .i64 p) ∧ w.cell? ⟨b, off + K * 2 + 1, none⟩ = some (.int .i64 q) ∧ i64b p ∧ i64b q := by
  obtain ⟨K, hK⟩ := Int.eq_ofNat_of_zero_le (show 0 ≤ atL id l by omega)
  have hr := atL_range id l
  have hl := h.1
  have hKl : K < len := by omega
  obtain ⟨b, off, p, q, ha, hb, hkx, hp, hq, h1, h2⟩ := h.at hKl
  subst ha
  exact ⟨K, b, off, p, q, hK, hKl, rfl, hb, by rw [hK]; simp [reachP, reachO], laneAt_some hkx, hkx, hp, hq, h1, h2⟩

theorem reach_none {a : Option Addr} {l : List Lane} {id : Int} (hk : atL id l < 0) : reachP a (atL id l) = .pointer none := by
  cases a <;> simp [reachP, reachO, hk]

theorem reachO_none {w : World} {a : Option Addr} {len : Nat} {l : List Lane} {id : Int} (h : Lanes w a len l) (hn : reachO a (atL id l) = none) : atL id l < 0 := by
  by_cases hk : atL id l < 0
  · exact hk
  · obtain ⟨K, b, off, p, q, _, _, _, _, hr, _⟩ := reach_some h hk
    rw [reachP, hn] at hr
    simp at hr

theorem reachO_some {a : Option Addr} {l : List Lane} {id : Int} {ad : Addr} (hn : reachO a (atL id l) = some ad) : ¬ atL id l < 0 := by
  intro hk
  have := reach_none (a := a) hk
  rw [reachP, hn] at this
  simp at this

end Go.Proofs.Ytkicfiacnpifkaq
