/- The specification's FirstField. -/
import Derived.Test.YtnenphedodfnnakTabFirst
import Derived.Test.YtnenphedodfnnakTabIn
import Derived.Test.YtnenphedodfnnakTabFit
namespace Go.Proofs.Ytnenphedodfnnak
open Go.RowKit
set_option linter.unusedVariables false

set_option maxRecDepth 10000 in
set_option maxHeartbeats 800000 in
theorem specFF_any (i : Int) (w : World) : Calls Try.prog 46 #[.int .i64 i] w fun e w' => e = .returned (.tuple #[.agg #[.string (firstAns i).1.1, .string (firstAns i).1.2], .bool (firstAns i).2]) ∧ Below w.heap.size w w' := by
  by_cases h : 1 ≤ i ∧ i ≤ 61
  · obtain ⟨k, hk⟩ : ∃ k : Nat, i = (k : Int) + 1 := ⟨(i - 1).toNat, by omega⟩
    have hk61 : k < firstL.length := by rw [firstL_len]; omega
    have e : firstAns i = ((firstL[k]'hk61), true) := by
      rw [firstAns, if_pos h, show (i - 1).toNat = k by omega, List.getD_eq_getElem?_getD, List.getElem?_eq_getElem hk61]
      rfl
    rw [e]
    subst hk
    clear e
    obtain ⟨h1, h2⟩ := h
    go_enter Try.func46, Try.ntmps46
    go_wp2_with fail
    refine (tin_yes _ _ _ _ h1 h2).mono ?_
    rintro e w1 ⟨rfl, rfl⟩
    go_wp2_with fail
    refine (specFirst_any _).mono ?_
    rintro e w2 ⟨rfl, hf2, hb2⟩
    have hN : (w.alloc (Obj.cells #[Value.string ⟨#[]⟩, Value.string ⟨#[]⟩] 38)).heap.size = w.heap.size + 1 := Array.size_push _
    rw [hN] at hf2 hb2
    rw [hN]
    obtain ⟨hs, hsz, hc⟩ := hf2
    rcases hc with hc | ⟨b, off, ha, hlt, hc⟩
    · omega
    obtain ⟨rfl, rfl⟩ : b = w.heap.size + 1 ∧ off = 0 := by simp at ha; omega
    have HC := hc k hk61
    obtain ⟨c0, c1⟩ := HC
    rw [Nat.zero_add] at c0
    rw [Nat.zero_add] at c1
    clear hc ha hs hsz
    have b0 : w2.cell? ⟨w.heap.size, 0, none⟩ = some (.string ⟨#[]⟩) := (hb2.cell (p := ⟨w.heap.size, 0, none⟩) (Nat.lt_succ_self _)).trans (by simp [go_sem])
    have b1 : w2.cell? ⟨w.heap.size, 1, none⟩ = some (.string ⟨#[]⟩) := (hb2.cell (p := ⟨w.heap.size, 1, none⟩) (Nat.lt_succ_self _)).trans (by simp [go_sem])
    have f0 : w2.frozen? ⟨w.heap.size, 0, none⟩ = false := (hb2.frozen (p := ⟨w.heap.size, 0, none⟩) (Nat.lt_succ_self _)).trans (by simp [go_sem])
    have f1 : w2.frozen? ⟨w.heap.size, 1, none⟩ = false := (hb2.frozen (p := ⟨w.heap.size, 1, none⟩) (Nat.lt_succ_self _)).trans (by simp [go_sem])
    go_wp2_with fail
    refine bodyPost_ret (v := .tuple #[.agg #[.string (firstL[k]'hk61).1, .string (firstL[k]'hk61).2], .bool true]) (by simp [results, Try.f46, go_sem, b0, b1]) rfl ?_
    refine ⟨rfl, ?_⟩
    exact ((((Below.refl _ _).alloc (Nat.le_refl _) _).trans (hb2.mono (Nat.le_succ _))).setCell (Nat.le_refl _) _).setCell (Nat.le_refl _) _
  · have e : firstAns i = ((⟨#[]⟩, ⟨#[]⟩), false) := by rw [firstAns, if_neg h]
    rw [e]
    have HF : Hid (i < 1 ∨ 61 < i) := by show _ ∨ _; omega
    clear h e
    go_enter Try.func46, Try.ntmps46
    go_wp2_with fail
    refine (tin_no _ _ _ _ HF.out).mono ?_
    rintro e w1 ⟨rfl, rfl⟩
    go_wp2_with fail
    refine bodyPost_ret (v := .tuple #[.agg #[.string ⟨#[]⟩, .string ⟨#[]⟩], .bool false]) (by simp [results, Try.f46, go_sem]) rfl ?_
    exact ⟨rfl, (Below.refl _ _).alloc (Nat.le_refl _) _⟩

end Go.Proofs.Ytnenphedodfnnak
