/- Marks of fields that are asked for. -/
import Derived.Test.YthojijhafhnclarDoorFldMk
import Derived.Deep.RegionWith
namespace Go.Proofs.YthojijhafhnclarDoor
open Go.RowKit
set_option linter.unusedVariables false

theorem marksF_at (k n j : Nat) (hj : j < n) : (marksF k n)[j]? = some (mt (k + 2 * j), mt (k + 2 * j + 1)) := by
  simp [marksF, hj]

set_option maxRecDepth 10000 in
set_option maxHeartbeats 1600000 in
theorem heldFS_any (a : Option Addr) (n cap k : Nat) (w : World) (h : Flds w a n (marksF k n)) (hn : n ≤ 1099511627776) (hk : k ≤ 1099511627776) :
    Calls Tryd.prog 10 #[.slice a n cap, .int .i64 (k : Int)] w fun e w' => e = .returned (.int .i64 ((k + 2 * n : Nat) : Int)) ∧ Below w.heap.size w w' := by
  have HX : Hid (Flds w a n (marksF k n)) := h
  clear h
  go_enter Tryd.func10, Tryd.ntmps10
  go_wp2_with fail
  go_loopw [1, 5] (fun q i wr => ∃ j : Nat, j ≤ n ∧ i = .int .i64 j ∧ q = .int .i64 ((k + 2 * j : Nat) : Int) ∧ Hid (Below w.heap.size w wr)) (fun _ i _ => n - (intOf i).toNat)
  case atStart => exact ⟨0, Nat.zero_le _, rfl, rfl, Below.refl _ _⟩
  case round =>
    obtain ⟨j, hj, rfl, rfl, HB⟩ := hrel
    by_cases hlt : j < n
    · obtain ⟨b, off, x, y, rfl, hb, hfx, hc0, hc1⟩ := (HX.out.below HB.out).at hlt
      obtain ⟨rfl, rfl⟩ : x = mt (k + 2 * j) ∧ y = mt (k + 2 * j + 1) := by
        rw [marksF_at k n j hlt] at hfx
        simp at hfx
        exact ⟨hfx.1.symm, hfx.2.symm⟩
      have hji : (j : Int) < (n : Int) := by omega
      have hq1 : ((k + 2 * j : Nat) : Int) + 1 = ((k + 2 * j + 1 : Nat) : Int) := by omega
      have hq2 : ((k + 2 * j + 1 : Nat) : Int) + 1 = ((k + 2 * (j + 1) : Nat) : Int) := by omega
      have hqb : ((k + 2 * j + 1 : Nat) : Int) ≤ 4398046511104 := by omega
      have HM1 : Hid (∀ W, Calls Tryd.prog 21 #[.int .i64 ((k + 2 * j : Nat) : Int)] W fun e w' => e = .returned (.string (mt (k + 2 * j))) ∧ Below W.heap.size W w') := fun W => markText_any _ W (by omega)
      have HM2 : Hid (∀ W, Calls Tryd.prog 21 #[.int .i64 ((k + 2 * j + 1 : Nat) : Int)] W fun e w' => e = .returned (.string (mt (k + 2 * j + 1))) ∧ Below W.heap.size W w') := fun W => markText_any _ W (by omega)
      generalize mt (k + 2 * j) = m1 at *
      generalize mt (k + 2 * j + 1) = m2 at *
      obtain ⟨K2, hK2⟩ : ∃ K2, k + 2 * (j + 1) = K2 := ⟨_, rfl⟩
      obtain ⟨K1, hK1⟩ : ∃ K1, k + 2 * j + 1 = K1 := ⟨_, rfl⟩
      obtain ⟨K0, hK0⟩ : ∃ K0, k + 2 * j = K0 := ⟨_, rfl⟩
      rw [hK2] at hq2
      rw [hK1] at hq1 hq2 hqb HM2
      rw [hK0] at hq1 HM1 ⊢
      have HK2 : Hid (k + 2 * (j + 1) = K2) := hK2
      have hK0b : (K0 : Int) ≤ 4398046511104 := by omega
      clear hK0 hK1 hK2 hfx
      have hne1 : (m1.toList != m1.toList) = false := by simp
      have hne2 : (m2.toList != m2.toList) = false := by simp
      have HC : Hid (∀ W, Below wr.heap.size wr W → W.cell? ⟨b, off + j * 2, none⟩ = some (.string m1) ∧ W.cell? ⟨b, off + j * 2 + 1, none⟩ = some (.string m2) ∧ Below w.heap.size w W) := fun W hW => ⟨(hW.cell (p := ⟨b, _, none⟩) hb).trans hc0, (hW.cell (p := ⟨b, _, none⟩) hb).trans hc1, HB.out.trans (hW.mono HB.out.size)⟩
      go_wp2_with fail
      go_region_with (first
        | (go_at_call 21; refine (HM1.out _).mono ?_; rintro e x1 ⟨rfl, hb1⟩; have hb1' : Below wr.heap.size wr x1 := (Below.refl wr.heap.size wr).drew.trans (hb1.mono (Nat.le_refl _)); obtain ⟨k0, k1, k2⟩ := HC.out x1 hb1'))
      all_goals
        have HB1 : Hid (Below wr.heap.size wr x1) := hb1'
        have HC1 : Hid (∀ W, Below x1.heap.size x1 W → W.cell? ⟨b, off + j * 2 + 1, none⟩ = some (.string m2) ∧ Below w.heap.size w W) := fun W hW => ⟨(HC.out W (HB1.out.trans (hW.mono HB1.out.size))).2.1, (HC.out W (HB1.out.trans (hW.mono HB1.out.size))).2.2⟩
        have hbx : b < x1.heap.size := Nat.lt_of_lt_of_le hb HB1.out.size
        clear hb1 hb1' k0 k2 hc0 hc1
        go_wp2_with fail
        go_region_with (first
          | (go_at_call 21; refine (HM2.out _).mono ?_; rintro e x3 ⟨rfl, hb3⟩; have hb3' : Below x1.heap.size x1 x3 := (Below.refl x1.heap.size x1).drew.trans (hb3.mono (Nat.le_refl _)); obtain ⟨l1, l2⟩ := HC1.out x3 hb3'))
        all_goals
          have HB3 : Hid (Below w.heap.size w x3) := l2
          clear hb3 hb3' l1 l2 k1
          go_wp2_with fail
          go_roundw
          case rel => exact ⟨j + 1, by omega, by go_num, by rw [HK2.out], HB3⟩
          case measure => simp [intOf]; omega
    · have hjn : j = n := by omega
      subst hjn
      go_wp2_with fail
      go_ret
      exact ⟨rfl, HB.out⟩

end Go.Proofs.YthojijhafhnclarDoor
