/- The specification's TableOk. -/
import Derived.Test.YtbaijmkghgnleaaGreatDoorM29
import Derived.Test.YtbaijmkghgnleaaGreatDoorM28
import Derived.Deep.RegionWith
import Derived.Deep.QuietTactic
import Derived.BigQuiet
namespace Go.Proofs.YtbaijmkghgnleaaGreatDoor
open Go.RowKit
set_option linter.unusedVariables false

set_option maxRecDepth 10000 in
set_option maxHeartbeats 1600000 in
theorem specOk_any (m : Int) (a : Option Addr) (len ca : Nat) (xs : List Fld) (w : World) (hx : Flds w a len xs) (hl : len + fldBytes xs ≤ 2097152) :
    Calls Tryz.prog 18 #[.agg #[.int .i64 m, .slice a len ca]] w fun e w' => e = .returned (.bool (okT m xs)) ∧ Below w.heap.size w w' := by
  have HX : Hid (Flds w a len xs) := hx
  have hlen := hx.1
  clear hx
  obtain ⟨w1, hw1⟩ : ∃ w1, w.alloc (.cells #[.int .i64 m, .slice a len ca] 32) = w1 := ⟨_, rfl⟩
  have hbx : w1.heap[w.heap.size]? = some (.cells #[.int .i64 m, .slice a len ca] 32 (0, 0)) := by rw [← hw1]; exact heap_alloc_new w _
  have HB1 : Hid (Below w.heap.size w w1) := by show Below _ _ _; rw [← hw1]; exact (Below.refl _ _).alloc (Nat.le_refl _) _
  have hs1 : w.heap.size < w1.heap.size := by rw [← hw1]; simp
  have c0 : w1.cell? ⟨w.heap.size, 0, none⟩ = some (.int .i64 m) := by rw [cell_of_row _ _ _ _ _ _ hbx]; rfl
  have c1 : w1.cell? ⟨w.heap.size, 1, none⟩ = some (.slice a len ca) := by rw [cell_of_row _ _ _ _ _ _ hbx]; rfl
  have HT : Hid (∀ W : World, Below w1.heap.size w1 W → Flds W a len xs ∧ Below w.heap.size w W ∧ W.cell? ⟨w.heap.size, 0, none⟩ = some (.int .i64 m) ∧ W.cell? ⟨w.heap.size, 1, none⟩ = some (.slice a len ca)) := fun W hW =>
    have hb := HB1.out.trans (hW.mono HB1.out.size)
    ⟨HX.out.below hb, hb, (hW.cell (p := ⟨_, _, none⟩) hs1).trans c0, (hW.cell (p := ⟨_, _, none⟩) hs1).trans c1⟩
  clear hbx
  by_cases hin : 0 ≤ m ∧ m ≤ 4096
  · have hans : okT m xs = decide ((32 * len + fldBytes xs : Int) ≤ m) := by
      unfold okT szL
      rw [hlen]
      simp [hin.1, hin.2]
    have HAns : Hid (okT m xs = decide ((32 * len + fldBytes xs : Int) ≤ m)) := hans
    obtain ⟨h0, h1⟩ := hin
    clear hans
    go_enter Tryz.func18, Tryz.ntmps18
    go_wp2_with fail
    go_region_with (first
      | (go_at_call 20; refine (tin_yes _ _ _ _ h0 h1).mono ?_; rintro e x1 ⟨rfl, rfl⟩)
      | (go_at_call 42; refine (specSize_any m a len ca xs _ (HT.out _ (Below.refl _ _).drew).1 hl).mono ?_; rintro e x2 ⟨rfl, hb2⟩; have hb2' : Below w1.heap.size w1 x2 := (Below.refl w1.heap.size w1).drew.trans (hb2.mono (Nat.le_refl _)); have k0 := (HT.out _ hb2').2.2.1))
    all_goals
      have HB2 : Hid (Below w.heap.size w x2) := (HT.out _ hb2').2.1
      clear hb2 hb2' k0
      go_wp2
      go_ret
      exact ⟨ret_bool HAns.out.symm, HB2.out⟩
  · have hans : okT m xs = false := by
      unfold okT
      simp
      omega
    have HAns : Hid (okT m xs = false) := hans
    have HIn : Hid (m < 0 ∨ 4096 < m) := by show _ ∨ _; omega
    clear hans hin
    go_enter Tryz.func18, Tryz.ntmps18
    go_wp2_with fail
    go_quiet (first | (go_at_call 20; exact Calls.quiet_of_same (tin_no _ _ _ _ HIn.out)))
    go_wp2
    go_ret
    exact ⟨ret_bool HAns.out.symm, below_drewN HB1.out nq⟩

end Go.Proofs.YtbaijmkghgnleaaGreatDoor
