/- What the program's FlushDisk answers. -/
import Derived.Test.YtnbmlkkjgecigasDskCopyI
namespace Go.Proofs.Ytnbmlkkjgecigas
open Go.RowKit
set_option linter.unusedVariables false

set_option maxRecDepth 10000 in
set_option maxHeartbeats 1600000 in
theorem implFlush_any (a : Option Addr) (n ca : Nat) (xs : List ByteArray) (a' : Option Addr) (n' ca' : Nat) (w : World) (h1 : Strs w a n xs) (hn : n ≤ 2097152) :
    Calls Try.prog 10 #[.agg #[.slice a n ca, .slice a' n' ca']] w fun e w' => (∃ v, e = .returned v ∧ AnsD w.heap.size xs xs v w') ∧ Below w.heap.size w w' := by
  obtain ⟨W2, hW2⟩ : ∃ W2, (w.alloc (.cells #[.slice a n ca, .slice a' n' ca'] 26)).alloc (.cells #[.slice none 0 0, .slice none 0 0] 26) = W2 := ⟨_, rfl⟩
  have HE : Hid ((w.alloc (.cells #[.slice a n ca, .slice a' n' ca'] 26)).alloc (.cells #[.slice none 0 0, .slice none 0 0] 26) = W2) := hW2
  have HB2 : Hid (Below w.heap.size w W2) := by show Below _ _ _; rw [← hW2]; exact ((Below.refl _ _).alloc (Nat.le_refl _) _).alloc (by simp) _
  have HZ2 : Hid (W2.heap.size = w.heap.size + 2) := by show _ = _; rw [← hW2]; simp
  have HQ1 : Hid (Box2R W2 w.heap.size 26 (.slice a n ca) (.slice a' n' ca')) := by show Box2R _ _ _ _ _; rw [← hW2]; exact (Box2R.new _ _ _ _).alloc _
  have HQ2 : Hid (Box2R W2 (w.heap.size + 1) 26 (.slice none 0 0) (.slice none 0 0)) := by
    show Box2R _ _ _ _ _
    rw [← hW2]
    have := Box2R.new (w.alloc (.cells #[.slice a n ca, .slice a' n' ca'] 26)) 26 (.slice none 0 0) (.slice none 0 0)
    rwa [World.size_alloc] at this
  have HX : Hid (Strs W2 a n xs) := h1.below HB2.out
  have HL : Hid (xs.length = n) := h1.1
  clear hW2 h1
  go_enter Try.func10, Try.ntmps10
  go_upto_region 1 with fail
  rw [HE.out]
  clear HE
  obtain ⟨c0, c1⟩ := HQ1.out.cells
  go_wp2_with fail
  refine (implDcopy_any a n ca xs a n ca xs _ HX.out HX.out hn hn).mono ?_
  rintro e x3 ⟨⟨v, rfl, A, C, A', C', rfl, o1, o2, hap⟩, hb3⟩
  rw [HL.out] at o1 o2 ⊢
  have hbx := HQ2.out.stays hb3
  obtain ⟨r0, r1⟩ := hbx.cells
  have f0 := hbx.frozen 0
  have f1 := hbx.frozen 1
  have HF : Hid (AnsD w.heap.size xs xs (.agg #[.slice A n C, .slice A' n C']) ((x3.setCell ⟨w.heap.size + 1, 0, none⟩ (.slice A n C)).setCell ⟨w.heap.size + 1, 1, none⟩ (.slice A' n C')) ∧ Below w.heap.size w ((x3.setCell ⟨w.heap.size + 1, 0, none⟩ (.slice A n C)).setCell ⟨w.heap.size + 1, 1, none⟩ (.slice A' n C'))) := by
    have hz := HZ2.out
    have n1 : blkOf (.slice A n C) ≠ some (w.heap.size + 1) := fun e => by have := (o1.lt _ e).1; omega
    have n2 : blkOf (.slice A' n C') ≠ some (w.heap.size + 1) := fun e => by have := (o2.lt _ e).1; omega
    have hbw := HB2.out.trans (hb3.mono HB2.out.size)
    exact ⟨AnsD.mk' HL.out HL.out (((o1.setCell n1 _).setCell n1 _).low (by omega)) (((o2.setCell n2 _).setCell n2 _).low (by omega)) hap, (hbw.setCell (by dsimp only; omega) _).setCell (by dsimp only; omega) _⟩
  clear o1 o2 hap hb3 hbx c0 c1
  go_wp2_with fail
  refine bodyPost_ret (v := .agg #[.slice A n C, .slice A' n C']) (by simp [results, Try.f10, go_sem, r0, r1]) rfl ?_
  exact ⟨⟨_, rfl, HF.out.1⟩, HF.out.2⟩

end Go.Proofs.Ytnbmlkkjgecigas
