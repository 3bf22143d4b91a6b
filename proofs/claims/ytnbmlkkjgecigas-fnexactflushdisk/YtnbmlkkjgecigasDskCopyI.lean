/- What the program's copy of a disk answers. -/
import Derived.Test.YtnbmlkkjgecigasDskCloneI
import Derived.Deep.CutBlock
namespace Go.Proofs.Ytnbmlkkjgecigas
open Go.RowKit
set_option linter.unusedVariables false

theorem blkOf_sC (a : Option Addr) (n c : Nat) : blkOf (.slice a n c) = a.map (·.block) := by cases a <;> rfl

set_option maxRecDepth 10000 in
set_option maxHeartbeats 3200000 in
theorem implDcopy_any (a : Option Addr) (n ca : Nat) (xs : List ByteArray) (a' : Option Addr) (n' ca' : Nat) (ys : List ByteArray) (w : World) (h1 : Strs w a n xs) (h2 : Strs w a' n' ys) (hn : n ≤ 2097152) (hn' : n' ≤ 2097152) :
    Calls Try.prog 31 #[.agg #[.slice a n ca, .slice a' n' ca']] w fun e w' => (∃ v, e = .returned v ∧ AnsD w.heap.size xs ys v w') ∧ Below w.heap.size w w' := by
  have HLn : Hid (xs.length = n ∧ ys.length = n') := ⟨h1.1, h2.1⟩
  obtain ⟨W2, hW2⟩ : ∃ W2, (w.alloc (.cells #[.slice a n ca, .slice a' n' ca'] 26)).alloc (.cells #[.slice none 0 0, .slice none 0 0] 26) = W2 := ⟨_, rfl⟩
  have HE : Hid ((w.alloc (.cells #[.slice a n ca, .slice a' n' ca'] 26)).alloc (.cells #[.slice none 0 0, .slice none 0 0] 26) = W2) := hW2
  have HB2 : Hid (Below w.heap.size w W2) := by show Below _ _ _; rw [← hW2]; exact ((Below.refl _ _).alloc (Nat.le_refl _) _).alloc (by simp) _
  have HZ2 : Hid (W2.heap.size = w.heap.size + 2) := by show _ = _; rw [← hW2]; simp
  have q1 : Box2R W2 w.heap.size 26 (.slice a n ca) (.slice a' n' ca') := by rw [← hW2]; exact (Box2R.new _ _ _ _).alloc _
  have q2 : Box2R W2 (w.heap.size + 1) 26 (.slice none 0 0) (.slice none 0 0) := by
    rw [← hW2]
    have := Box2R.new (w.alloc (.cells #[.slice a n ca, .slice a' n' ca'] 26)) 26 (.slice none 0 0) (.slice none 0 0)
    rwa [World.size_alloc] at this
  have HQ : Hid (∀ W, Below W2.heap.size W2 W → Box2R W w.heap.size 26 (.slice a n ca) (.slice a' n' ca') ∧ Box2R W (w.heap.size + 1) 26 (.slice none 0 0) (.slice none 0 0)) := fun W h => ⟨q1.stays h, q2.stays h⟩
  have HX : Hid (∀ W, Below W2.heap.size W2 W → Strs W a n xs ∧ Strs W a' n' ys) := fun W h => by
    have hw := HB2.out.trans (h.mono HB2.out.size)
    exact ⟨h1.below hw, h2.below hw⟩
  have HBd : Hid (Below W2.heap.size W2 W2.drew) := (Below.refl _ _).drew
  clear hW2 q1 q2 h1 h2
  have hne : w.heap.size ≠ w.heap.size + 1 := by omega
  have hs2 : w.heap.size + 1 < W2.heap.size := by have := HZ2.out; omega
  go_enter Try.func31, Try.ntmps31
  go_upto_region 1 with fail
  rw [HE.out]
  clear HE
  obtain ⟨c0, c1⟩ := (HQ.out _ (Below.refl _ _)).1.cells
  go_region_held3 (fun W => W.cell? ⟨w.heap.size, 0, none⟩ = some (.slice a n ca) ∧ W.cell? ⟨w.heap.size, 1, none⟩ = some (.slice a' n' ca')) (first | (refine ⟨?_, ?_⟩ <;> assumption) | (refine ⟨?_, ?_⟩ <;> (exact cellD_kept hne (cellD_kept hne (by assumption)))) | go_keep) (first
    | (go_at_call 45; refine (cloneS_any a' n' ca' ys _ (HX.out _ hB1).2 hn').mono ?_; rintro e y2 ⟨⟨A2, C2, rfl, own2⟩, hb2⟩
       have hB2 : Below W2.heap.size W2 y2 := hB1.trans (hb2.mono hB1.size)
       obtain ⟨m0, m1⟩ := (HQ.out _ hB2).1.cells
       obtain ⟨r0, r1⟩ := (HQ.out _ hB2).2.cells
       have f0 := (HQ.out _ hB2).2.frozen 0
       have f1 := (HQ.out _ hB2).2.frozen 1)
    | (go_at_call 45; refine (cloneS_any a n ca xs _ (HX.out _ HBd.out).1 hn).mono ?_; rintro e y1 ⟨⟨A1, C1, rfl, own1⟩, hb1⟩
       have hB1 : Below W2.heap.size W2 y1 := HBd.out.trans (hb1.mono (Nat.le_refl _))
       obtain ⟨e0, e1⟩ := (HQ.out _ hB1).1.cells)
    | fail)
  all_goals
    have HF : Hid (AnsD w.heap.size xs ys (.agg #[.slice A1 n C1, .slice A2 n' C2]) ((y2.setCell ⟨w.heap.size + 1, 0, none⟩ (.slice A1 n C1)).setCell ⟨w.heap.size + 1, 1, none⟩ (.slice A2 n' C2)) ∧ Below w.heap.size w ((y2.setCell ⟨w.heap.size + 1, 0, none⟩ (.slice A1 n C1)).setCell ⟨w.heap.size + 1, 1, none⟩ (.slice A2 n' C2))) := by
      have hz := HZ2.out
      have o1 : OwnSt y2 W2.heap.size (.slice A1 n C1) n xs := own1.below hb2
      have o2 : OwnSt y2 W2.heap.size (.slice A2 n' C2) n' ys := own2.low (by have := hB1.size; omega)
      have n1 : blkOf (.slice A1 n C1) ≠ some (w.heap.size + 1) := fun e => by have := (o1.lt _ e).1; omega
      have n2 : blkOf (.slice A2 n' C2) ≠ some (w.heap.size + 1) := fun e => by have := (o2.lt _ e).1; omega
      have hbw := HB2.out.trans (hB2.mono HB2.out.size)
      refine ⟨AnsD.mk' HLn.out.1 HLn.out.2 (((o1.setCell n1 _).setCell n1 _).low (by omega)) (((o2.setCell n2 _).setCell n2 _).low (by omega)) ?_, (hbw.setCell (by dsimp only; omega) _).setCell (by dsimp only; omega) _⟩
      intro q e1 e2
      rw [← blkOf_sC A1 n C1] at e1
      rw [← blkOf_sC A2 n' C2] at e2
      have := (own1.lt q e1).2
      have := (own2.lt q e2).1
      omega
    clear own1 own2 hb1 hb2 hB1 hB2 e0 e1 m0 m1
    go_wp2_with fail
    refine bodyPost_ret (v := .agg #[.slice A1 n C1, .slice A2 n' C2]) (by simp [results, Try.f31, go_sem, r0, r1]) rfl ?_
    exact ⟨⟨_, rfl, HF.out.1⟩, HF.out.2⟩

end Go.Proofs.Ytnbmlkkjgecigas
