/- The draw of a disk and of what is kept. For codes of at most 2^40 bytes. -/
import Derived.Test.YtnbmlkkjgecigaeDrawDskAny
import Derived.Test.YtnbmlkkjgecigaeDrawKept
namespace Go.Proofs.Ytnbmlkkjgecigae
open Go.RowKit
set_option linter.unusedVariables false

def FallDrawn (v : Value) (w' : World) : Prop := ∃ A n C A' n' C' X Y K m D l, v = .tuple #[.agg #[.slice A n C, .slice A' n' C'], .slice K m D] ∧ n ≤ 7 ∧ n' ≤ 7 ∧ m ≤ 8 ∧ Strs w' A n X ∧ Strs w' A' n' Y ∧ Bools w' K m l

set_option maxRecDepth 10000 in
set_option maxHeartbeats 3200000 in
theorem drawFall_any (a : Option Addr) (len cap : Nat) (zs : List Int) (w : World) (hs : Seg w a len zs) (hl : len ≤ 1099511627776) :
    Calls Try.prog 6 #[.slice a len cap] w fun e w' => (∃ v, e = .returned v ∧ FallDrawn v w') ∧ Below w.heap.size w w' := by
  obtain ⟨w1, hw1⟩ : ∃ w1, w.alloc (.cells #[.slice none 0 0, .slice none 0 0] 26) = w1 := ⟨_, rfl⟩
  have HE : Hid (w.alloc (.cells #[.slice none 0 0, .slice none 0 0] 26) = w1) := hw1
  have HQ1 : Hid (Box2R w1 w.heap.size 26 (.slice none 0 0) (.slice none 0 0)) := by show Box2R _ _ _ _ _; rw [← hw1]; exact Box2R.new _ _ _ _
  have HB1 : Hid (Below w.heap.size w w1) := by show Below _ _ _; rw [← hw1]; exact (Below.refl _ _).alloc (Nat.le_refl _) _
  have HS : Hid (Seg w1 a len zs) := hs.below HB1.out
  clear hs hw1
  go_enter Try.func6, Try.ntmps6
  go_wp2_with fail
  rw [HE.out]
  clear HE
  refine (l1New_any a len cap zs w1 HS.out hl).mono ?_
  rintro e w2 ⟨rfl, hc2, hb2⟩
  have hlt : w.heap.size < w1.heap.size := HQ1.out.lt
  have HQ2 : Hid (Box2R w2 w.heap.size 26 (.slice none 0 0) (.slice none 0 0)) := HQ1.out.stays hb2
  have HB2 : Hid (Below w.heap.size w w2) := HB1.out.trans (hb2.mono HB1.out.size)
  obtain ⟨cc, hcc⟩ : ∃ cc, w1.heap.size = cc := ⟨_, rfl⟩
  rw [hcc] at hc2 hlt ⊢
  have HC2 : Hid (Cur w2 cc cc a len cap zs) := hc2
  clear hc2 hb2 HQ1 HB1 HS hcc
  go_wp2_with fail
  refine (l12Any_any cc cc a len cap zs w2 HC2.out hl).mono ?_
  rintro e w3 ⟨⟨v, rfl, X, Y, hans, hX7, hY7⟩, hc3, hg3⟩
  obtain ⟨n, hn⟩ : ∃ n, X.length = n := ⟨_, rfl⟩
  obtain ⟨n', hn'⟩ : ∃ n', Y.length = n' := ⟨_, rfl⟩
  obtain ⟨A, C, A', C', rfl, o1, o2, hap⟩ := hans.at hn hn'
  rw [hn] at hX7
  rw [hn'] at hY7
  have hc2l : cc < w2.heap.size := HC2.out.lt
  have HC3 : Hid (Cur w3 cc cc a len cap zs) := hc3
  have HB3 : Hid (Below w.heap.size w w3) := HB2.out.grown hg3 HB2.out.size (fun k e => by injection e with e; omega)
  have HQ3 : Hid (Box2R w3 w.heap.size 26 (.slice none 0 0) (.slice none 0 0)) := HQ2.out.grown hg3 (fun e => by injection e with e; omega)
  have HO3 : Hid (OwnSt w3 w2.heap.size (.slice A n C) n X ∧ OwnSt w3 w2.heap.size (.slice A' n' C') n' Y) := ⟨o1, o2⟩
  have hz3 : w2.heap.size ≤ w3.heap.size := hg3.size
  clear hn hn' hans hc3 hg3 o1 o2 hap HC2 HB2 HQ2
  go_wp2_with fail
  refine (l12Kept_any cc cc a len cap zs w3 HC3.out hl).mono ?_
  rintro e w4 ⟨⟨K, m, D, l, rfl, hm, ho⟩, hc4, hg4⟩
  have hQ4 := HQ3.out.grown hg4 (fun e => by injection e with e; omega)
  have HF : Hid (FallDrawn (.tuple #[.agg #[.slice A n C, .slice A' n' C'], .slice K m D]) ((w4.setCell ⟨w.heap.size, 0, none⟩ (.slice A n C)).setCell ⟨w.heap.size, 1, none⟩ (.slice A' n' C')) ∧ Below w.heap.size w ((w4.setCell ⟨w.heap.size, 0, none⟩ (.slice A n C)).setCell ⟨w.heap.size, 1, none⟩ (.slice A' n' C'))) := by
    have p1 := HO3.out.1.kept hg4 (fun q e e2 => by injection e with e; have := (HO3.out.1.lt q e2).1; omega)
    have p2 := HO3.out.2.kept hg4 (fun q e e2 => by injection e with e; have := (HO3.out.2.lt q e2).1; omega)
    have n1 : blkOf (.slice A n C) ≠ some w.heap.size := fun e => by have := (p1.lt _ e).1; omega
    have n2 : blkOf (.slice A' n' C') ≠ some w.heap.size := fun e => by have := (p2.lt _ e).1; omega
    have k1 := ownB_kept (ownB_kept ho.1 (gset w4 w.heap.size 0 (.slice A n C)) (fun q e => by injection e with e; omega)) (gset (w4.setCell ⟨w.heap.size, 0, none⟩ (.slice A n C)) w.heap.size 1 (.slice A' n' C')) (fun q e => by injection e with e; omega)
    have hB4 := HB3.out.grown hg4 HB3.out.size (fun k e => by injection e with e; omega)
    exact ⟨⟨A, n, C, A', n', C', X, Y, K, m, D, l, rfl, hX7, hY7, hm, ((p1.setCell n1 _).setCell n1 _).strs, ((p2.setCell n2 _).setCell n2 _).strs, OwnBo.strs ⟨k1, trivial⟩⟩, (hB4.setCell (Nat.le_refl _) _).setCell (Nat.le_refl _) _⟩
  obtain ⟨r0, r1⟩ := hQ4.cells
  have f0 := hQ4.frozen 0
  have f1 := hQ4.frozen 1
  clear ho hc4 hg4 hQ4 HC3 HB3 HQ3 HO3
  go_wp2_with fail
  refine bodyPost_ret (v := .tuple #[.agg #[.slice A n C, .slice A' n' C'], .slice K m D]) (by simp [results, Try.f6, go_sem, r0, r1]) rfl ?_
  exact ⟨⟨_, rfl, HF.out.1⟩, HF.out.2⟩

end Go.Proofs.Ytnbmlkkjgecigae
