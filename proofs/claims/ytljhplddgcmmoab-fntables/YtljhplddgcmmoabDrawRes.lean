/- The draws of the laws on tables. For codes of at most 2^40 bytes. -/
import Derived.Test.YtljhplddgcmmoabDrawAny
namespace Go.Proofs.Ytljhplddgcmmoab
open Go.RowKit Go.Shelf
set_option linter.unusedVariables false

set_option maxRecDepth 10000 in
set_option maxHeartbeats 1600000 in
theorem drawRes_any (a : Option Addr) (len cap : Nat) (zs : List Int) (w : World) (hs : Seg w a len zs) (hl : len ≤ 1099511627776) :
    Calls Try.prog 30 #[.slice a len cap] w fun e w' => ∃ (m i : Int) (av : Option Addr) (n cv : Nat) (xs : List Fld), e = .returned (.tuple #[.agg #[.int .i64 m, .slice av n cv], .int .i64 i]) ∧ (n ≤ 7 ∧ fldBytes xs ≤ 560 ∧ -1 ≤ i ∧ i ≤ 4097) ∧ OwnF w' w.heap.size (.slice av n cv) n xs ∧ Below w.heap.size w w' := by
  obtain ⟨w1, hw1⟩ : ∃ w1, w.alloc (.cells #[.int .i64 0, .slice none 0 0] 34) = w1 := ⟨_, rfl⟩
  have HQ1 : Hid (Box2 w1 w.heap.size 34 (.int .i64 0) (.slice none 0 0)) := by show Box2 _ _ _ _ _; rw [← hw1]; exact Box2.new _ _ _ _
  have HB1 : Hid (Below w.heap.size w w1) := by show Below _ _ _; rw [← hw1]; exact (Below.refl _ _).alloc (Nat.le_refl _) _
  have HS1 : Hid (w1.heap.size = w.heap.size + 1) := by show _ = _; rw [← hw1]; simp
  have HS : Hid (Seg w1 a len zs) := hs.below HB1.out
  clear hs
  go_enter Try.func30, Try.ntmps30
  go_wp2_with fail
  refine (l1New_any a len cap zs _ HS.out hl).mono ?_
  rintro e w2 ⟨rfl, hc2, hb2⟩
  have HQ2 : Hid (Box2 w2 w.heap.size 34 (.int .i64 0) (.slice none 0 0)) := HQ1.out.stays hb2
  have HB2 : Hid (Below w.heap.size w w2) := HB1.out.trans (hb2.mono HB1.out.size)
  have HC2 : Hid (Cur w2 w1.heap.size w1.heap.size a len cap zs) := hc2
  have hcl := hc2.lt
  clear hc2 hb2 HQ1 HB1 HS hw1
  generalize w1.heap.size = c at *
  have hwc : w.heap.size < c := by have := HS1.out; omega
  clear HS1
  go_wp2_with fail
  refine (l4Any_any c c a len cap zs _ HC2.out hl).mono ?_
  rintro e w3 ⟨m, v, n, xs, rfl, ⟨hn, hfb⟩, ho3, hc3, hg3⟩
  obtain ⟨av, cv, rfl⟩ := ho3.shape
  have HO3 : Hid (OwnF w3 w2.heap.size (.slice av n cv) n xs) := ho3
  have HC3 : Hid (Cur w3 c c a len cap zs) := hc3
  have HQ3 : Hid (Box2 w3 w.heap.size 34 (.int .i64 0) (.slice none 0 0)) := HQ2.out.grown hg3 (by intro e; injection e with e; omega)
  have HB3 : Hid (Below w.heap.size w w3) := HB2.out.grown hg3 HB2.out.size (fun k e => by injection e with e; omega)
  have hcl3 := hc3.lt
  clear ho3 hc3 hg3 HQ2 HB2 HC2
  go_wp2_with fail
  refine (l1Int_any c c a len cap zs w3.heap.size 6 6 [0, 50, 100, 4096, 4097, -1] _ (HC3.out.new _) hl (heap_alloc_new w3 _) (by omega) rfl (by omega) (by omega)).mono ?_
  rintro e w4 ⟨i, rfl, hi, hc4, hg4⟩
  have hi' : -1 ≤ i ∧ i ≤ 4097 := by
    simp only [List.mem_cons, List.not_mem_nil, or_false] at hi
    omega
  have HO4 : Hid (OwnF w4 w2.heap.size (.slice av n cv) n xs) := (HO3.out.stays ((Below.refl _ _).alloc (Nat.le_refl _) _)).grown hg4 (.inr (own_cur HO3.out.1 hcl))
  have hq4 : Box2 w4 w.heap.size 34 (.int .i64 0) (.slice none 0 0) := (HQ3.out.alloc _).grown hg4 (by intro e; injection e with e; omega)
  have HB4 : Hid (Below w.heap.size w w4) := (HB3.out.alloc HB3.out.size _).grown hg4 (by rw [World.size_alloc]; exact Nat.le_succ_of_le HB3.out.size) (fun k e => by injection e with e; omega)
  have HR : Hid (Box2 ((w4.setCell ⟨w.heap.size, 0, none⟩ (.int .i64 m)).setCell ⟨w.heap.size, 1, none⟩ (.slice av n cv)) w.heap.size 34 (.int .i64 m) (.slice av n cv)) := two_set1 (two_set0 hq4 _) _
  have HOr : Hid (OwnF ((w4.setCell ⟨w.heap.size, 0, none⟩ (.int .i64 m)).setCell ⟨w.heap.size, 1, none⟩ (.slice av n cv)) w.heap.size (.slice av n cv) n xs) := by
    have hne := own_other' HO4.out.1 hq4 (by decide)
    have := (HO4.out.grown (gset _ w.heap.size 0 (.int .i64 m)) (.inr hne)).grown (gset _ w.heap.size 1 (.slice av n cv)) (.inr hne)
    exact ⟨own_down this.1 (by omega), this.2⟩
  obtain ⟨g0, g1, g2, g3⟩ := hq4.cells
  clear hi hc4 hg4 hq4 HO3 HQ3 HB3 HC3
  go_wp2_with fail
  obtain ⟨r0, r1, _, _⟩ := HR.out.cells
  refine bodyPost_ret (v := .tuple #[.agg #[.int .i64 m, .slice av n cv], .int .i64 i]) (by simp [results, Try.f30, go_sem, r0, r1]) rfl ?_
  exact ⟨m, i, av, n, cv, xs, rfl, ⟨hn, hfb, hi'.1, hi'.2⟩, HOr.out, (HB4.out.setCell (p := ⟨w.heap.size, 0, none⟩) (Nat.le_refl _) _).setCell (p := ⟨w.heap.size, 1, none⟩) (Nat.le_refl _) _⟩

end Go.Proofs.Ytljhplddgcmmoab
