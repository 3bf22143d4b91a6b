/- The draws of chapter 1: a list, a number and how many bytes; a number. For codes of at most 2^40 bytes. -/
import Derived.Test.YthojijhafhnclaaDoorDraws
namespace Go.Proofs.YthojijhafhnclaaDoor
open Go.RowKit
set_option linter.unusedVariables false

set_option maxRecDepth 10000 in
set_option maxHeartbeats 400000 in
theorem drawPutBig_any (a : Option Addr) (len cap : Nat) (zs : List Int) (w : World) (hs : Seg w a len zs) (hl : len ≤ 1099511627776) :
    Calls Tryd.prog 5 #[.slice a len cap] w fun e w' => ∃ (g n cp : Nat) (ys : List Int) (x k : Int), e = .returned (.tuple #[.slice (some ⟨g, 0, none⟩) n cp, .int .i64 x, .int .i64 k]) ∧ n ≤ 9 ∧
      x ∈ ([0, 1, 255, 256, 65535, 16777216, 4294967295, -1, 9223372036854775807] : List Int) ∧ k ∈ ([1, 2, 3, 4, 8, 0, 9, -1] : List Int) ∧ Owns w' w.heap.size (some ⟨g, 0, none⟩) n cp ys ∧ Below w.heap.size w w' := by
  have HS : Hid _ := hs
  clear hs
  go_enter Tryd.func5, Tryd.ntmps5
  go_wp2_with fail
  refine (l1New_any a len cap zs _ HS.out hl).mono ?_
  rintro e w1 ⟨rfl, hc1, hb1⟩
  have HC1 : Hid (Cur w1 w.heap.size w.heap.size a len cap zs) := hc1
  have HB1 : Hid (Below w.heap.size w w1) := hb1
  have hcl : w.heap.size < w1.heap.size := hc1.lt
  clear hc1 hb1
  generalize hcc : w.heap.size = c at *
  have HCC : Hid (w.heap.size = c) := hcc
  clear hcc
  go_wp2_with fail
  refine (l1Some_any c c a len cap zs _ HC1.out hl).mono ?_
  rintro e w2 ⟨g, n, cp, ys, rfl, hn9, hg, ho2, hc2, hg2⟩
  have HC2 : Hid (Cur w2 c c a len cap zs) := hc2
  have HO2 : Hid (Owns w2 w1.heap.size (some ⟨g, 0, none⟩) n cp ys) := ho2
  have HG2 : Hid (w1.grownBy w2 (some c)) := hg2
  have hs2 := hg2.size
  clear hc2 ho2 hg2
  go_wp2_with fail
  refine (l1Int_any c c a len cap zs w2.heap.size 9 9 [0, 1, 255, 256, 65535, 16777216, 4294967295, -1, 9223372036854775807] _ (HC2.out.kept (World.grownBy_alloc w2 _ none) (by simp)) hl (heap_alloc_new w2 _) (by omega) rfl (by omega) (by omega)).mono ?_
  rintro e w3 ⟨x, rfl, hx, hc3, hg3⟩
  have HX : Hid (x ∈ ([0, 1, 255, 256, 65535, 16777216, 4294967295, -1, 9223372036854775807] : List Int)) := hx
  have HC3 : Hid (Cur w3 c c a len cap zs) := hc3
  have HG3 : Hid (w2.grownBy w3 (some c)) := gtrans (World.grownBy_alloc w2 _ _) hg3
  have HO3 : Hid (Owns w3 w1.heap.size (some ⟨g, 0, none⟩) n cp ys) := HO2.out.grown HG3.out (by omega)
  have hs3 := HG3.out.size
  clear hx hc3 hg3
  go_wp2_with fail
  refine (l1Int_any c c a len cap zs w3.heap.size 8 8 [1, 2, 3, 4, 8, 0, 9, -1] _ (HC3.out.kept (World.grownBy_alloc w3 _ none) (by simp)) hl (heap_alloc_new w3 _) (by omega) rfl (by omega) (by omega)).mono ?_
  rintro e w4 ⟨k, rfl, hk, hc4, hg4⟩
  have HK : Hid (k ∈ ([1, 2, 3, 4, 8, 0, 9, -1] : List Int)) := hk
  have HG4 : Hid (w3.grownBy w4 (some c)) := gtrans (World.grownBy_alloc w3 _ _) hg4
  have HO4 : Hid (Owns w4 w1.heap.size (some ⟨g, 0, none⟩) n cp ys) := HO3.out.grown HG4.out (by omega)
  clear hk hc4 hg4
  go_wp2_with fail
  go_ret3
  have hcw : w.heap.size = c := HCC.out
  refine ⟨g, n, cp, ys, x, k, rfl, hn9, HX.out, HK.out, ⟨⟨HO4.out.1.1, ?_⟩, HO4.out.2⟩, ?_⟩
  · rcases HO4.out.1.2 with ⟨e, _⟩ | ⟨g', cap', cur, e, hb, r⟩
    · simp at e
    · exact .inr ⟨g', cap', cur, e, by omega, r⟩
  · have h := gtrans (gtrans HG2.out HG3.out) HG4.out
    rw [hcw]
    exact HB1.out.grown h (by omega) (fun j hj => by have := Option.some.inj hj; omega)

set_option maxRecDepth 10000 in
set_option maxHeartbeats 400000 in
theorem drawText_any (a : Option Addr) (len cap : Nat) (zs : List Int) (w : World) (hs : Seg w a len zs) (hl : len ≤ 1099511627776) :
    Calls Tryd.prog 8 #[.slice a len cap] w fun e w' => ∃ m : Int, e = .returned (.int .i64 m) ∧ -1 ≤ m ∧ m ≤ 1000000001 ∧ Below w.heap.size w w' := by
  have HS : Hid _ := hs
  clear hs
  go_enter Tryd.func8, Tryd.ntmps8
  go_wp2_with fail
  refine (l1New_any a len cap zs _ HS.out hl).mono ?_
  rintro e w1 ⟨rfl, hc1, hb1⟩
  have HC1 : Hid (Cur w1 w.heap.size w.heap.size a len cap zs) := hc1
  have HB1 : Hid (Below w.heap.size w w1) := hb1
  have hcl : w.heap.size < w1.heap.size := hc1.lt
  clear hc1 hb1
  generalize hcc : w.heap.size = c at *
  have HCC : Hid (w.heap.size = c) := hcc
  clear hcc
  go_wp2_with fail
  refine (l1Below_any c c a len cap zs _ _ HC1.out hl (by omega) (by omega)).mono ?_
  rintro e w2 ⟨y, rfl, hy0, hy1, hc2, hg2⟩
  have HC2 : Hid (Cur w2 c c a len cap zs) := hc2
  have HG2 : Hid (w1.grownBy w2 (some c)) := hg2
  have hs2 := hg2.size
  clear hc2 hg2
  go_wp2_with fail
  refine (l1Int_any c c a len cap zs w2.heap.size 7 7 [0, 7, 10, 1000000000, 1000000001, -1, y] _ (HC2.out.kept (World.grownBy_alloc w2 _ none) (by simp)) hl (heap_alloc_new w2 _) (by omega) rfl (by omega) (by omega)).mono ?_
  rintro e w3 ⟨m, rfl, hm, hc3, hg3⟩
  have hm2 : -1 ≤ m ∧ m ≤ 1000000001 := by
    simp only [List.mem_cons, List.not_mem_nil, or_false] at hm
    omega
  have HG3 : Hid (w1.grownBy w3 (some c)) := gtrans HG2.out (gtrans (World.grownBy_alloc w2 _ _) hg3)
  clear hm hc3 hg3
  go_wp2_with fail
  go_ret
  have hcw : w.heap.size = c := HCC.out
  rw [hcw]
  exact ⟨m, rfl, hm2.1, hm2.2, HB1.out.grown HG3.out (by omega) (fun j hj => by have := Option.some.inj hj; omega)⟩

end Go.Proofs.YthojijhafhnclaaDoor
