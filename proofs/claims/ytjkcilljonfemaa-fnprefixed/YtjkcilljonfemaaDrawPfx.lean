/- The draw of chapter 2: a list, bits, a first byte and a number. For codes of at most 2^40 bytes. -/
import Derived.Test.YtjkcilljonfemaaDraws
namespace Go.Proofs.Ytjkcilljonfemaa
open Go.RowKit
set_option linter.unusedVariables false

set_option maxRecDepth 10000 in
set_option maxHeartbeats 400000 in
theorem drawPfx_any (a : Option Addr) (len cap : Nat) (zs : List Int) (w : World) (hs : Seg w a len zs) (hl : len ≤ 1099511627776) :
    Calls Try.prog 5 #[.slice a len cap] w fun e w' => ∃ (g n cp : Nat) (ys : List Int) (k f x : Int), e = .returned (.tuple #[.slice (some ⟨g, 0, none⟩) n cp, .int .i64 k, .int .i64 f, .int .i64 x]) ∧ n ≤ 9 ∧
      (0 ≤ k ∧ k ≤ 9) ∧ (-1 ≤ f ∧ f ≤ 256) ∧ (-1 ≤ x ∧ x ≤ 16777217) ∧ Owns w' w.heap.size (some ⟨g, 0, none⟩) n cp ys ∧ Below w.heap.size w w' := by
  have HS : Hid _ := hs
  clear hs
  go_enter Try.func5, Try.ntmps5
  go_wp2_with fail
  refine (l1New_any a len cap zs _ HS.out hl).mono ?_
  rintro e w1 ⟨rfl, hc1, hb1⟩
  have HC1 : Hid (Cur w1 w.heap.size w.heap.size a len cap zs) := hc1
  have HB1 : Hid (Below w.heap.size w w1) := hb1
  have hcl : w.heap.size < w1.heap.size := hc1.lt
  clear hc1 hb1
  generalize hcc : w.heap.size = c at *
  have HCC : Hid (w.heap.size = c) := hcc
  clear hcc
  go_wp2_with fail
  refine (l1Some_any c c a len cap zs _ HC1.out hl).mono ?_
  rintro e w2 ⟨g, n, cp, ys, rfl, hn9, hg, ho2, hc2, hg2⟩
  have HC2 : Hid (Cur w2 c c a len cap zs) := hc2
  have HO2 : Hid (Owns w2 w1.heap.size (some ⟨g, 0, none⟩) n cp ys) := ho2
  have HG2 : Hid (w1.grownBy w2 (some c)) := hg2
  have hs2 := hg2.size
  clear hc2 ho2 hg2
  go_wp2_with fail
  refine (l1Int_any c c a len cap zs w2.heap.size 8 8 [1, 4, 5, 6, 7, 8, 0, 9] _ (HC2.out.kept (World.grownBy_alloc w2 _ none) (by simp)) hl (heap_alloc_new w2 _) (by omega) rfl (by omega) (by omega)).mono ?_
  rintro e w3 ⟨k, rfl, hk, hc3, hg3⟩
  have HK : Hid (0 ≤ k ∧ k ≤ 9) := by
    simp only [List.mem_cons, List.not_mem_nil, or_false] at hk
    show _ ∧ _
    omega
  have HC3 : Hid (Cur w3 c c a len cap zs) := hc3
  have HG3 : Hid (w2.grownBy w3 (some c)) := gtrans (World.grownBy_alloc w2 _ _) hg3
  have HO3 : Hid (Owns w3 w1.heap.size (some ⟨g, 0, none⟩) n cp ys) := HO2.out.grown HG3.out (by omega)
  have hs3 := HG3.out.size
  clear hk hc3 hg3
  go_wp2_with fail
  refine (l1Int_any c c a len cap zs w3.heap.size 7 7 [0, 64, 128, 255, -1, 256, 16] _ (HC3.out.kept (World.grownBy_alloc w3 _ none) (by simp)) hl (heap_alloc_new w3 _) (by omega) rfl (by omega) (by omega)).mono ?_
  rintro e w4 ⟨f, rfl, hf, hc4, hg4⟩
  have HF : Hid (-1 ≤ f ∧ f ≤ 256) := by
    simp only [List.mem_cons, List.not_mem_nil, or_false] at hf
    show _ ∧ _
    omega
  have HC4 : Hid (Cur w4 c c a len cap zs) := hc4
  have HG4 : Hid (w3.grownBy w4 (some c)) := gtrans (World.grownBy_alloc w3 _ _) hg4
  have HO4 : Hid (Owns w4 w1.heap.size (some ⟨g, 0, none⟩) n cp ys) := HO3.out.grown HG4.out (by omega)
  have hs4 := HG4.out.size
  clear hf hc4 hg4
  go_wp2_with fail
  refine (l1Below_any c c a len cap zs _ _ HC4.out hl (by omega) (by omega)).mono ?_
  rintro e w5 ⟨y, rfl, hy0, hy1, hc5, hg5⟩
  have HC5 : Hid (Cur w5 c c a len cap zs) := hc5
  have HG5 : Hid (w4.grownBy w5 (some c)) := hg5
  have HO5 : Hid (Owns w5 w1.heap.size (some ⟨g, 0, none⟩) n cp ys) := HO4.out.grown HG5.out (by omega)
  have hs5 := hg5.size
  clear hc5 hg5
  go_wp2_with fail
  refine (l1Int_any c c a len cap zs w5.heap.size 13 13 [0, 1, 30, 31, 32, 126, 127, 128, 1337, 16777216, 16777217, -1, y] _ (HC5.out.kept (World.grownBy_alloc w5 _ none) (by simp)) hl (heap_alloc_new w5 _) (by omega) rfl (by omega) (by omega)).mono ?_
  rintro e w6 ⟨x, rfl, hx, hc6, hg6⟩
  have HX : Hid (-1 ≤ x ∧ x ≤ 16777217) := by
    simp only [List.mem_cons, List.not_mem_nil, or_false] at hx
    show _ ∧ _
    omega
  have HG6 : Hid (w5.grownBy w6 (some c)) := gtrans (World.grownBy_alloc w5 _ _) hg6
  have HO6 : Hid (Owns w6 w1.heap.size (some ⟨g, 0, none⟩) n cp ys) := HO5.out.grown HG6.out (by omega)
  clear hx hc6 hg6
  go_wp2_with fail
  refine bodyPost_ret (v := .tuple #[.slice (some ⟨g, 0, none⟩) n cp, .int .i64 k, .int .i64 f, .int .i64 x]) (by simp [results, Try.f5, go_sem]) rfl ?_
  have hcw : w.heap.size = c := HCC.out
  refine ⟨g, n, cp, ys, k, f, x, rfl, hn9, HK.out, HF.out, HX.out, ⟨⟨HO6.out.1.1, ?_⟩, HO6.out.2⟩, ?_⟩
  · rcases HO6.out.1.2 with ⟨e, _⟩ | ⟨g', cap', cur, e, hb, r⟩
    · simp at e
    · exact .inr ⟨g', cap', cur, e, by omega, r⟩
  · have h := gtrans (gtrans (gtrans (gtrans HG2.out HG3.out) HG4.out) HG5.out) HG6.out
    rw [hcw]
    exact HB1.out.grown h (by omega) (fun j hj => by have := Option.some.inj hj; omega)

end Go.Proofs.Ytjkcilljonfemaa
