/- The draw of an answer that is right. For codes of at most 2^40 bytes. -/
import Derived.Test.YthojijhafhnclaeDoorDrawCs
import Derived.Test.YthojijhafhnclaeDoorMethNs
import Derived.Test.YthojijhafhnclaeDoorBox2R
import Derived.Deep.CutBlock
namespace Go.Proofs.YthojijhafhnclaeDoor
open Go.RowKit
set_option linter.unusedVariables false

set_option maxRecDepth 10000 in
set_option maxHeartbeats 3200000 in
theorem l11Resp_any (B c : Nat) (a : Option Addr) (len cap : Nat) (zs : List Int) (w : World) (hcur : Cur w B c a len cap zs) (hl : len ≤ 1099511627776) :
    Calls Tryd.prog 17 #[.pointer (some ⟨c, 0, none⟩)] w fun e w' => ∃ (st off : Int), e = .returned (.agg #[.int .i64 st, .int .i64 off]) ∧ respB st off = true ∧ Cur w' B c a len cap zs ∧ w.grownBy w' (some c) := by
  have HC : Hid (Cur w B c a len cap zs) := hcur
  clear hcur
  go_enter Tryd.func17, Tryd.ntmps17
  have hcw : c < w.heap.size := HC.out.lt
  have HQ1 : Hid (Box2R ((w.alloc (.cells #[.int .i64 0, .int .i64 0] 27)).alloc (.cells #[.int .i64 200, .int .i64 201, .int .i64 204, .int .i64 404, .int .i64 409, .int .i64 100, .int .i64 599] 3)) w.heap.size 27 (.int .i64 0) (.int .i64 0)) := (Box2R.new _ _ _ _).alloc _
  have HC1 : Hid (Cur ((w.alloc (.cells #[.int .i64 0, .int .i64 0] 27)).alloc (.cells #[.int .i64 200, .int .i64 201, .int .i64 204, .int .i64 404, .int .i64 409, .int .i64 100, .int .i64 599] 3)) B c a len cap zs) := (HC.out.new _).new _
  have HG1 : Hid (w.grownBy ((w.alloc (.cells #[.int .i64 0, .int .i64 0] 27)).alloc (.cells #[.int .i64 200, .int .i64 201, .int .i64 204, .int .i64 404, .int .i64 409, .int .i64 100, .int .i64 599] 3)) (some c)) := gnew (gnew ⟨rfl, rfl, rfl, Nat.le_refl _, fun _ _ _ => rfl⟩ _) _
  have HL1 : Hid (((w.alloc (.cells #[.int .i64 0, .int .i64 0] 27)).alloc (.cells #[.int .i64 200, .int .i64 201, .int .i64 204, .int .i64 404, .int .i64 409, .int .i64 100, .int .i64 599] 3)).heap[w.heap.size + 1]? = some (.cells (([200, 201, 204, 404, 409, 100, 599] : List Int).map (Value.int .i64)).toArray 3 (0, 0))) := by
    have := heap_alloc_new (w.alloc (.cells #[.int .i64 0, .int .i64 0] 27)) (.cells #[.int .i64 200, .int .i64 201, .int .i64 204, .int .i64 404, .int .i64 409, .int .i64 100, .int .i64 599] 3)
    rw [World.size_alloc] at this
    exact this
  go_wp2_with fail
  obtain ⟨w1, hw1⟩ : ∃ w1, (w.alloc (.cells #[.int .i64 0, .int .i64 0] 27)).alloc (.cells #[.int .i64 200, .int .i64 201, .int .i64 204, .int .i64 404, .int .i64 409, .int .i64 100, .int .i64 599] 3) = w1 := ⟨_, rfl⟩
  rw [hw1] at HQ1 HC1 HG1 HL1 ⊢
  clear hw1 HC
  refine (l1Int_any B c a len cap zs (w.heap.size + 1) 7 7 [200, 201, 204, 404, 409, 100, 599] w1 HC1.out hl HL1.out (by omega) rfl (by omega) (by omega)).mono ?_
  rintro e w2 ⟨st, rfl, hst, hc2, hg2⟩
  have HSt : Hid (100 ≤ st ∧ st ≤ 599) := by
    show _ ∧ _
    simp only [List.mem_cons, List.not_mem_nil, or_false] at hst
    omega
  have HQ2 := (show Hid (Box2R w2 w.heap.size 27 (.int .i64 0) (.int .i64 0)) from HQ1.out.grown hg2 (fun e => by injection e with e; omega))
  have HG2 : Hid (w.grownBy w2 (some c)) := gtrans HG1.out hg2
  have HC2 : Hid (Cur w2 B c a len cap zs) := hc2
  clear hst hc2 hg2 HQ1 HC1 HG1 HL1
  have HC3 : Hid (Cur (w2.alloc (.cells #[.int .i64 (-1), .int .i64 0, .int .i64 24, .int .i64 1000000000] 3)) B c a len cap zs) := HC2.out.new _
  have HQ3 : Hid (Box2R (w2.alloc (.cells #[.int .i64 (-1), .int .i64 0, .int .i64 24, .int .i64 1000000000] 3)) w.heap.size 27 (.int .i64 0) (.int .i64 0)) := HQ2.out.alloc _
  have HG3 : Hid (w.grownBy (w2.alloc (.cells #[.int .i64 (-1), .int .i64 0, .int .i64 24, .int .i64 1000000000] 3)) (some c)) := gnew HG2.out _
  have HL3 : Hid ((w2.alloc (.cells #[.int .i64 (-1), .int .i64 0, .int .i64 24, .int .i64 1000000000] 3)).heap[w2.heap.size]? = some (.cells (([-1, 0, 24, 1000000000] : List Int).map (Value.int .i64)).toArray 3 (0, 0))) := heap_alloc_new w2 _
  have hcg : c < w2.heap.size := HC2.out.lt
  go_wp2_with fail
  obtain ⟨w3, hw3⟩ : ∃ w3, w2.alloc (.cells #[.int .i64 (-1), .int .i64 0, .int .i64 24, .int .i64 1000000000] 3) = w3 := ⟨_, rfl⟩
  rw [hw3] at HQ3 HC3 HG3 HL3 ⊢
  clear hw3 HQ2 HC2 HG2
  generalize w2.heap.size = g2 at *
  refine (l1Int_any B c a len cap zs g2 4 4 [-1, 0, 24, 1000000000] w3 HC3.out hl HL3.out (by omega) rfl (by omega) (by omega)).mono ?_
  rintro e w4 ⟨off, rfl, hof, hc4, hg4⟩
  have HR : Hid (respB st off = true) := by
    show _ = _
    have h1 := HSt.out
    simp only [List.mem_cons, List.not_mem_nil, or_false] at hof
    simp only [respB, Bool.and_eq_true, decide_eq_true_eq]
    omega
  have HQ4 := (show Hid (Box2R w4 w.heap.size 27 (.int .i64 0) (.int .i64 0)) from HQ3.out.grown hg4 (fun e => by injection e with e; omega))
  have HG4 : Hid (w.grownBy w4 (some c)) := gtrans HG3.out hg4
  have HC4 : Hid (Cur w4 B c a len cap zs) := hc4
  clear hof hc4 hg4 HQ3 HC3 HG3 HL3 hcg
  obtain ⟨g0, g1⟩ := HQ4.out.cells
  have f0 := HQ4.out.frozen 0
  have f1 := HQ4.out.frozen 1
  have HE := (show Hid (Cur ((w4.setCell ⟨w.heap.size, 0, none⟩ (.int .i64 st)).setCell ⟨w.heap.size, 1, none⟩ (.int .i64 off)) B c a len cap zs ∧ w.grownBy ((w4.setCell ⟨w.heap.size, 0, none⟩ (.int .i64 st)).setCell ⟨w.heap.size, 1, none⟩ (.int .i64 off)) (some c)) from ⟨(HC4.out.put hcw _).put hcw _, gput (gput HG4.out (Nat.le_refl _) _) (Nat.le_refl _) _⟩)
  clear HQ4 HC4 HG4
  go_wp2
  refine bodyPost_ret (v := .agg #[.int .i64 st, .int .i64 off]) (by simp [results, Tryd.f17, go_sem, g0, g1]) rfl ?_
  exact ⟨st, off, rfl, HR.out, HE.out.1, HE.out.2⟩

end Go.Proofs.YthojijhafhnclaeDoor
