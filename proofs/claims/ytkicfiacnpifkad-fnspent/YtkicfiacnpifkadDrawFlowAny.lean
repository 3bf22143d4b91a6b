/- The draw of a flow that may be wrong. -/
import Derived.Test.YtkicfiacnpifkadDrawFlow
import Derived.Test.YtkicfiacnpifkadHimStep
import Derived.Test.YtkicfiacnpifkadStepMake
import Derived.Shelf.Abstract
import Derived.Deep.RegionLaw
namespace Go.Proofs.Ytkicfiacnpifkad
open Go.RowKit
set_option linter.unusedVariables false

section
variable {w W W' : World} {B cc : Nat} {a : Option Addr} {len cap : Nat} {zs : List Int} {rb fb : Nat} {c i : Int} {A : Option Addr} {n C : Nat} {l : List Lane}

theorem DFl.set0 (h : DFl w W B cc a len cap zs rb fb c i A n C l) (x : Int) (hx : i64b x) : DFl w (W.setCell ⟨fb, 0, none⟩ (.int .i64 x)) B cc a len cap zs rb fb x i A n C l := by
  obtain ⟨h1, h2, h3, h4, h5, h6, h7⟩ := h
  exact ⟨h1.put (by omega) _, gput h2 (by omega) _, h3, box3_set0 h4 _, box3_other h5 (by omega), ownL_set h6 (h6.other (show W.heap[fb]? = _ from h4) (by decide)), hx, h7.2⟩

theorem DFl.set1 (h : DFl w W B cc a len cap zs rb fb c i A n C l) (x : Int) (hx : i64b x) : DFl w (W.setCell ⟨fb, 1, none⟩ (.int .i64 x)) B cc a len cap zs rb fb c x A n C l := by
  obtain ⟨h1, h2, h3, h4, h5, h6, h7⟩ := h
  exact ⟨h1.put (by omega) _, gput h2 (by omega) _, h3, box3_set1 h4 _, box3_other h5 (by omega), ownL_set h6 (h6.other (show W.heap[fb]? = _ from h4) (by decide)), h7.1, hx⟩

/-- Other lanes, in the row that there was or in another. -/
theorem DFl.row {A' : Option Addr} {n' C' : Nat} {l' : List Lane} (h : DFl w W B cc a len cap zs rb fb c i A n C l) (hg : W.grownBy W' (A.map (·.block))) (ho : OwnL W' w.heap.size A' n' C' l') :
    Box3 W' fb 36 (.int .i64 c) (.int .i64 i) (.slice A n C) ∧ DFl w (W'.setCell ⟨fb, 2, none⟩ (.slice A' n' C')) B cc a len cap zs rb fb c i A' n' C' l' := by
  obtain ⟨h1, h2, h3, h4, h5, h6, h7⟩ := h
  have q4 := h4.grown hg (h6.other (show W.heap[fb]? = _ from h4) (by decide))
  have q5 := h5.grown hg (h6.other (show W.heap[rb]? = _ from h5) (by decide))
  refine ⟨q4, Cur.put (h1.kept hg (fun j hj => by have h8 := (h6.lt j hj).1; have h9 := h1.1; omega)) (by omega) _, gput (gown h2 hg (fun j hj => (h6.lt j hj).1)) (by omega) _, h3, box3_set2 q4 _, box3_other q5 (by omega), ownL_set ho (ho.other (show W'.heap[fb]? = _ from q4) (by decide)), h7⟩
end

theorem lane_new (y : World) (p q : Int) : ∀ j u, (laneCells [(p, q)])[j]? = some u → (y.alloc (.cells #[.int .i64 p, .int .i64 q] 47)).cell? ((⟨y.heap.size, 0, none⟩ : Addr).add j) = some u := by
  intro j v hj
  have : j = 0 ∨ j = 1 := by
    have := (List.getElem?_eq_some_iff.1 hj).1
    simp [laneCells] at this
    omega
  rw [Addr.add_lit, cell_of_row _ _ _ _ _ _ (heap_alloc_new y _)]
  rcases this with rfl | rfl <;> simpa [laneCells] using hj

set_option maxRecDepth 10000 in
set_option maxHeartbeats 3200000 in
theorem l10Any_any (B cc : Nat) (a : Option Addr) (len cap : Nat) (zs : List Int) (w : World) (hcur : Cur w B cc a len cap zs) (hl : len ≤ 1099511627776) :
    Calls Try.prog 32 #[.pointer (some ⟨cc, 0, none⟩)] w fun e w' => ∃ (c i : Int) (A : Option Addr) (n C : Nat) (l : List Lane), e = .returned (.agg #[.int .i64 c, .int .i64 i, .slice A n C]) ∧ n ≤ 6 ∧ i64b c ∧ i64b i ∧ OwnL w' w.heap.size A n C l ∧ Cur w' B cc a len cap zs ∧ w.grownBy w' (some cc) := by
  have hcl : cc < w.heap.size := hcur.lt
  have HC0 : Hid (Cur w B cc a len cap zs) := hcur
  clear hcur
  have HR0 : Hid (Box3 (w.alloc (.cells #[.int .i64 0, .int .i64 0, .slice none 0 0] 36)) w.heap.size 36 (.int .i64 0) (.int .i64 0) (.slice none 0 0)) := Box3.new _ _ _ _ _
  go_enter Try.func32, Try.ntmps32
  go_upto_region 1 with fail
  obtain ⟨w1, hw1⟩ : ∃ w1, w.alloc (.cells #[.int .i64 0, .int .i64 0, .slice none 0 0] 36) = w1 := ⟨_, rfl⟩
  have HC1 : Hid (Cur w1 B cc a len cap zs) := by show Cur _ _ _ _ _ _ _; rw [← hw1]; exact HC0.out.new _
  have HG1 : Hid (w.grownBy w1 (some cc)) := by show World.grownBy _ _ _; rw [← hw1]; exact World.grownBy_alloc _ _ _
  have HZ1 : Hid (w1.heap.size = w.heap.size + 1) := by show _ = _; rw [← hw1]; simp
  rw [hw1] at HR0 ⊢
  clear hw1 HC0
  go_wp2_with fail
  refine (l10Draw_any B cc a len cap zs w1 HC1.out hl).mono ?_
  rintro e w3 ⟨c, i, A, n, C, l, rfl, hn, hcb, hib, ho3, hc3, hg3⟩
  have HD3 : Hid (DFl w (w3.alloc (.cells #[.int .i64 c, .int .i64 i, .slice A n C] 36)) B cc a len cap zs w.heap.size w3.heap.size c i A n C l) := by
    have h1 := HR0.out.grown hg3 (fun e => by injection e with e; omega)
    have hz := HZ1.out
    exact ⟨hc3.new _, gnew (gtrans HG1.out hg3) _, ⟨hcl, Nat.le_refl _, h1.lt⟩, Box3.new _ _ _ _ _, h1.alloc _, (ho3.below ((Below.refl _ _).alloc (Nat.le_refl _) _)).low (by omega), hcb, hib⟩
  clear hcb hib ho3 hc3 hg3 HC1 HG1 HR0 HZ1
  go_upto_region 2 with fail
  obtain ⟨w4, hw4⟩ : ∃ w4, w3.alloc (.cells #[.int .i64 c, .int .i64 i, .slice A n C] 36) = w4 := ⟨_, rfl⟩
  rw [hw4] at HD3 ⊢
  clear hw4
  generalize w3.heap.size = fb at *
  go_wp2_with fail
  refine (l1Below_any _ _ a len cap zs 12 _ HD3.out.1 hl (by omega) (by omega)).mono ?_
  rintro e w5 ⟨M, rfl, hm0, hm1, hc5, hg5⟩
  have HD5 : Hid (DFl w w5 B cc a len cap zs w.heap.size fb c i A n C l) := HD3.out.call hc5 hg5
  clear hc5 hg5 HD3
  have hcw5 : cc < w5.heap.size := HD5.out.1.lt
  have hfb5 : fb < w5.heap.size := HD5.out.2.2.2.1.lt
  have hcf : cc < fb := by have := HD5.out.2.2.1; omega
  by_cases h0 : M = 0
  · subst h0
    clear hm0 hm1
    obtain ⟨d0, d1, d2⟩ := HD5.out.2.2.2.1.cells
    go_wp2_with fail
    refine (l1Int_any _ _ a len cap zs w5.heap.size 3 3 [-1, 2147483647, 2147483648] _ (HD5.out.new _).1 hl (heap_alloc_new w5 _) (by omega) rfl (by omega) (by omega)).mono ?_
    rintro e w6 ⟨x, rfl, hx, hc6, hg6⟩
    have hxb : i64b x := by
      simp only [List.mem_cons, List.not_mem_nil, or_false] at hx
      unfold i64b
      omega
    have HD6 : Hid (DFl w w6 B cc a len cap zs w.heap.size fb c i A n C l) := (HD5.out.new _).call hc6 hg6
    have HD7 : Hid (DFl w (w6.setCell ⟨fb, 0, none⟩ (.int .i64 x)) B cc a len cap zs w.heap.size fb x i A n C l) := HD6.out.set0 x hxb
    clear hx hc6 hg6 hxb HD5 d0 d1 d2
    obtain ⟨d0, d1, d2⟩ := HD6.out.2.2.2.1.cells
    have f0 := HD6.out.2.2.2.1.frozen 0
    clear HD6
    go_upto_region 9 with fail
    obtain ⟨w7, hw7⟩ : ∃ w7, w6.setCell ⟨fb, 0, none⟩ (.int .i64 x) = w7 := ⟨_, rfl⟩
    rw [hw7] at HD7 ⊢
    clear hw7 d0 d1 d2 f0
    obtain ⟨d0, d1, d2⟩ := HD7.out.2.2.2.1.cells
    obtain ⟨g0, g1, g2⟩ := HD7.out.2.2.2.2.1.cells
    have f0 := HD7.out.2.2.2.2.1.frozen 0
    have f1 := HD7.out.2.2.2.2.1.frozen 1
    have f2 := HD7.out.2.2.2.2.1.frozen 2
    have hlt3 := HD7.out.2.2.1.2.2
    have HFin : Hid _ := HD7.out.fin
    have HBd : Hid (_ ∧ _) := HD7.out.2.2.2.2.2.2
    clear HD7
    go_wp2
    refine bodyPost_ret (v := .agg #[.int .i64 x, .int .i64 i, .slice A n C]) (by simp [results, Try.f32, go_sem, g0, g1, g2]) rfl ?_
    exact ⟨x, i, A, n, C, _, rfl, by omega, HBd.out.1, HBd.out.2, HFin.out.2.2, HFin.out.1, HFin.out.2.1⟩
  have k0 : (M == 0) = false := by simpa using h0
  by_cases h1 : M = 1
  · subst h1
    clear hm0 hm1 h0 k0
    obtain ⟨d0, d1, d2⟩ := HD5.out.2.2.2.1.cells
    go_wp2_with fail
    refine (l1Int_any _ _ a len cap zs w5.heap.size 2 2 [-1, 2147483647] _ (HD5.out.new _).1 hl (heap_alloc_new w5 _) (by omega) rfl (by omega) (by omega)).mono ?_
    rintro e w6 ⟨x, rfl, hx, hc6, hg6⟩
    have hxb : i64b x := by
      simp only [List.mem_cons, List.not_mem_nil, or_false] at hx
      unfold i64b
      omega
    have HD6 : Hid (DFl w w6 B cc a len cap zs w.heap.size fb c i A n C l) := (HD5.out.new _).call hc6 hg6
    have HD7 : Hid (DFl w (w6.setCell ⟨fb, 1, none⟩ (.int .i64 x)) B cc a len cap zs w.heap.size fb c x A n C l) := HD6.out.set1 x hxb
    clear hx hc6 hg6 hxb HD5 d0 d1 d2
    obtain ⟨d0, d1, d2⟩ := HD6.out.2.2.2.1.cells
    have f1 := HD6.out.2.2.2.1.frozen 1
    clear HD6
    go_upto_region 9 with fail
    obtain ⟨w7, hw7⟩ : ∃ w7, w6.setCell ⟨fb, 1, none⟩ (.int .i64 x) = w7 := ⟨_, rfl⟩
    rw [hw7] at HD7 ⊢
    clear hw7 d0 d1 d2 f1
    obtain ⟨d0, d1, d2⟩ := HD7.out.2.2.2.1.cells
    obtain ⟨g0, g1, g2⟩ := HD7.out.2.2.2.2.1.cells
    have f0 := HD7.out.2.2.2.2.1.frozen 0
    have f1 := HD7.out.2.2.2.2.1.frozen 1
    have f2 := HD7.out.2.2.2.2.1.frozen 2
    have hlt3 := HD7.out.2.2.1.2.2
    have HFin : Hid _ := HD7.out.fin
    have HBd : Hid (_ ∧ _) := HD7.out.2.2.2.2.2.2
    clear HD7
    go_wp2
    refine bodyPost_ret (v := .agg #[.int .i64 c, .int .i64 x, .slice A n C]) (by simp [results, Try.f32, go_sem, g0, g1, g2]) rfl ?_
    exact ⟨c, x, A, n, C, _, rfl, by omega, HBd.out.1, HBd.out.2, HFin.out.2.2, HFin.out.1, HFin.out.2.1⟩
  have k1 : (M == 1) = false := by simpa using h1
  by_cases h2 : M = 2
  case neg =>
    have k2 : (M == 2) = false := by simpa using h2
    obtain ⟨d0, d1, d2⟩ := HD5.out.2.2.2.1.cells
    obtain ⟨g0, g1, g2⟩ := HD5.out.2.2.2.2.1.cells
    have f0 := HD5.out.2.2.2.2.1.frozen 0
    have f1 := HD5.out.2.2.2.2.1.frozen 1
    have f2 := HD5.out.2.2.2.2.1.frozen 2
    have hlt3 := HD5.out.2.2.1.2.2
    have HFin : Hid _ := HD5.out.fin
    have HBd : Hid (_ ∧ _) := HD5.out.2.2.2.2.2.2
    clear HD5
    go_wp2
    refine bodyPost_ret (v := .agg #[.int .i64 c, .int .i64 i, .slice A n C]) (by simp [results, Try.f32, go_sem, g0, g1, g2]) rfl ?_
    exact ⟨c, i, A, n, C, _, rfl, by omega, HBd.out.1, HBd.out.2, HFin.out.2.2, HFin.out.1, HFin.out.2.1⟩
  subst h2
  clear hm0 hm1 h0 k0 h1 k1
  obtain ⟨i0, hi, hz0, hz1, hz2⟩ := info_parts info_lane
  have HEB : Hid (∀ args w, (callFunc 49 args).run Try.prog w = .ok (.enter 49 args) w) := enters_of Try.func49 (by kernel_rfl) rfl
  have HEI : Hid (∀ args w, (callFunc 28 args).run Try.prog w = .ok (.enter 28 args) w) := enters_of Try.func28 (by kernel_rfl) rfl
  have HH1 : Hid ((w5.alloc (.cells #[.int .i64 (-2147483648), .int .i64 2147483647, .int .i64 0, .int .i64 (-5)] 3)).drew.heap[w5.heap.size]? = some (.cells #[.int .i64 (-2147483648), .int .i64 2147483647, .int .i64 0, .int .i64 (-5)] 3)) := heap_alloc_new w5 _
  have hfn5 : ¬ fb = w5.heap.size := by omega
  obtain ⟨d0, d1, d2⟩ := HD5.out.2.2.2.1.cells
  have HLn : Hid (l.length = n) := HD5.out.2.2.2.2.2.1.len
  go_wp2_with fail
  go_region_law (first
      | (refine step_append_own rfl (.tmp 23) (.tmp 30) 34 rfl w.heap.size 47 i0 (.agg #[.int .i64 0, .int .i64 0]) 2 16 Try.underlying34 hi hz0 hz1 hz2 rfl (by decide) (.slice A n C) n (laneCells l) rfl (hdz.2.2.2.2.2.1.1.alloc _) ⟨z.heap.size, 0, none⟩ 1 1 (laneCells [(x, q)]) rfl rfl (lane_new z x q) (laneCells_one _) (by unfold maxLen; omega) (by omega) (by rw [World.size_alloc]; have := hdz.2.1.size; omega) ?_; intro v9 w9 hown hgrow; obtain ⟨a9, c9, rfl⟩ := ownL_shape hown; have hg9 : (z.alloc (.cells #[.int .i64 x, .int .i64 q] 47)).grownBy w9 (A.map (·.block)) := (by cases A <;> exact hgrow); have ho9 : OwnL w9 w.heap.size a9 (n + 1) c9 (l ++ [(x, q)]) := ⟨by rw [laneCells_append]; exact hown, fun s hs => by rcases List.mem_append.1 hs with h | h; (exact hdz.2.2.2.2.2.1.2 s h); (obtain rfl : s = (x, q) := (by simpa using h); exact ⟨hxb, hqb⟩)⟩; have hr9 := (hdz.new _).row hg9 ho9; obtain ⟨m0, m1, m2⟩ := hr9.1.cells; have mf := hr9.1.frozen 2)
      | (refine step_call_pair rfl 28 (.tmp 26) (.tmp 27) 49 53 rfl HEI.out (.pointer (some ⟨cc, 0, none⟩)) (.slice (some ⟨y.heap.size, 0, none⟩) 4 4) rfl rfl _ (l1Int_any _ _ a len cap zs y.heap.size 4 4 [-2147483648, 2147483647, 0, -5] _ (hdA.new _).1 hl (heap_alloc_new y _) (by omega) rfl (by omega) (by omega)) ?_; rintro e z ⟨q, rfl, hq, hcz, hgz⟩; refine ⟨_, rfl, ?_⟩; have hqb : i64b q := (by simp only [List.mem_cons, List.not_mem_nil, or_false] at hq; unfold i64b; omega); have hdz := (hdA.new _).call hcz hgz; obtain ⟨k0, k1, k2⟩ := hdz.2.2.2.1.cells; have hflz : fb < z.heap.size := hdz.2.2.2.1.lt; have hfnz : ¬ fb = z.heap.size := (by omega))
      | (refine step_call_pair rfl 28 (.tmp 26) (.tmp 27) 49 53 rfl HEI.out (.pointer (some ⟨cc, 0, none⟩)) (.slice (some ⟨w5.heap.size, 0, none⟩) 4 4) rfl rfl _ (l1Int_any _ _ a len cap zs w5.heap.size 4 4 [-2147483648, 2147483647, 0, -5] _ hdB.1 hl hrB (by omega) rfl (by omega) (by omega)) ?_; rintro e z ⟨q, rfl, hq, hcz, hgz⟩; refine ⟨_, rfl, ?_⟩; have hqb : i64b q := (by simp only [List.mem_cons, List.not_mem_nil, or_false] at hq; unfold i64b; omega); have hdz := hdB.call hcz hgz; obtain ⟨k0, k1, k2⟩ := hdz.2.2.2.1.cells; have hflz : fb < z.heap.size := hdz.2.2.2.1.lt; have hfnz : ¬ fb = z.heap.size := (by omega))
      | (refine step_call_pair rfl 49 (.tmp 24) (.const (.int .i64 8)) 49 3 rfl HEB.out (.pointer (some ⟨cc, 0, none⟩)) (.int .i64 8) rfl rfl _ (l1Below_any _ _ a len cap zs 8 w5.drew HD5.out.drew.1 hl (by omega) (by omega)) ?_; rintro e y ⟨x, rfl, hx0, hx1, hcy, hgy⟩; refine ⟨_, rfl, ?_⟩; have hxb : i64b x := (by unfold i64b; omega); have hdA := HD5.out.drew.call hcy hgy; obtain ⟨k0, k1, k2⟩ := hdA.2.2.2.1.cells; have hfly : fb < y.heap.size := hdA.2.2.2.1.lt; have hfny : ¬ fb = y.heap.size := (by omega); have hcly : cc < y.heap.size := hdA.1.lt)
      | (refine step_call_pair rfl 49 (.tmp 24) (.const (.int .i64 8)) 49 3 rfl HEB.out (.pointer (some ⟨cc, 0, none⟩)) (.int .i64 8) rfl rfl _ (l1Below_any _ _ a len cap zs 8 (w5.alloc (.cells #[.int .i64 (-2147483648), .int .i64 2147483647, .int .i64 0, .int .i64 (-5)] 3)).drew (HD5.out.new _).drew.1 hl (by omega) (by omega)) ?_; rintro e y ⟨x, rfl, hx0, hx1, hcy, hgy⟩; refine ⟨_, rfl, ?_⟩; have hxb : i64b x := (by unfold i64b; omega); have hdB := (HD5.out.new _).drew.call hcy hgy; have hrB : y.heap[w5.heap.size]? = some (.cells #[.int .i64 (-2147483648), .int .i64 2147483647, .int .i64 0, .int .i64 (-5)] 3) := (hgy.block w5.heap.size (by simp) (by intro e; injection e with e; omega)).trans HH1.out; obtain ⟨k0, k1, k2⟩ := hdB.2.2.2.1.cells; have hfly : fb < y.heap.size := hdB.2.2.2.1.lt; have hfny : ¬ fb = y.heap.size := (by omega); have hcly : cc < y.heap.size := hdB.1.lt)
      | fail)
  all_goals
    have HD8 := (show Hid (DFl w (w9.setCell ⟨fb, 2, none⟩ (.slice a9 (n + 1) c9)) B cc a len cap zs w.heap.size fb c i a9 (n + 1) c9 (l ++ [(x, q)])) from hr9.2)
    clear hr9 ho9 hg9 hown hgrow HD5 HH1 HLn
    go_upto_region 9 with fail
    obtain ⟨w8, hw8⟩ : ∃ w8, w9.setCell ⟨fb, 2, none⟩ (.slice a9 (n + 1) c9) = w8 := ⟨_, rfl⟩
    rw [hw8] at HD8 ⊢
    clear hw8 m0 m1 m2 mf
    obtain ⟨d0, d1, d2⟩ := HD8.out.2.2.2.1.cells
    obtain ⟨g0, g1, g2⟩ := HD8.out.2.2.2.2.1.cells
    have f0 := HD8.out.2.2.2.2.1.frozen 0
    have f1 := HD8.out.2.2.2.2.1.frozen 1
    have f2 := HD8.out.2.2.2.2.1.frozen 2
    have hlt3 := HD8.out.2.2.1.2.2
    have HFin : Hid _ := HD8.out.fin
    have HBd : Hid (_ ∧ _) := HD8.out.2.2.2.2.2.2
    clear HD8
    go_wp2
    refine bodyPost_ret (v := .agg #[.int .i64 c, .int .i64 i, .slice a9 (n + 1) c9]) (by simp [results, Try.f32, go_sem, g0, g1, g2]) rfl ?_
    exact ⟨c, i, a9, (n + 1), c9, _, rfl, by omega, HBd.out.1, HBd.out.2, HFin.out.2.2, HFin.out.1, HFin.out.2.1⟩

end Go.Proofs.Ytkicfiacnpifkad
