/- The draw of what is spent. -/
import Derived.Test.YtkicfiacnpifkadDrawFlowAny
import Derived.Test.YtkicfiacnpifkadFlowRoomS
import Derived.Deep.RegionHeld3
namespace Go.Proofs.Ytkicfiacnpifkad
open Go.RowKit
set_option linter.unusedVariables false

/-- What the draw holds: the cursor, the answer's variable, the flow in a variable. -/
def DSp (w W : World) (cc : Nat) (a : Option Addr) (len cap : Nat) (zs : List Int) (fb : Nat) (c i : Int) (A : Option Addr) (n C : Nat) (l : List Lane) : Prop :=
  Cur W cc cc a len cap zs ∧ Below w.heap.size w W ∧ Box3 W w.heap.size 36 (.int .i64 0) (.int .i64 0) (.slice none 0 0) ∧ Box3 W fb 36 (.int .i64 c) (.int .i64 i) (.slice A n C) ∧ OwnL W (cc + 1) A n C l ∧ (w.heap.size < cc ∧ cc < fb)

section
variable {w W W' : World} {cc : Nat} {a : Option Addr} {len cap : Nat} {zs : List Int} {fb : Nat} {c i : Int} {A : Option Addr} {n C : Nat} {l : List Lane}

theorem DSp.stays (h : DSp w W cc a len cap zs fb c i A n C l) (hb : Below W.heap.size W W') : DSp w W' cc a len cap zs fb c i A n C l :=
  ⟨h.1.kept (gbelow hb none) (by simp), h.2.1.trans (hb.mono h.2.1.size), h.2.2.1.stays hb, h.2.2.2.1.stays hb, h.2.2.2.2.1.below hb, h.2.2.2.2.2⟩

theorem DSp.new (h : DSp w W cc a len cap zs fb c i A n C l) (o : Obj) : DSp w (W.alloc o) cc a len cap zs fb c i A n C l := h.stays ((Below.refl _ _).alloc (Nat.le_refl _) _)

theorem DSp.drew (h : DSp w W cc a len cap zs fb c i A n C l) : DSp w W.drew cc a len cap zs fb c i A n C l := h.stays (Below.refl _ _).drew

theorem DSp.call (h : DSp w W cc a len cap zs fb c i A n C l) (hc : Cur W' cc cc a len cap zs) (hg : W.grownBy W' (some cc)) : DSp w W' cc a len cap zs fb c i A n C l := by
  obtain ⟨h1, h2, h3, h4, h5, h6⟩ := h
  exact ⟨hc, h2.grown hg h2.size (fun k e => by injection e with e; omega), h3.grown hg (fun e => by injection e with e; omega), h4.grown hg (fun e => by injection e with e; omega), h5.kept hg (fun q e e2 => by injection e with e; have := (h5.lt q e2).1; omega), h6⟩
end

set_option maxRecDepth 10000 in
set_option maxHeartbeats 3200000 in
theorem drawSpend_any (a : Option Addr) (len cap : Nat) (zs : List Int) (w : World) (hs : Seg w a len zs) (hl : len ≤ 1099511627776) :
    Calls Try.prog 12 #[.slice a len cap] w fun e w' => ∃ (c i : Int) (A : Option Addr) (n C : Nat) (l : List Lane) (id m : Int), e = .returned (.tuple #[.agg #[.int .i64 c, .int .i64 i, .slice A n C], .int .i64 id, .int .i64 m]) ∧ n ≤ 6 ∧ i64b c ∧ OwnL w' w.heap.size A n C l ∧ Below w.heap.size w w' := by
  have HS : Hid (Seg w a len zs) := hs
  clear hs
  have HR0 : Hid (Box3 (w.alloc (.cells #[.int .i64 0, .int .i64 0, .slice none 0 0] 36)) w.heap.size 36 (.int .i64 0) (.int .i64 0) (.slice none 0 0)) := Box3.new _ _ _ _ _
  go_enter Try.func12, Try.ntmps12
  go_upto_region 1 with fail
  obtain ⟨w1, hw1⟩ : ∃ w1, w.alloc (.cells #[.int .i64 0, .int .i64 0, .slice none 0 0] 36) = w1 := ⟨_, rfl⟩
  have HB1 : Hid (Below w.heap.size w w1) := by show Below _ _ _; rw [← hw1]; exact (Below.refl _ _).alloc (Nat.le_refl _) _
  have HZ1 : Hid (w1.heap.size = w.heap.size + 1) := by show _ = _; rw [← hw1]; simp
  rw [hw1] at HR0 ⊢
  clear hw1
  go_wp2_with fail
  refine (l1New_any a len cap zs w1 (HS.out.below HB1.out) hl).mono ?_
  rintro e w2 ⟨rfl, hc2, hb2⟩
  obtain ⟨cc, hcc⟩ : ∃ cc, w1.heap.size = cc := ⟨_, rfl⟩
  rw [hcc] at hc2 ⊢
  have HC2 : Hid (Cur w2 cc cc a len cap zs) := hc2
  have HB2 : Hid (Below w.heap.size w w2) := HB1.out.trans (hb2.mono HB1.out.size)
  have HR2 : Hid (Box3 w2 w.heap.size 36 (.int .i64 0) (.int .i64 0) (.slice none 0 0)) := HR0.out.stays hb2
  have hcw : w.heap.size < cc := by have := HZ1.out; omega
  clear hc2 hb2 HR0 HB1 HZ1 hcc
  go_wp2_with fail
  refine (l10Any_any cc cc a len cap zs w2 HC2.out hl).mono ?_
  rintro e w3 ⟨c, i, A, n, C, l, rfl, hn, hcb, hib, ho3, hc3, hg3⟩
  have HD3 : Hid (DSp w (w3.alloc (.cells #[.int .i64 c, .int .i64 i, .slice A n C] 36)) cc a len cap zs w3.heap.size c i A n C l) := by
    have hcl := HC2.out.lt
    have hsz := hg3.size
    have hb3 : Below w.heap.size w w3 := HB2.out.grown hg3 HB2.out.size (fun k e => by injection e with e; omega)
    exact ⟨hc3.new _, hb3.alloc hb3.size _, (HR2.out.grown hg3 (fun e => by injection e with e; omega)).alloc _, Box3.new _ _ _ _ _, (ho3.below ((Below.refl _ _).alloc (Nat.le_refl _) _)).low (by omega), ⟨hcw, by omega⟩⟩
  have HCb : Hid (i64b c) := hcb
  clear hcb hib ho3 hc3 hg3 HC2 HB2 HR2
  go_upto_region 3 with fail
  obtain ⟨w4, hw4⟩ : ∃ w4, w3.alloc (.cells #[.int .i64 c, .int .i64 i, .slice A n C] 36) = w4 := ⟨_, rfl⟩
  rw [hw4] at HD3 ⊢
  clear hw4
  generalize w3.heap.size = fb at *
  have hcl4 : cc < w4.heap.size := HD3.out.1.lt
  go_wp2_with fail
  refine (l1Int_any _ _ a len cap zs w4.heap.size 3 3 [1, 3, 5] _ (HD3.out.new _).1 hl (heap_alloc_new w4 _) (by omega) rfl (by omega) (by omega)).mono ?_
  rintro e w5 ⟨id, rfl, hid, hc5, hg5⟩
  have HD5 := (show Hid (DSp w w5 cc a len cap zs fb c i A n C l) from (HD3.out.new _).call hc5 hg5)
  clear hid hc5 hg5 HD3 hcl4
  obtain ⟨d0, d1, d2⟩ := HD5.out.2.2.2.1.cells
  have hff := HD5.out.2.2.2.2.2
  have hfb5 : fb < w5.heap.size := HD5.out.2.2.2.1.lt
  go_upto_region 4 with fail
  go_region_held3 (fun W => W.cell? ⟨fb, 0, none⟩ = some (.int .i64 c) ∧ W.cell? ⟨fb, 1, none⟩ = some (.int .i64 i) ∧ W.cell? ⟨fb, 2, none⟩ = some (.slice A n C)) (first | (refine ⟨?_, ?_, ?_⟩ <;> assumption) | (exact ⟨cell_kept3 (by omega) (cell_kept3 (by omega) (cell_kept3 (by omega) (by assumption))), cell_kept3 (by omega) (cell_kept3 (by omega) (cell_kept3 (by omega) (by assumption))), cell_kept3 (by omega) (cell_kept3 (by omega) (cell_kept3 (by omega) (by assumption)))⟩) | go_keep) (first
    | (go_at_call 28; refine (l1Int_any _ _ a len cap zs y2.heap.size 5 5 [0, 1, roomN c l id, IntKind.i64.wrap (roomN c l id + 1), -1] _ (hd2.new _).1 hl (heap_alloc_new y2 _) (by have := hd2.1.lt; omega) rfl (by omega) (by omega)).mono ?_; rintro e z ⟨m, rfl, hmm, hcz, hgz⟩; have hdz := (hd2.new _).call hcz hgz; obtain ⟨e0, e1, e2⟩ := hdz.2.2.2.1.cells; obtain ⟨g0, g1, g2⟩ := hdz.2.2.1.cells; have f0 := hdz.2.2.1.frozen 0; have f1 := hdz.2.2.1.frozen 1; have f2 := hdz.2.2.1.frozen 2)
    | (go_at_call 33; refine (specRoom_any c i A n C l id _ hd1.2.2.2.2.1.lanes (by omega)).mono ?_; rintro e y2 ⟨rfl, hb2⟩; have hd2 := hd1.stays hb2; obtain ⟨e0, e1, e2⟩ := hd2.2.2.2.1.cells; have hfy2 : fb < y2.heap.size := hd2.2.2.2.1.lt; have hfn2 : ¬ fb = y2.heap.size := (by omega))
    | (go_at_call 33; refine (specRoom_any c i A n C l id _ HD5.out.drew.2.2.2.2.1.lanes (by omega)).mono ?_; rintro e y1 ⟨rfl, hb1⟩; have hd1 := HD5.out.drew.stays hb1; obtain ⟨e0, e1, e2⟩ := hd1.2.2.2.1.cells)
    | fail)
  all_goals
    have HEnd : Hid (OwnL (((z.setCell ⟨w.heap.size, 0, none⟩ (.int .i64 c)).setCell ⟨w.heap.size, 1, none⟩ (.int .i64 i)).setCell ⟨w.heap.size, 2, none⟩ (.slice A n C)) w.heap.size A n C l ∧ Below w.heap.size w (((z.setCell ⟨w.heap.size, 0, none⟩ (.int .i64 c)).setCell ⟨w.heap.size, 1, none⟩ (.int .i64 i)).setCell ⟨w.heap.size, 2, none⟩ (.slice A n C))) := ⟨ownL_set3 (hdz.2.2.2.2.1.low (by omega)) (hdz.2.2.2.2.1.other (show z.heap[w.heap.size]? = _ from hdz.2.2.1) (by decide)) _ _ _, below_set3 hdz.2.1 (Nat.le_refl _) _ _ _⟩
    clear hdz hcz hgz hmm hd1 hd2
    go_wp2
    refine bodyPost_ret (v := .tuple #[.agg #[.int .i64 c, .int .i64 i, .slice A n C], .int .i64 id, .int .i64 m]) (by simp [results, Try.f12, go_sem, g0, g1, g2]) rfl ?_
    exact ⟨c, i, A, n, C, l, id, m, rfl, hn, HCb.out, HEnd.out.1, HEnd.out.2⟩

end Go.Proofs.Ytkicfiacnpifkad
