/- A drawn disk that may not be right. For codes of at most 2^40 bytes. -/
import Derived.Test.YtnbmlkkjgecigaeDrawDsk
import Derived.Deep.CutBlock
import Derived.Deep.RegionHeld3
import Derived.Test.YtnbmlkkjgecigaeStepMake
namespace Go.Proofs.Ytnbmlkkjgecigae
open Go.RowKit
set_option linter.unusedVariables false

section
variable {w W : World} {b n n' C C' : Nat} {A A' : Option Addr} {X Y : List ByteArray}

theorem DV.newG {w1 : World} {r : Option Nat} (hq : Box2R W w.heap.size 26 (.slice none 0 0) (.slice none 0 0)) (hg : W.grownBy w1 r) (hr : ∀ q, r = some q → q < w.heap.size) (o1 : OwnSt w1 W.heap.size (.slice A n C) n X) (o2 : OwnSt w1 W.heap.size (.slice A' n' C') n' Y) (hne : ∀ q, A.map (·.block) = some q → A'.map (·.block) ≠ some q) :
    DV w (w1.alloc (.cells #[.slice A n C, .slice A' n' C'] 26)) w1.heap.size A n C A' n' C' X Y := by
  have hlt := hq.lt
  have hs := hg.size
  have e1 : ∀ q, A.map (·.block) = some q → q < w1.heap.size := fun q e => (o1.lt q (by rw [blkOf_sV]; exact e)).2
  have e2 : ∀ q, A'.map (·.block) = some q → q < w1.heap.size := fun q e => (o2.lt q (by rw [blkOf_sV]; exact e)).2
  refine ⟨Box2R.new _ _ _ _, (hq.grown hg (fun e => by have := hr _ e; omega)).alloc _, (o1.below ((Below.refl _ _).alloc (Nat.le_refl _) _)).low (by omega), (o2.below ((Below.refl _ _).alloc (Nat.le_refl _) _)).low (by omega), fun q e => ⟨by have := e1 q e; omega, hne q e⟩, fun q e => by have := e2 q e; omega, by omega⟩

/-- The disk is answered. -/
theorem DV.fin {B c : Nat} {a : Option Addr} {len cap : Nat} {zs : List Int} (h : DV w W b A n C A' n' C' X Y) (hc : Cur W B c a len cap zs) (hg : w.grownBy W (some c)) (hcw : c < w.heap.size) (hn : n ≤ 7) (hn' : n' ≤ 7) : DrawnD w.heap.size 7 (.agg #[.slice A n C, .slice A' n' C']) ((W.setCell ⟨w.heap.size, 0, none⟩ (.slice A n C)).setCell ⟨w.heap.size, 1, none⟩ (.slice A' n' C')) ∧ Cur ((W.setCell ⟨w.heap.size, 0, none⟩ (.slice A n C)).setCell ⟨w.heap.size, 1, none⟩ (.slice A' n' C')) B c a len cap zs ∧ w.grownBy ((W.setCell ⟨w.heap.size, 0, none⟩ (.slice A n C)).setCell ⟨w.heap.size, 1, none⟩ (.slice A' n' C')) (some c) := by
  have l1 := h.2.2.1.len
  have l2 := h.2.2.2.1.len
  exact ⟨⟨X, Y, h.done, by omega, by omega⟩, (hc.put hcw _).put hcw _, gput (gput hg (Nat.le_refl _) _) (Nat.le_refl _) _⟩

/-- A sector of Sure is set. -/
theorem DV.sure {g : Nat} (h : DV w W b A n C (some ⟨g, 0, none⟩) n' C' X Y) (k : Nat) (x : ByteArray) (hx : x.size ≤ maxLen) : DV w (W.setCell ⟨g, k, none⟩ (.string x)) b A n C (some ⟨g, 0, none⟩) n' C' X (Y.set k x) := by
  obtain ⟨h1, h2, h3, h4, h5, h6, h7⟩ := h
  have hg := h6 g rfl
  have hlt := (h4.lt g rfl).1
  have n1 : blkOf (.slice A n C) ≠ some g := fun e => by rw [blkOf_sV] at e; exact (h5 g e).2 rfl
  refine ⟨h1.other (fun e => hg e.symm) _, h2.other (by omega) _, h3.setCell n1 _, ?_, h5, h6, h7⟩
  refine ⟨?_, fun y hy => ?_⟩
  · rw [← scells_set]
    exact (h4.1.stored k (.string x)).1
  · rcases List.mem_or_eq_of_mem_set hy with h | rfl
    · exact h4.2 y h
    · exact hx

/-- A sector is put behind Now. -/
theorem DV.longer (h : DV w W b A n C A' n' C' X Y) (o : Obj) {w2 : World} {B : Option Addr} {m D : Nat} {Z : List ByteArray} (ho : OwnSt w2 (w.heap.size + 1) (.slice B m D) m Z) (hg : (W.alloc o).grownBy w2 (A.map (·.block))) (hw : B.map (·.block) = A.map (·.block) ∨ B.map (·.block) = some (W.alloc o).heap.size) :
    DV w (w2.setCell ⟨b, 0, none⟩ (.slice B m D)) b B m D A' n' C' Z Y ∧ Box2R w2 b 26 (.slice A n C) (.slice A' n' C') := by
  obtain ⟨h1, h2, h3, h4, h5, h6, h7⟩ := h
  have hlt := h1.lt
  have lA : ∀ q, A.map (·.block) = some q → w.heap.size + 1 ≤ q := fun q e => (h3.lt q (by rw [blkOf_sV]; exact e)).1
  have lA' : ∀ q, A'.map (·.block) = some q → w.heap.size + 1 ≤ q ∧ q < W.heap.size := fun q e => h4.lt q (by rw [blkOf_sV]; exact e)
  have lB : ∀ q, B.map (·.block) = some q → w.heap.size + 1 ≤ q := fun q e => (ho.lt q (by rw [blkOf_sV]; exact e)).1
  have g1 := (h1.alloc o).grown hg (fun e => (h5 _ e).1 rfl)
  have g2 := (h2.alloc o).grown hg (fun e => by have := lA _ e; omega)
  have g4 := (h4.below ((Below.refl _ _).alloc (Nat.le_refl _) o)).kept hg (fun q e e2 => by rw [blkOf_sV] at e2; exact (h5 q e).2 e2)
  have hB : ∀ q, B.map (·.block) = some q → q ≠ b ∧ A'.map (·.block) ≠ some q := by
    intro q e
    rcases hw with hw | hw
    · exact h5 q (hw ▸ e)
    · rw [hw, World.size_alloc] at e
      injection e with e
      exact ⟨by omega, fun e2 => by have := (lA' q e2).2; omega⟩
  have n1 : blkOf (.slice B m D) ≠ some b := fun e => by rw [blkOf_sV] at e; exact (hB b e).1 rfl
  have n2 : blkOf (.slice A' n' C') ≠ some b := fun e => by rw [blkOf_sV] at e; exact h6 b e rfl
  exact ⟨⟨g1.set0 _, g2.other (by omega) _, ho.setCell n1 _, g4.setCell n2 _, hB, h6, h7⟩, g1⟩
end

set_option maxRecDepth 10000 in
set_option maxHeartbeats 3200000 in
theorem l12Any_any (B c : Nat) (a : Option Addr) (len cap : Nat) (zs : List Int) (w : World) (hcur : Cur w B c a len cap zs) (hl : len ≤ 1099511627776) :
    Calls Try.prog 16 #[.pointer (some ⟨c, 0, none⟩)] w fun e w' => (∃ v, e = .returned v ∧ DrawnD w.heap.size 7 v w') ∧ Cur w' B c a len cap zs ∧ w.grownBy w' (some c) := by
  obtain ⟨i0, hi, hz0, hz1, hz2⟩ := info_parts info_string
  have HC : Hid (Cur w B c a len cap zs) := hcur
  clear hcur
  have hcw : c < w.heap.size := HC.out.lt
  obtain ⟨w1, hw1⟩ : ∃ w1, w.alloc (.cells #[.slice none 0 0, .slice none 0 0] 26) = w1 := ⟨_, rfl⟩
  have HE : Hid (w.alloc (.cells #[.slice none 0 0, .slice none 0 0] 26) = w1) := hw1
  have HQ1 : Hid (Box2R w1 w.heap.size 26 (.slice none 0 0) (.slice none 0 0)) := by show Box2R _ _ _ _ _; rw [← hw1]; exact Box2R.new _ _ _ _
  have HC1 : Hid (Cur w1 B c a len cap zs) := by show Cur _ _ _ _ _ _ _; rw [← hw1]; exact HC.out.new _
  have HG1 : Hid (w.grownBy w1 (some c)) := by show World.grownBy _ _ _; rw [← hw1]; exact World.grownBy_alloc w _ _
  clear hw1 HC
  go_enter Try.func16, Try.ntmps16
  go_upto_region 1 with fail
  rw [HE.out]
  clear HE
  have hc1w : c < w1.heap.size := HC1.out.lt
  go_wp2_with fail
  refine (l12Draw_any B c a len cap zs w1 HC1.out hl).mono ?_
  rintro e w3 ⟨⟨v, rfl, X, Y, hans, hX6, hY6⟩, hc3, hg3⟩
  obtain ⟨n, hn⟩ : ∃ n, X.length = n := ⟨_, rfl⟩
  obtain ⟨n', hn'⟩ : ∃ n', Y.length = n' := ⟨_, rfl⟩
  obtain ⟨A, C, A', C', rfl, o1, o2, hap⟩ := hans.at hn hn'
  have HD3 : Hid (DV w (w3.alloc (.cells #[.slice A n C, .slice A' n' C'] 26)) w3.heap.size A n C A' n' C' X Y) := DV.newG HQ1.out hg3 (fun q e => by injection e with e; omega) o1 o2 hap
  have HC3 : Hid (Cur (w3.alloc (.cells #[.slice A n C, .slice A' n' C'] 26)) B c a len cap zs) := hc3.new _
  have HG3 : Hid (w.grownBy (w3.alloc (.cells #[.slice A n C, .slice A' n' C'] 26)) (some c)) := gnew (gtrans HG1.out hg3) _
  rw [hn] at hX6
  rw [hn'] at hY6
  clear hn hn' hans hc3 hg3 o1 o2 hap HQ1 HC1 HG1 hc1w
  go_wp2_with fail
  obtain ⟨w4, hw4⟩ : ∃ w4, w3.alloc (.cells #[.slice A n C, .slice A' n' C'] 26) = w4 := ⟨_, rfl⟩
  rw [hw4] at HD3 HC3 HG3 ⊢
  clear hw4
  generalize w3.heap.size = b at *
  refine (l1Below_any B c a len cap zs 12 w4 HC3.out hl (by omega) (by omega)).mono ?_
  rintro e w5 ⟨m, rfl, hm0, hm1, hc5, hg5⟩
  have HD5 : Hid (DV w w5 b A n C A' n' C' X Y) := HD3.out.grown hg5 (fun q e => by injection e with e; omega)
  have HC5 : Hid (Cur w5 B c a len cap zs) := hc5
  have HG5 : Hid (w.grownBy w5 (some c)) := gtrans HG3.out hg5
  clear hc5 hg5 HD3 HC3 HG3
  by_cases hk0 : m = 0
  · subst hk0
    obtain ⟨c0, c1⟩ := HD5.out.1.cells
    have hsz : w.heap.size + 1 ≤ w5.heap.size := by have := HD5.out.1.lt; have := HD5.out.2.2.2.2.2.2; omega
    have HO1 : Hid ((w5.alloc (.cells #[.string ⟨#[]⟩] 9)).ownsRow (w.heap.size + 1) 9 1 (.slice A n C) n (scells X)) := HD5.out.2.2.1.1.alloc _
    go_wp2_with (at_builtin; refine wpList_append_where rfl _ _ 24 rfl (w.heap.size + 1) 9 i0 (.string ⟨#[]⟩) 1 16 Try.underlying24 hi hz0 hz1 hz2 rfl (by decide) (.slice A n C) n (scells X) rfl HO1.out ⟨w5.heap.size, 0, none⟩ 1 1 (by decide) [.string ⟨#[]⟩] rfl rfl (str_new w5 ⟨#[]⟩) (by simp [Value.oneCell']) (by unfold maxLen; omega) (by omega) (by simp; omega) ?_; intro v2 w2 hown2 hgrow2 hw2; obtain ⟨A2, C2, rfl⟩ := srow_shape hown2; refine Hid.out ?_)
    refine hidden ?_
    rw [blkOf_own, blkOf_sV] at hgrow2
    rw [blkOf_own, blkOf_own, blkOf_sV, blkOf_sV] at hw2
    have ho2 : OwnSt w2 (w.heap.size + 1) (.slice A2 (n + 1) C2) (n + 1) (X ++ [⟨#[]⟩]) := ⟨by rw [scells_append]; exact hown2, fun x hx => by
      rcases List.mem_append.1 hx with h | h
      · exact HD5.out.2.2.1.2 x h
      · rw [List.mem_singleton.1 h]; exact Nat.zero_le _⟩
    obtain ⟨hd6, hbx⟩ := HD5.out.longer _ ho2 hgrow2 hw2
    have HD6 : Hid (DV w (w2.setCell ⟨b, 0, none⟩ (.slice A2 (n + 1) C2)) b A2 (n + 1) C2 A' n' C' (X ++ [⟨#[]⟩]) Y) := hd6
    have hbw := HD5.out.2.2.2.2.2.2
    have hAr : ∀ k, A.map (·.block) = some k → w.heap.size ≤ k := fun k e => by have := (HD5.out.2.2.1.lt k (by rw [blkOf_sV]; exact e)).1; omega
    have HC6 : Hid (Cur (w2.setCell ⟨b, 0, none⟩ (.slice A2 (n + 1) C2)) B c a len cap zs) := ((HC5.out.new _).kept hgrow2 (fun k e => ⟨by have := hAr k e; have := HC5.out.1; omega, by have := hAr k e; omega⟩)).put (by omega) _
    have HG6 : Hid (w.grownBy (w2.setCell ⟨b, 0, none⟩ (.slice A2 (n + 1) C2)) (some c)) := gput (gown (gnew HG5.out _) hgrow2 hAr) (by omega) _
    obtain ⟨p0, p1⟩ := hbx.cells
    have z0 := hbx.frozen 0
    clear hown2 hgrow2 hw2 ho2 hd6 hbx hAr HO1 HD5 HC5 HG5 c0 c1
    go_upto_region 8 with fail
    obtain ⟨w6, hw6⟩ : ∃ w6, w2.setCell ⟨b, 0, none⟩ (.slice A2 (n + 1) C2) = w6 := ⟨_, rfl⟩
    rw [hw6] at HD6 HC6 HG6 ⊢
    clear hw6 p0 p1 z0
    obtain ⟨c0, c1⟩ := HD6.out.1.cells
    obtain ⟨r0, r1⟩ := HD6.out.2.1.cells
    have f0 := HD6.out.2.1.frozen 0
    have f1 := HD6.out.2.1.frozen 1
    have HR := (show Hid _ from HD6.out.fin HC6.out HG6.out hcw (by omega) (by omega))
    clear HD6 HC6 HG6
    go_wp2_with fail
    refine bodyPost_ret (v := .agg #[.slice A2 (n + 1) C2, .slice A' n' C']) (by simp [results, Try.f16, go_sem, r0, r1]) rfl ?_
    exact ⟨⟨_, rfl, HR.out.1⟩, HR.out.2⟩
  have hk0b : (m == 0) = false := by simpa using hk0
  by_cases hk1 : m = 1
  case neg =>
    have hk1b : (m == 1) = false := by simpa using hk1
    obtain ⟨c0, c1⟩ := HD5.out.1.cells
    obtain ⟨r0, r1⟩ := HD5.out.2.1.cells
    have f0 := HD5.out.2.1.frozen 0
    have f1 := HD5.out.2.1.frozen 1
    have HR := (show Hid _ from HD5.out.fin HC5.out HG5.out hcw (by omega) (by omega))
    clear HD5 HC5 HG5
    go_wp2_with fail
    refine bodyPost_ret (v := .agg #[.slice A n C, .slice A' n' C']) (by simp [results, Try.f16, go_sem, r0, r1]) rfl ?_
    exact ⟨⟨_, rfl, HR.out.1⟩, HR.out.2⟩
  have hk1b : (m == 1) = true := by simpa using hk1
  by_cases hn0 : n' = 0
  · subst hn0
    obtain ⟨c0, c1⟩ := HD5.out.1.cells
    obtain ⟨r0, r1⟩ := HD5.out.2.1.cells
    have f0 := HD5.out.2.1.frozen 0
    have f1 := HD5.out.2.1.frozen 1
    have HR := (show Hid _ from HD5.out.fin HC5.out HG5.out hcw (by omega) (by omega))
    clear HD5 HC5 HG5
    go_wp2_with fail
    refine bodyPost_ret (v := .agg #[.slice A n C, .slice A' 0 C']) (by simp [results, Try.f16, go_sem, r0, r1]) rfl ?_
    exact ⟨⟨_, rfl, HR.out.1⟩, HR.out.2⟩
  have hni : (0 : Int) < (n' : Int) := by omega
  obtain ⟨g', rfl⟩ : ∃ g, A' = some ⟨g, 0, none⟩ := by
    rcases HD5.out.2.2.2.1.1.2 with ⟨_, h0⟩ | ⟨g, cap', cur, he, _⟩
    · omega
    · injection he with e1 _ _
      exact ⟨g, e1⟩
  obtain ⟨j0, ji, jz0, jz1, jz2⟩ := info_parts Try.info5
  have hbg : b ≠ g' := fun e => HD5.out.2.2.2.2.2.1 g' rfl e.symm
  have hgw : w.heap.size < g' := (HD5.out.2.2.2.1.lt g' rfl).1
  have HDd : Hid (DV w w5.drew b A n C (some ⟨g', 0, none⟩) n' C' X Y) := HD5.out.stays (Below.refl _ _).drew
  have HCd : Hid (Cur w5.drew B c a len cap zs) := HC5.out.kept (gbelow (Below.refl _ _).drew none) (by simp)
  have HGd : Hid (w.grownBy w5.drew (some c)) := gtrans HG5.out (gbelow (Below.refl _ _).drew _)
  obtain ⟨c0, c1⟩ := HD5.out.1.cells
  clear HD5 HC5 HG5
  go_wp2_with fail
  go_region_with (first
    | (go_at_call 24; refine (l1Below_any B c a len cap zs 2 _ HCd.out hl (by omega) (by omega)).mono ?_; rintro e y1 ⟨k, rfl, hk0, hk1, hc1, hg1⟩
       obtain ⟨q, hq⟩ := Int.eq_ofNat_of_zero_le (show 0 ≤ 64 + k by omega)
       have hqs : q ≤ 65 := (by omega)
       have hqw : IntKind.i64.wrap (q : Int) = (q : Int) := wrap_i64_small q (by omega)
       have hmk := run_make_zero (P := Try.prog) y1 22 5 j0 Try.underlying22 ji jz0 jz1 jz2 q (by omega)
       obtain ⟨y2, hy2⟩ : ∃ y2, y1.alloc (.cells (List.replicate q (.int .u8 0)).toArray 5) = y2 := ⟨_, rfl⟩
       obtain ⟨s, hsz, hcv⟩ := run_text_zero (P := Try.prog) (y1.alloc (.cells (List.replicate q (.int .u8 0)).toArray 5)) 22 9 5 Try.underlying22 (by kernel_rfl) (by kernel_rfl) y1.heap.size q q (heap_alloc_new _ _)
       have hD1 := HDd.out.grown hg1 (fun q e => by injection e with e; omega)
       have hD2 := hD1.stays ((Below.refl _ _).alloc (Nat.le_refl _) (.cells (List.replicate q (.int .u8 0)).toArray 5))
       have hC2 := hc1.new (.cells (List.replicate q (.int .u8 0)).toArray 5)
       have hG2 := gnew (gtrans HGd.out hg1) (.cells (List.replicate q (.int .u8 0)).toArray 5)
       rw [hy2] at hmk hcv hD2 hC2 hG2
       obtain ⟨e0, e1⟩ := hD1.1.cells
       obtain ⟨m0, m1⟩ := hD2.1.cells
       have fz : y2.frozen? ⟨g', 0, none⟩ = false := hD2.2.2.2.1.1.frozenAt _
       obtain ⟨u0, hu0⟩ : ∃ u, y2.cell? ⟨g', 0, none⟩ = some u := (by
         have hyl : (scells Y).length = n' := (by rw [scells_len]; exact hD2.2.2.2.1.len)
         rw [hD2.2.2.2.1.1.cellAt _ (by omega)]
         exact ⟨_, List.getElem?_eq_getElem (by omega)⟩))
    | fail)
  all_goals
    obtain ⟨w6, hw6⟩ : ∃ w6, y2.setCell ⟨g', 0, none⟩ (.string s) = w6 := ⟨_, rfl⟩
    have HD6 : Hid (DV w w6 b A n C (some ⟨g', 0, none⟩) n' C' X (Y.set 0 s)) := by show DV _ _ _ _ _ _ _ _ _ _ _; rw [← hw6]; exact hD2.sure 0 s (by unfold maxLen; omega)
    have HC6 : Hid (Cur w6 B c a len cap zs) := by show Cur _ _ _ _ _ _ _; rw [← hw6]; exact hC2.put (by omega) _
    have HG6 : Hid (w.grownBy w6 (some c)) := by show World.grownBy _ _ _; rw [← hw6]; exact gput hG2 (by omega) _
    rw [hw6]
    clear hw6 hy2 hD1 hD2 hC2 hG2 hc1 hg1 hmk hcv e0 e1 m0 m1 fz hu0 hq hqw HDd HCd HGd c0 c1
    obtain ⟨c0, c1⟩ := HD6.out.1.cells
    obtain ⟨r0, r1⟩ := HD6.out.2.1.cells
    have f0 := HD6.out.2.1.frozen 0
    have f1 := HD6.out.2.1.frozen 1
    have HR := (show Hid _ from HD6.out.fin HC6.out HG6.out hcw (by omega) (by omega))
    clear HD6 HC6 HG6
    go_wp2_with fail
    refine bodyPost_ret (v := .agg #[.slice A n C, .slice (some ⟨g', 0, none⟩) n' C']) (by simp [results, Try.f16, go_sem, r0, r1]) rfl ?_
    exact ⟨⟨_, rfl, HR.out.1⟩, HR.out.2⟩

end Go.Proofs.Ytnbmlkkjgecigae
