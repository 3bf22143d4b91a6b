/- The reader of a block: one step (Add). The reader of a block: one step (Never). The reader of a block: one step (Plain). The reader of a block: one step. What the program's GetFields answers, in memory of its own; nothing that was there is written. -/
import Derived.Test.YtckpacifimpkgacGreatM18
import Derived.Test.YtckpacifimpkgacGreatM11
import Derived.Test.YtckpacifimpkgacGreatM11
namespace Go.Proofs.YtckpacifimpkgacGreat
open Go.RowKit
set_option linter.unusedVariables false

set_option maxRecDepth 10000 in
set_option maxHeartbeats 3200000 in
theorem rdStep_add (w00 : World) (r bb off len cap i : Nat) (zs : List Int) (most m : Int) (ta : Option Addr) (tl tc : Nat) (xs : List Fld) (fa : Option Addr) (fl fc : Nat) (fs : List Fld) (w : World) (h0 : Below w00.heap.size w00 w) (hs : Seg w00 (some ⟨bb, off, none⟩) len zs) (hbb : bb < w00.heap.size)
    (hr : RdO w w00.heap.size r (.slice (some ⟨bb, off, none⟩) len cap) i most m ta tl tc xs fa fl fc fs) (hcap : len ≤ cap) (hl : len ≤ 1099511627776) (hi : i < len) (hok : okT m xs = true) (hfl : fl ≤ 100) (h1 : 64 ≤ zs.getD i 0) (h2 : zs.getD i 0 < 128) :
    Calls Tryz.prog 18 #[.pointer (some ⟨r, 0, none⟩)] w fun e w' => ∃ (code j m' : Int) (va : Option Addr) (k vc : Nat) (ys : List Fld) (fa' : Option Addr) (fc' : Nat) (gs : List Fld), StepAns zs most i m xs fs j m' ys gs code ∧ e = .returned (.int .i64 code) ∧ Below w00.heap.size w00 w' ∧ (code = 0 → RdO w' w00.heap.size r (.slice (some ⟨bb, off, none⟩) len cap) j most m' va k vc ys fa' gs.length fc' gs) := by
  have HS : Hid (∀ W, Below w00.heap.size w00 W → Seg W (some ⟨bb, off, none⟩) len zs) := fun W h => hs.below h
  have HB : Hid (Below w00.heap.size w00 w) := h0
  have HR : Hid (RdO w w00.heap.size r (.slice (some ⟨bb, off, none⟩) len cap) i most m ta tl tc xs fa fl fc fs) := hr
  have HFl : Hid (fs.length = fl) := hr.2.2.2.1.len
  have htl : tl + fldBytes xs ≤ 4096 := by have h3 := okT_small hok; have h4 := hr.2.2.1.len; omega
  have hzl : zs.length = len := hs.1
  obtain ⟨c0, c1, c2, c3, c4, c5, c6⟩ := hr.1.cells
  have c7 : w.cell? ⟨bb, off + i, none⟩ = some (.int .u8 (zs.getD i 0)) := by
    rcases (hs.below h0).2.2 with h | ⟨b', off', e, hb, hc⟩
    · omega
    · cases e
      have := hc i (by omega)
      rw [this, List.getD, List.getElem?_eq_getElem (by omega)]
  have hT : formL (zs.getD i 0) = 99 := by rw [formL, if_neg (by omega), if_pos (by omega)]
  have hbits : bitsL (zs.getD i 0) = 6 := by rw [bitsL, if_neg (by omega), if_pos (by omega)]
  have HZ : Hid (∀ x ∈ zs, 0 ≤ x ∧ x ≤ 255) := hs.2.1
  clear hr h0 hs
  generalize hcc : zs.getD i 0 = c at *
  have hii : (i : Int) < (len : Int) := by omega
  have hi0 : (0 : Int) ≤ (i : Int) := by omega
  go_enter Tryz.func18, Tryz.ntmps18
  go_wp2_with fail
  go_region_held3 (fun W => W.cell? ⟨r, 0, none⟩ = some (.slice (some ⟨bb, off, none⟩) len cap) ∧ W.cell? ⟨r, 1, none⟩ = some (.int .i64 i) ∧ W.cell? ⟨bb, off + i, none⟩ = some (.int .u8 c)) (first | (refine ⟨?_, ?_, ?_⟩ <;> assumption) | (refine ⟨?_, ?_, ?_⟩ <;> (simp [go_sem, *]; done)) | go_keep) (first
    | (go_at_call 38; refine (formOf_any c _).mono ?_; rintro e y1 ⟨rfl, rfl⟩)
    | fail)
  go_wp2_with fail
  refine (lead_add _).mono ?_
  rintro e y2 ⟨rfl, hb2⟩
  have hb2' : Below w.heap.size w y2 := (Below.refl w.heap.size w).drew.trans (hb2.mono (Nat.le_refl _))
  have HR2 : Hid (RdO y2 w00.heap.size r (.slice (some ⟨bb, off, none⟩) len cap) i most m ta tl tc xs fa fl fc fs) := HR.out.stays hb2'
  have HB2 : Hid (Below w00.heap.size w00 y2) := HB.out.trans (hb2'.mono HB.out.size)
  clear hb2 hb2' c0 c1 c2 c3 c4 c5 c6 c7
  obtain ⟨c0, c1, _, _, _, _, _⟩ := HR2.out.1.cells
  obtain ⟨⟨n, p, ok⟩, hgp⟩ : ∃ q, getPfx zs (i : Int) 6 = q := ⟨_, rfl⟩
  have HG : Hid (∀ W, Below w00.heap.size w00 W → Calls Tryz.prog 39 #[.slice (some ⟨bb, off, none⟩) len cap, .int .i64 i, .int .i64 6] W fun e w' => e = .returned (.tuple #[.int .i64 n, .int .i64 p, .bool ok]) ∧ Below W.heap.size W w') := fun W h => by
    have := implGpx_any bb off len cap i 6 zs W (HS.out W h) hcap hl
    rw [hgp] at this
    exact this
  have HGp : Hid (getPfx zs (i : Int) (bitsL (zs.getD i 0)) = (n, p, ok)) := by show _ = _; rw [hcc, hbits]; exact hgp
  clear hgp
  have HTT : Hid (formL (zs.getD i 0) = 99) := by show _ = _; rw [hcc]; exact hT
  clear hT hbits hcc
  go_wp2_with fail
  go_region_held3 (fun W => W.cell? ⟨r, 0, none⟩ = some (.slice (some ⟨bb, off, none⟩) len cap) ∧ W.cell? ⟨r, 1, none⟩ = some (.int .i64 i)) (first | (refine ⟨?_, ?_⟩ <;> assumption) | (refine ⟨?_, ?_⟩ <;> (simp [go_sem, *]; done)) | go_keep) (first
    | (go_at_call 39; refine (HG.out _ HB2.out.drew).mono ?_; rintro e y3 ⟨rfl, hb3⟩
       have hb3' : Below y2.heap.size y2 y3 := (Below.refl y2.heap.size y2).drew.trans (hb3.mono (Nat.le_refl _))
       obtain ⟨k0, k1, _, _, _, _, _⟩ := (HR2.out.stays hb3').1.cells)
    | fail)
  have HR3 : Hid (RdO y3 w00.heap.size r (.slice (some ⟨bb, off, none⟩) len cap) i most m ta tl tc xs fa fl fc fs) := HR2.out.stays hb3'
  have HB3 : Hid (Below w00.heap.size w00 y3) := HB2.out.trans (hb3'.mono HB2.out.size)
  clear hb3 hb3' k0 k1 c0 c1 HR2 HB2 HR HB HG
  cases ok with
  | false =>
    go_wp2_with fail
    go_ret
    exact ⟨1, 0, 0, none, 0, 0, [], none, 0, [], ⟨n, p, false, HGp.out, .inl ⟨rfl, rfl⟩⟩, rfl, HB3.out, fun h => by cases h⟩
  | true =>
    have hta : ∀ w : World, (Instr.typeAssert (.iface 99 (.agg #[])) 69 80 true).run Tryz.prog w = .ok (.tuple #[.agg #[], .bool false]) w := fun w => assert_no Tryz.underlying80 (by kernel_rfl) (by decide) w
    have htb : ∀ w : World, (Instr.typeAssert (.iface 99 (.agg #[])) 69 82 true).run Tryz.prog w = .ok (.tuple #[.agg #[], .bool false]) w := fun w => assert_no Tryz.underlying82 (by kernel_rfl) (by decide) w
    obtain ⟨_, k1, _, _, _, _, k6⟩ := HR3.out.1.cells
    have k7 := k6 1 (by omega)
    clear k6
    have HR4 : Hid (RdO (y3.setCell ⟨r, 1, none⟩ (.int .i64 p)) w00.heap.size r (.slice (some ⟨bb, off, none⟩) len cap) p most m ta tl tc xs fa fl fc fs) := HR3.out.setAt p
    have HB4 : Hid (Below w00.heap.size w00 (y3.setCell ⟨r, 1, none⟩ (.int .i64 p))) := HB3.out.setCell (p := ⟨r, 1, none⟩) HR3.out.2.1 _
    have hnp := getPfx_bound zs i _ n p HZ.out HGp.out
    have hn1 := hnp.1
    have hn2 := hnp.2.1
    clear hnp
    obtain ⟨y4, hy4⟩ : ∃ y4, y3.setCell ⟨r, 1, none⟩ (.int .i64 p) = y4 := ⟨_, rfl⟩
    rw [hy4] at HR4 HB4
    obtain ⟨_, _, _, l3, l4, _, _⟩ := HR4.out.1.cells
    go_wp2_with fail
    refine (rdLit_any r bb off len cap p most m ta tl tc xs _ zs n y4 HR4.out.1 (HS.out _ HB4.out) (by have := HR4.out.2.1; omega) HR4.out.2.2.1.flds hcap hl (by omega) (by omega)).mono ?_
    rintro e y5 ⟨x, y, j1, c1, hlit, rfl, hr5, hg5⟩
    have HR5 : Hid (RdO y5 w00.heap.size r (.slice (some ⟨bb, off, none⟩) len cap) j1 most m ta tl tc xs fa fl fc fs) := HR4.out.read hg5 hr5
    have HB5 : Hid (Below w00.heap.size w00 y5) := HB4.out.grown hg5 HB4.out.size (fun q e => by injection e with e; rw [← e]; exact HR4.out.2.1)
    have HLit : Hid (LitAns zs p xs n x y j1 c1) := hlit
    obtain ⟨hsx, hsy⟩ := LitAns.short hok hlit
    clear hlit hr5 hg5 hy4 l3 l4 HR4 HB4
    by_cases hc1 : c1 = 0
    · subst hc1
      obtain ⟨y6, hy6⟩ : ∃ y6, y5.alloc (.cells #[.string x, .string y] 43) = y6 := ⟨_, rfl⟩
      have hb56 : Below y5.heap.size y5 y6 := by rw [← hy6]; exact (Below.refl _ _).alloc (Nat.le_refl _) _
      have HR6 : Hid (RdO y6 w00.heap.size r (.slice (some ⟨bb, off, none⟩) len cap) j1 most m ta tl tc xs fa fl fc fs) := HR5.out.stays hb56
      have HB6 : Hid (Below w00.heap.size w00 y6) := HB5.out.trans (hb56.mono HB5.out.size)
      obtain ⟨f0, f1, _, _⟩ : y6.cell? ⟨y5.heap.size, 0, none⟩ = some (.string x) ∧ y6.cell? ⟨y5.heap.size, 1, none⟩ = some (.string y) ∧ y6.frozen? ⟨y5.heap.size, 0, none⟩ = false ∧ y6.frozen? ⟨y5.heap.size, 1, none⟩ = false := by rw [← hy6]; exact (Box2.new y5 43 (.string x) (.string y)).cells
      clear hb56
      go_wp2_with fail
      refine (rdTake_any 99 (by decide) r w00.heap.size _ j1 most m ta tl tc xs fa fl fc fs x y y6 HR6.out HB6.out.size ⟨by unfold maxLen; omega, by unfold maxLen; omega⟩ (by omega) hfl).mono ?_
      rintro e y7 (⟨hc, rfl, hb7⟩ | ⟨hc, rfl, va, k, vc, ys, fa', fc', hans, hr7, hb7⟩)
      · have HB7 : Hid (Below w00.heap.size w00 y7) := HB6.out.trans hb7
        have HC7 : Hid (fs.length = 100) := by show _ = _; rw [HFl.out]; exact hc
        clear hb7 hc
        go_wp2_with fail
        go_ret
        exact ⟨4, j1, m, none, 0, 0, [], none, 0, [], ⟨n, p, true, HGp.out, .inr ⟨rfl, .inr (.inr ⟨by rw [HTT.out]; decide, by rw [HTT.out]; decide, x, y, j1, 0, HLit.out, .inr ⟨rfl, rfl, rfl, .inl ⟨HC7.out, rfl⟩⟩⟩)⟩⟩, rfl, HB7.out, fun h => by cases h⟩
      · have HB7 : Hid (Below w00.heap.size w00 y7) := HB6.out.trans hb7
        have HC7 : Hid (fs.length ≠ 100) := by show ¬ _ = _; rw [HFl.out]; exact hc
        have HR7 : Hid (RdO y7 w00.heap.size r (.slice (some ⟨bb, off, none⟩) len cap) j1 most m va k vc ys fa' (fl + 1) fc' (fs ++ [(x, y)])) := hr7
        have HAns : Hid _ := hans
        clear hb7 hc hr7 hans
        go_wp2_with fail
        go_ret
        exact ⟨0, j1, m, va, k, vc, ys, fa', fc', fs ++ [(x, y)], ⟨n, p, true, HGp.out, .inr ⟨rfl, .inr (.inr ⟨by rw [HTT.out]; decide, by rw [HTT.out]; decide, x, y, j1, 0, HLit.out, .inr ⟨rfl, rfl, rfl, .inr ⟨HC7.out, rfl, rfl, by rw [HTT.out]; first | exact HAns.out | simpa using HAns.out⟩⟩⟩)⟩⟩, rfl, HB7.out, fun _ => by rw [List.length_append, HFl.out]; exact HR7.out⟩
    · have hc2 : (c1 != 0) = true := by simpa using hc1
      have HC1 : Hid (c1 ≠ 0) := hc1
      obtain ⟨y6, hy6⟩ : ∃ y6, y5.alloc (.cells #[.string x, .string y] 43) = y6 := ⟨_, rfl⟩
      have hb56 : Below y5.heap.size y5 y6 := by rw [← hy6]; exact (Below.refl _ _).alloc (Nat.le_refl _) _
      have HR6 : Hid (RdO y6 w00.heap.size r (.slice (some ⟨bb, off, none⟩) len cap) j1 most m ta tl tc xs fa fl fc fs) := HR5.out.stays hb56
      have HB6 : Hid (Below w00.heap.size w00 y6) := HB5.out.trans (hb56.mono HB5.out.size)
      obtain ⟨f0, f1, _, _⟩ : y6.cell? ⟨y5.heap.size, 0, none⟩ = some (.string x) ∧ y6.cell? ⟨y5.heap.size, 1, none⟩ = some (.string y) ∧ y6.frozen? ⟨y5.heap.size, 0, none⟩ = false ∧ y6.frozen? ⟨y5.heap.size, 1, none⟩ = false := by rw [← hy6]; exact (Box2.new y5 43 (.string x) (.string y)).cells
      clear hb56
      go_wp2_with fail
      go_ret
      exact ⟨c1, 0, 0, none, 0, 0, [], none, 0, [], ⟨n, p, true, HGp.out, .inr ⟨rfl, .inr (.inr ⟨by rw [HTT.out]; decide, by rw [HTT.out]; decide, x, y, j1, c1, HLit.out, .inl ⟨HC1.out, rfl⟩⟩)⟩⟩, rfl, HB6.out, fun h => absurd h HC1.out⟩

end Go.Proofs.YtckpacifimpkgacGreat

namespace Go.Proofs.YtckpacifimpkgacGreat
open Go.RowKit
set_option linter.unusedVariables false

set_option maxRecDepth 10000 in
set_option maxHeartbeats 3200000 in
theorem rdStep_never (w00 : World) (r bb off len cap i : Nat) (zs : List Int) (most m : Int) (ta : Option Addr) (tl tc : Nat) (xs : List Fld) (fa : Option Addr) (fl fc : Nat) (fs : List Fld) (w : World) (h0 : Below w00.heap.size w00 w) (hs : Seg w00 (some ⟨bb, off, none⟩) len zs) (hbb : bb < w00.heap.size)
    (hr : RdO w w00.heap.size r (.slice (some ⟨bb, off, none⟩) len cap) i most m ta tl tc xs fa fl fc fs) (hcap : len ≤ cap) (hl : len ≤ 1099511627776) (hi : i < len) (hok : okT m xs = true) (hfl : fl ≤ 100) (h1 : 16 ≤ zs.getD i 0) (h2 : zs.getD i 0 < 32) :
    Calls Tryz.prog 18 #[.pointer (some ⟨r, 0, none⟩)] w fun e w' => ∃ (code j m' : Int) (va : Option Addr) (k vc : Nat) (ys : List Fld) (fa' : Option Addr) (fc' : Nat) (gs : List Fld), StepAns zs most i m xs fs j m' ys gs code ∧ e = .returned (.int .i64 code) ∧ Below w00.heap.size w00 w' ∧ (code = 0 → RdO w' w00.heap.size r (.slice (some ⟨bb, off, none⟩) len cap) j most m' va k vc ys fa' gs.length fc' gs) := by
  have HS : Hid (∀ W, Below w00.heap.size w00 W → Seg W (some ⟨bb, off, none⟩) len zs) := fun W h => hs.below h
  have HB : Hid (Below w00.heap.size w00 w) := h0
  have HR : Hid (RdO w w00.heap.size r (.slice (some ⟨bb, off, none⟩) len cap) i most m ta tl tc xs fa fl fc fs) := hr
  have HFl : Hid (fs.length = fl) := hr.2.2.2.1.len
  have htl : tl + fldBytes xs ≤ 4096 := by have h3 := okT_small hok; have h4 := hr.2.2.1.len; omega
  have hzl : zs.length = len := hs.1
  obtain ⟨c0, c1, c2, c3, c4, c5, c6⟩ := hr.1.cells
  have c7 : w.cell? ⟨bb, off + i, none⟩ = some (.int .u8 (zs.getD i 0)) := by
    rcases (hs.below h0).2.2 with h | ⟨b', off', e, hb, hc⟩
    · omega
    · cases e
      have := hc i (by omega)
      rw [this, List.getD, List.getElem?_eq_getElem (by omega)]
  have hT : formL (zs.getD i 0) = 98 := by rw [formL, if_neg (by omega), if_neg (by omega), if_neg (by omega), if_pos (by omega)]
  have hbits : bitsL (zs.getD i 0) = 4 := by rw [bitsL, if_neg (by omega), if_neg (by omega), if_neg (by omega)]
  have HZ : Hid (∀ x ∈ zs, 0 ≤ x ∧ x ≤ 255) := hs.2.1
  clear hr h0 hs
  generalize hcc : zs.getD i 0 = c at *
  have hii : (i : Int) < (len : Int) := by omega
  have hi0 : (0 : Int) ≤ (i : Int) := by omega
  go_enter Tryz.func18, Tryz.ntmps18
  go_wp2_with fail
  go_region_held3 (fun W => W.cell? ⟨r, 0, none⟩ = some (.slice (some ⟨bb, off, none⟩) len cap) ∧ W.cell? ⟨r, 1, none⟩ = some (.int .i64 i) ∧ W.cell? ⟨bb, off + i, none⟩ = some (.int .u8 c)) (first | (refine ⟨?_, ?_, ?_⟩ <;> assumption) | (refine ⟨?_, ?_, ?_⟩ <;> (simp [go_sem, *]; done)) | go_keep) (first
    | (go_at_call 38; refine (formOf_any c _).mono ?_; rintro e y1 ⟨rfl, rfl⟩)
    | fail)
  go_wp2_with fail
  refine (lead_never _).mono ?_
  rintro e y2 ⟨rfl, hb2⟩
  have hb2' : Below w.heap.size w y2 := (Below.refl w.heap.size w).drew.trans (hb2.mono (Nat.le_refl _))
  have HR2 : Hid (RdO y2 w00.heap.size r (.slice (some ⟨bb, off, none⟩) len cap) i most m ta tl tc xs fa fl fc fs) := HR.out.stays hb2'
  have HB2 : Hid (Below w00.heap.size w00 y2) := HB.out.trans (hb2'.mono HB.out.size)
  clear hb2 hb2' c0 c1 c2 c3 c4 c5 c6 c7
  obtain ⟨c0, c1, _, _, _, _, _⟩ := HR2.out.1.cells
  obtain ⟨⟨n, p, ok⟩, hgp⟩ : ∃ q, getPfx zs (i : Int) 4 = q := ⟨_, rfl⟩
  have HG : Hid (∀ W, Below w00.heap.size w00 W → Calls Tryz.prog 39 #[.slice (some ⟨bb, off, none⟩) len cap, .int .i64 i, .int .i64 4] W fun e w' => e = .returned (.tuple #[.int .i64 n, .int .i64 p, .bool ok]) ∧ Below W.heap.size W w') := fun W h => by
    have := implGpx_any bb off len cap i 4 zs W (HS.out W h) hcap hl
    rw [hgp] at this
    exact this
  have HGp : Hid (getPfx zs (i : Int) (bitsL (zs.getD i 0)) = (n, p, ok)) := by show _ = _; rw [hcc, hbits]; exact hgp
  clear hgp
  have HTT : Hid (formL (zs.getD i 0) = 98) := by show _ = _; rw [hcc]; exact hT
  clear hT hbits hcc
  go_wp2_with fail
  go_region_held3 (fun W => W.cell? ⟨r, 0, none⟩ = some (.slice (some ⟨bb, off, none⟩) len cap) ∧ W.cell? ⟨r, 1, none⟩ = some (.int .i64 i)) (first | (refine ⟨?_, ?_⟩ <;> assumption) | (refine ⟨?_, ?_⟩ <;> (simp [go_sem, *]; done)) | go_keep) (first
    | (go_at_call 39; refine (HG.out _ HB2.out.drew).mono ?_; rintro e y3 ⟨rfl, hb3⟩
       have hb3' : Below y2.heap.size y2 y3 := (Below.refl y2.heap.size y2).drew.trans (hb3.mono (Nat.le_refl _))
       obtain ⟨k0, k1, _, _, _, _, _⟩ := (HR2.out.stays hb3').1.cells)
    | fail)
  have HR3 : Hid (RdO y3 w00.heap.size r (.slice (some ⟨bb, off, none⟩) len cap) i most m ta tl tc xs fa fl fc fs) := HR2.out.stays hb3'
  have HB3 : Hid (Below w00.heap.size w00 y3) := HB2.out.trans (hb3'.mono HB2.out.size)
  clear hb3 hb3' k0 k1 c0 c1 HR2 HB2 HR HB HG
  cases ok with
  | false =>
    go_wp2_with fail
    go_ret
    exact ⟨1, 0, 0, none, 0, 0, [], none, 0, [], ⟨n, p, false, HGp.out, .inl ⟨rfl, rfl⟩⟩, rfl, HB3.out, fun h => by cases h⟩
  | true =>
    have hta : ∀ w : World, (Instr.typeAssert (.iface 98 (.agg #[])) 69 80 true).run Tryz.prog w = .ok (.tuple #[.agg #[], .bool false]) w := fun w => assert_no Tryz.underlying80 (by kernel_rfl) (by decide) w
    have htb : ∀ w : World, (Instr.typeAssert (.iface 98 (.agg #[])) 69 82 true).run Tryz.prog w = .ok (.tuple #[.agg #[], .bool false]) w := fun w => assert_no Tryz.underlying82 (by kernel_rfl) (by decide) w
    obtain ⟨_, k1, _, _, _, _, k6⟩ := HR3.out.1.cells
    have k7 := k6 1 (by omega)
    clear k6
    have HR4 : Hid (RdO (y3.setCell ⟨r, 1, none⟩ (.int .i64 p)) w00.heap.size r (.slice (some ⟨bb, off, none⟩) len cap) p most m ta tl tc xs fa fl fc fs) := HR3.out.setAt p
    have HB4 : Hid (Below w00.heap.size w00 (y3.setCell ⟨r, 1, none⟩ (.int .i64 p))) := HB3.out.setCell (p := ⟨r, 1, none⟩) HR3.out.2.1 _
    have hnp := getPfx_bound zs i _ n p HZ.out HGp.out
    have hn1 := hnp.1
    have hn2 := hnp.2.1
    clear hnp
    obtain ⟨y4, hy4⟩ : ∃ y4, y3.setCell ⟨r, 1, none⟩ (.int .i64 p) = y4 := ⟨_, rfl⟩
    rw [hy4] at HR4 HB4
    obtain ⟨_, _, _, l3, l4, _, _⟩ := HR4.out.1.cells
    go_wp2_with fail
    refine (rdLit_any r bb off len cap p most m ta tl tc xs _ zs n y4 HR4.out.1 (HS.out _ HB4.out) (by have := HR4.out.2.1; omega) HR4.out.2.2.1.flds hcap hl (by omega) (by omega)).mono ?_
    rintro e y5 ⟨x, y, j1, c1, hlit, rfl, hr5, hg5⟩
    have HR5 : Hid (RdO y5 w00.heap.size r (.slice (some ⟨bb, off, none⟩) len cap) j1 most m ta tl tc xs fa fl fc fs) := HR4.out.read hg5 hr5
    have HB5 : Hid (Below w00.heap.size w00 y5) := HB4.out.grown hg5 HB4.out.size (fun q e => by injection e with e; rw [← e]; exact HR4.out.2.1)
    have HLit : Hid (LitAns zs p xs n x y j1 c1) := hlit
    obtain ⟨hsx, hsy⟩ := LitAns.short hok hlit
    clear hlit hr5 hg5 hy4 l3 l4 HR4 HB4
    by_cases hc1 : c1 = 0
    · subst hc1
      obtain ⟨y6, hy6⟩ : ∃ y6, y5.alloc (.cells #[.string x, .string y] 43) = y6 := ⟨_, rfl⟩
      have hb56 : Below y5.heap.size y5 y6 := by rw [← hy6]; exact (Below.refl _ _).alloc (Nat.le_refl _) _
      have HR6 : Hid (RdO y6 w00.heap.size r (.slice (some ⟨bb, off, none⟩) len cap) j1 most m ta tl tc xs fa fl fc fs) := HR5.out.stays hb56
      have HB6 : Hid (Below w00.heap.size w00 y6) := HB5.out.trans (hb56.mono HB5.out.size)
      obtain ⟨f0, f1, _, _⟩ : y6.cell? ⟨y5.heap.size, 0, none⟩ = some (.string x) ∧ y6.cell? ⟨y5.heap.size, 1, none⟩ = some (.string y) ∧ y6.frozen? ⟨y5.heap.size, 0, none⟩ = false ∧ y6.frozen? ⟨y5.heap.size, 1, none⟩ = false := by rw [← hy6]; exact (Box2.new y5 43 (.string x) (.string y)).cells
      clear hb56
      go_wp2_with fail
      refine (rdTake_any 98 (by decide) r w00.heap.size _ j1 most m ta tl tc xs fa fl fc fs x y y6 HR6.out HB6.out.size ⟨by unfold maxLen; omega, by unfold maxLen; omega⟩ (by omega) hfl).mono ?_
      rintro e y7 (⟨hc, rfl, hb7⟩ | ⟨hc, rfl, va, k, vc, ys, fa', fc', hans, hr7, hb7⟩)
      · have HB7 : Hid (Below w00.heap.size w00 y7) := HB6.out.trans hb7
        have HC7 : Hid (fs.length = 100) := by show _ = _; rw [HFl.out]; exact hc
        clear hb7 hc
        go_wp2_with fail
        go_ret
        exact ⟨4, j1, m, none, 0, 0, [], none, 0, [], ⟨n, p, true, HGp.out, .inr ⟨rfl, .inr (.inr ⟨by rw [HTT.out]; decide, by rw [HTT.out]; decide, x, y, j1, 0, HLit.out, .inr ⟨rfl, rfl, rfl, .inl ⟨HC7.out, rfl⟩⟩⟩)⟩⟩, rfl, HB7.out, fun h => by cases h⟩
      · have HB7 : Hid (Below w00.heap.size w00 y7) := HB6.out.trans hb7
        have HC7 : Hid (fs.length ≠ 100) := by show ¬ _ = _; rw [HFl.out]; exact hc
        have HR7 : Hid (RdO y7 w00.heap.size r (.slice (some ⟨bb, off, none⟩) len cap) j1 most m va k vc ys fa' (fl + 1) fc' (fs ++ [(x, y)])) := hr7
        have HAns : Hid _ := hans
        clear hb7 hc hr7 hans
        go_wp2_with fail
        go_ret
        exact ⟨0, j1, m, va, k, vc, ys, fa', fc', fs ++ [(x, y)], ⟨n, p, true, HGp.out, .inr ⟨rfl, .inr (.inr ⟨by rw [HTT.out]; decide, by rw [HTT.out]; decide, x, y, j1, 0, HLit.out, .inr ⟨rfl, rfl, rfl, .inr ⟨HC7.out, rfl, rfl, by rw [HTT.out]; first | exact HAns.out | simpa using HAns.out⟩⟩⟩)⟩⟩, rfl, HB7.out, fun _ => by rw [List.length_append, HFl.out]; exact HR7.out⟩
    · have hc2 : (c1 != 0) = true := by simpa using hc1
      have HC1 : Hid (c1 ≠ 0) := hc1
      obtain ⟨y6, hy6⟩ : ∃ y6, y5.alloc (.cells #[.string x, .string y] 43) = y6 := ⟨_, rfl⟩
      have hb56 : Below y5.heap.size y5 y6 := by rw [← hy6]; exact (Below.refl _ _).alloc (Nat.le_refl _) _
      have HR6 : Hid (RdO y6 w00.heap.size r (.slice (some ⟨bb, off, none⟩) len cap) j1 most m ta tl tc xs fa fl fc fs) := HR5.out.stays hb56
      have HB6 : Hid (Below w00.heap.size w00 y6) := HB5.out.trans (hb56.mono HB5.out.size)
      obtain ⟨f0, f1, _, _⟩ : y6.cell? ⟨y5.heap.size, 0, none⟩ = some (.string x) ∧ y6.cell? ⟨y5.heap.size, 1, none⟩ = some (.string y) ∧ y6.frozen? ⟨y5.heap.size, 0, none⟩ = false ∧ y6.frozen? ⟨y5.heap.size, 1, none⟩ = false := by rw [← hy6]; exact (Box2.new y5 43 (.string x) (.string y)).cells
      clear hb56
      go_wp2_with fail
      go_ret
      exact ⟨c1, 0, 0, none, 0, 0, [], none, 0, [], ⟨n, p, true, HGp.out, .inr ⟨rfl, .inr (.inr ⟨by rw [HTT.out]; decide, by rw [HTT.out]; decide, x, y, j1, c1, HLit.out, .inl ⟨HC1.out, rfl⟩⟩)⟩⟩, rfl, HB6.out, fun h => absurd h HC1.out⟩

end Go.Proofs.YtckpacifimpkgacGreat

namespace Go.Proofs.YtckpacifimpkgacGreat
open Go.RowKit
set_option linter.unusedVariables false

set_option maxRecDepth 10000 in
set_option maxHeartbeats 3200000 in
theorem rdStep_plain (w00 : World) (r bb off len cap i : Nat) (zs : List Int) (most m : Int) (ta : Option Addr) (tl tc : Nat) (xs : List Fld) (fa : Option Addr) (fl fc : Nat) (fs : List Fld) (w : World) (h0 : Below w00.heap.size w00 w) (hs : Seg w00 (some ⟨bb, off, none⟩) len zs) (hbb : bb < w00.heap.size)
    (hr : RdO w w00.heap.size r (.slice (some ⟨bb, off, none⟩) len cap) i most m ta tl tc xs fa fl fc fs) (hcap : len ≤ cap) (hl : len ≤ 1099511627776) (hi : i < len) (hok : okT m xs = true) (hfl : fl ≤ 100) (h2 : zs.getD i 0 < 16) :
    Calls Tryz.prog 18 #[.pointer (some ⟨r, 0, none⟩)] w fun e w' => ∃ (code j m' : Int) (va : Option Addr) (k vc : Nat) (ys : List Fld) (fa' : Option Addr) (fc' : Nat) (gs : List Fld), StepAns zs most i m xs fs j m' ys gs code ∧ e = .returned (.int .i64 code) ∧ Below w00.heap.size w00 w' ∧ (code = 0 → RdO w' w00.heap.size r (.slice (some ⟨bb, off, none⟩) len cap) j most m' va k vc ys fa' gs.length fc' gs) := by
  have HS : Hid (∀ W, Below w00.heap.size w00 W → Seg W (some ⟨bb, off, none⟩) len zs) := fun W h => hs.below h
  have HB : Hid (Below w00.heap.size w00 w) := h0
  have HR : Hid (RdO w w00.heap.size r (.slice (some ⟨bb, off, none⟩) len cap) i most m ta tl tc xs fa fl fc fs) := hr
  have HFl : Hid (fs.length = fl) := hr.2.2.2.1.len
  have htl : tl + fldBytes xs ≤ 4096 := by have h3 := okT_small hok; have h4 := hr.2.2.1.len; omega
  have hzl : zs.length = len := hs.1
  obtain ⟨c0, c1, c2, c3, c4, c5, c6⟩ := hr.1.cells
  have c7 : w.cell? ⟨bb, off + i, none⟩ = some (.int .u8 (zs.getD i 0)) := by
    rcases (hs.below h0).2.2 with h | ⟨b', off', e, hb, hc⟩
    · omega
    · cases e
      have := hc i (by omega)
      rw [this, List.getD, List.getElem?_eq_getElem (by omega)]
  have hT : formL (zs.getD i 0) = 100 := by rw [formL, if_neg (by omega), if_neg (by omega), if_neg (by omega), if_neg (by omega)]
  have hbits : bitsL (zs.getD i 0) = 4 := by rw [bitsL, if_neg (by omega), if_neg (by omega), if_neg (by omega)]
  have HZ : Hid (∀ x ∈ zs, 0 ≤ x ∧ x ≤ 255) := hs.2.1
  clear hr h0 hs
  generalize hcc : zs.getD i 0 = c at *
  have hii : (i : Int) < (len : Int) := by omega
  have hi0 : (0 : Int) ≤ (i : Int) := by omega
  go_enter Tryz.func18, Tryz.ntmps18
  go_wp2_with fail
  go_region_held3 (fun W => W.cell? ⟨r, 0, none⟩ = some (.slice (some ⟨bb, off, none⟩) len cap) ∧ W.cell? ⟨r, 1, none⟩ = some (.int .i64 i) ∧ W.cell? ⟨bb, off + i, none⟩ = some (.int .u8 c)) (first | (refine ⟨?_, ?_, ?_⟩ <;> assumption) | (refine ⟨?_, ?_, ?_⟩ <;> (simp [go_sem, *]; done)) | go_keep) (first
    | (go_at_call 38; refine (formOf_any c _).mono ?_; rintro e y1 ⟨rfl, rfl⟩)
    | fail)
  go_wp2_with fail
  refine (lead_plain _).mono ?_
  rintro e y2 ⟨rfl, hb2⟩
  have hb2' : Below w.heap.size w y2 := (Below.refl w.heap.size w).drew.trans (hb2.mono (Nat.le_refl _))
  have HR2 : Hid (RdO y2 w00.heap.size r (.slice (some ⟨bb, off, none⟩) len cap) i most m ta tl tc xs fa fl fc fs) := HR.out.stays hb2'
  have HB2 : Hid (Below w00.heap.size w00 y2) := HB.out.trans (hb2'.mono HB.out.size)
  clear hb2 hb2' c0 c1 c2 c3 c4 c5 c6 c7
  obtain ⟨c0, c1, _, _, _, _, _⟩ := HR2.out.1.cells
  obtain ⟨⟨n, p, ok⟩, hgp⟩ : ∃ q, getPfx zs (i : Int) 4 = q := ⟨_, rfl⟩
  have HG : Hid (∀ W, Below w00.heap.size w00 W → Calls Tryz.prog 39 #[.slice (some ⟨bb, off, none⟩) len cap, .int .i64 i, .int .i64 4] W fun e w' => e = .returned (.tuple #[.int .i64 n, .int .i64 p, .bool ok]) ∧ Below W.heap.size W w') := fun W h => by
    have := implGpx_any bb off len cap i 4 zs W (HS.out W h) hcap hl
    rw [hgp] at this
    exact this
  have HGp : Hid (getPfx zs (i : Int) (bitsL (zs.getD i 0)) = (n, p, ok)) := by show _ = _; rw [hcc, hbits]; exact hgp
  clear hgp
  have HTT : Hid (formL (zs.getD i 0) = 100) := by show _ = _; rw [hcc]; exact hT
  clear hT hbits hcc
  go_wp2_with fail
  go_region_held3 (fun W => W.cell? ⟨r, 0, none⟩ = some (.slice (some ⟨bb, off, none⟩) len cap) ∧ W.cell? ⟨r, 1, none⟩ = some (.int .i64 i)) (first | (refine ⟨?_, ?_⟩ <;> assumption) | (refine ⟨?_, ?_⟩ <;> (simp [go_sem, *]; done)) | go_keep) (first
    | (go_at_call 39; refine (HG.out _ HB2.out.drew).mono ?_; rintro e y3 ⟨rfl, hb3⟩
       have hb3' : Below y2.heap.size y2 y3 := (Below.refl y2.heap.size y2).drew.trans (hb3.mono (Nat.le_refl _))
       obtain ⟨k0, k1, _, _, _, _, _⟩ := (HR2.out.stays hb3').1.cells)
    | fail)
  have HR3 : Hid (RdO y3 w00.heap.size r (.slice (some ⟨bb, off, none⟩) len cap) i most m ta tl tc xs fa fl fc fs) := HR2.out.stays hb3'
  have HB3 : Hid (Below w00.heap.size w00 y3) := HB2.out.trans (hb3'.mono HB2.out.size)
  clear hb3 hb3' k0 k1 c0 c1 HR2 HB2 HR HB HG
  cases ok with
  | false =>
    go_wp2_with fail
    go_ret
    exact ⟨1, 0, 0, none, 0, 0, [], none, 0, [], ⟨n, p, false, HGp.out, .inl ⟨rfl, rfl⟩⟩, rfl, HB3.out, fun h => by cases h⟩
  | true =>
    have hta : ∀ w : World, (Instr.typeAssert (.iface 100 (.agg #[])) 69 80 true).run Tryz.prog w = .ok (.tuple #[.agg #[], .bool false]) w := fun w => assert_no Tryz.underlying80 (by kernel_rfl) (by decide) w
    have htb : ∀ w : World, (Instr.typeAssert (.iface 100 (.agg #[])) 69 82 true).run Tryz.prog w = .ok (.tuple #[.agg #[], .bool false]) w := fun w => assert_no Tryz.underlying82 (by kernel_rfl) (by decide) w
    obtain ⟨_, k1, _, _, _, _, k6⟩ := HR3.out.1.cells
    have k7 := k6 1 (by omega)
    clear k6
    have HR4 : Hid (RdO (y3.setCell ⟨r, 1, none⟩ (.int .i64 p)) w00.heap.size r (.slice (some ⟨bb, off, none⟩) len cap) p most m ta tl tc xs fa fl fc fs) := HR3.out.setAt p
    have HB4 : Hid (Below w00.heap.size w00 (y3.setCell ⟨r, 1, none⟩ (.int .i64 p))) := HB3.out.setCell (p := ⟨r, 1, none⟩) HR3.out.2.1 _
    have hnp := getPfx_bound zs i _ n p HZ.out HGp.out
    have hn1 := hnp.1
    have hn2 := hnp.2.1
    clear hnp
    obtain ⟨y4, hy4⟩ : ∃ y4, y3.setCell ⟨r, 1, none⟩ (.int .i64 p) = y4 := ⟨_, rfl⟩
    rw [hy4] at HR4 HB4
    obtain ⟨_, _, _, l3, l4, _, _⟩ := HR4.out.1.cells
    go_wp2_with fail
    refine (rdLit_any r bb off len cap p most m ta tl tc xs _ zs n y4 HR4.out.1 (HS.out _ HB4.out) (by have := HR4.out.2.1; omega) HR4.out.2.2.1.flds hcap hl (by omega) (by omega)).mono ?_
    rintro e y5 ⟨x, y, j1, c1, hlit, rfl, hr5, hg5⟩
    have HR5 : Hid (RdO y5 w00.heap.size r (.slice (some ⟨bb, off, none⟩) len cap) j1 most m ta tl tc xs fa fl fc fs) := HR4.out.read hg5 hr5
    have HB5 : Hid (Below w00.heap.size w00 y5) := HB4.out.grown hg5 HB4.out.size (fun q e => by injection e with e; rw [← e]; exact HR4.out.2.1)
    have HLit : Hid (LitAns zs p xs n x y j1 c1) := hlit
    obtain ⟨hsx, hsy⟩ := LitAns.short hok hlit
    clear hlit hr5 hg5 hy4 l3 l4 HR4 HB4
    by_cases hc1 : c1 = 0
    · subst hc1
      obtain ⟨y6, hy6⟩ : ∃ y6, y5.alloc (.cells #[.string x, .string y] 43) = y6 := ⟨_, rfl⟩
      have hb56 : Below y5.heap.size y5 y6 := by rw [← hy6]; exact (Below.refl _ _).alloc (Nat.le_refl _) _
      have HR6 : Hid (RdO y6 w00.heap.size r (.slice (some ⟨bb, off, none⟩) len cap) j1 most m ta tl tc xs fa fl fc fs) := HR5.out.stays hb56
      have HB6 : Hid (Below w00.heap.size w00 y6) := HB5.out.trans (hb56.mono HB5.out.size)
      obtain ⟨f0, f1, _, _⟩ : y6.cell? ⟨y5.heap.size, 0, none⟩ = some (.string x) ∧ y6.cell? ⟨y5.heap.size, 1, none⟩ = some (.string y) ∧ y6.frozen? ⟨y5.heap.size, 0, none⟩ = false ∧ y6.frozen? ⟨y5.heap.size, 1, none⟩ = false := by rw [← hy6]; exact (Box2.new y5 43 (.string x) (.string y)).cells
      clear hb56
      go_wp2_with fail
      refine (rdTake_any 100 (by decide) r w00.heap.size _ j1 most m ta tl tc xs fa fl fc fs x y y6 HR6.out HB6.out.size ⟨by unfold maxLen; omega, by unfold maxLen; omega⟩ (by omega) hfl).mono ?_
      rintro e y7 (⟨hc, rfl, hb7⟩ | ⟨hc, rfl, va, k, vc, ys, fa', fc', hans, hr7, hb7⟩)
      · have HB7 : Hid (Below w00.heap.size w00 y7) := HB6.out.trans hb7
        have HC7 : Hid (fs.length = 100) := by show _ = _; rw [HFl.out]; exact hc
        clear hb7 hc
        go_wp2_with fail
        go_ret
        exact ⟨4, j1, m, none, 0, 0, [], none, 0, [], ⟨n, p, true, HGp.out, .inr ⟨rfl, .inr (.inr ⟨by rw [HTT.out]; decide, by rw [HTT.out]; decide, x, y, j1, 0, HLit.out, .inr ⟨rfl, rfl, rfl, .inl ⟨HC7.out, rfl⟩⟩⟩)⟩⟩, rfl, HB7.out, fun h => by cases h⟩
      · have HB7 : Hid (Below w00.heap.size w00 y7) := HB6.out.trans hb7
        have HC7 : Hid (fs.length ≠ 100) := by show ¬ _ = _; rw [HFl.out]; exact hc
        have HR7 : Hid (RdO y7 w00.heap.size r (.slice (some ⟨bb, off, none⟩) len cap) j1 most m va k vc ys fa' (fl + 1) fc' (fs ++ [(x, y)])) := hr7
        have HAns : Hid _ := hans
        clear hb7 hc hr7 hans
        go_wp2_with fail
        go_ret
        exact ⟨0, j1, m, va, k, vc, ys, fa', fc', fs ++ [(x, y)], ⟨n, p, true, HGp.out, .inr ⟨rfl, .inr (.inr ⟨by rw [HTT.out]; decide, by rw [HTT.out]; decide, x, y, j1, 0, HLit.out, .inr ⟨rfl, rfl, rfl, .inr ⟨HC7.out, rfl, rfl, by rw [HTT.out]; first | exact HAns.out | simpa using HAns.out⟩⟩⟩)⟩⟩, rfl, HB7.out, fun _ => by rw [List.length_append, HFl.out]; exact HR7.out⟩
    · have hc2 : (c1 != 0) = true := by simpa using hc1
      have HC1 : Hid (c1 ≠ 0) := hc1
      obtain ⟨y6, hy6⟩ : ∃ y6, y5.alloc (.cells #[.string x, .string y] 43) = y6 := ⟨_, rfl⟩
      have hb56 : Below y5.heap.size y5 y6 := by rw [← hy6]; exact (Below.refl _ _).alloc (Nat.le_refl _) _
      have HR6 : Hid (RdO y6 w00.heap.size r (.slice (some ⟨bb, off, none⟩) len cap) j1 most m ta tl tc xs fa fl fc fs) := HR5.out.stays hb56
      have HB6 : Hid (Below w00.heap.size w00 y6) := HB5.out.trans (hb56.mono HB5.out.size)
      obtain ⟨f0, f1, _, _⟩ : y6.cell? ⟨y5.heap.size, 0, none⟩ = some (.string x) ∧ y6.cell? ⟨y5.heap.size, 1, none⟩ = some (.string y) ∧ y6.frozen? ⟨y5.heap.size, 0, none⟩ = false ∧ y6.frozen? ⟨y5.heap.size, 1, none⟩ = false := by rw [← hy6]; exact (Box2.new y5 43 (.string x) (.string y)).cells
      clear hb56
      go_wp2_with fail
      go_ret
      exact ⟨c1, 0, 0, none, 0, 0, [], none, 0, [], ⟨n, p, true, HGp.out, .inr ⟨rfl, .inr (.inr ⟨by rw [HTT.out]; decide, by rw [HTT.out]; decide, x, y, j1, c1, HLit.out, .inl ⟨HC1.out, rfl⟩⟩)⟩⟩, rfl, HB6.out, fun h => absurd h HC1.out⟩

end Go.Proofs.YtckpacifimpkgacGreat

namespace Go.Proofs.YtckpacifimpkgacGreat
open Go.RowKit
set_option linter.unusedVariables false

theorem rdStep_any (w00 : World) (r bb off len cap i : Nat) (zs : List Int) (most m : Int) (ta : Option Addr) (tl tc : Nat) (xs : List Fld) (fa : Option Addr) (fl fc : Nat) (fs : List Fld) (w : World) (h0 : Below w00.heap.size w00 w) (hs : Seg w00 (some ⟨bb, off, none⟩) len zs) (hbb : bb < w00.heap.size)
    (hr : RdO w w00.heap.size r (.slice (some ⟨bb, off, none⟩) len cap) i most m ta tl tc xs fa fl fc fs) (hcap : len ≤ cap) (hl : len ≤ 1099511627776) (hi : i < len) (hok : okT m xs = true) (hfl : fl ≤ 100) :
    Calls Tryz.prog 18 #[.pointer (some ⟨r, 0, none⟩)] w fun e w' => ∃ (code j m' : Int) (va : Option Addr) (k vc : Nat) (ys : List Fld) (fa' : Option Addr) (fc' : Nat) (gs : List Fld), StepAns zs most i m xs fs j m' ys gs code ∧ e = .returned (.int .i64 code) ∧ Below w00.heap.size w00 w' ∧ (code = 0 → RdO w' w00.heap.size r (.slice (some ⟨bb, off, none⟩) len cap) j most m' va k vc ys fa' gs.length fc' gs) := by
  by_cases h1 : 128 ≤ zs.getD i 0
  · exact rdStep_indexed w00 r bb off len cap i zs most m ta tl tc xs fa fl fc fs w h0 hs hbb hr hcap hl hi hok hfl h1
  · by_cases h2 : 64 ≤ zs.getD i 0
    · exact rdStep_add w00 r bb off len cap i zs most m ta tl tc xs fa fl fc fs w h0 hs hbb hr hcap hl hi hok hfl h2 (by omega)
    · by_cases h3 : 32 ≤ zs.getD i 0
      · exact rdStep_size w00 r bb off len cap i zs most m ta tl tc xs fa fl fc fs w h0 hs hbb hr hcap hl hi hok hfl h3 (by omega)
      · by_cases h4 : 16 ≤ zs.getD i 0
        · exact rdStep_never w00 r bb off len cap i zs most m ta tl tc xs fa fl fc fs w h0 hs hbb hr hcap hl hi hok hfl h4 (by omega)
        · exact rdStep_plain w00 r bb off len cap i zs most m ta tl tc xs fa fl fc fs w h0 hs hbb hr hcap hl hi hok hfl (by omega)

end Go.Proofs.YtckpacifimpkgacGreat

namespace Go.Proofs.YtckpacifimpkgacGreat
open Go.RowKit
set_option linter.unusedVariables false

/-- The place of a reader. -/
def atIn (r : Nat) (W : World) : Nat := match W.cell? ⟨r, 1, none⟩ with | some (.int _ n) => n.toNat | _ => 0

/-- The end: the table is put into the answer's variable. -/
theorem gf_fin {w w2 W : World} {rb : Nat} {x y : Value} (hb2 : Below w.heap.size w w2) (hrb : w.heap.size ≤ rb) (hq : Box2 w2 rb 26 x y) (hW : Below w2.heap.size w2 W) (m' : Int) (v : Value) :
    Box2 ((W.setCell ⟨rb, 0, none⟩ (.int .i64 m')).setCell ⟨rb, 1, none⟩ v) rb 26 (.int .i64 m') v ∧ Below w.heap.size w ((W.setCell ⟨rb, 0, none⟩ (.int .i64 m')).setCell ⟨rb, 1, none⟩ v) ∧
      ∀ (v' : Value) (n : Nat) (ys : List Fld), OwnF W w2.heap.size v' n ys → OwnF ((W.setCell ⟨rb, 0, none⟩ (.int .i64 m')).setCell ⟨rb, 1, none⟩ v) w.heap.size v' n ys := by
  have hlt := hq.lt
  have hq2 := hq.stays hW
  have hbW : Below w.heap.size w W := hb2.trans (hW.mono hb2.size)
  refine ⟨two_set1 (two_set0 hq2 _) _, (hbW.setCell (p := ⟨rb, 0, none⟩) hrb _).setCell (p := ⟨rb, 1, none⟩) hrb _, fun v' n ys h => ⟨?_, h.2⟩⟩
  exact own_down (ownsRow_setCell_below (ownsRow_setCell_below h.1 (a := ⟨rb, 0, none⟩) hlt (.int .i64 m')) (a := ⟨rb, 1, none⟩) hlt v) hb2.size

theorem OwnF.drewn {w : World} {base n : Nat} {v : Value} {xs : List Fld} (h : OwnF w base v n xs) : OwnF w.drew base v n xs := h

set_option maxRecDepth 10000 in
set_option maxHeartbeats 3200000 in
theorem implGetFs_any (m : Int) (a : Option Addr) (len ca : Nat) (xs : List Fld) (most : Int) (ba : Option Addr) (bl bc : Nat) (zs : List Int) (w : World) (hx : Flds w a len xs) (hs : Seg w ba bl zs) (hcap : bl ≤ bc) (hl : len + fldBytes xs ≤ 1048576) (hbl : bl ≤ 1099511627776) :
    Calls Tryz.prog 7 #[.agg #[.int .i64 m, .slice a len ca], .int .i64 most, .slice ba bl bc] w fun e w' => ∃ (gs : List Fld) (m' : Int) (ys : List Fld) (code : Int) (fa : Option Addr) (fc : Nat) (va : Option Addr) (n vc : Nat), e = .returned (.tuple #[.slice fa gs.length fc, .agg #[.int .i64 m', .slice va n vc], .int .i64 code]) ∧ GetAns zs most m xs gs m' ys code ∧ OwnF w' w.heap.size (.slice fa gs.length fc) gs.length gs ∧ OwnF w' w.heap.size (.slice va n vc) n ys ∧ Below w.heap.size w w' := by
  have HX : Hid (Flds w a len xs) := hx
  have HS : Hid (Seg w ba bl zs) := hs
  have HZ : Hid (∀ x ∈ zs, 0 ≤ x ∧ x ≤ 255) := hs.2.1
  have HZL : Hid (zs.length = bl) := hs.1
  have HCap : Hid (bl ≤ bc) := hcap
  have HLen : Hid (len + fldBytes xs ≤ 1048576) := hl
  have hlen2 : len ≤ 2097152 := by omega
  clear hx hs hcap hl
  obtain ⟨w2, hw2⟩ : ∃ w2, ((w.alloc (.cells #[.int .i64 m, .slice a len ca] 26)).alloc (.cells #[.int .i64 0, .slice none 0 0] 26)) = w2 := ⟨_, rfl⟩
  have q1 : Box2 w2 w.heap.size 26 (.int .i64 m) (.slice a len ca) := by rw [← hw2]; exact (Box2.new _ _ _ _).alloc _
  have q2 : Box2 w2 (w.heap.size + 1) 26 (.int .i64 0) (.slice none 0 0) := by
    rw [← hw2]
    have := Box2.new (w.alloc (.cells #[.int .i64 m, .slice a len ca] 26)) 26 (.int .i64 0) (.slice none 0 0)
    rwa [World.size_alloc] at this
  have HB2 : Hid (Below w.heap.size w w2) := by show Below _ _ _; rw [← hw2]; exact ((Below.refl _ _).alloc (Nat.le_refl _) _).alloc (by simp) _
  have HQ1 : Hid (Box2 w2 w.heap.size 26 (.int .i64 m) (.slice a len ca)) := q1
  have HQ2 : Hid (Box2 w2 (w.heap.size + 1) 26 (.int .i64 0) (.slice none 0 0)) := q2
  obtain ⟨c0, c1, _, _⟩ := q1.cells
  have HT : Hid (∀ W : World, Below w2.heap.size w2 W → Flds W a len xs ∧ W.cell? ⟨w.heap.size, 0, none⟩ = some (.int .i64 m) ∧ W.cell? ⟨w.heap.size, 1, none⟩ = some (.slice a len ca) ∧ W.cell? ⟨w.heap.size + 1, 0, none⟩ = some (.int .i64 0) ∧ W.cell? ⟨w.heap.size + 1, 1, none⟩ = some (.slice none 0 0) ∧ W.frozen? ⟨w.heap.size + 1, 0, none⟩ = false ∧ W.frozen? ⟨w.heap.size + 1, 1, none⟩ = false) := fun W hW => by
    obtain ⟨a1, a2, _, _⟩ := (HQ1.out.stays hW).cells
    obtain ⟨b1, b2, b3, b4⟩ := (HQ2.out.stays hW).cells
    exact ⟨HX.out.below (HB2.out.trans (hW.mono HB2.out.size)), a1, a2, b1, b2, b3, b4⟩
  clear q1 q2
  have HOk : Hid (∀ W : World, Below w2.heap.size w2 W → Calls Tryz.prog 11 #[.agg #[.int .i64 m, .slice a len ca]] W fun e w' => e = .returned (.bool (okT m xs)) ∧ Below W.heap.size W w') := fun W hW => implOk_any m a len ca xs W (HT.out W hW).1 (by have := HLen.out; omega)
  have HMx : Hid (∀ W : World, Calls Tryz.prog 17 #[.int .i64 most] W fun e w' => e = .returned (.bool (okMax most)) ∧ w' = W) := fun W => maxOk_any most W
  have HCp : Hid (∀ W : World, Below w2.heap.size w2 W → Calls Tryz.prog 15 #[.agg #[.int .i64 m, .slice a len ca]] W fun e w' => ∃ v, e = .returned (.agg #[.int .i64 m, v]) ∧ OwnF w' W.heap.size v len xs ∧ Below W.heap.size W w') := fun W hW => implCopy_any m a len ca xs W (HT.out W hW).1 hlen2
  have HMo : Hid (okMax most = true ↔ 0 ≤ most ∧ most ≤ 4096) := by show _ ↔ _; simp [okMax]
  by_cases hgood : okT m xs = true ∧ okMax most = true
  case neg =>
    have HNo : Hid (¬ (okT m xs = true ∧ 0 ≤ most ∧ most ≤ 4096)) := fun h => hgood ⟨h.1, HMo.out.2 h.2⟩
    obtain ⟨ok, hok⟩ : ∃ ok, okT m xs = ok := ⟨_, rfl⟩
    obtain ⟨mo, hmo⟩ : ∃ mo, okMax most = mo := ⟨_, rfl⟩
    rw [hok] at HOk hgood
    rw [hmo] at HMx hgood
    clear hok hmo HMo
    have hcase : ok = false ∨ (ok = true ∧ mo = false) := by
      cases ok with
      | false => exact .inl rfl
      | true =>
        cases mo with
        | false => exact .inr ⟨rfl, rfl⟩
        | true => exact absurd ⟨rfl, rfl⟩ hgood
    clear hgood
    rcases hcase with rfl | ⟨rfl, rfl⟩
    all_goals
      go_enter Tryz.func7, Tryz.ntmps7
      go_wp2_with fail
      refine (HOk.out _ (Below.refl _ _)).mono ?_
      rintro e w3 ⟨rfl, hb3⟩
      have HB3 : Hid (Below w2.heap.size w2 w3) := hb3
      clear hb3 c0 c1
      obtain ⟨_, c0, c1, _, _, _, _⟩ := HT.out w3 HB3.out
      obtain ⟨w4, hw4⟩ : ∃ w4, w3.alloc (.cells #[] 43) = w4 := ⟨_, rfl⟩
      have HB4 : Hid (Below w2.heap.size w2 w4) := by show Below _ _ _; rw [← hw4]; exact HB3.out.alloc HB3.out.size _
      have HF4 : Hid (OwnF w4 w2.heap.size (.slice (some ⟨w3.heap.size, 0, none⟩) 0 0) 0 []) := by
        show OwnF _ _ _ _ _
        rw [← hw4]
        exact ⟨World.ownsRow_lit w3 #[] 0 HB3.out.size (Nat.zero_le _) rfl, by simp⟩
      obtain ⟨_, d0, d1, _, _, _, _⟩ := HT.out w4 HB4.out
      first
        | (go_wp2_with fail
           refine (HMx.out _).mono ?_
           rintro e w9 ⟨rfl, hw9⟩
           subst w9
           go_wp2_with fail
           refine (HCp.out w4 HB4.out).mono ?_)
        | (go_wp2_with fail
           refine (HCp.out w4 HB4.out).mono ?_)
      rintro e w5 ⟨v, rfl, ho5, hb5⟩
      obtain ⟨va, vc, rfl⟩ := ho5.shape
      have HB5 : Hid (Below w2.heap.size w2 w5) := HB4.out.trans (hb5.mono HB4.out.size)
      have HO5 : Hid (OwnF w5 w2.heap.size (.slice va len vc) len xs) := ⟨own_down ho5.1 HB4.out.size, ho5.2⟩
      have HF5 : Hid (OwnF w5 w2.heap.size (.slice (some ⟨w3.heap.size, 0, none⟩) 0 0) 0 []) := HF4.out.stays hb5
      clear hb5 ho5 HF4 HB4 c0 c1 d0 d1 hw4 hw2
      obtain ⟨_, _, _, r0, r1, r2, r3⟩ := HT.out w5 HB5.out
      have HFin : Hid _ := gf_fin HB2.out (Nat.le_succ _) HQ2.out HB5.out m (.slice va len vc)
      obtain ⟨k0, k1, _, _⟩ := HFin.out.1.cells
      go_wp2_with fail
      refine bodyPost_ret (v := .tuple #[.slice (some ⟨w3.heap.size, 0, none⟩) 0 0, .agg #[.int .i64 m, .slice va len vc], .int .i64 1]) (by simp [results, Tryz.f7, go_sem, r0, r1]) rfl ?_
      exact ⟨[], m, xs, 1, _, _, va, len, vc, rfl, .inl ⟨HNo.out, rfl, rfl, rfl, rfl⟩, HFin.out.2.2 _ _ _ HF5.out, HFin.out.2.2 _ _ _ HO5.out, HFin.out.2.1⟩
  obtain ⟨hok, hmo⟩ := hgood
  have HG : Hid (okT m xs = true ∧ 0 ≤ most ∧ most ≤ 4096) := ⟨hok, HMo.out.1 hmo⟩
  rw [hok] at HOk
  rw [hmo] at HMx
  clear hok hmo HMo
  go_enter Tryz.func7, Tryz.ntmps7
  go_wp2_with fail
  refine (HOk.out _ (Below.refl _ _)).mono ?_
  rintro e w3 ⟨rfl, hb3⟩
  have HB3 : Hid (Below w2.heap.size w2 w3) := hb3
  clear hb3 c0 c1
  obtain ⟨_, c0, c1, _, _, _, _⟩ := HT.out w3 HB3.out
  go_wp2_with fail
  refine (HMx.out _).mono ?_
  rintro e w9 ⟨rfl, hw9⟩
  subst w9
  go_wp2_with fail
  refine (HCp.out w3 HB3.out).mono ?_
  rintro e w4 ⟨v, rfl, ho4, hb4⟩
  obtain ⟨va, vc, rfl⟩ := ho4.shape
  have HB4 : Hid (Below w2.heap.size w2 w4) := HB3.out.trans (hb4.mono HB3.out.size)
  have HO4 : Hid (OwnF w4 w2.heap.size (.slice va len vc) len xs) := ⟨own_down ho4.1 HB3.out.size, ho4.2⟩
  clear hb4 ho4 c0 c1 hw2
  have HB5 : Hid (Below w2.heap.size w2 (w4.alloc (.cells #[.slice ba bl bc, .int .i64 0, .int .i64 most, .int .i64 m, .slice va len vc, .slice none 0 0] 47))) := HB4.out.alloc HB4.out.size _
  have HR5 : Hid (RdO (w4.alloc (.cells #[.slice ba bl bc, .int .i64 0, .int .i64 most, .int .i64 m, .slice va len vc, .slice none 0 0] 47)) w2.heap.size w4.heap.size (.slice ba bl bc) ((0 : Nat) : Int) most m va len vc xs none 0 0 []) := by
    show RdO _ _ _ _ _ _ _ _ _ _ _ _ _ _ _
    have hb45 : Below w4.heap.size w4 (w4.alloc (.cells #[.slice ba bl bc, .int .i64 0, .int .i64 most, .int .i64 m, .slice va len vc, .slice none 0 0] 47)) := (Below.refl _ _).alloc (Nat.le_refl _) _
    exact ⟨heap_alloc_new w4 _, HB4.out.size, HO4.out.stays hb45, ⟨⟨rfl, .inl ⟨rfl, rfl⟩⟩, by simp⟩, by simp⟩
  go_wp2_with fail
  obtain ⟨w5, hw5⟩ : ∃ w5, w4.alloc (.cells #[.slice ba bl bc, .int .i64 0, .int .i64 most, .int .i64 m, .slice va len vc, .slice none 0 0] 47) = w5 := ⟨_, rfl⟩
  rw [hw5] at HB5 HR5 ⊢
  generalize w4.heap.size = r at *
  clear hw5
  go_loopw [] (fun wr => ∃ (k i : Nat) (m' : Int) (ta : Option Addr) (tl tc : Nat) (ys : List Fld) (fa : Option Addr) (fl fc : Nat) (fs : List Fld), i ≤ bl ∧ fl = fs.length ∧ Hid (RunN zs most m xs k i m' ys fs) ∧ Hid (RdO wr w2.heap.size r (.slice ba bl bc) (i : Int) most m' ta tl tc ys fa fl fc fs) ∧ Hid (Below w2.heap.size w2 wr)) (fun wr => bl - atIn r wr)
  case atStart => exact ⟨0, 0, m, va, len, vc, xs, none, 0, 0, [], Nat.zero_le _, rfl, ⟨rfl, rfl, rfl, rfl⟩, HR5, HB5⟩
  case round =>
    clear HR5 HB5 HO4
    obtain ⟨k, i, m', ta, tl, tc, ys, fa, fl, fc, fs, hil, hfl, HRun, HR, HB⟩ := hrel
    have HK : Hid (k ≤ i ∧ i ≤ zs.length ∧ okT m' ys = true ∧ fs.length ≤ 100) := HRun.out.kept HZ.out HG.out.1
    obtain ⟨s0, s1, s2, s3, s4, s5, _⟩ := HR.out.1.cells
    have HAt : Hid (atIn r wr = i) := by show _ = _; simp [atIn, s1]
    by_cases hlt : i < bl
    · have hii : (i : Int) < (bl : Int) := by omega
      obtain ⟨bb, off, rfl, hbb⟩ : ∃ bb off, ba = some ⟨bb, off, none⟩ ∧ bb < w.heap.size := by
        rcases HS.out.2.2 with h | ⟨b, o, e, h, _⟩
        · omega
        · exact ⟨b, o, e, h⟩
      have HBB : Hid (bb < w.heap.size) := hbb
      clear hbb
      go_wp2_with fail
      refine (rdStep_any w2 r bb off bl bc i zs most m' ta tl tc ys fa fl fc fs wr HB.out (HS.out.below HB2.out) (Nat.lt_of_lt_of_le HBB.out HB2.out.size) HR.out HCap.out hbl hlt HK.out.2.2.1 (by rw [hfl]; exact HK.out.2.2.2)).mono ?_
      rintro e w6 ⟨code, j, m2, va2, k2, vc2, y2, fa2, fc2, gs, hans, rfl, hb6, hr6⟩
      have HA : Hid (StepAns zs most i m' ys fs j m2 y2 gs code) := hans
      have HB6 : Hid (Below w2.heap.size w2 w6) := hb6
      have HR6 : Hid (code = 0 → RdO w6 w2.heap.size r (.slice (some ⟨bb, off, none⟩) bl bc) j most m2 va2 k2 vc2 y2 fa2 gs.length fc2 gs) := hr6
      clear hans hb6 hr6 s0 s1 s2 s3 s4 s5 HR HB
      by_cases hc : code = 0
      · subst hc
        obtain ⟨i', rfl, h1, h2, h3, h4⟩ := HA.out.kept HZ.out HK.out.2.2.1 HK.out.2.2.2
        have HRd : Hid (RdO w6 w2.heap.size r (.slice (some ⟨bb, off, none⟩) bl bc) (i' : Int) most m2 va2 k2 vc2 y2 fa2 gs.length fc2 gs) := HR6.out rfl
        have HAt2 : Hid (atIn r w6 = i') := by show _ = _; simp [atIn, HRd.out.1.cells.2.1]
        have H2 : Hid (i' ≤ bl) := by show _ ≤ _; rw [← HZL.out]; exact h2
        clear h2 h3 h4 HR6
        go_wp2_with fail
        go_roundw
        case rel => exact ⟨k + 1, i', m2, va2, k2, vc2, y2, fa2, gs.length, fc2, gs, H2.out, rfl, ⟨i, m', ys, fs, HRun.out, by rw [HZL.out]; exact hlt, HA.out⟩, HRd, HB6⟩
        case measure => rw [HAt.out, HAt2.out]; omega
      · have hne : (code != 0) = true := by simpa using hc
        have HNe : Hid (code ≠ 0) := hc
        clear hc HR6
        obtain ⟨_, t0, t1, _, _, _, _⟩ := HT.out w6 HB6.out
        obtain ⟨w7, hw7⟩ : ∃ w7, w6.alloc (.cells #[] 43) = w7 := ⟨_, rfl⟩
        have HB7 : Hid (Below w2.heap.size w2 w7) := by show Below _ _ _; rw [← hw7]; exact HB6.out.alloc HB6.out.size _
        have HF7 : Hid (OwnF w7 w2.heap.size (.slice (some ⟨w6.heap.size, 0, none⟩) 0 0) 0 []) := by
          show OwnF _ _ _ _ _
          rw [← hw7]
          exact ⟨World.ownsRow_lit w6 #[] 0 HB6.out.size (Nat.zero_le _) rfl, by simp⟩
        obtain ⟨_, d0, d1, _, _, _, _⟩ := HT.out w7 HB7.out
        go_wp2_with fail
        refine (HCp.out w7 HB7.out).mono ?_
        rintro e w8 ⟨v8, rfl, ho8, hb8⟩
        obtain ⟨va8, vc8, rfl⟩ := ho8.shape
        have HB8 : Hid (Below w2.heap.size w2 w8) := HB7.out.trans (hb8.mono HB7.out.size)
        have HO8 : Hid (OwnF w8 w2.heap.size (.slice va8 len vc8) len xs) := ⟨own_down ho8.1 HB7.out.size, ho8.2⟩
        have HF8 : Hid (OwnF w8 w2.heap.size (.slice (some ⟨w6.heap.size, 0, none⟩) 0 0) 0 []) := HF7.out.stays hb8
        clear hb8 ho8 HF7 HB7 t0 t1 d0 d1 hw7
        obtain ⟨_, _, _, r0, r1, r2, r3⟩ := HT.out w8 HB8.out
        have HFin : Hid _ := gf_fin HB2.out (Nat.le_succ _) HQ2.out HB8.out m (.slice va8 len vc8)
        go_wp2_with fail
        refine bodyPost_ret (v := .tuple #[.slice (some ⟨w6.heap.size, 0, none⟩) 0 0, .agg #[.int .i64 m, .slice va8 len vc8], .int .i64 code]) (by simp [results, Tryz.f7, go_sem, r0, r1]) rfl ?_
        exact ⟨[], m, xs, code, _, _, va8, len, vc8, rfl, .inr ⟨HG.out, .inr ⟨HNe.out, rfl, rfl, rfl, k, i, m', ys, fs, j, m2, y2, gs, HRun.out, by rw [HZL.out]; exact hlt, HA.out⟩⟩, HFin.out.2.2 _ _ _ HF8.out, HFin.out.2.2 _ _ _ HO8.out, HFin.out.2.1⟩
    · obtain rfl : i = bl := by omega
      have hii : ¬ (i : Int) < (i : Int) := by omega
      subst hfl
      obtain ⟨_, _, _, r0, r1, r2, r3⟩ := HT.out wr HB.out
      have HFin : Hid _ := gf_fin HB2.out (Nat.le_succ _) HQ2.out HB.out m' (.slice ta tl tc)
      have hne1 : ¬ r = w.heap.size + 1 := by have h1 := HR.out.2.1; have h2 := HQ2.out.lt; omega
      have hne2 : ¬ w.heap.size + 1 = r := by omega
      go_wp2_with fail
      go_region
      all_goals
        go_wp2_with fail
        refine bodyPost_ret (v := .tuple #[.slice fa fs.length fc, .agg #[.int .i64 m', .slice ta tl tc], .int .i64 0]) (by simp [results, Tryz.f7, go_sem, r0, r1]) rfl ?_
        have HRunE : RunN zs most m xs k zs.length m' ys fs := by rw [HZL.out]; exact HRun.out
        refine ⟨fs, m', ys, 0, fa, fc, ta, tl, tc, rfl, .inr ⟨HG.out, .inl ⟨rfl, k, HRunE⟩⟩, ?_, ?_, ?_⟩
        · first | exact HFin.out.2.2 _ _ _ HR.out.2.2.2.1 | exact OwnF.drewn (HFin.out.2.2 _ _ _ HR.out.2.2.2.1)
        · first | exact HFin.out.2.2 _ _ _ HR.out.2.2.1 | exact OwnF.drewn (HFin.out.2.2 _ _ _ HR.out.2.2.1)
        · first | exact HFin.out.2.1 | exact HFin.out.2.1.drew

end Go.Proofs.YtckpacifimpkgacGreat
