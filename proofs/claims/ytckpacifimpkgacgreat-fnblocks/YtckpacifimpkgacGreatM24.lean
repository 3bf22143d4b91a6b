/- The specification's reader of a block: one step, a field that is told by its number. The specification's reader of a block: one step, a field that is told itself, the table as it was. The specification's reader of a block: one step, a field that is told itself and put into the table. The specification's reader of a block: one step. What the test of a range answers. -/
import Derived.Test.YtckpacifimpkgacGreatM23
import Derived.Test.YtckpacifimpkgacGreatM01
namespace Go.Proofs.YtckpacifimpkgacGreat
open Go.RowKit
set_option linter.unusedVariables false

/-- What a step's code becomes where there are too many fields. -/
def many (code : Int) (gs : List Fld) : Int := if code = 0 ∧ 100 < gs.length then 4 else code

theorem many_of {code : Int} {gs : List Fld} (h : code ≠ 0) : many code gs = code := if_neg fun h' => h h'.1

theorem many_few {code : Int} {gs : List Fld} (h : gs.length ≤ 100) : many code gs = code := if_neg fun h' => by omega

theorem take_many {T : TypeId} {m : Int} {xs fs : List Fld} {f : Fld} {ys : List Fld} (hl : fs.length ≤ 100) (h : (T = 99 ∧ AddAns m xs f ys) ∨ (T ≠ 99 ∧ ys = xs)) : TakeAns T m xs fs f ys (fs ++ [f]) (many 0 (fs ++ [f])) := by
  by_cases h1 : fs.length = 100
  · refine .inl ⟨h1, if_pos ⟨rfl, ?_⟩⟩
    rw [List.length_append, h1]
    show 100 < 100 + 1
    omega
  · refine .inr ⟨h1, if_neg fun h' => ?_, rfl, h⟩
    have := h'.2
    rw [List.length_append] at this
    simp at this
    omega

/-- What is known of the row behind an append. -/
theorem SdO.apart {W : World} {B r : Nat} {b : Value} {i most m : Int} {ta : Option Addr} {tl tc : Nat} {xs : List Fld} {fa : Option Addr} {fl fc : Nat} {fs : List Fld} {o : Obj} {a5 : Option Addr} {n5 c5 : Nat} (h : SdO W B r b i most m ta tl tc xs fa fl fc fs) (hwh : (Value.slice a5 n5 c5).ownBlock = (Value.slice fa fl fc).ownBlock ∨ (Value.slice a5 n5 c5).ownBlock = some (W.alloc o).heap.size) : ∀ k, a5.map (·.block) = some k → ta.map (·.block) ≠ some k := by
  intro k hk ht
  rcases hwh with h' | h'
  · rw [ownBlock_slice, ownBlock_slice] at h'
    exact h.2.2.2.2 k (by rw [← h']; exact hk) ht
  · rw [ownBlock_slice, hk] at h'
    injection h' with h'
    have h3 := (h.2.2.1.lt k (by rw [ownBlock_slice]; exact ht)).2
    rw [World.size_alloc] at h'
    omega

set_option maxRecDepth 10000 in
set_option maxHeartbeats 3200000 in
theorem spOne_ix (w00 : World) (r bb off len cap i : Nat) (zs : List Int) (most m : Int) (ta : Option Addr) (tl tc : Nat) (xs : List Fld) (fa : Option Addr) (fl fc : Nat) (fs : List Fld) (w : World) (h0 : Below w00.heap.size w00 w) (hs : Seg w00 (some ⟨bb, off, none⟩) len zs)
    (hr : SdO w w00.heap.size r (.slice (some ⟨bb, off, none⟩) len cap) i most m ta tl tc xs fa fl fc fs) (hl : len ≤ 4000) (hi : i < len) (hok : okT m xs = true) (hfl : fl ≤ 100) (h1 : 128 ≤ zs.getD i 0) :
    Calls Tryz.prog 29 #[.pointer (some ⟨r, 0, none⟩)] w fun e w' => ∃ (code j m' : Int) (va : Option Addr) (k vc : Nat) (ys : List Fld) (fa' : Option Addr) (fc' : Nat) (gs : List Fld), StepAns zs most i m xs fs j m' ys gs (many code gs) ∧ e = .returned (.int .i64 code) ∧ Below w00.heap.size w00 w' ∧ (code = 0 → SdO w' w00.heap.size r (.slice (some ⟨bb, off, none⟩) len cap) j most m' va k vc ys fa' gs.length fc' gs) := by
  obtain ⟨i0, hi0, hz0, hz1, hz2⟩ := info_parts info_field
  have HS : Hid (∀ W, Below w00.heap.size w00 W → Seg W (some ⟨bb, off, none⟩) len zs) := fun W h => hs.below h
  have HB : Hid (Below w00.heap.size w00 w) := h0
  have HR : Hid (SdO w w00.heap.size r (.slice (some ⟨bb, off, none⟩) len cap) i most m ta tl tc xs fa fl fc fs) := hr
  have HFl : Hid (fs.length = fl) := hr.2.2.2.1.len
  have htl : tl + fldBytes xs ≤ 4096 := by have h3 := okT_small hok; have h4 := hr.2.2.1.len; omega
  have hzl : zs.length = len := hs.1
  obtain ⟨c0, c1, c2, c3, c4, c5, c6⟩ := hr.1.cells
  have c7 : w.cell? ⟨bb, off + i, none⟩ = some (.int .u8 (zs.getD i 0)) := by
    rcases (hs.below h0).2.2 with h | ⟨b', off', e, hb, hc⟩
    · omega
    · cases e
      have := hc i (by omega)
      rw [this, List.getD, List.getElem?_eq_getElem (by omega)]
  have hT : formL (zs.getD i 0) = 82 := by rw [formL, if_pos (by omega)]
  have hbits : bitsL (zs.getD i 0) = 7 := by rw [bitsL, if_pos (by omega)]
  have HZ : Hid (∀ x ∈ zs, 0 ≤ x ∧ x ≤ 255) := hs.2.1
  obtain ⟨⟨n, p, ok⟩, hgp⟩ : ∃ q, getPfx zs (i : Int) 7 = q := ⟨_, rfl⟩
  have HG : Hid (∀ W, Below w00.heap.size w00 W → Calls Tryz.prog 46 #[.slice (some ⟨bb, off, none⟩) len cap, .int .i64 i, .int .i64 7] W fun e w' => e = .returned (.tuple #[.int .i64 n, .int .i64 p, .bool ok]) ∧ w' = W) := fun W h => by
    have := specGpx_any (some ⟨bb, off, none⟩) len cap i 7 zs W (HS.out W h) (by omega)
    rw [hgp] at this
    exact this
  clear hr h0 hs
  generalize hcc : zs.getD i 0 = c at *
  have HGp : Hid (getPfx zs (i : Int) (bitsL (zs.getD i 0)) = (n, p, ok)) := by show _ = _; rw [hcc, hbits]; exact hgp
  have HTT : Hid (formL (zs.getD i 0) = 82) := by show _ = _; rw [hcc]; exact hT
  clear hgp hT hbits hcc
  have hii : (i : Int) < (len : Int) := by omega
  have hi00 : (0 : Int) ≤ (i : Int) := by omega
  have d1 : decide (128 ≤ c) = true := by simp; omega
  have d1p : (128 ≤ c) = True := by simp; omega
  go_enter Tryz.func29, Tryz.ntmps29
  go_wp2_with fail
  go_region_held3 (fun W => W.cell? ⟨r, 3, none⟩ = some (.slice (some ⟨bb, off, none⟩) len cap) ∧ W.cell? ⟨r, 4, none⟩ = some (.int .i64 i) ∧ W.cell? ⟨bb, off + i, none⟩ = some (.int .u8 c)) (first | (refine ⟨?_, ?_, ?_⟩ <;> assumption) | (refine ⟨?_, ?_, ?_⟩ <;> (simp [go_sem, *]; done)) | go_keep) (fail)
  have HR1 : Hid (SdO w.drew w00.heap.size r (.slice (some ⟨bb, off, none⟩) len cap) i most m ta tl tc xs fa fl fc fs) := HR.out.stays (Below.refl _ _).drew
  have HB1 : Hid (Below w00.heap.size w00 w.drew) := HB.out.drew
  generalize w.drew = y1 at *
  clear c0 c1 c2 c3 c4 c5 c6 c7 HR HB
  obtain ⟨c0, c1, c2, c3, c4, c5, c6⟩ := HR1.out.1.cells
  go_wp2_with fail
  go_region_held3 (fun W => W.cell? ⟨r, 3, none⟩ = some (.slice (some ⟨bb, off, none⟩) len cap) ∧ W.cell? ⟨r, 4, none⟩ = some (.int .i64 i)) (first | (refine ⟨?_, ?_⟩ <;> assumption) | (refine ⟨?_, ?_⟩ <;> (simp [go_sem, *]; done)) | go_keep) (first
    | (go_at_call 46; refine (HG.out _ HB1.out.drew).mono ?_; rintro e y3 ⟨rfl, hy3⟩
       subst hy3)
    | fail)
  have HR3 : Hid (SdO y1.drew w00.heap.size r (.slice (some ⟨bb, off, none⟩) len cap) i most m ta tl tc xs fa fl fc fs) := HR1.out.stays (Below.refl _ _).drew
  have HB3 : Hid (Below w00.heap.size w00 y1.drew) := HB1.out.drew
  generalize y1.drew = y3 at *
  clear c0 c1 c2 c3 c4 c5 c6 HR1 HB1 HG
  cases ok with
  | false =>
    go_wp2_with fail
    go_ret
    exact ⟨1, 0, 0, none, 0, 0, [], none, 0, [], ⟨n, p, false, HGp.out, .inl ⟨rfl, many_of (by decide)⟩⟩, rfl, HB3.out, fun h => by cases h⟩
  | true =>
    have hnp := getPfx_bound zs i _ n p HZ.out HGp.out
    have hn1 := hnp.1
    have hn2 := hnp.2.1
    clear hnp
    have hA := specAt_any m n ta tl tc xs y3 HR3.out.2.2.1.flds (by omega) (by omega)
    have hsz := atAns_short hok n
    obtain ⟨⟨⟨x, y⟩, b⟩, hat⟩ : ∃ z, atAns xs n = z := ⟨_, rfl⟩
    rw [hat] at hA hsz
    have HAt : Hid (atAns xs n = ((x, y), b)) := hat
    dsimp only at hA hsz
    clear hat
    obtain ⟨c0, c1, c2, c3, c4, c5, c6⟩ := HR3.out.1.cells
    go_wp2_with fail
    refine hA.mono ?_
    rintro e y5 ⟨rfl, hb5⟩
    have HR5 : Hid (SdO y5 w00.heap.size r (.slice (some ⟨bb, off, none⟩) len cap) i most m ta tl tc xs fa fl fc fs) := HR3.out.stays hb5
    have HB5 : Hid (Below w00.heap.size w00 y5) := HB3.out.trans (hb5.mono HB3.out.size)
    clear hA hb5 HR3 HB3 c0 c1 c2 c3 c4 c5 c6
    have hb56 : Below y5.heap.size y5 (y5.alloc (.cells #[.string x, .string y] 43)) := (Below.refl _ _).alloc (Nat.le_refl _) _
    have HR6 : Hid (SdO (y5.alloc (.cells #[.string x, .string y] 43)) w00.heap.size r (.slice (some ⟨bb, off, none⟩) len cap) i most m ta tl tc xs fa fl fc fs) := HR5.out.stays hb56
    have HB6 : Hid (Below w00.heap.size w00 (y5.alloc (.cells #[.string x, .string y] 43))) := HB5.out.trans (hb56.mono HB5.out.size)
    have HF6 : Hid (Box2 (y5.alloc (.cells #[.string x, .string y] 43)) y5.heap.size 43 (.string x) (.string y)) := Box2.new _ _ _ _
    clear hb56
    cases b with
    | false =>
      go_upto_region 7 with fail
      generalize y5.alloc (.cells #[.string x, .string y] 43) = y6 at *
      go_wp2_with fail
      go_ret
      exact ⟨2, 0, 0, none, 0, 0, [], none, 0, [], ⟨n, p, true, HGp.out, .inr ⟨rfl, .inr (.inl ⟨HTT.out, .inl ⟨by rw [HAt.out], many_of (by decide)⟩⟩)⟩⟩, rfl, HB6.out, fun h => by cases h⟩
    | true =>
      go_upto_region 7 with fail
      have hrl : r < y5.heap.size := HR5.out.1.lt
      have hfb : (Value.slice fa fl fc).ownBlock ≠ some y5.heap.size := fun e => by have := (HR5.out.2.2.2.1.lt _ e).2; omega
      have HFr : Hid ((Value.slice fa fl fc).ownBlock ≠ some y5.heap.size) := hfb
      clear HR5 HB5 hfb
      obtain ⟨y6, hy6⟩ : ∃ y6, y5.alloc (.cells #[.string x, .string y] 43) = y6 := ⟨_, rfl⟩
      have hlt6 : y5.heap.size < y6.heap.size := by rw [← hy6, World.size_alloc]; omega
      rw [hy6] at HR6 HB6 HF6 ⊢
      clear hy6
      generalize y5.heap.size = bx at *
      have hBr : w00.heap.size ≤ r := HR6.out.2.1
      have HOd : Hid ((y6.alloc (.cells #[.string x, .string y] 43)).drew.ownsRow w00.heap.size 43 2 (.slice fa fl fc) fl (fieldCells fs)) := World.ownsRow.alloc (w := y6) HR6.out.2.2.2.1.1 _
      have hA1 : fl + 1 ≤ maxLen := by unfold maxLen; omega
      have hA2 : (fl + 1) * 32 ≤ 140737488355328 := by omega
      have HSz : Hid (w00.heap.size ≤ (y6.alloc (.cells #[.string x, .string y] 43)).drew.heap.size) := by
        show w00.heap.size ≤ (y6.alloc (.cells #[.string x, .string y] 43)).heap.size
        rw [World.size_alloc]
        exact Nat.le_succ_of_le HB6.out.size
      have HN : Hid (∀ j u, (fieldCells [(x, y)])[j]? = some u → (y6.alloc (.cells #[.string x, .string y] 43)).drew.cell? ((⟨y6.heap.size, 0, none⟩ : Addr).add j) = some u) := two_new y6 x y _ ⟨y6.heap.size, 0, none⟩ rfl
      have hrd : Sd (y6.alloc (.cells #[.string x, .string y] 43)) r (.slice (some ⟨bb, off, none⟩) len cap) i most m (.slice ta tl tc) (.slice fa fl fc) := HR6.out.1.stays ((Below.refl _ _).alloc (Nat.le_refl _) _)
      obtain ⟨_, _, _, _, _, f5, _⟩ := hrd.cells
      obtain ⟨_, _, _, _, _, c5, c6⟩ := HR6.out.1.cells
      have c7 := c6 5 (by omega)
      obtain ⟨d0, d2, _, _⟩ := HF6.out.cells
      have hfd : Box2 (y6.alloc (.cells #[.string x, .string y] 43)) bx 43 (.string x) (.string y) := HF6.out.alloc _
      have HRd : Hid _ := hrd
      obtain ⟨f0, f1, _, _⟩ := hfd.cells
      have hn1 : ¬ y6.heap.size = r := by omega
      have hn2 : ¬ r = y6.heap.size := by omega
      have hn3 : ¬ y6.heap.size = bx := by omega
      have hn4 : ¬ bx = y6.heap.size := by omega
      have hn5 : ¬ bx = r := by omega
      have hn6 : ¬ r = bx := by omega
      have HNr : Hid ((Value.slice fa fl fc).ownBlock ≠ some r) := own_other' HR6.out.2.2.2.1.1 HR6.out.1 (by decide)
      clear hrd hfd c6
      go_wp2_with fail
      go_region_law (first
        | (refine step_append_where rfl (.tmp 56) (.tmp 58) 24 rfl w00.heap.size 43 i0 (.agg #[.string ⟨#[]⟩, .string ⟨#[]⟩]) 2 32 Tryz.underlying24 hi0 hz0 hz1 hz2 rfl (by decide) (.slice fa fl fc) fl (fieldCells fs) rfl HOd.out ⟨y6.heap.size, 0, none⟩ 1 1 (by omega) (fieldCells [(x, y)]) rfl rfl HN.out (fieldCells_one _) hA1 hA2 HSz.out ?_; intro v5 w5 hown hgrow hwh; obtain ⟨a5, c5, rfl⟩ := own_shape hown; have hr5 : Sd w5 r (.slice (some ⟨bb, off, none⟩) len cap) i most m (.slice ta tl tc) (.slice fa fl fc) := Sd.grew (W := (y6.alloc (.cells #[.string x, .string y] 43)).drew) HRd.out hgrow HNr.out; obtain ⟨_, _, _, _, _, g5, g6⟩ := hr5.cells; have g7 := g6 5 (by omega)))
      all_goals
        have hg5 : (y6.alloc (.cells #[.string x, .string y] 43)).grownBy w5 (Value.slice fa fl fc).ownBlock := ⟨hgrow.os, hgrow.tape, hgrow.output, hgrow.size, hgrow.block⟩
        have hap : ∀ k, a5.map (·.block) = some k → ta.map (·.block) ≠ some k := HR6.out.apart hwh
        have HR7 : Hid (SdO (w5.setCell ⟨r, 5, none⟩ (.slice a5 (fl + 1) c5)) w00.heap.size r (.slice (some ⟨bb, off, none⟩) len cap) i most m ta tl tc xs a5 (fl + 1) c5 (fs ++ [(x, y)])) := HR6.out.more ⟨by unfold maxLen; omega, by unfold maxLen; omega⟩ hown hg5 hap
        have HB7 : Hid (Below w00.heap.size w00 (w5.setCell ⟨r, 5, none⟩ (.slice a5 (fl + 1) c5))) := by
          have h1 : Below w00.heap.size w00 (y6.alloc (.cells #[.string x, .string y] 43)) := HB6.out.alloc HB6.out.size _
          exact (h1.grown hg5 HSz.out (fun q hq => (HR6.out.2.2.2.1.lt q hq).1)).setCell (p := ⟨r, 5, none⟩) hBr _
        generalize w5.setCell ⟨r, 5, none⟩ (.slice a5 (fl + 1) c5) = w6 at *
        clear hg5 hap hown hgrow hwh hr5 g5 g6 g7 f0 f1 f5 d0 d2 c7 HOd HSz HN HRd HNr hn1 hn2 hn3 hn4 HR6 HF6 HB6
        obtain ⟨_, _, _, _, e4, _, e6⟩ := HR7.out.1.cells
        have e7 := e6 4 (by omega)
        clear e6
        have HR8 : Hid _ := HR7.out.setAt p
        have HB8 : Hid _ := HB7.out.setCell (p := ⟨r, 4, none⟩) hBr (.int .i64 p)
        go_wp2_with fail
        go_ret
        exact ⟨0, p, m, ta, tl, tc, xs, a5, c5, fs ++ [(x, y)], ⟨n, p, true, HGp.out, .inr ⟨rfl, .inr (.inl ⟨HTT.out, .inr ⟨by rw [HAt.out], rfl, rfl, by rw [HAt.out]; exact take_many (by rw [HFl.out]; exact hfl) (.inr ⟨by rw [HTT.out]; decide, rfl⟩)⟩⟩)⟩⟩, rfl, HB8.out, fun _ => by rw [List.length_append, HFl.out]; exact HR8.out⟩

end Go.Proofs.YtckpacifimpkgacGreat

namespace Go.Proofs.YtckpacifimpkgacGreat
open Go.RowKit
set_option linter.unusedVariables false

theorem SLit.short {zs : List Int} {i bits m : Int} {xs : List Fld} {x y : ByteArray} {j : Int} (h : SLit zs i bits xs x y j 0) (ho : okT m xs = true) : x.size ≤ 4096 ∧ y.size ≤ 4096 := by
  obtain ⟨n, p, ok, _, ⟨_, h⟩ | ⟨_, x', y', j1, c1, hl, rfl, he⟩⟩ := h
  · omega
  · obtain ⟨rfl, rfl, rfl⟩ := he rfl
    exact hl.short ho

theorem step_bad {zs : List Int} {most : Int} {i : Nat} {m bits : Int} {xs fs : List Fld} {x y : ByteArray} {j code : Int} (hb : bitsL (zs.getD i 0) = bits) (hT : formL (zs.getD i 0) ≠ 80 ∧ formL (zs.getD i 0) ≠ 82) (h : SLit zs i bits xs x y j code) (hc : code ≠ 0) : StepAns zs most i m xs fs 0 0 [] [] (many code []) := by
  rw [many_of hc]
  obtain ⟨n, p, ok, h1, ⟨rfl, rfl⟩ | ⟨rfl, x', y', j1, c1, hl, rfl, he⟩⟩ := h
  · exact ⟨n, p, false, by rw [hb]; exact h1, .inl ⟨rfl, rfl⟩⟩
  · exact ⟨n, p, true, by rw [hb]; exact h1, .inr ⟨rfl, .inr (.inr ⟨hT.1, hT.2, x', y', j1, code, hl, .inl ⟨hc, rfl⟩⟩)⟩⟩

theorem step_lit {zs : List Int} {most : Int} {i : Nat} {m bits : Int} {xs fs ys gs : List Fld} {x y : ByteArray} {j code : Int} (hb : bitsL (zs.getD i 0) = bits) (hT : formL (zs.getD i 0) ≠ 80 ∧ formL (zs.getD i 0) ≠ 82) (h : SLit zs i bits xs x y j 0) (ht : TakeAns (formL (zs.getD i 0)) m xs fs (x, y) ys gs code) : StepAns zs most i m xs fs j m ys gs code := by
  obtain ⟨n, p, ok, h1, ⟨_, h⟩ | ⟨rfl, x', y', j1, c1, hl, hc, he⟩⟩ := h
  · omega
  · subst hc
    obtain ⟨rfl, rfl, rfl⟩ := he rfl
    exact ⟨n, p, true, by rw [hb]; exact h1, .inr ⟨rfl, .inr (.inr ⟨hT.1, hT.2, x, y, j, 0, hl, .inr ⟨rfl, rfl, rfl, ht⟩⟩)⟩⟩

set_option maxRecDepth 10000 in
set_option maxHeartbeats 3200000 in
theorem spOne_plain (w00 : World) (r bb off len cap i : Nat) (zs : List Int) (most m : Int) (ta : Option Addr) (tl tc : Nat) (xs : List Fld) (fa : Option Addr) (fl fc : Nat) (fs : List Fld) (w : World) (h0 : Below w00.heap.size w00 w) (hs : Seg w00 (some ⟨bb, off, none⟩) len zs)
    (hr : SdO w w00.heap.size r (.slice (some ⟨bb, off, none⟩) len cap) i most m ta tl tc xs fa fl fc fs) (hcap : len ≤ cap) (hl : len ≤ 4000) (hi : i < len) (hok : okT m xs = true) (hfl : fl ≤ 100) (h2 : zs.getD i 0 < 32) :
    Calls Tryz.prog 29 #[.pointer (some ⟨r, 0, none⟩)] w fun e w' => ∃ (code j m' : Int) (va : Option Addr) (k vc : Nat) (ys : List Fld) (fa' : Option Addr) (fc' : Nat) (gs : List Fld), StepAns zs most i m xs fs j m' ys gs (many code gs) ∧ e = .returned (.int .i64 code) ∧ Below w00.heap.size w00 w' ∧ (code = 0 → SdO w' w00.heap.size r (.slice (some ⟨bb, off, none⟩) len cap) j most m' va k vc ys fa' gs.length fc' gs) := by
  obtain ⟨i0, hi0, hz0, hz1, hz2⟩ := info_parts info_field
  have HS : Hid (∀ W, Below w00.heap.size w00 W → Seg W (some ⟨bb, off, none⟩) len zs) := fun W h => hs.below h
  have HB : Hid (Below w00.heap.size w00 w) := h0
  have HR : Hid (SdO w w00.heap.size r (.slice (some ⟨bb, off, none⟩) len cap) i most m ta tl tc xs fa fl fc fs) := hr
  have HFl : Hid (fs.length = fl) := hr.2.2.2.1.len
  have htl : tl + fldBytes xs ≤ 4096 := by have h3 := okT_small hok; have h4 := hr.2.2.1.len; omega
  have hzl : zs.length = len := hs.1
  obtain ⟨c0, c1, c2, c3, c4, c5, c6⟩ := hr.1.cells
  have c7 : w.cell? ⟨bb, off + i, none⟩ = some (.int .u8 (zs.getD i 0)) := by
    rcases (hs.below h0).2.2 with h | ⟨b', off', e, hb, hc⟩
    · omega
    · cases e
      have := hc i (by omega)
      rw [this, List.getD, List.getElem?_eq_getElem (by omega)]
  have hT : formL (zs.getD i 0) ≠ 99 := by
    rw [formL, if_neg (by omega), if_neg (by omega), if_neg (by omega)]
    split <;> decide
  have hbits : bitsL (zs.getD i 0) = 4 := by rw [bitsL, if_neg (by omega), if_neg (by omega), if_neg (by omega)]
  have HTs : Hid (formL (zs.getD i 0) ≠ 80 ∧ formL (zs.getD i 0) ≠ 82) := by
    show _ ∧ _
    rw [formL, if_neg (by omega), if_neg (by omega), if_neg (by omega)]
    split <;> decide
  have HTT : Hid (formL (zs.getD i 0) ≠ 99) := hT
  have HBt : Hid (bitsL (zs.getD i 0) = 4) := hbits
  have HCap : Hid (len ≤ cap) := hcap
  have HL : Hid (∀ W, Below w00.heap.size w00 W → SdO W w00.heap.size r (.slice (some ⟨bb, off, none⟩) len cap) i most m ta tl tc xs fa fl fc fs → Calls Tryz.prog 49 #[.agg #[.int .i64 m, .slice ta tl tc], .slice (some ⟨bb, off, none⟩) len cap, .int .i64 i, .int .i64 4] W fun e w' => ∃ (x y : ByteArray) (j code : Int), e = .returned (.tuple #[.agg #[.string x, .string y], .int .i64 j, .int .i64 code]) ∧ SLit zs i 4 xs x y j code ∧ Below W.heap.size W w') := fun W h h' => specLit_any m ta tl tc xs bb off len cap zs i 4 W h'.2.2.1.flds (HS.out W h) HCap.out hl (by omega)
  clear hr h0 hs hT hbits hcap
  generalize hcc : zs.getD i 0 = c at c7 h2 
  have hii : (i : Int) < (len : Int) := by omega
  have hi00 : (0 : Int) ≤ (i : Int) := by omega
  have d1 : decide (128 ≤ c) = false := by simp; omega
  have d1p : (128 ≤ c) = False := by simp; omega
  have d2 : decide (32 ≤ c) = false := by simp; omega
  have d2p : (32 ≤ c) = False := by simp; omega
  have d4 : decide (64 ≤ c) = false := by simp; omega
  have d4p : (64 ≤ c) = False := by simp; omega
  clear hcc
  go_enter Tryz.func29, Tryz.ntmps29
  go_wp2_with fail
  go_region_held3 (fun W => W.cell? ⟨r, 3, none⟩ = some (.slice (some ⟨bb, off, none⟩) len cap) ∧ W.cell? ⟨r, 4, none⟩ = some (.int .i64 i) ∧ W.cell? ⟨bb, off + i, none⟩ = some (.int .u8 c)) (first | (refine ⟨?_, ?_, ?_⟩ <;> assumption) | (refine ⟨?_, ?_, ?_⟩ <;> (simp [go_sem, *]; done)) | go_keep) (fail)
  have HR1 : Hid (SdO w.drew w00.heap.size r (.slice (some ⟨bb, off, none⟩) len cap) i most m ta tl tc xs fa fl fc fs) := HR.out.stays (Below.refl _ _).drew
  have HB1 : Hid (Below w00.heap.size w00 w.drew) := HB.out.drew
  generalize w.drew = y1 at *
  clear c0 c1 c2 c3 c4 c5 c6 c7 HR HB
  obtain ⟨c0, c1, c2, c3, c4, c5, c6⟩ := HR1.out.1.cells
  have hrl : r < y1.heap.size := HR1.out.1.lt
  have hn1 : ¬ y1.heap.size = r := by omega
  have hn2 : ¬ r = y1.heap.size := by omega
  go_wp2_with fail
  go_region_held3 (fun W => W.cell? ⟨r, 0, none⟩ = some (.int .i64 m) ∧ W.cell? ⟨r, 1, none⟩ = some (.slice ta tl tc) ∧ W.cell? ⟨r, 3, none⟩ = some (.slice (some ⟨bb, off, none⟩) len cap) ∧ W.cell? ⟨r, 4, none⟩ = some (.int .i64 i)) (first | (refine ⟨?_, ?_, ?_, ?_⟩ <;> assumption) | (refine ⟨?_, ?_, ?_, ?_⟩ <;> (simp [go_sem, *]; done)) | go_keep) (first
    | (go_at_call 49; refine (HL.out _ HB1.out.drew (HR1.out.stays (Below.refl _ _).drew)).mono ?_; rintro e y3 ⟨x, y, j, code, rfl, hlit, hb3⟩
       have hb3' : Below y1.heap.size y1 y3 := (Below.refl y1.heap.size y1).drew.trans (hb3.mono (Nat.le_refl _))
       have hs3 := hb3'.size
       have hn3 : ¬ y3.heap.size = r := by omega
       have hn4 : ¬ r = y3.heap.size := by omega
       obtain ⟨k0, k1, k2, k3, k4, k5, k6⟩ := (HR1.out.stays hb3').1.cells)
    | (go_at_call 49; refine (HL.out _ (HB1.out.drew.alloc HB1.out.size _) (HR1.out.stays ((Below.refl _ _).drew.alloc (Nat.le_refl _) _))).mono ?_; rintro e y3 ⟨x, y, j, code, rfl, hlit, hb3⟩
       have hb3' : Below y1.heap.size y1 y3 := ((Below.refl y1.heap.size y1).drew.alloc (Nat.le_refl _) _).trans (hb3.mono (by rw [World.size_alloc]; exact Nat.le_succ _))
       have HF3 : Hid (Box2 y3 y1.heap.size 43 (.string ⟨#[]⟩) (.string ⟨#[]⟩)) := (Box2.new y1.drew 43 (.string ⟨#[]⟩) (.string ⟨#[]⟩)).stays hb3
       obtain ⟨b0, b1, b2, b3⟩ := HF3.out.cells
       obtain ⟨k0, k1, k2, k3, k4, k5, k6⟩ := (HR1.out.stays hb3').1.cells))
  · have hY : Below y1.heap.size y1 (y3.alloc (.cells #[.string x, .string y] 43)) := hb3'.alloc hb3'.size _
    have HF6 : Hid (Box2 (y3.alloc (.cells #[.string x, .string y] 43)) y3.heap.size 43 (.string x) (.string y)) := Box2.new _ _ _ _
    have HLit : Hid (SLit zs i 4 xs x y j code) := hlit
    obtain ⟨y6, hy6⟩ : ∃ y6, y3.alloc (.cells #[.string x, .string y] 43) = y6 := ⟨_, rfl⟩
    have hlt6 : y3.heap.size < y6.heap.size := by rw [← hy6, World.size_alloc]; omega
    have hn5 : ¬ y3.heap.size = r := by omega
    have hn6 : ¬ r = y3.heap.size := by omega
    rw [hy6] at hY HF6 ⊢
    clear hy6 hb3 hb3' hs3 hn3 hn4 k0 k1 k2 k3 k4 k5 k6 hlit c0 c1 c2 c3 c4 c5 c6 hn1 hn2
    generalize y3.heap.size = bx at *
    have HR6 : Hid (SdO y6 w00.heap.size r (.slice (some ⟨bb, off, none⟩) len cap) i most m ta tl tc xs fa fl fc fs) := HR1.out.stays hY
    have HB6 : Hid (Below w00.heap.size w00 y6) := HB1.out.trans (hY.mono HB1.out.size)
    clear hY HR1 HB1
    by_cases hcd : code = 0
    · subst hcd
      obtain ⟨hsx, hsy⟩ := HLit.out.short hok
      have hr6 : r < y6.heap.size := HR6.out.1.lt
      have HRA := HR6
      have HBA := HB6
      have HFA := HF6
      clear HR6 HB6 HF6
      have hBr : w00.heap.size ≤ r := HRA.out.2.1
      have HOd : Hid ((y6.alloc (.cells #[.string x, .string y] 43)).drew.ownsRow w00.heap.size 43 2 (.slice fa fl fc) fl (fieldCells fs)) := World.ownsRow.alloc (w := y6) HRA.out.2.2.2.1.1 _
      have hA1 : fl + 1 ≤ maxLen := by unfold maxLen; omega
      have hA2 : (fl + 1) * 32 ≤ 140737488355328 := by omega
      have HSz : Hid (w00.heap.size ≤ (y6.alloc (.cells #[.string x, .string y] 43)).drew.heap.size) := by
        show w00.heap.size ≤ (y6.alloc (.cells #[.string x, .string y] 43)).heap.size
        rw [World.size_alloc]
        exact Nat.le_succ_of_le HBA.out.size
      have HN : Hid (∀ j u, (fieldCells [(x, y)])[j]? = some u → (y6.alloc (.cells #[.string x, .string y] 43)).drew.cell? ((⟨y6.heap.size, 0, none⟩ : Addr).add j) = some u) := two_new y6 x y _ ⟨y6.heap.size, 0, none⟩ rfl
      have hrd : Sd (y6.alloc (.cells #[.string x, .string y] 43)) r (.slice (some ⟨bb, off, none⟩) len cap) i most m (.slice ta tl tc) (.slice fa fl fc) := HRA.out.1.stays ((Below.refl _ _).alloc (Nat.le_refl _) _)
      obtain ⟨_, _, _, _, _, f5, _⟩ := hrd.cells
      obtain ⟨_, _, _, _, _, c5, c6⟩ := HRA.out.1.cells
      have c7 := c6 5 (by omega)
      obtain ⟨d0, dd2, _, _⟩ := HFA.out.cells
      have hfd : Box2 (y6.alloc (.cells #[.string x, .string y] 43)) bx 43 (.string x) (.string y) := HFA.out.alloc _
      have HRd : Hid _ := hrd
      obtain ⟨f0, f1, _, _⟩ := hfd.cells
      have hm1 : ¬ y6.heap.size = r := by omega
      have hm2 : ¬ r = y6.heap.size := by omega
      have hm3 : ¬ y6.heap.size = bx := by omega
      have hm4 : ¬ bx = y6.heap.size := by omega
      have HNr : Hid ((Value.slice fa fl fc).ownBlock ≠ some r) := own_other' HRA.out.2.2.2.1.1 HRA.out.1 (by decide)
      clear hrd hfd c6
      go_wp2_with fail
      go_region_law (first
        | (refine step_append_where rfl (.tmp 113) (.tmp 115) 24 rfl w00.heap.size 43 i0 (.agg #[.string ⟨#[]⟩, .string ⟨#[]⟩]) 2 32 Tryz.underlying24 hi0 hz0 hz1 hz2 rfl (by decide) (.slice fa fl fc) fl (fieldCells fs) rfl HOd.out ⟨y6.heap.size, 0, none⟩ 1 1 (by omega) (fieldCells [(x, y)]) rfl rfl HN.out (fieldCells_one _) hA1 hA2 HSz.out ?_; intro v5 w5 hown hgrow hwh; obtain ⟨a5, c5, rfl⟩ := own_shape hown; have hr5 : Sd w5 r (.slice (some ⟨bb, off, none⟩) len cap) i most m (.slice ta tl tc) (.slice fa fl fc) := Sd.grew (W := (y6.alloc (.cells #[.string x, .string y] 43)).drew) HRd.out hgrow HNr.out; obtain ⟨_, _, _, _, _, g5, g6⟩ := hr5.cells; have g7 := g6 5 (by omega)))
      all_goals
        have hg5 : (y6.alloc (.cells #[.string x, .string y] 43)).grownBy w5 (Value.slice fa fl fc).ownBlock := ⟨hgrow.os, hgrow.tape, hgrow.output, hgrow.size, hgrow.block⟩
        have hap : ∀ k, a5.map (·.block) = some k → ta.map (·.block) ≠ some k := HRA.out.apart hwh
        have HR7 : Hid (SdO (w5.setCell ⟨r, 5, none⟩ (.slice a5 (fl + 1) c5)) w00.heap.size r (.slice (some ⟨bb, off, none⟩) len cap) i most m ta tl tc xs a5 (fl + 1) c5 (fs ++ [(x, y)])) := HRA.out.more ⟨by unfold maxLen; omega, by unfold maxLen; omega⟩ hown hg5 hap
        have HB7 : Hid (Below w00.heap.size w00 (w5.setCell ⟨r, 5, none⟩ (.slice a5 (fl + 1) c5))) := by
          have h1 : Below w00.heap.size w00 (y6.alloc (.cells #[.string x, .string y] 43)) := HBA.out.alloc HBA.out.size _
          exact (h1.grown hg5 HSz.out (fun q hq => (HRA.out.2.2.2.1.lt q hq).1)).setCell (p := ⟨r, 5, none⟩) hBr _
        generalize w5.setCell ⟨r, 5, none⟩ (.slice a5 (fl + 1) c5) = w6 at *
        clear hg5 hap hown hgrow hwh hr5 g5 g6 g7 f0 f1 f5 d0 dd2 c7 HOd HSz HN HRd HNr hm1 hm2 hm3 hm4 HRA HFA HBA
        obtain ⟨_, _, _, _, e4, _, e6⟩ := HR7.out.1.cells
        have e7 := e6 4 (by omega)
        clear e6
        have HR8 : Hid _ := HR7.out.setAt j
        have HB8 : Hid _ := HB7.out.setCell (p := ⟨r, 4, none⟩) hBr (.int .i64 j)
        go_wp2_with fail
        go_ret
        exact ⟨0, j, m, ta, tl, tc, xs, a5, c5, fs ++ [(x, y)], step_lit HBt.out HTs.out HLit.out (take_many (by rw [HFl.out]; exact hfl) (.inr ⟨HTT.out, rfl⟩)), rfl, HB8.out, fun _ => by rw [List.length_append, HFl.out]; exact HR8.out⟩
    · have hne : (code != 0) = true := by simpa using hcd
      have HNe : Hid (code ≠ 0) := hcd
      clear hcd
      go_wp2_with fail
      go_ret
      exact ⟨code, 0, 0, none, 0, 0, [], none, 0, [], step_bad HBt.out HTs.out HLit.out HNe.out, rfl, HB6.out, fun h => absurd h HNe.out⟩
  · have hY : Below y1.heap.size y1 ((y3.setCell ⟨y1.heap.size, 0, none⟩ (.string x)).setCell ⟨y1.heap.size, 1, none⟩ (.string y)) := (hb3'.setCell (p := ⟨y1.heap.size, 0, none⟩) (Nat.le_refl _) _).setCell (p := ⟨y1.heap.size, 1, none⟩) (Nat.le_refl _) _
    have HF6 : Hid (Box2 ((y3.setCell ⟨y1.heap.size, 0, none⟩ (.string x)).setCell ⟨y1.heap.size, 1, none⟩ (.string y)) y1.heap.size 43 (.string x) (.string y)) := two_set1 (two_set0 HF3.out _) _
    have HLit : Hid (SLit zs i 4 xs x y j code) := hlit
    obtain ⟨y6, hy6⟩ : ∃ y6, (y3.setCell ⟨y1.heap.size, 0, none⟩ (.string x)).setCell ⟨y1.heap.size, 1, none⟩ (.string y) = y6 := ⟨_, rfl⟩
    rw [hy6] at hY HF6 ⊢
    have hlt6 : y1.heap.size < y6.heap.size := HF6.out.lt
    clear hy6 hb3 hb3' HF3 b0 b1 b2 b3 k0 k1 k2 k3 k4 k5 k6 hlit c0 c1 c2 c3 c4 c5 c6 hn1 hn2
    obtain ⟨bx, hbx⟩ : ∃ bx, y1.heap.size = bx := ⟨_, rfl⟩
    rw [hbx] at HF6 hlt6 hrl ⊢
    have hn5 : ¬ bx = r := by omega
    have hn6 : ¬ r = bx := by omega
    have HR6 : Hid (SdO y6 w00.heap.size r (.slice (some ⟨bb, off, none⟩) len cap) i most m ta tl tc xs fa fl fc fs) := HR1.out.stays hY
    have HB6 : Hid (Below w00.heap.size w00 y6) := HB1.out.trans (hY.mono HB1.out.size)
    clear hY HR1 HB1 hbx
    by_cases hcd : code = 0
    · subst hcd
      obtain ⟨hsx, hsy⟩ := HLit.out.short hok
      have hr6 : r < y6.heap.size := HR6.out.1.lt
      have HRA := HR6
      have HBA := HB6
      have HFA := HF6
      clear HR6 HB6 HF6
      have hBr : w00.heap.size ≤ r := HRA.out.2.1
      have HOd : Hid ((y6.alloc (.cells #[.string x, .string y] 43)).drew.ownsRow w00.heap.size 43 2 (.slice fa fl fc) fl (fieldCells fs)) := World.ownsRow.alloc (w := y6) HRA.out.2.2.2.1.1 _
      have hA1 : fl + 1 ≤ maxLen := by unfold maxLen; omega
      have hA2 : (fl + 1) * 32 ≤ 140737488355328 := by omega
      have HSz : Hid (w00.heap.size ≤ (y6.alloc (.cells #[.string x, .string y] 43)).drew.heap.size) := by
        show w00.heap.size ≤ (y6.alloc (.cells #[.string x, .string y] 43)).heap.size
        rw [World.size_alloc]
        exact Nat.le_succ_of_le HBA.out.size
      have HN : Hid (∀ j u, (fieldCells [(x, y)])[j]? = some u → (y6.alloc (.cells #[.string x, .string y] 43)).drew.cell? ((⟨y6.heap.size, 0, none⟩ : Addr).add j) = some u) := two_new y6 x y _ ⟨y6.heap.size, 0, none⟩ rfl
      have hrd : Sd (y6.alloc (.cells #[.string x, .string y] 43)) r (.slice (some ⟨bb, off, none⟩) len cap) i most m (.slice ta tl tc) (.slice fa fl fc) := HRA.out.1.stays ((Below.refl _ _).alloc (Nat.le_refl _) _)
      obtain ⟨_, _, _, _, _, f5, _⟩ := hrd.cells
      obtain ⟨_, _, _, _, _, c5, c6⟩ := HRA.out.1.cells
      have c7 := c6 5 (by omega)
      obtain ⟨d0, dd2, _, _⟩ := HFA.out.cells
      have hfd : Box2 (y6.alloc (.cells #[.string x, .string y] 43)) bx 43 (.string x) (.string y) := HFA.out.alloc _
      have HRd : Hid _ := hrd
      obtain ⟨f0, f1, _, _⟩ := hfd.cells
      have hm1 : ¬ y6.heap.size = r := by omega
      have hm2 : ¬ r = y6.heap.size := by omega
      have hm3 : ¬ y6.heap.size = bx := by omega
      have hm4 : ¬ bx = y6.heap.size := by omega
      have HNr : Hid ((Value.slice fa fl fc).ownBlock ≠ some r) := own_other' HRA.out.2.2.2.1.1 HRA.out.1 (by decide)
      clear hrd hfd c6
      go_wp2_with fail
      go_region_law (first
        | (refine step_append_where rfl (.tmp 113) (.tmp 115) 24 rfl w00.heap.size 43 i0 (.agg #[.string ⟨#[]⟩, .string ⟨#[]⟩]) 2 32 Tryz.underlying24 hi0 hz0 hz1 hz2 rfl (by decide) (.slice fa fl fc) fl (fieldCells fs) rfl HOd.out ⟨y6.heap.size, 0, none⟩ 1 1 (by omega) (fieldCells [(x, y)]) rfl rfl HN.out (fieldCells_one _) hA1 hA2 HSz.out ?_; intro v5 w5 hown hgrow hwh; obtain ⟨a5, c5, rfl⟩ := own_shape hown; have hr5 : Sd w5 r (.slice (some ⟨bb, off, none⟩) len cap) i most m (.slice ta tl tc) (.slice fa fl fc) := Sd.grew (W := (y6.alloc (.cells #[.string x, .string y] 43)).drew) HRd.out hgrow HNr.out; obtain ⟨_, _, _, _, _, g5, g6⟩ := hr5.cells; have g7 := g6 5 (by omega)))
      all_goals
        have hg5 : (y6.alloc (.cells #[.string x, .string y] 43)).grownBy w5 (Value.slice fa fl fc).ownBlock := ⟨hgrow.os, hgrow.tape, hgrow.output, hgrow.size, hgrow.block⟩
        have hap : ∀ k, a5.map (·.block) = some k → ta.map (·.block) ≠ some k := HRA.out.apart hwh
        have HR7 : Hid (SdO (w5.setCell ⟨r, 5, none⟩ (.slice a5 (fl + 1) c5)) w00.heap.size r (.slice (some ⟨bb, off, none⟩) len cap) i most m ta tl tc xs a5 (fl + 1) c5 (fs ++ [(x, y)])) := HRA.out.more ⟨by unfold maxLen; omega, by unfold maxLen; omega⟩ hown hg5 hap
        have HB7 : Hid (Below w00.heap.size w00 (w5.setCell ⟨r, 5, none⟩ (.slice a5 (fl + 1) c5))) := by
          have h1 : Below w00.heap.size w00 (y6.alloc (.cells #[.string x, .string y] 43)) := HBA.out.alloc HBA.out.size _
          exact (h1.grown hg5 HSz.out (fun q hq => (HRA.out.2.2.2.1.lt q hq).1)).setCell (p := ⟨r, 5, none⟩) hBr _
        generalize w5.setCell ⟨r, 5, none⟩ (.slice a5 (fl + 1) c5) = w6 at *
        clear hg5 hap hown hgrow hwh hr5 g5 g6 g7 f0 f1 f5 d0 dd2 c7 HOd HSz HN HRd HNr hm1 hm2 hm3 hm4 HRA HFA HBA
        obtain ⟨_, _, _, _, e4, _, e6⟩ := HR7.out.1.cells
        have e7 := e6 4 (by omega)
        clear e6
        have HR8 : Hid _ := HR7.out.setAt j
        have HB8 : Hid _ := HB7.out.setCell (p := ⟨r, 4, none⟩) hBr (.int .i64 j)
        go_wp2_with fail
        go_ret
        exact ⟨0, j, m, ta, tl, tc, xs, a5, c5, fs ++ [(x, y)], step_lit HBt.out HTs.out HLit.out (take_many (by rw [HFl.out]; exact hfl) (.inr ⟨HTT.out, rfl⟩)), rfl, HB8.out, fun _ => by rw [List.length_append, HFl.out]; exact HR8.out⟩
    · have hne : (code != 0) = true := by simpa using hcd
      have HNe : Hid (code ≠ 0) := hcd
      clear hcd
      go_wp2_with fail
      go_ret
      exact ⟨code, 0, 0, none, 0, 0, [], none, 0, [], step_bad HBt.out HTs.out HLit.out HNe.out, rfl, HB6.out, fun h => absurd h HNe.out⟩

end Go.Proofs.YtckpacifimpkgacGreat

namespace Go.Proofs.YtckpacifimpkgacGreat
open Go.RowKit
set_option linter.unusedVariables false

set_option maxRecDepth 10000 in
set_option maxHeartbeats 3200000 in
theorem spOne_add (w00 : World) (r bb off len cap i : Nat) (zs : List Int) (most m : Int) (ta : Option Addr) (tl tc : Nat) (xs : List Fld) (fa : Option Addr) (fl fc : Nat) (fs : List Fld) (w : World) (h0 : Below w00.heap.size w00 w) (hs : Seg w00 (some ⟨bb, off, none⟩) len zs)
    (hr : SdO w w00.heap.size r (.slice (some ⟨bb, off, none⟩) len cap) i most m ta tl tc xs fa fl fc fs) (hcap : len ≤ cap) (hl : len ≤ 4000) (hi : i < len) (hok : okT m xs = true) (hfl : fl ≤ 100) (h1 : 64 ≤ zs.getD i 0) (h2 : zs.getD i 0 < 128) :
    Calls Tryz.prog 29 #[.pointer (some ⟨r, 0, none⟩)] w fun e w' => ∃ (code j m' : Int) (va : Option Addr) (k vc : Nat) (ys : List Fld) (fa' : Option Addr) (fc' : Nat) (gs : List Fld), StepAns zs most i m xs fs j m' ys gs (many code gs) ∧ e = .returned (.int .i64 code) ∧ Below w00.heap.size w00 w' ∧ (code = 0 → SdO w' w00.heap.size r (.slice (some ⟨bb, off, none⟩) len cap) j most m' va k vc ys fa' gs.length fc' gs) := by
  obtain ⟨i0, hi0, hz0, hz1, hz2⟩ := info_parts info_field
  have HS : Hid (∀ W, Below w00.heap.size w00 W → Seg W (some ⟨bb, off, none⟩) len zs) := fun W h => hs.below h
  have HB : Hid (Below w00.heap.size w00 w) := h0
  have HR : Hid (SdO w w00.heap.size r (.slice (some ⟨bb, off, none⟩) len cap) i most m ta tl tc xs fa fl fc fs) := hr
  have HFl : Hid (fs.length = fl) := hr.2.2.2.1.len
  have htl : tl + fldBytes xs ≤ 4096 := by have h3 := okT_small hok; have h4 := hr.2.2.1.len; omega
  have hzl : zs.length = len := hs.1
  obtain ⟨c0, c1, c2, c3, c4, c5, c6⟩ := hr.1.cells
  have c7 : w.cell? ⟨bb, off + i, none⟩ = some (.int .u8 (zs.getD i 0)) := by
    rcases (hs.below h0).2.2 with h | ⟨b', off', e, hb, hc⟩
    · omega
    · cases e
      have := hc i (by omega)
      rw [this, List.getD, List.getElem?_eq_getElem (by omega)]
  have hT : formL (zs.getD i 0) = 99 := by rw [formL, if_neg (by omega), if_pos (by omega)]
  have hbits : bitsL (zs.getD i 0) = 6 := by rw [bitsL, if_neg (by omega), if_pos (by omega)]
  have HTs : Hid (formL (zs.getD i 0) ≠ 80 ∧ formL (zs.getD i 0) ≠ 82) := by show _ ∧ _; rw [hT]; decide
  have HTT : Hid (formL (zs.getD i 0) = 99) := hT
  have HBt : Hid (bitsL (zs.getD i 0) = 6) := hbits
  have HCap : Hid (len ≤ cap) := hcap
  have HL : Hid (∀ W, Below w00.heap.size w00 W → SdO W w00.heap.size r (.slice (some ⟨bb, off, none⟩) len cap) i most m ta tl tc xs fa fl fc fs → Calls Tryz.prog 49 #[.agg #[.int .i64 m, .slice ta tl tc], .slice (some ⟨bb, off, none⟩) len cap, .int .i64 i, .int .i64 6] W fun e w' => ∃ (x y : ByteArray) (j code : Int), e = .returned (.tuple #[.agg #[.string x, .string y], .int .i64 j, .int .i64 code]) ∧ SLit zs i 6 xs x y j code ∧ Below W.heap.size W w') := fun W h h' => specLit_any m ta tl tc xs bb off len cap zs i 6 W h'.2.2.1.flds (HS.out W h) HCap.out hl (by omega)
  clear hr h0 hs hT hbits hcap
  generalize hcc : zs.getD i 0 = c at c7 h2 h1
  have hii : (i : Int) < (len : Int) := by omega
  have hi00 : (0 : Int) ≤ (i : Int) := by omega
  have d1 : decide (128 ≤ c) = false := by simp; omega
  have d1p : (128 ≤ c) = False := by simp; omega
  have d2 : decide (32 ≤ c) = true := by simp; omega
  have d2p : (32 ≤ c) = True := by simp; omega
  have d3 : decide (c < 64) = false := by simp; omega
  have d3p : (c < 64) = False := by simp; omega
  have d4 : decide (64 ≤ c) = true := by simp; omega
  have d4p : (64 ≤ c) = True := by simp; omega
  clear hcc
  go_enter Tryz.func29, Tryz.ntmps29
  go_wp2_with fail
  go_region_held3 (fun W => W.cell? ⟨r, 3, none⟩ = some (.slice (some ⟨bb, off, none⟩) len cap) ∧ W.cell? ⟨r, 4, none⟩ = some (.int .i64 i) ∧ W.cell? ⟨bb, off + i, none⟩ = some (.int .u8 c)) (first | (refine ⟨?_, ?_, ?_⟩ <;> assumption) | (refine ⟨?_, ?_, ?_⟩ <;> (simp [go_sem, *]; done)) | go_keep) (fail)
  have HR1 : Hid (SdO w.drew w00.heap.size r (.slice (some ⟨bb, off, none⟩) len cap) i most m ta tl tc xs fa fl fc fs) := HR.out.stays (Below.refl _ _).drew
  have HB1 : Hid (Below w00.heap.size w00 w.drew) := HB.out.drew
  generalize w.drew = y1 at *
  clear c0 c1 c2 c3 c4 c5 c6 c7 HR HB
  obtain ⟨c0, c1, c2, c3, c4, c5, c6⟩ := HR1.out.1.cells
  have hrl : r < y1.heap.size := HR1.out.1.lt
  have hn1 : ¬ y1.heap.size = r := by omega
  have hn2 : ¬ r = y1.heap.size := by omega
  go_wp2_with fail
  go_region_held3 (fun W => W.cell? ⟨r, 0, none⟩ = some (.int .i64 m) ∧ W.cell? ⟨r, 1, none⟩ = some (.slice ta tl tc) ∧ W.cell? ⟨r, 3, none⟩ = some (.slice (some ⟨bb, off, none⟩) len cap) ∧ W.cell? ⟨r, 4, none⟩ = some (.int .i64 i)) (first | (refine ⟨?_, ?_, ?_, ?_⟩ <;> assumption) | (refine ⟨?_, ?_, ?_, ?_⟩ <;> (simp [go_sem, *]; done)) | go_keep) (first
    | (go_at_call 49; refine (HL.out _ HB1.out.drew (HR1.out.stays (Below.refl _ _).drew)).mono ?_; rintro e y3 ⟨x, y, j, code, rfl, hlit, hb3⟩
       have hb3' : Below y1.heap.size y1 y3 := (Below.refl y1.heap.size y1).drew.trans (hb3.mono (Nat.le_refl _))
       have hs3 := hb3'.size
       have hn3 : ¬ y3.heap.size = r := by omega
       have hn4 : ¬ r = y3.heap.size := by omega
       obtain ⟨k0, k1, k2, k3, k4, k5, k6⟩ := (HR1.out.stays hb3').1.cells)
    | (go_at_call 49; refine (HL.out _ (HB1.out.drew.alloc HB1.out.size _) (HR1.out.stays ((Below.refl _ _).drew.alloc (Nat.le_refl _) _))).mono ?_; rintro e y3 ⟨x, y, j, code, rfl, hlit, hb3⟩
       have hb3' : Below y1.heap.size y1 y3 := ((Below.refl y1.heap.size y1).drew.alloc (Nat.le_refl _) _).trans (hb3.mono (by rw [World.size_alloc]; exact Nat.le_succ _))
       have HF3 : Hid (Box2 y3 y1.heap.size 43 (.string ⟨#[]⟩) (.string ⟨#[]⟩)) := (Box2.new y1.drew 43 (.string ⟨#[]⟩) (.string ⟨#[]⟩)).stays hb3
       obtain ⟨b0, b1, b2, b3⟩ := HF3.out.cells
       obtain ⟨k0, k1, k2, k3, k4, k5, k6⟩ := (HR1.out.stays hb3').1.cells))
  · have hY : Below y1.heap.size y1 (y3.alloc (.cells #[.string x, .string y] 43)) := hb3'.alloc hb3'.size _
    have HF6 : Hid (Box2 (y3.alloc (.cells #[.string x, .string y] 43)) y3.heap.size 43 (.string x) (.string y)) := Box2.new _ _ _ _
    have HLit : Hid (SLit zs i 6 xs x y j code) := hlit
    obtain ⟨y6, hy6⟩ : ∃ y6, y3.alloc (.cells #[.string x, .string y] 43) = y6 := ⟨_, rfl⟩
    have hlt6 : y3.heap.size < y6.heap.size := by rw [← hy6, World.size_alloc]; omega
    have hn5 : ¬ y3.heap.size = r := by omega
    have hn6 : ¬ r = y3.heap.size := by omega
    rw [hy6] at hY HF6 ⊢
    clear hy6 hb3 hb3' hs3 hn3 hn4 k0 k1 k2 k3 k4 k5 k6 hlit c0 c1 c2 c3 c4 c5 c6 hn1 hn2
    generalize y3.heap.size = bx at *
    have HR6 : Hid (SdO y6 w00.heap.size r (.slice (some ⟨bb, off, none⟩) len cap) i most m ta tl tc xs fa fl fc fs) := HR1.out.stays hY
    have HB6 : Hid (Below w00.heap.size w00 y6) := HB1.out.trans (hY.mono HB1.out.size)
    clear hY HR1 HB1
    by_cases hcd : code = 0
    · subst hcd
      obtain ⟨hsx, hsy⟩ := HLit.out.short hok
      have hr6 : r < y6.heap.size := HR6.out.1.lt
      have hrng := okT_range hok
      obtain ⟨p0, p1, _, _, _, _, p6⟩ := HR6.out.1.cells
      have p7 := p6 0 (by omega)
      have p8 := p6 1 (by omega)
      obtain ⟨q0, q1, _, _⟩ := HF6.out.cells
      clear p6
      go_wp2_with fail
      go_region_with (first
        | (go_at_call 31; refine (specAdd4_any m ta tl tc xs x y _ (HR6.out.stays (Below.refl _ _).drew).2.2.1.flds hrng.1 hrng.2 ⟨by unfold maxLen; omega, by unfold maxLen; omega⟩ (by omega)).mono ?_; rintro e y7 ⟨v, k, rfl, hfit, hov, hb7⟩; obtain ⟨va, vc, rfl⟩ := hov.shape; have hb7' : Below y6.heap.size y6 y7 := (Below.refl y6.heap.size y6).drew.trans (hb7.mono (Nat.le_refl _)); obtain ⟨l0, l1, _, _, _, _, l6⟩ := (HR6.out.stays hb7').1.cells; have l7 := l6 0 (by omega); have l8 := l6 1 (by omega)))
      all_goals
        obtain ⟨ys, hys⟩ : ∃ ys, ((x, y) :: xs).take k = ys := ⟨_, rfl⟩
        rw [hys] at hov
        have HAns : Hid (AddAns m xs (x, y) ys) := .inl ⟨hok, k, hfit, hys.symm⟩
        have HRA : Hid (SdO ((y7.setCell ⟨r, 0, none⟩ (.int .i64 m)).setCell ⟨r, 1, none⟩ (.slice va k vc)) w00.heap.size r (.slice (some ⟨bb, off, none⟩) len cap) i most m va k vc ys fa fl fc fs) := HR6.out.tab hb7' HB6.out.size hov m
        have HBA : Hid (Below w00.heap.size w00 ((y7.setCell ⟨r, 0, none⟩ (.int .i64 m)).setCell ⟨r, 1, none⟩ (.slice va k vc))) := ((HB6.out.trans (hb7'.mono HB6.out.size)).setCell (p := ⟨r, 0, none⟩) HR6.out.2.1 _).setCell (p := ⟨r, 1, none⟩) HR6.out.2.1 _
        have HFA : Hid (Box2 ((y7.setCell ⟨r, 0, none⟩ (.int .i64 m)).setCell ⟨r, 1, none⟩ (.slice va k vc)) bx 43 (.string x) (.string y)) := by
          show _ = _
          rw [set_block_other _ _ _ _ _ hn5, set_block_other _ _ _ _ _ hn5]
          exact HF6.out.stays hb7'
        obtain ⟨yA, hyA⟩ : ∃ yA, (y7.setCell ⟨r, 0, none⟩ (.int .i64 m)).setCell ⟨r, 1, none⟩ (.slice va k vc) = yA := ⟨_, rfl⟩
        rw [hyA] at HRA HBA HFA ⊢
        have hrA : r < yA.heap.size := HRA.out.1.lt
        have hltA : bx < yA.heap.size := HFA.out.lt
        clear hyA hys hov hfit hb7 hb7' l0 l1 l6 l7 l8 p0 p1 p7 p8 q0 q1 HR6 HB6 HF6 hr6 hlt6
        have hBr : w00.heap.size ≤ r := HRA.out.2.1
        have HOd : Hid ((yA.alloc (.cells #[.string x, .string y] 43)).drew.ownsRow w00.heap.size 43 2 (.slice fa fl fc) fl (fieldCells fs)) := World.ownsRow.alloc (w := yA) HRA.out.2.2.2.1.1 _
        have hA1 : fl + 1 ≤ maxLen := by unfold maxLen; omega
        have hA2 : (fl + 1) * 32 ≤ 140737488355328 := by omega
        have HSz : Hid (w00.heap.size ≤ (yA.alloc (.cells #[.string x, .string y] 43)).drew.heap.size) := by
          show w00.heap.size ≤ (yA.alloc (.cells #[.string x, .string y] 43)).heap.size
          rw [World.size_alloc]
          exact Nat.le_succ_of_le HBA.out.size
        have HN : Hid (∀ j u, (fieldCells [(x, y)])[j]? = some u → (yA.alloc (.cells #[.string x, .string y] 43)).drew.cell? ((⟨yA.heap.size, 0, none⟩ : Addr).add j) = some u) := two_new yA x y _ ⟨yA.heap.size, 0, none⟩ rfl
        have hrd : Sd (yA.alloc (.cells #[.string x, .string y] 43)) r (.slice (some ⟨bb, off, none⟩) len cap) i most m (.slice va k vc) (.slice fa fl fc) := HRA.out.1.stays ((Below.refl _ _).alloc (Nat.le_refl _) _)
        obtain ⟨_, _, _, _, _, f5, _⟩ := hrd.cells
        obtain ⟨_, _, _, _, _, c5, c6⟩ := HRA.out.1.cells
        have c7 := c6 5 (by omega)
        obtain ⟨d0, dd2, _, _⟩ := HFA.out.cells
        have hfd : Box2 (yA.alloc (.cells #[.string x, .string y] 43)) bx 43 (.string x) (.string y) := HFA.out.alloc _
        have HRd : Hid _ := hrd
        obtain ⟨f0, f1, _, _⟩ := hfd.cells
        have hm1 : ¬ yA.heap.size = r := by omega
        have hm2 : ¬ r = yA.heap.size := by omega
        have hm3 : ¬ yA.heap.size = bx := by omega
        have hm4 : ¬ bx = yA.heap.size := by omega
        have HNr : Hid ((Value.slice fa fl fc).ownBlock ≠ some r) := own_other' HRA.out.2.2.2.1.1 HRA.out.1 (by decide)
        clear hrd hfd c6
        go_wp2_with fail
        go_region_law (first
          | (refine step_append_where rfl (.tmp 113) (.tmp 115) 24 rfl w00.heap.size 43 i0 (.agg #[.string ⟨#[]⟩, .string ⟨#[]⟩]) 2 32 Tryz.underlying24 hi0 hz0 hz1 hz2 rfl (by decide) (.slice fa fl fc) fl (fieldCells fs) rfl HOd.out ⟨yA.heap.size, 0, none⟩ 1 1 (by omega) (fieldCells [(x, y)]) rfl rfl HN.out (fieldCells_one _) hA1 hA2 HSz.out ?_; intro v5 w5 hown hgrow hwh; obtain ⟨a5, c5, rfl⟩ := own_shape hown; have hr5 : Sd w5 r (.slice (some ⟨bb, off, none⟩) len cap) i most m (.slice va k vc) (.slice fa fl fc) := Sd.grew (W := (yA.alloc (.cells #[.string x, .string y] 43)).drew) HRd.out hgrow HNr.out; obtain ⟨_, _, _, _, _, g5, g6⟩ := hr5.cells; have g7 := g6 5 (by omega)))
        all_goals
          have hg5 : (yA.alloc (.cells #[.string x, .string y] 43)).grownBy w5 (Value.slice fa fl fc).ownBlock := ⟨hgrow.os, hgrow.tape, hgrow.output, hgrow.size, hgrow.block⟩
          have hap : ∀ k, a5.map (·.block) = some k → va.map (·.block) ≠ some k := HRA.out.apart hwh
          have HR7 : Hid (SdO (w5.setCell ⟨r, 5, none⟩ (.slice a5 (fl + 1) c5)) w00.heap.size r (.slice (some ⟨bb, off, none⟩) len cap) i most m va k vc ys a5 (fl + 1) c5 (fs ++ [(x, y)])) := HRA.out.more ⟨by unfold maxLen; omega, by unfold maxLen; omega⟩ hown hg5 hap
          have HB7 : Hid (Below w00.heap.size w00 (w5.setCell ⟨r, 5, none⟩ (.slice a5 (fl + 1) c5))) := by
            have h1 : Below w00.heap.size w00 (yA.alloc (.cells #[.string x, .string y] 43)) := HBA.out.alloc HBA.out.size _
            exact (h1.grown hg5 HSz.out (fun q hq => (HRA.out.2.2.2.1.lt q hq).1)).setCell (p := ⟨r, 5, none⟩) hBr _
          generalize w5.setCell ⟨r, 5, none⟩ (.slice a5 (fl + 1) c5) = w6 at *
          clear hg5 hap hown hgrow hwh hr5 g5 g6 g7 f0 f1 f5 d0 dd2 c7 HOd HSz HN HRd HNr hm1 hm2 hm3 hm4 HRA HFA HBA
          obtain ⟨_, _, _, _, e4, _, e6⟩ := HR7.out.1.cells
          have e7 := e6 4 (by omega)
          clear e6
          have HR8 : Hid _ := HR7.out.setAt j
          have HB8 : Hid _ := HB7.out.setCell (p := ⟨r, 4, none⟩) hBr (.int .i64 j)
          go_wp2_with fail
          go_ret
          exact ⟨0, j, m, va, k, vc, ys, a5, c5, fs ++ [(x, y)], step_lit HBt.out HTs.out HLit.out (take_many (by rw [HFl.out]; exact hfl) (.inl ⟨HTT.out, HAns.out⟩)), rfl, HB8.out, fun _ => by rw [List.length_append, HFl.out]; exact HR8.out⟩
    · have hne : (code != 0) = true := by simpa using hcd
      have HNe : Hid (code ≠ 0) := hcd
      clear hcd
      go_wp2_with fail
      go_ret
      exact ⟨code, 0, 0, none, 0, 0, [], none, 0, [], step_bad HBt.out HTs.out HLit.out HNe.out, rfl, HB6.out, fun h => absurd h HNe.out⟩
  · have hY : Below y1.heap.size y1 ((y3.setCell ⟨y1.heap.size, 0, none⟩ (.string x)).setCell ⟨y1.heap.size, 1, none⟩ (.string y)) := (hb3'.setCell (p := ⟨y1.heap.size, 0, none⟩) (Nat.le_refl _) _).setCell (p := ⟨y1.heap.size, 1, none⟩) (Nat.le_refl _) _
    have HF6 : Hid (Box2 ((y3.setCell ⟨y1.heap.size, 0, none⟩ (.string x)).setCell ⟨y1.heap.size, 1, none⟩ (.string y)) y1.heap.size 43 (.string x) (.string y)) := two_set1 (two_set0 HF3.out _) _
    have HLit : Hid (SLit zs i 6 xs x y j code) := hlit
    obtain ⟨y6, hy6⟩ : ∃ y6, (y3.setCell ⟨y1.heap.size, 0, none⟩ (.string x)).setCell ⟨y1.heap.size, 1, none⟩ (.string y) = y6 := ⟨_, rfl⟩
    rw [hy6] at hY HF6 ⊢
    have hlt6 : y1.heap.size < y6.heap.size := HF6.out.lt
    clear hy6 hb3 hb3' HF3 b0 b1 b2 b3 k0 k1 k2 k3 k4 k5 k6 hlit c0 c1 c2 c3 c4 c5 c6 hn1 hn2
    obtain ⟨bx, hbx⟩ : ∃ bx, y1.heap.size = bx := ⟨_, rfl⟩
    rw [hbx] at HF6 hlt6 hrl ⊢
    have hn5 : ¬ bx = r := by omega
    have hn6 : ¬ r = bx := by omega
    have HR6 : Hid (SdO y6 w00.heap.size r (.slice (some ⟨bb, off, none⟩) len cap) i most m ta tl tc xs fa fl fc fs) := HR1.out.stays hY
    have HB6 : Hid (Below w00.heap.size w00 y6) := HB1.out.trans (hY.mono HB1.out.size)
    clear hY HR1 HB1 hbx
    by_cases hcd : code = 0
    · subst hcd
      obtain ⟨hsx, hsy⟩ := HLit.out.short hok
      have hr6 : r < y6.heap.size := HR6.out.1.lt
      have hrng := okT_range hok
      obtain ⟨p0, p1, _, _, _, _, p6⟩ := HR6.out.1.cells
      have p7 := p6 0 (by omega)
      have p8 := p6 1 (by omega)
      obtain ⟨q0, q1, _, _⟩ := HF6.out.cells
      clear p6
      go_wp2_with fail
      go_region_with (first
        | (go_at_call 31; refine (specAdd4_any m ta tl tc xs x y _ (HR6.out.stays (Below.refl _ _).drew).2.2.1.flds hrng.1 hrng.2 ⟨by unfold maxLen; omega, by unfold maxLen; omega⟩ (by omega)).mono ?_; rintro e y7 ⟨v, k, rfl, hfit, hov, hb7⟩; obtain ⟨va, vc, rfl⟩ := hov.shape; have hb7' : Below y6.heap.size y6 y7 := (Below.refl y6.heap.size y6).drew.trans (hb7.mono (Nat.le_refl _)); obtain ⟨l0, l1, _, _, _, _, l6⟩ := (HR6.out.stays hb7').1.cells; have l7 := l6 0 (by omega); have l8 := l6 1 (by omega)))
      all_goals
        obtain ⟨ys, hys⟩ : ∃ ys, ((x, y) :: xs).take k = ys := ⟨_, rfl⟩
        rw [hys] at hov
        have HAns : Hid (AddAns m xs (x, y) ys) := .inl ⟨hok, k, hfit, hys.symm⟩
        have HRA : Hid (SdO ((y7.setCell ⟨r, 0, none⟩ (.int .i64 m)).setCell ⟨r, 1, none⟩ (.slice va k vc)) w00.heap.size r (.slice (some ⟨bb, off, none⟩) len cap) i most m va k vc ys fa fl fc fs) := HR6.out.tab hb7' HB6.out.size hov m
        have HBA : Hid (Below w00.heap.size w00 ((y7.setCell ⟨r, 0, none⟩ (.int .i64 m)).setCell ⟨r, 1, none⟩ (.slice va k vc))) := ((HB6.out.trans (hb7'.mono HB6.out.size)).setCell (p := ⟨r, 0, none⟩) HR6.out.2.1 _).setCell (p := ⟨r, 1, none⟩) HR6.out.2.1 _
        have HFA : Hid (Box2 ((y7.setCell ⟨r, 0, none⟩ (.int .i64 m)).setCell ⟨r, 1, none⟩ (.slice va k vc)) bx 43 (.string x) (.string y)) := by
          show _ = _
          rw [set_block_other _ _ _ _ _ hn5, set_block_other _ _ _ _ _ hn5]
          exact HF6.out.stays hb7'
        obtain ⟨yA, hyA⟩ : ∃ yA, (y7.setCell ⟨r, 0, none⟩ (.int .i64 m)).setCell ⟨r, 1, none⟩ (.slice va k vc) = yA := ⟨_, rfl⟩
        rw [hyA] at HRA HBA HFA ⊢
        have hrA : r < yA.heap.size := HRA.out.1.lt
        have hltA : bx < yA.heap.size := HFA.out.lt
        clear hyA hys hov hfit hb7 hb7' l0 l1 l6 l7 l8 p0 p1 p7 p8 q0 q1 HR6 HB6 HF6 hr6 hlt6
        have hBr : w00.heap.size ≤ r := HRA.out.2.1
        have HOd : Hid ((yA.alloc (.cells #[.string x, .string y] 43)).drew.ownsRow w00.heap.size 43 2 (.slice fa fl fc) fl (fieldCells fs)) := World.ownsRow.alloc (w := yA) HRA.out.2.2.2.1.1 _
        have hA1 : fl + 1 ≤ maxLen := by unfold maxLen; omega
        have hA2 : (fl + 1) * 32 ≤ 140737488355328 := by omega
        have HSz : Hid (w00.heap.size ≤ (yA.alloc (.cells #[.string x, .string y] 43)).drew.heap.size) := by
          show w00.heap.size ≤ (yA.alloc (.cells #[.string x, .string y] 43)).heap.size
          rw [World.size_alloc]
          exact Nat.le_succ_of_le HBA.out.size
        have HN : Hid (∀ j u, (fieldCells [(x, y)])[j]? = some u → (yA.alloc (.cells #[.string x, .string y] 43)).drew.cell? ((⟨yA.heap.size, 0, none⟩ : Addr).add j) = some u) := two_new yA x y _ ⟨yA.heap.size, 0, none⟩ rfl
        have hrd : Sd (yA.alloc (.cells #[.string x, .string y] 43)) r (.slice (some ⟨bb, off, none⟩) len cap) i most m (.slice va k vc) (.slice fa fl fc) := HRA.out.1.stays ((Below.refl _ _).alloc (Nat.le_refl _) _)
        obtain ⟨_, _, _, _, _, f5, _⟩ := hrd.cells
        obtain ⟨_, _, _, _, _, c5, c6⟩ := HRA.out.1.cells
        have c7 := c6 5 (by omega)
        obtain ⟨d0, dd2, _, _⟩ := HFA.out.cells
        have hfd : Box2 (yA.alloc (.cells #[.string x, .string y] 43)) bx 43 (.string x) (.string y) := HFA.out.alloc _
        have HRd : Hid _ := hrd
        obtain ⟨f0, f1, _, _⟩ := hfd.cells
        have hm1 : ¬ yA.heap.size = r := by omega
        have hm2 : ¬ r = yA.heap.size := by omega
        have hm3 : ¬ yA.heap.size = bx := by omega
        have hm4 : ¬ bx = yA.heap.size := by omega
        have HNr : Hid ((Value.slice fa fl fc).ownBlock ≠ some r) := own_other' HRA.out.2.2.2.1.1 HRA.out.1 (by decide)
        clear hrd hfd c6
        go_wp2_with fail
        go_region_law (first
          | (refine step_append_where rfl (.tmp 113) (.tmp 115) 24 rfl w00.heap.size 43 i0 (.agg #[.string ⟨#[]⟩, .string ⟨#[]⟩]) 2 32 Tryz.underlying24 hi0 hz0 hz1 hz2 rfl (by decide) (.slice fa fl fc) fl (fieldCells fs) rfl HOd.out ⟨yA.heap.size, 0, none⟩ 1 1 (by omega) (fieldCells [(x, y)]) rfl rfl HN.out (fieldCells_one _) hA1 hA2 HSz.out ?_; intro v5 w5 hown hgrow hwh; obtain ⟨a5, c5, rfl⟩ := own_shape hown; have hr5 : Sd w5 r (.slice (some ⟨bb, off, none⟩) len cap) i most m (.slice va k vc) (.slice fa fl fc) := Sd.grew (W := (yA.alloc (.cells #[.string x, .string y] 43)).drew) HRd.out hgrow HNr.out; obtain ⟨_, _, _, _, _, g5, g6⟩ := hr5.cells; have g7 := g6 5 (by omega)))
        all_goals
          have hg5 : (yA.alloc (.cells #[.string x, .string y] 43)).grownBy w5 (Value.slice fa fl fc).ownBlock := ⟨hgrow.os, hgrow.tape, hgrow.output, hgrow.size, hgrow.block⟩
          have hap : ∀ k, a5.map (·.block) = some k → va.map (·.block) ≠ some k := HRA.out.apart hwh
          have HR7 : Hid (SdO (w5.setCell ⟨r, 5, none⟩ (.slice a5 (fl + 1) c5)) w00.heap.size r (.slice (some ⟨bb, off, none⟩) len cap) i most m va k vc ys a5 (fl + 1) c5 (fs ++ [(x, y)])) := HRA.out.more ⟨by unfold maxLen; omega, by unfold maxLen; omega⟩ hown hg5 hap
          have HB7 : Hid (Below w00.heap.size w00 (w5.setCell ⟨r, 5, none⟩ (.slice a5 (fl + 1) c5))) := by
            have h1 : Below w00.heap.size w00 (yA.alloc (.cells #[.string x, .string y] 43)) := HBA.out.alloc HBA.out.size _
            exact (h1.grown hg5 HSz.out (fun q hq => (HRA.out.2.2.2.1.lt q hq).1)).setCell (p := ⟨r, 5, none⟩) hBr _
          generalize w5.setCell ⟨r, 5, none⟩ (.slice a5 (fl + 1) c5) = w6 at *
          clear hg5 hap hown hgrow hwh hr5 g5 g6 g7 f0 f1 f5 d0 dd2 c7 HOd HSz HN HRd HNr hm1 hm2 hm3 hm4 HRA HFA HBA
          obtain ⟨_, _, _, _, e4, _, e6⟩ := HR7.out.1.cells
          have e7 := e6 4 (by omega)
          clear e6
          have HR8 : Hid _ := HR7.out.setAt j
          have HB8 : Hid _ := HB7.out.setCell (p := ⟨r, 4, none⟩) hBr (.int .i64 j)
          go_wp2_with fail
          go_ret
          exact ⟨0, j, m, va, k, vc, ys, a5, c5, fs ++ [(x, y)], step_lit HBt.out HTs.out HLit.out (take_many (by rw [HFl.out]; exact hfl) (.inl ⟨HTT.out, HAns.out⟩)), rfl, HB8.out, fun _ => by rw [List.length_append, HFl.out]; exact HR8.out⟩
    · have hne : (code != 0) = true := by simpa using hcd
      have HNe : Hid (code ≠ 0) := hcd
      clear hcd
      go_wp2_with fail
      go_ret
      exact ⟨code, 0, 0, none, 0, 0, [], none, 0, [], step_bad HBt.out HTs.out HLit.out HNe.out, rfl, HB6.out, fun h => absurd h HNe.out⟩

end Go.Proofs.YtckpacifimpkgacGreat

namespace Go.Proofs.YtckpacifimpkgacGreat
open Go.RowKit
set_option linter.unusedVariables false

set_option maxRecDepth 10000 in
set_option maxHeartbeats 3200000 in
theorem spOne_size (w00 : World) (r bb off len cap i : Nat) (zs : List Int) (most m : Int) (ta : Option Addr) (tl tc : Nat) (xs : List Fld) (fa : Option Addr) (fl fc : Nat) (fs : List Fld) (w : World) (h0 : Below w00.heap.size w00 w) (hs : Seg w00 (some ⟨bb, off, none⟩) len zs)
    (hr : SdO w w00.heap.size r (.slice (some ⟨bb, off, none⟩) len cap) i most m ta tl tc xs fa fl fc fs) (hl : len ≤ 4000) (hi : i < len) (hok : okT m xs = true) (hfl : fl ≤ 100) (h1 : 32 ≤ zs.getD i 0) (h2 : zs.getD i 0 < 64) :
    Calls Tryz.prog 29 #[.pointer (some ⟨r, 0, none⟩)] w fun e w' => ∃ (code j m' : Int) (va : Option Addr) (k vc : Nat) (ys : List Fld) (fa' : Option Addr) (fc' : Nat) (gs : List Fld), StepAns zs most i m xs fs j m' ys gs (many code gs) ∧ e = .returned (.int .i64 code) ∧ Below w00.heap.size w00 w' ∧ (code = 0 → SdO w' w00.heap.size r (.slice (some ⟨bb, off, none⟩) len cap) j most m' va k vc ys fa' gs.length fc' gs) := by
  have HS : Hid (Seg w00 (some ⟨bb, off, none⟩) len zs) := hs
  have HB : Hid (Below w00.heap.size w00 w) := h0
  have HR : Hid (SdO w w00.heap.size r (.slice (some ⟨bb, off, none⟩) len cap) i most m ta tl tc xs fa fl fc fs) := hr
  have HFl : Hid (fs.length = fl) := hr.2.2.2.1.len
  have hzl : zs.length = len := hs.1
  obtain ⟨c0, c1, c2, c3, c4, c5, c6⟩ := hr.1.cells
  have c7 : w.cell? ⟨bb, off + i, none⟩ = some (.int .u8 (zs.getD i 0)) := by
    rcases (hs.below h0).2.2 with h | ⟨b', off', e, hb, hc⟩
    · omega
    · cases e
      have := hc i (by omega)
      rw [this, List.getD, List.getElem?_eq_getElem (by omega)]
  have HTT : Hid (formL (zs.getD i 0) = 80) := by show _ = _; rw [formL, if_neg (by omega), if_neg (by omega), if_pos (by omega)]
  have HBt : Hid (bitsL (zs.getD i 0) = 5) := by show _ = _; rw [bitsL, if_neg (by omega), if_neg (by omega), if_pos (by omega)]
  clear hr h0 hs
  generalize hcc : zs.getD i 0 = c at c7 h1 h2
  have hii : (i : Int) < (len : Int) := by omega
  have hi00 : (0 : Int) ≤ (i : Int) := by omega
  have d1 : decide (128 ≤ c) = false := by simp; omega
  have d1p : (128 ≤ c) = False := by simp; omega
  have d2 : decide (32 ≤ c) = true := by simp; omega
  have d2p : (32 ≤ c) = True := by simp; omega
  have d3 : decide (c < 64) = true := by simp; omega
  have d3p : (c < 64) = True := by simp; omega
  clear hcc
  go_enter Tryz.func29, Tryz.ntmps29
  go_wp2_with fail
  go_region_held3 (fun W => W.cell? ⟨r, 3, none⟩ = some (.slice (some ⟨bb, off, none⟩) len cap) ∧ W.cell? ⟨r, 4, none⟩ = some (.int .i64 i) ∧ W.cell? ⟨bb, off + i, none⟩ = some (.int .u8 c)) (first | (refine ⟨?_, ?_, ?_⟩ <;> assumption) | (refine ⟨?_, ?_, ?_⟩ <;> (simp [go_sem, *]; done)) | go_keep) (fail)
  have HR1 : Hid (SdO w.drew w00.heap.size r (.slice (some ⟨bb, off, none⟩) len cap) i most m ta tl tc xs fa fl fc fs) := HR.out.stays (Below.refl _ _).drew
  have HB1 : Hid (Below w00.heap.size w00 w.drew) := HB.out.drew
  generalize w.drew = y1 at *
  clear c0 c1 c2 c3 c4 c5 c6 c7 HR HB
  go_wp2_with fail
  refine (spSize_any w00 r bb off len cap i zs most m ta tl tc xs fa fl fc fs y1 HB1.out HS.out HR1.out hl hok).mono ?_
  rintro e y3 ⟨code, j, m', va, k, vc, ys, hans, rfl, hb3, hr3⟩
  have HA : Hid (SizeAns zs most i m xs fs j m' ys code) := hans
  have HB3 : Hid (Below w00.heap.size w00 y3) := hb3
  have HR3 : Hid (code = 0 → SdO y3 w00.heap.size r (.slice (some ⟨bb, off, none⟩) len cap) j most m' va k vc ys fa fl fc fs) := hr3
  clear hans hb3 hr3
  go_wp2_with fail
  go_ret
  have hfew : fs.length ≤ 100 := by rw [HFl.out]; exact hfl
  refine ⟨code, j, m', va, k, vc, ys, fa, fc, fs, ?_, rfl, HB3.out, fun h => by rw [HFl.out]; exact HR3.out h⟩
  rw [many_few hfew]
  obtain ⟨n, p, ok, h1, h⟩ := HA.out
  refine ⟨n, p, ok, by rw [HBt.out]; exact h1, ?_⟩
  rcases h with h | ⟨h, h' | ⟨g1, g2, g3, g4⟩⟩
  · exact .inl h
  · exact .inr ⟨h, .inl ⟨HTT.out, .inl h'⟩⟩
  · exact .inr ⟨h, .inl ⟨HTT.out, .inr ⟨g1, g2, g3, rfl, g4⟩⟩⟩

theorem spOne_any (w00 : World) (r bb off len cap i : Nat) (zs : List Int) (most m : Int) (ta : Option Addr) (tl tc : Nat) (xs : List Fld) (fa : Option Addr) (fl fc : Nat) (fs : List Fld) (w : World) (h0 : Below w00.heap.size w00 w) (hs : Seg w00 (some ⟨bb, off, none⟩) len zs)
    (hr : SdO w w00.heap.size r (.slice (some ⟨bb, off, none⟩) len cap) i most m ta tl tc xs fa fl fc fs) (hcap : len ≤ cap) (hl : len ≤ 4000) (hi : i < len) (hok : okT m xs = true) (hfl : fl ≤ 100) :
    Calls Tryz.prog 29 #[.pointer (some ⟨r, 0, none⟩)] w fun e w' => ∃ (code j m' : Int) (va : Option Addr) (k vc : Nat) (ys : List Fld) (fa' : Option Addr) (fc' : Nat) (gs : List Fld), StepAns zs most i m xs fs j m' ys gs (many code gs) ∧ e = .returned (.int .i64 code) ∧ Below w00.heap.size w00 w' ∧ (code = 0 → SdO w' w00.heap.size r (.slice (some ⟨bb, off, none⟩) len cap) j most m' va k vc ys fa' gs.length fc' gs) := by
  by_cases h1 : 128 ≤ zs.getD i 0
  · exact spOne_ix w00 r bb off len cap i zs most m ta tl tc xs fa fl fc fs w h0 hs hr hl hi hok hfl h1
  · by_cases h2 : 64 ≤ zs.getD i 0
    · exact spOne_add w00 r bb off len cap i zs most m ta tl tc xs fa fl fc fs w h0 hs hr hcap hl hi hok hfl h2 (by omega)
    · by_cases h3 : 32 ≤ zs.getD i 0
      · exact spOne_size w00 r bb off len cap i zs most m ta tl tc xs fa fl fc fs w h0 hs hr hl hi hok hfl h3 (by omega)
      · exact spOne_plain w00 r bb off len cap i zs most m ta tl tc xs fa fl fc fs w h0 hs hr hcap hl hi hok hfl (by omega)

end Go.Proofs.YtckpacifimpkgacGreat

namespace Go.Proofs.YtckpacifimpkgacGreat
open Go.RowKit
set_option linter.unusedVariables false

set_option maxHeartbeats 400000 in
theorem l1In_yes (x lo hi : Int) (w : World) (h1 : lo ≤ x) (h2 : x ≤ hi) : Calls Tryz.prog 27 #[.int .i64 x, .int .i64 lo, .int .i64 hi] w fun e w' => e = .returned (.bool true) ∧ w' = w := by
  go_enter Tryz.func27, Tryz.ntmps27
  go_wp2
  go_ret
  exact ⟨rfl, rfl⟩

set_option maxHeartbeats 400000 in
theorem l1In_no (x lo hi : Int) (w : World) (h : x < lo ∨ hi < x) : Calls Tryz.prog 27 #[.int .i64 x, .int .i64 lo, .int .i64 hi] w fun e w' => e = .returned (.bool false) ∧ w' = w := by
  by_cases h1 : x < lo
  · clear h
    go_enter Tryz.func27, Tryz.ntmps27
    go_wp2
    go_ret
    exact ⟨rfl, rfl⟩
  · have h2 : hi < x := by omega
    clear h
    go_enter Tryz.func27, Tryz.ntmps27
    go_wp2
    go_ret
    exact ⟨ret_bool (by simp; omega), rfl⟩

theorem l1In_any (x lo hi : Int) (w : World) : Calls Tryz.prog 27 #[.int .i64 x, .int .i64 lo, .int .i64 hi] w fun e w' => e = .returned (.bool (decide (lo ≤ x ∧ x ≤ hi))) ∧ w' = w := by
  by_cases h : lo ≤ x ∧ x ≤ hi
  · rw [decide_eq_true h]
    exact l1In_yes x lo hi w h.1 h.2
  · rw [decide_eq_false h]
    exact l1In_no x lo hi w (by omega)

end Go.Proofs.YtckpacifimpkgacGreat
