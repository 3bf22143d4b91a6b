/- The draw of a table, a size and a block. For codes of at most 2^40 bytes. Two lists of the same fields are told to be the same. The test that lets greater arguments pass. The law that two blocks of drawn fields come back one behind the other, and that what is wrong leaves the table as it was. -/
import Derived.Test.YtckpacifimpkgacGreatM27
import Derived.Test.YtckpacifimpkgacGreatM28
import Derived.Test.YtckpacifimpkgacGreatM28
import Derived.Deep.RegionHeld3
import Derived.Deep.RegionWith
import Derived.Deep.Cut
import Derived.Deep.CutBlock
import Derived.Laws.AppendOwnNone
import Derived.Test.YtckpacifimpkgacGreatM08
import Derived.Test.YtckpacifimpkgacGreatM01
import Derived.Test.YtckpacifimpkgacGreatM19
import Derived.Test.YtckpacifimpkgacGreatM20
import Derived.Test.YtckpacifimpkgacGreatM25
import Derived.Test.YtckpacifimpkgacGreatM25
import Derived.Test.YtckpacifimpkgacGreatM26
namespace Go.Proofs.YtckpacifimpkgacGreat
open Go.RowKit
set_option linter.unusedVariables false

/-- The end: the table is put into the answer's variable. -/
theorem DG.end {w W : World} {c : Nat} {a : Option Addr} {len cap : Nat} {zs : List Int} {tb base : Nat} {m : Int} {av : Option Addr} {n cv : Nat} {xs : List Fld} {ba : Option Addr} {bl bc : Nat} {ys : List Int} (h : DG w W c a len cap zs tb base m av n cv xs ba bl bc ys) (hw : w.heap.size < base) :
    Box2 ((W.setCell ⟨w.heap.size, 0, none⟩ (.int .i64 m)).setCell ⟨w.heap.size, 1, none⟩ (.slice av n cv)) w.heap.size 26 (.int .i64 m) (.slice av n cv) ∧ Flds ((W.setCell ⟨w.heap.size, 0, none⟩ (.int .i64 m)).setCell ⟨w.heap.size, 1, none⟩ (.slice av n cv)) av n xs ∧ Seg ((W.setCell ⟨w.heap.size, 0, none⟩ (.int .i64 m)).setCell ⟨w.heap.size, 1, none⟩ (.slice av n cv)) ba bl ys ∧ Below w.heap.size w ((W.setCell ⟨w.heap.size, 0, none⟩ (.int .i64 m)).setCell ⟨w.heap.size, 1, none⟩ (.slice av n cv)) := by
  obtain ⟨h1, h2, h3, h4, h5, h6⟩ := h
  have hq := own_cur h5.1 (c := w.heap.size) hw
  refine ⟨two_set1 (two_set0 h3 _) _, ((h5.grown (gset _ w.heap.size 0 (.int .i64 m)) (.inr hq)).grown (gset _ w.heap.size 1 (.slice av n cv)) (.inr hq)).flds, (owns_setTwo h6 h3 _ _).seg, (h2.setCell (p := ⟨w.heap.size, 0, none⟩) (Nat.le_refl _) _).setCell (p := ⟨w.heap.size, 1, none⟩) (Nat.le_refl _) _⟩

set_option maxRecDepth 10000 in
set_option maxHeartbeats 3200000 in
theorem drawGet_any (a : Option Addr) (len cap : Nat) (zs : List Int) (w : World) (hs : Seg w a len zs) (hl : len ≤ 1099511627776) :
    Calls Tryz.prog 9 #[.slice a len cap] w fun e w' => ∃ (m : Int) (av : Option Addr) (n cv : Nat) (xs : List Fld) (most : Int) (ba : Option Addr) (bl bc : Nat) (ys : List Int), e = .returned (.tuple #[.agg #[.int .i64 m, .slice av n cv], .int .i64 most, .slice ba bl bc]) ∧ (n ≤ 7 ∧ fldBytes xs ≤ 560 ∧ bl ≤ 4000 ∧ bl ≤ bc) ∧ Flds w' av n xs ∧ Seg w' ba bl ys ∧ Below w.heap.size w w' := by
  obtain ⟨i0, hi0, hz0, hz1, hz2⟩ := info_parts Tryz.info5
  obtain ⟨w1, hw1⟩ : ∃ w1, w.alloc (.cells #[.int .i64 0, .slice none 0 0] 26) = w1 := ⟨_, rfl⟩
  have HQ1 : Hid (Box2 w1 w.heap.size 26 (.int .i64 0) (.slice none 0 0)) := by show Box2 _ _ _ _ _; rw [← hw1]; exact Box2.new _ _ _ _
  have HB1 : Hid (Below w.heap.size w w1) := by show Below _ _ _; rw [← hw1]; exact (Below.refl _ _).alloc (Nat.le_refl _) _
  have HS1 : Hid (w1.heap.size = w.heap.size + 1) := by show _ = _; rw [← hw1]; simp
  have HS : Hid (Seg w1 a len zs) := hs.below HB1.out
  clear hs
  go_enter Tryz.func9, Tryz.ntmps9
  go_wp2_with fail
  refine (l1New_any a len cap zs _ HS.out hl).mono ?_
  rintro e w2 ⟨rfl, hc2, hb2⟩
  have HQ2 : Hid (Box2 w2 w.heap.size 26 (.int .i64 0) (.slice none 0 0)) := HQ1.out.stays hb2
  have HB2 : Hid (Below w.heap.size w w2) := HB1.out.trans (hb2.mono HB1.out.size)
  have HC2 : Hid (Cur w2 w1.heap.size w1.heap.size a len cap zs) := hc2
  have hcl := hc2.lt
  clear hc2 hb2 HQ1 HB1 HS hw1
  generalize w1.heap.size = c at *
  have hwc : w.heap.size < c := by have := HS1.out; omega
  clear HS1
  go_wp2_with fail
  refine (l4Any_any c c a len cap zs _ HC2.out hl).mono ?_
  rintro e w3 ⟨m, v, n, xs, rfl, ⟨hn, hfb⟩, ho3, hc3, hg3⟩
  obtain ⟨av, cv, rfl⟩ := ho3.shape
  have HD4 : Hid (DG w (w3.alloc (.cells #[.int .i64 m, .slice av n cv] 26)) c a len cap zs w3.heap.size w2.heap.size m av n cv xs none 0 0 []) := by
    have hb3 : Below w.heap.size w w3 := HB2.out.grown hg3 HB2.out.size (fun k e => by injection e with e; omega)
    exact ⟨hc3.new _, hb3.alloc hb3.size _, (HQ2.out.grown hg3 (by intro e; injection e with e; omega)).alloc _, Box2.new _ _ _ _, ho3.stays ((Below.refl _ _).alloc (Nat.le_refl _) _), ⟨⟨rfl, .inl ⟨rfl, rfl⟩⟩, by simp⟩⟩
  have htb : c < w3.heap.size := hc3.lt
  have hcb : c < w2.heap.size := hcl
  have hbase3 : w2.heap.size ≤ w3.heap.size := hg3.size
  clear ho3 hc3 hg3 HQ2 HB2 HC2
  generalize w2.heap.size = base at *
  go_upto_region 3 with fail
  obtain ⟨w4, hw4⟩ : ∃ w4, w3.alloc (.cells #[.int .i64 m, .slice av n cv] 26) = w4 := ⟨_, rfl⟩
  rw [hw4] at HD4 ⊢
  have htl : w3.heap.size < w4.heap.size := by rw [← hw4, World.size_alloc]; omega
  clear hw4
  generalize w3.heap.size = tb at *
  go_cut [5, 6, 7] from 5 (fun v5 v6 v7 W => v5 = .pointer (some ⟨c, 0, none⟩) ∧ v6 = .pointer (some ⟨tb, 0, none⟩) ∧ ∃ (ba : Option Addr) (bl bc : Nat) (ys : List Int), v7 = .slice ba bl bc ∧ bl ≤ 500 ∧ Hid (DG w W c a len cap zs tb base m av n cv xs ba bl bc ys))
  case first =>
    obtain ⟨b0, b1, b2, b3⟩ := HD4.out.2.2.2.1.cells
    have k1 : ¬ tb = w4.heap.size := by omega
    have k2 : ¬ w4.heap.size = tb := by omega
    have hcw4 : c < w4.heap.size := by omega
    go_wp2_with fail
    go_region_held3 (fun W => W.cell? ⟨tb, 0, none⟩ = some (.int .i64 m) ∧ W.cell? ⟨tb, 1, none⟩ = some (.slice av n cv)) (first | (refine ⟨?_, ?_⟩ <;> assumption) | (refine ⟨?_, ?_⟩ <;> (simp [go_sem, *]; done)) | go_keep) (first
      | (go_at_call 14; refine (l5Fields_any c c a len cap zs _ HD4.out.drew.1 hl).mono ?_; rintro e y1 ⟨g, k, cp, l, rfl, hk5, hd1⟩
         have hG1 := HD4.out.drew.call hd1.1 hd1.2.1 hwc htb hcb
         have hs1 : w4.heap.size ≤ y1.heap.size := hd1.2.1.size
         have k3 : ¬ tb = y1.heap.size := by omega
         have k4 : ¬ y1.heap.size = tb := by omega
         obtain ⟨d0, d1, _, _⟩ := hG1.2.2.2.1.cells)
      | (go_at_call 14; refine (l5Fields_any c c a len cap zs _ (HD4.out.drew.new _).1 hl).mono ?_; rintro e y1 ⟨g, k, cp, l, rfl, hk5, hd1⟩
         have hG1 := (HD4.out.drew.new (.cells #[.int .i64 0, .slice none 0 0] 26)).call hd1.1 hd1.2.1 hwc htb hcb
         have hbx1 : Box2 y1 w4.heap.size 26 (.int .i64 0) (.slice none 0 0) := (Box2.new w4.drew 26 (.int .i64 0) (.slice none 0 0)).grown hd1.2.1 (fun e => by injection e with e; have : c = w4.heap.size := e; omega)
         have hs1 : w4.heap.size ≤ y1.heap.size := Nat.le_of_lt hbx1.lt
         obtain ⟨d0, d1, _, _⟩ := hG1.2.2.2.1.cells)
      | (go_at_call 20; refine (specPuts_any m av n cv xs _ k cp l _ hG1.2.2.2.2.1.flds hd1.2.2.1.flds (by have := fld_sum hd1.2.2.2; have := hd1.2.2.1.len; omega)).mono ?_; rintro e y2 ⟨q, aq, cq, v2, n2, ys2, rfl, hput, hoq, hoy, hb2⟩
         obtain ⟨a2, c2, rfl⟩ := hoy.shape
         have hcu2 : Cur y2 c c a len cap zs := hG1.1.kept (gbelow hb2 none) (by simp)
         have hG2 := hG1.stays hcu2 hb2
         have hs2 := hb2.size
         have k5 : ¬ tb = y2.heap.size := by omega
         have k6 : ¬ y2.heap.size = tb := by omega
         obtain ⟨f0, f1, _, _⟩ := hG2.2.2.2.1.cells
         first
           | (have hbx2 := hbx1.stays hb2
              obtain ⟨x0, x1, x2, x3⟩ := hbx2.cells)
           | skip)
      | (go_at_call 20; refine (specPuts_any m av n cv xs _ k cp l _ (hG1.new _).2.2.2.2.1.flds (hd1.2.2.1.stays ((Below.refl _ _).alloc (Nat.le_refl _) _)).flds (by have := fld_sum hd1.2.2.2; have := hd1.2.2.1.len; omega)).mono ?_; rintro e y2 ⟨q, aq, cq, v2, n2, ys2, rfl, hput, hoq, hoy, hb2⟩
         obtain ⟨a2, c2, rfl⟩ := hoy.shape
         have hGn := hG1.new (.cells #[.int .i64 0, .slice none 0 0] 26)
         have hcu2 : Cur y2 c c a len cap zs := hGn.1.kept (gbelow hb2 none) (by simp)
         have hG2 := hGn.stays hcu2 hb2
         have hbx2 : Box2 y2 y1.heap.size 26 (.int .i64 0) (.slice none 0 0) := (Box2.new y1 26 (.int .i64 0) (.slice none 0 0)).stays hb2
         obtain ⟨f0, f1, _, _⟩ := hG2.2.2.2.1.cells
         obtain ⟨x0, x1, x2, x3⟩ := hbx2.cells))
    all_goals
      have HQ : Hid (DG w y2 c a len cap zs tb base m av n cv xs aq q.length cq q) := ⟨hG2.1, hG2.2.1, hG2.2.2.1, hG2.2.2.2.1, hG2.2.2.2.2.1, own_down hoq.1 (by first | omega | (rw [World.size_alloc]; omega)), hoq.2⟩
      have hql : q.length ≤ 500 := by have := hput.fits; have := fldBytes_take l k; have := fld_sum hd1.2.2.2; have := hd1.2.2.1.len; omega
      clear hG1 hG2 hd1 hput hoq hoy hb2
      go_wp2_with fail
      go_meet
      first
        | exact ⟨rfl, rfl, aq, q.length, cq, q, rfl, hql, HQ.out.new _⟩
        | exact ⟨rfl, rfl, aq, q.length, cq, q, rfl, hql, HQ.out.box hbx2 hwc (by omega) (by omega) _ _⟩
  case rest =>
  obtain ⟨rfl, rfl, ba, bl, bc, ys, rfl, hbl, HDc⟩ := hcut
  clear HD4 htl
  obtain ⟨w5, hw5⟩ : ∃ w5, wc = w5 := ⟨_, rfl⟩
  rw [hw5] at HDc ⊢
  clear hw5
  go_wp2_with fail
  refine (l1Once_any c c a len cap zs 4 w5 HDc.out.1 hl (by omega) (by omega)).mono ?_
  rintro e w6 ⟨b, rfl, hc6, hg6⟩
  have HD6 : Hid (DG w w6 c a len cap zs tb base m av n cv xs ba bl bc ys) := HDc.out.call hc6 hg6 hwc htb hcb
  clear hc6 hg6 HDc
  go_upto_if 22 with fail
  go_cut [5, 6, 7] from 5 (fun v5 v6 v7 W => v5 = .pointer (some ⟨c, 0, none⟩) ∧ v6 = .pointer (some ⟨tb, 0, none⟩) ∧ ∃ (ba : Option Addr) (bl bc : Nat) (ys : List Int), v7 = .slice ba bl bc ∧ bl ≤ 600 ∧ Hid (DG w W c a len cap zs tb base m av n cv xs ba bl bc ys))
  case first =>
    cases b with
    | false =>
      go_wp2_with fail
      go_meet
      exact ⟨rfl, rfl, ba, bl, bc, ys, rfl, by omega, HD6⟩
    | true =>
      have HD7 : Hid (DG w ((w6.alloc (.cells #[] 5)).alloc (.cells #[.int .i64 0, .int .i64 100, .int .i64 4096, .int .i64 5000] 3)) c a len cap zs tb base m av n cv xs ba bl bc ys) := (HD6.out.new _).new _
      have hcw6 : c < w6.heap.size := HD6.out.1.lt
      have hbw6 : base ≤ w6.heap.size := by have := HD6.out.2.2.2.1.lt; omega
      go_wp2_with fail
      refine (l1Int_any c c a len cap zs (w6.heap.size + 1) 4 4 [0, 100, 4096, 5000] _ HD7.out.1 hl (by simpa using heap_alloc_new (w6.alloc (.cells #[] 5)) (.cells #[.int .i64 0, .int .i64 100, .int .i64 4096, .int .i64 5000] 3)) (by omega) rfl (by omega) (by omega)).mono ?_
      rintro e w8 ⟨v, rfl, hv, hc8, hg8⟩
      have HD8 : Hid (DG w w8 c a len cap zs tb base m av n cv xs ba bl bc ys) := HD7.out.call hc8 hg8 hwc htb hcb
      have hlp : 1 ≤ (putPfx [] 5 32 v).length ∧ (putPfx [] 5 32 v).length ≤ 90 := by
        simp only [List.mem_cons, List.not_mem_nil, or_false] at hv
        rcases hv with rfl | rfl | rfl | rfl <;> decide
      have hs8 : w6.heap.size ≤ w8.heap.size := by have := hg8.size; simp at this; omega
      clear hv hc8 hg8 HD7 HD6
      go_wp2_with fail
      refine (specPfx_any w6.heap.size 0 0 0 5 32 v [] w8 ⟨rfl, by simp, .inl rfl⟩ (by omega)).mono ?_
      rintro e w9 ⟨ap, cp, rfl, hop, hb9⟩
      have hcu9 : Cur w9 c c a len cap zs := HD8.out.1.kept (gbelow hb9 none) (by simp)
      have HD9 : Hid (DG w w9 c a len cap zs tb base m av n cv xs ba bl bc ys) := HD8.out.stays hcu9 hb9
      generalize putPfx [] 5 32 v = p at *
      obtain ⟨pl, hpl⟩ : ∃ pl, p.length = pl := ⟨_, rfl⟩
      rw [hpl] at hop hlp ⊢
      obtain ⟨g, rfl, _, _⟩ := hop.some (by omega)
      have HOP : Hid (Owns w9 base (some ⟨g, 0, none⟩) pl cp p) := ⟨own_down hop.1 (by omega), hop.2⟩
      have hs9 := hb9.size
      clear hop hb9 hcu9 HD8 hpl
      have HD9p : Hid (DG w w9 c a len cap zs tb base m av n cv xs (some ⟨g, 0, none⟩) pl cp p) := ⟨HD9.out.1, HD9.out.2.1, HD9.out.2.2.1, HD9.out.2.2.2.1, HD9.out.2.2.2.2.1, HOP.out⟩
      have hbw9 : base ≤ w9.heap.size := by omega
      have HRg : Hid (∀ x ∈ p ++ ys, 0 ≤ x ∧ x ≤ 255) := fun x hx => by
        rcases List.mem_append.1 hx with hx | hx
        · exact HOP.out.2 x hx
        · exact HD9.out.2.2.2.2.2.2 x hx
      rcases ba with _ | ⟨gb, ob, fb⟩
      · have h0 : bl = 0 := HD9.out.2.2.2.2.2.none rfl
        subst h0
        have h00 : bc = 0 := by
          rcases HD9.out.2.2.2.2.2.1.2 with ⟨he, _⟩ | ⟨_, _, _, he, _⟩
          · injection he
          · cases he
        subst h00
        go_wp2_with (at_builtin; refine wpList_append_own_none rfl _ _ 22 rfl base 5 i0 1 Tryz.underlying22 hi0 (.slice (some ⟨g, 0, none⟩) pl cp) pl _ rfl HOP.out.1 rfl ?_; refine Hid.out ?_)
        refine hidden ?_
        go_wp2_with fail
        go_meet
        exact ⟨rfl, rfl, _, pl, cp, p, rfl, by omega, HD9p⟩
      · obtain ⟨rfl, rfl⟩ : ob = 0 ∧ fb = none := by
          rcases HD9.out.2.2.2.2.2.1.2 with ⟨he, _⟩ | ⟨_, _, _, he, _⟩
          · cases he
          · injection he with he
            injection he with he
            injection he with h1 h2 h3
            exact ⟨h2, h3⟩
        have HCs : Hid (∀ j u, (ys.map (Value.int .u8))[j]? = some u → w9.cell? ((⟨gb, 0, none⟩ : Addr).add j) = some u) := cells_ints HD9.out.2.2.2.2.2.seg
        have HLy : Hid ((ys.map (Value.int .u8)).length = bl * 1) := HD9.out.2.2.2.2.2.1.1
        go_wp2_with (at_builtin; refine wpList_append_own _ rfl _ _ 22 rfl base 5 i0 (.int .u8 0) 1 1 Tryz.underlying22 hi0 hz0 hz1 hz2 rfl (by decide) (.slice (some ⟨g, 0, none⟩) pl cp) pl _ rfl HOP.out.1 ⟨gb, 0, none⟩ bl bc (ys.map (Value.int .u8)) rfl HLy.out HCs.out (ints_one ys) (by unfold maxLen; omega) (by omega) hbw9 ?_; intro v5 w10 hown hgrow _; refine Hid.out ?_)
        refine hidden ?_
        obtain ⟨a5, c5, rfl⟩ := shape_of_owns hown
        have HD10 : Hid (DG w w10 c a len cap zs tb base m av n cv xs a5 (pl + bl) c5 (p ++ ys)) := HD9p.out.row hgrow hwc hcb ⟨by rw [List.map_append]; exact hown, HRg.out⟩
        clear hown hgrow
        go_wp2_with fail
        go_meet
        exact ⟨rfl, rfl, a5, pl + bl, c5, p ++ ys, rfl, by omega, HD10⟩
  case rest =>
  clear HD6 hbl
  obtain ⟨rfl, rfl, ba, bl, bc, ys, rfl, hbl, HDe⟩ := hcut
  obtain ⟨w7, hw7⟩ : ∃ w7, wc = w7 := ⟨_, rfl⟩
  rw [hw7] at HDe ⊢
  clear hw7
  go_wp2_with fail
  refine (l1Below_any c c a len cap zs 6 w7 HDe.out.1 hl (by omega) (by omega)).mono ?_
  rintro e w8 ⟨x, rfl, hx0, hx1, hc8, hg8⟩
  have HD8 : Hid (DG w w8 c a len cap zs tb base m av n cv xs ba bl bc ys) := HDe.out.call hc8 hg8 hwc htb hcb
  clear hc8 hg8 HDe
  go_upto_block 0 with fail
  go_cut [5, 6, 7] from 5 (fun v5 v6 v7 W => v5 = .pointer (some ⟨c, 0, none⟩) ∧ v6 = .pointer (some ⟨tb, 0, none⟩) ∧ ∃ (ba : Option Addr) (bl bc : Nat) (ys : List Int), v7 = .slice ba bl bc ∧ bl ≤ 700 ∧ Hid (DG w W c a len cap zs tb base m av n cv xs ba bl bc ys))
  case first =>
    by_cases e0 : x = 0
    · subst e0
      by_cases hp : 0 < bl
      · have hpi : (0 : Int) < (bl : Int) := by omega
        obtain ⟨g, rfl, _, _⟩ := HD8.out.2.2.2.2.2.some hp
        go_wp2_with fail
        refine (l1Below_any c c a len cap zs bl w8 HD8.out.1 hl (by omega) (by omega)).mono ?_
        rintro e w9 ⟨k', rfl, hk0, hk1, hc9, hg9⟩
        obtain ⟨k, rfl⟩ := Int.eq_ofNat_of_zero_le hk0
        have hkn : k < bl := by omega
        have HD9 : Hid (DG w w9 c a len cap zs tb base m av n cv xs (some ⟨g, 0, none⟩) bl bc ys) := HD8.out.call hc9 hg9 hwc htb hcb
        clear hc9 hg9 HD8
        go_wp2_with fail
        refine (l1Byte_any c c a len cap zs w9 HD9.out.1 hl).mono ?_
        rintro e w10 ⟨v, hv0, hv1, rfl, hc10, hg10⟩
        have HD10 : Hid (DG w w10 c a len cap zs tb base m av n cv xs (some ⟨g, 0, none⟩) bl bc ys) := HD9.out.call hc10 hg10 hwc htb hcb
        clear hc10 hg10 HD9
        obtain ⟨ho, ⟨u, hu⟩, hf⟩ := owns_byte HD10.out.2.2.2.2.2 hkn v hv0 hv1
        have HD11 : Hid (DG w (w10.setCell ⟨g, k, none⟩ (.int .u8 v)) c a len cap zs tb base m av n cv xs (some ⟨g, 0, none⟩) bl bc (ys.set k v)) := HD10.out.row (gset _ g k _) hwc hcb ho
        have hk1i : (k : Int) < (bl : Int) := by omega
        have hk0i : (0 : Int) ≤ (k : Int) := by omega
        have hmod : v % 256 = v := by omega
        clear ho HD10
        go_wp2_with fail
        go_meet
        exact ⟨rfl, rfl, _, bl, bc, ys.set k v, rfl, by omega, HD11⟩
      · obtain rfl : bl = 0 := by omega
        go_wp2_with fail
        go_meet
        exact ⟨rfl, rfl, ba, 0, bc, ys, rfl, by omega, HD8⟩
    · have e0b : (x == 0) = false := by simpa using e0
      by_cases e1 : x = 1
      · subst e1
        by_cases hp : 0 < bl
        · have hpi : (0 : Int) < (bl : Int) := by omega
          obtain ⟨g, rfl, _, _⟩ := HD8.out.2.2.2.2.2.some hp
          obtain ⟨b1, rfl⟩ : ∃ b1, bl = b1 + 1 := ⟨bl - 1, by omega⟩
          have HD9 : Hid (DG w w8 c a len cap zs tb base m av n cv xs (some ⟨g, 0, none⟩) b1 bc (ys.take b1)) := ⟨HD8.out.1, HD8.out.2.1, HD8.out.2.2.1, HD8.out.2.2.2.1, HD8.out.2.2.2.2.1, owns_less HD8.out.2.2.2.2.2⟩
          have hcp : b1 + 1 ≤ bc := HD8.out.2.2.2.2.2.cap
          have hsub : ((b1 + 1 : Nat) : Int) - 1 = (b1 : Int) := by omega
          have h1i : (b1 : Int) ≤ (bc : Int) := by omega
          have h0i : (0 : Int) ≤ (b1 : Int) := by omega
          clear HD8
          go_wp2_with fail
          go_meet
          exact ⟨rfl, rfl, _, b1, bc, ys.take b1, by first | rfl | simp, by omega, HD9⟩
        · obtain rfl : bl = 0 := by omega
          go_wp2_with fail
          go_meet
          exact ⟨rfl, rfl, ba, 0, bc, ys, rfl, by omega, HD8⟩
      · have e1b : (x == 1) = false := by simpa using e1
        by_cases e2 : x = 2
        · subst e2
          have HD9 : Hid (DG w (w8.alloc (.cells #[.int .i64 128, .int .i64 190, .int .i64 255, .int .i64 32, .int .i64 63, .int .i64 0, .int .i64 64] 3)) c a len cap zs tb base m av n cv xs ba bl bc ys) := HD8.out.new _
          have hcw8 : c < w8.heap.size := HD8.out.1.lt
          go_wp2_with fail
          refine (l1Int_any c c a len cap zs w8.heap.size 7 7 [128, 190, 255, 32, 63, 0, 64] _ HD9.out.1 hl (heap_alloc_new w8 _) (by omega) rfl (by omega) (by omega)).mono ?_
          rintro e w9 ⟨v, rfl, hv, hc9, hg9⟩
          have HD10 : Hid (DG w w9 c a len cap zs tb base m av n cv xs ba bl bc ys) := HD9.out.call hc9 hg9 hwc htb hcb
          have hvr : 0 ≤ v ∧ v ≤ 255 := by
            simp only [List.mem_cons, List.not_mem_nil, or_false] at hv
            omega
          obtain ⟨hv0, hv1⟩ := hvr
          have hmod : v % 256 = v := by omega
          have HD11 : Hid (DG w (w9.alloc (.cells #[.int .u8 v] 5)) c a len cap zs tb base m av n cv xs ba bl bc ys) := HD10.out.new _
          have hbw9 : base ≤ (w9.alloc (.cells #[.int .u8 v] 5)).heap.size := by have := HD11.out.2.2.2.1.lt; omega
          have HN1 : Hid (∀ j u, [Value.int .u8 v][j]? = some u → (w9.alloc (.cells #[.int .u8 v] 5)).cell? ((⟨w9.heap.size, 0, none⟩ : Addr).add j) = some u) := one_new w9 v
          have HV : Hid (0 ≤ v ∧ v ≤ 255) := ⟨hv0, hv1⟩
          clear hv hc9 hg9 HD9 HD8 HD10
          go_wp2_with (at_builtin; refine wpList_append_own _ rfl _ _ 22 rfl base 5 i0 (.int .u8 0) 1 1 Tryz.underlying22 hi0 hz0 hz1 hz2 rfl (by decide) (.slice ba bl bc) bl _ rfl HD11.out.2.2.2.2.2.1 ⟨w9.heap.size, 0, none⟩ 1 1 [.int .u8 v] rfl rfl HN1.out (ints_one [v]) (by unfold maxLen; omega) (by omega) hbw9 ?_; intro v5 w10 hown hgrow _; refine Hid.out ?_)
          refine hidden ?_
          obtain ⟨a5, c5, rfl, hd⟩ := HD11.out.app hwc hcb HV.out.1 HV.out.2 hown hgrow
          have HD12 : Hid (DG w w10 c a len cap zs tb base m av n cv xs a5 (bl + 1) c5 (ys ++ [v])) := hd
          clear hown hgrow hd
          go_wp2_with fail
          go_meet
          exact ⟨rfl, rfl, a5, bl + 1, c5, ys ++ [v], rfl, by omega, HD12⟩
        · have e2b : (x == 2) = false := by simpa using e2
          go_wp2_with fail
          go_meet
          exact ⟨rfl, rfl, ba, bl, bc, ys, rfl, by omega, HD8⟩
  case rest =>
  clear HD8 hbl
  obtain ⟨rfl, rfl, ba, bl, bc, ys, rfl, hbl, HDf⟩ := hcut
  obtain ⟨w9, hw9⟩ : ∃ w9, wc = w9 := ⟨_, rfl⟩
  rw [hw9] at HDf ⊢
  clear hw9
  go_wp2_with fail
  refine (l1Once_any c c a len cap zs 60 w9 HDf.out.1 hl (by omega) (by omega)).mono ?_
  rintro e w10 ⟨b, rfl, hc10, hg10⟩
  have HD10 : Hid (DG w w10 c a len cap zs tb base m av n cv xs ba bl bc ys) := HDf.out.call hc10 hg10 hwc htb hcb
  clear hc10 hg10 HDf
  go_upto_if 66 with fail
  go_cut [5, 6, 7] from 5 (fun v5 v6 v7 W => v5 = .pointer (some ⟨c, 0, none⟩) ∧ v6 = .pointer (some ⟨tb, 0, none⟩) ∧ ∃ (ba : Option Addr) (bl bc : Nat) (ys : List Int), v7 = .slice ba bl bc ∧ bl ≤ 4000 ∧ Hid (DG w W c a len cap zs tb base m av n cv xs ba bl bc ys))
  case first =>
    cases b with
    | false =>
      go_wp2_with fail
      go_meet
      exact ⟨rfl, rfl, ba, bl, bc, ys, rfl, by omega, HD10⟩
    | true =>
      have HD11 : Hid (DG w (w10.alloc (.cells #[] 5)) c a len cap zs tb base m av n cv xs (some ⟨w10.heap.size, 0, none⟩) 0 0 []) := by
        have h := HD10.out.new (.cells #[] 5)
        have hb : base ≤ w10.heap.size := by have := HD10.out.2.2.2.1.lt; omega
        exact ⟨h.1, h.2.1, h.2.2.1, h.2.2.2.1, h.2.2.2.2.1, World.ownsRow_lit w10 #[] 0 hb (Nat.zero_le _) rfl, by simp⟩
      go_wp2_with fail
      generalize w10.alloc (.cells #[] 5) = w11 at *
      generalize w10.heap.size = gn at *
      clear HD10
      go_loopw [7, 9] (fun v i wr => ∃ (j : Nat) (ba : Option Addr) (bc : Nat) (ys : List Int), i = .int .i64 (j : Int) ∧ v = .slice ba j bc ∧ j ≤ 101 ∧ Hid (DG w wr c a len cap zs tb base m av n cv xs ba j bc ys)) (fun _ i _ => 200 - (intOf i).toNat)
      case atStart => exact ⟨0, _, 0, [], rfl, rfl, by omega, HD11⟩
      case round =>
        clear HD11
        obtain ⟨j, ba, bc, ys, rfl, rfl, hj, HD⟩ := hrel
        go_wp2_with fail
        refine (l1Below_any c c a len cap zs 2 wr HD.out.1 hl (by omega) (by omega)).mono ?_
        rintro e w12 ⟨x, rfl, hx0, hx1, hc12, hg12⟩
        have HD12 : Hid (DG w w12 c a len cap zs tb base m av n cv xs ba j bc ys) := HD.out.call hc12 hg12 hwc htb hcb
        clear hc12 hg12 HD
        by_cases hjx : (j : Int) < 100 + x
        · have HD13 : Hid (DG w (w12.alloc (.cells #[.int .u8 130] 5)) c a len cap zs tb base m av n cv xs ba j bc ys) := HD12.out.new _
          have hbw12 : base ≤ (w12.alloc (.cells #[.int .u8 130] 5)).heap.size := by have := HD13.out.2.2.2.1.lt; omega
          have HN1 : Hid (∀ j u, [Value.int .u8 130][j]? = some u → (w12.alloc (.cells #[.int .u8 130] 5)).cell? ((⟨w12.heap.size, 0, none⟩ : Addr).add j) = some u) := one_new w12 130
          clear HD12
          go_wp2_with (at_builtin; refine wpList_append_own _ rfl _ _ 22 rfl base 5 i0 (.int .u8 0) 1 1 Tryz.underlying22 hi0 hz0 hz1 hz2 rfl (by decide) (.slice ba j bc) j _ rfl HD13.out.2.2.2.2.2.1 ⟨w12.heap.size, 0, none⟩ 1 1 [.int .u8 130] rfl rfl HN1.out (ints_one [130]) (by unfold maxLen; omega) (by omega) hbw12 ?_; intro v5 w14 hown hgrow _; refine Hid.out ?_)
          refine hidden ?_
          obtain ⟨a5, c5, rfl, hd⟩ := HD13.out.app hwc hcb (x := 130) (by omega) (by omega) hown hgrow
          have HD14 : Hid (DG w w14 c a len cap zs tb base m av n cv xs a5 (j + 1) c5 (ys ++ [130])) := hd
          clear hown hgrow hd HD13 HN1
          go_wp2_with fail
          go_roundw
          case rel => exact ⟨j + 1, a5, c5, ys ++ [130], by go_num, rfl, by omega, HD14⟩
          case measure => simp [intOf]; omega
        · go_wp2_with fail
          go_meet
          exact ⟨rfl, rfl, ba, j, bc, ys, rfl, by omega, HD12⟩
  case rest =>
  clear HD10 hbl
  obtain ⟨rfl, rfl, ba, bl, bc, ys, rfl, hbl, HDg⟩ := hcut
  obtain ⟨w15, hw15⟩ : ∃ w15, wc = w15 := ⟨_, rfl⟩
  rw [hw15] at HDg ⊢
  clear hw15
  obtain ⟨b0, b1, b2, b3⟩ := HDg.out.2.2.2.1.cells
  have hlt15 : c < w15.heap.size := HDg.out.1.lt
  have htl : tb < w15.heap.size := HDg.out.2.2.2.1.lt
  have k1 : ¬ tb = w15.heap.size := by omega
  have k2 : ¬ w15.heap.size = tb := by omega
  have k5 : ¬ tb = w.heap.size := by omega
  have k6 : ¬ w.heap.size = tb := by omega
  go_wp2_with fail
  go_region_held3 (fun W => W.cell? ⟨tb, 0, none⟩ = some (.int .i64 m) ∧ W.cell? ⟨tb, 1, none⟩ = some (.slice av n cv)) (first | (refine ⟨?_, ?_⟩ <;> assumption) | (refine ⟨?_, ?_⟩ <;> (simp [go_sem, *]; done)) | go_keep) (first
    | (go_at_call 23; refine (l1Int_any c c a len cap zs w15.heap.size 5 5 [4096, 4096, 100, 0, -1] _ (HDg.out.new _).drew.1 hl (heap_alloc_new w15 _) (by omega) rfl (by omega) (by omega)).mono ?_; rintro e y1 ⟨most, rfl, hmost, hc1, hg1⟩
       have hd1 := ((HDg.out.new (.cells #[.int .i64 4096, .int .i64 4096, .int .i64 100, .int .i64 0, .int .i64 (-1)] 3)).drew).call hc1 hg1 hwc htb hcb
       obtain ⟨d0, d1, d2, d3⟩ := hd1.2.2.2.1.cells
       obtain ⟨p0, p1, p2, p3⟩ := hd1.2.2.1.cells)
    | fail)
  all_goals
    have HZ : Hid _ := hd1.end (by omega)
    obtain ⟨r0, r1, _, _⟩ := HZ.out.1.cells
    go_wp2_with fail
    refine bodyPost_ret (v := .tuple #[.agg #[.int .i64 m, .slice av n cv], .int .i64 most, .slice ba bl bc]) (by simp [results, Tryz.f9, go_sem, r0, r1]) rfl ?_
    exact ⟨m, av, n, cv, xs, most, ba, bl, bc, ys, rfl, ⟨hn, hfb, hbl, HDg.out.2.2.2.2.2.cap⟩, HZ.out.2.1, HZ.out.2.2.1, HZ.out.2.2.2⟩

end Go.Proofs.YtckpacifimpkgacGreat

namespace Go.Proofs.YtckpacifimpkgacGreat
open Go.RowKit
set_option linter.unusedVariables false

set_option maxHeartbeats 800000 in
theorem sameFields_same (a b : Option Addr) (len ca cb : Nat) (xs : List Fld) (w : World) (hx : Flds w a len xs) (hy : Flds w b len xs) (hl : len ≤ 2097152) :
    Calls Tryz.prog 8 #[.slice a len ca, .slice b len cb] w fun e w' => e = .returned (.bool true) ∧ Below w.heap.size w w' := by
  have HX : Hid (Flds w a len xs) := hx
  have HY : Hid (Flds w b len xs) := hy
  clear hx hy
  have hne : ((len : Int) != (len : Int)) = false := by simp
  go_enter Tryz.func8, Tryz.ntmps8
  go_wp2
  go_loopw [5] (fun i wr => ∃ k : Nat, k ≤ len ∧ i = .int .i64 k ∧ Hid (Below w.heap.size w wr)) (fun i _ => len - (intOf i).toNat)
  case atStart => exact ⟨0, Nat.zero_le _, rfl, Below.refl _ _⟩
  case round =>
    obtain ⟨k, hk, rfl, HW⟩ := hrel
    by_cases hlt : k < len
    · obtain ⟨ba, oa, x, y, rfl, hba, hfa, ha0, ha1⟩ := HX.out.at hlt
      obtain ⟨bb, ob, x', y', rfl, hbb, hfb, hb0, hb1⟩ := HY.out.at hlt
      obtain ⟨rfl, rfl⟩ : x = x' ∧ y = y' := by rw [hfa] at hfb; simpa using hfb
      have ga0 : wr.cell? ⟨ba, oa + k * 2, none⟩ = some (.string x) := (HW.out.cell (p := ⟨ba, _, none⟩) hba).trans ha0
      have ga1 : wr.cell? ⟨ba, oa + k * 2 + 1, none⟩ = some (.string y) := (HW.out.cell (p := ⟨ba, _, none⟩) hba).trans ha1
      have gb0 : wr.cell? ⟨bb, ob + k * 2, none⟩ = some (.string x) := (HW.out.cell (p := ⟨bb, _, none⟩) hbb).trans hb0
      have gb1 : wr.cell? ⟨bb, ob + k * 2 + 1, none⟩ = some (.string y) := (HW.out.cell (p := ⟨bb, _, none⟩) hbb).trans hb1
      clear hfa hfb ha0 ha1 hb0 hb1
      have hki : (k : Int) < (len : Int) := by omega
      have hk0 : (0 : Int) ≤ (k : Int) := by omega
      go_wp2_with fail
      go_region
      all_goals
        have HB3 : Hid (Below w.heap.size w wr.drew) := HW.out.drew
        go_wp2
        go_roundw
        case rel => exact ⟨k + 1, by omega, by go_num, HB3⟩
        case measure => simp [intOf]; omega
    · go_wp2
      go_ret
      exact ⟨rfl, HW.out⟩

end Go.Proofs.YtckpacifimpkgacGreat

namespace Go.Proofs.YtckpacifimpkgacGreat
open Go.RowKit
set_option linter.unusedVariables false

set_option maxHeartbeats 400000 in
theorem big_any (a : Option Addr) (len cap : Nat) (w : World) (hl : len ≤ maxLen) :
    Calls Tryz.prog 4 #[.slice a len cap] w fun e w' => e = .returned (.bool (decide ((1048576 : Int) < (len : Int)))) ∧ w' = w := by
  go_enter Tryz.func4, Tryz.ntmps4
  go_wp2
  go_ret
  exact ⟨rfl, rfl⟩

end Go.Proofs.YtckpacifimpkgacGreat

namespace Go.Proofs.YtckpacifimpkgacGreat
open Go.RowKit
set_option linter.unusedVariables false

theorem bytes_of_put {L : List Fld} {m : Int} {xs : List Fld} {n : Nat} {q : List Int} {ys : List Fld} (h : PutN L m xs n q ys) (hn : n = L.length) : L.take n = L := by
  rw [hn, List.take_length]

set_option maxRecDepth 10000 in
set_option maxHeartbeats 3200000 in
theorem lawBlk_any (a : Option Addr) (len cap : Nat) (zs : List Int) (w : World) (hm : len ≤ maxLen) (hs : Seg w a len zs) :
    Calls Tryz.prog 3 #[.slice a len cap] w fun e w' => e = .returned (.bool true) ∧ Below w.heap.size w w' := by
  have HS : Hid (Seg w a len zs) := hs
  clear hs
  by_cases hbig : (1048576 : Int) < (len : Int)
  · have hd : Hid (decide ((1048576 : Int) < (len : Int)) = true) := by show _ = _; simpa using hbig
    go_enter Tryz.func3, Tryz.ntmps3
    go_wp2_with fail
    refine (big_any a len cap w hm).mono ?_
    rintro e w1 ⟨rfl, hw1⟩
    subst w1
    rw [hd.out]
    go_wp2_with fail
    go_ret
    exact ⟨rfl, Below.refl _ _⟩
  have hd : Hid (decide ((1048576 : Int) < (len : Int)) = false) := by show _ = _; simpa using hbig
  have hl : len ≤ 1099511627776 := by omega
  clear hbig
  go_enter Tryz.func3, Tryz.ntmps3
  go_wp2_with fail
  refine (big_any a len cap w hm).mono ?_
  rintro e w1 ⟨rfl, hw1⟩
  subst w1
  rw [hd.out]
  go_wp2_with fail
  refine (drawHead_any a len cap zs w HS.out hl).mono ?_
  rintro e w2 ⟨m, va, n, vc, xs, g, k, cp, l, rfl, hok, hk5, hl40, hxs, hfl, hb2⟩
  have HOk : Hid (okT m xs = true) := hok
  have hsm := okT_small hok
  have hsum := fld_sum hl40
  have HL40 : Hid (∀ f ∈ l, f.1.size ≤ 40 ∧ f.2.size ≤ 40) := hl40
  have hlk : Hid (l.length = k) := hfl.1
  have hnx : Hid (xs.length = n) := hxs.1
  have hflb : fldBytes l ≤ 400 := by have := hlk.out; omega
  have hxb : n + fldBytes xs ≤ 4096 := by have := hnx.out; omega
  have HT3 : Hid (Box2 (w2.alloc (.cells #[.int .i64 m, .slice va n vc] 26)) w2.heap.size 26 (.int .i64 m) (.slice va n vc)) := Box2.new _ _ _ _
  have hb23 : Below w2.heap.size w2 (w2.alloc (.cells #[.int .i64 m, .slice va n vc] 26)) := (Below.refl _ _).alloc (Nat.le_refl _) _
  have HX3 : Hid (Flds (w2.alloc (.cells #[.int .i64 m, .slice va n vc] 26)) va n xs) := hxs.below hb23
  have HL3 : Hid (Flds (w2.alloc (.cells #[.int .i64 m, .slice va n vc] 26)) (some ⟨g, 0, none⟩) k l) := hfl.below hb23
  have HB3 : Hid (Below w.heap.size w (w2.alloc (.cells #[.int .i64 m, .slice va n vc] 26))) := hb2.trans (hb23.mono hb2.size)
  clear hok hl40 hxs hfl hb2 hb23 hsm hsum
  go_upto_region 4 with fail
  generalize w2.alloc (.cells #[.int .i64 m, .slice va n vc] 26) = w3 at *
  generalize w2.heap.size = bt at *
  obtain ⟨b0, b1, _, _⟩ := HT3.out.cells
  go_wp2_with fail
  refine (implPuts_any m va n vc xs _ k cp l w3 HX3.out HL3.out (by omega)).mono ?_
  rintro e w4 ⟨q, aq, cq, v4, n4, ys, rfl, hput, hoq, hoy, hb4⟩
  obtain ⟨ay, cy, rfl⟩ := hoy.shape
  have HPut : Hid (PutN l m xs k q ys) := hput
  have hfit := hput.fits
  have HQr : Hid (∀ x ∈ q, 0 ≤ x ∧ x ≤ 255) := hoq.2
  obtain ⟨ql, hql⟩ : ∃ ql, q.length = ql := ⟨_, rfl⟩
  have hft := fldBytes_take l k
  have hqlb : ql ≤ 500 := by omega
  have hyl := hoy.len
  have hny : n4 + fldBytes ys ≤ 4600 := by have := hnx.out; omega
  obtain ⟨hoky, hrun⟩ := puts_run HOk.out (fun f hf => ⟨by have := (HL40.out f hf).1; omega, by have := (HL40.out f hf).2; omega⟩) (by have := hlk.out; omega) 4096 hput (by have := hlk.out; omega)
  have hr2 := hrun []
  rw [List.append_nil, bytes_of_put hput hlk.out.symm] at hr2
  have HRun1 : Hid (RunN q 4096 m xs k q.length m ys l) := hr2
  have HOky : Hid (okT m ys = true) := hoky
  rw [hql] at hoq ⊢
  have hb45 : Below w4.heap.size w4 (w4.alloc (.cells #[.int .i64 m, .slice ay n4 cy] 26)) := (Below.refl _ _).alloc (Nat.le_refl _) _
  have hb35 : Below w3.heap.size w3 (w4.alloc (.cells #[.int .i64 m, .slice ay n4 cy] 26)) := hb4.trans (hb45.mono hb4.size)
  have HM5 : Hid (Box2 (w4.alloc (.cells #[.int .i64 m, .slice ay n4 cy] 26)) w4.heap.size 26 (.int .i64 m) (.slice ay n4 cy)) := Box2.new _ _ _ _
  have HT5 : Hid (Box2 (w4.alloc (.cells #[.int .i64 m, .slice ay n4 cy] 26)) bt 26 (.int .i64 m) (.slice va n vc)) := HT3.out.stays hb35
  have HX5 : Hid (Flds (w4.alloc (.cells #[.int .i64 m, .slice ay n4 cy] 26)) va n xs) := HX3.out.below hb35
  have HL5 : Hid (Flds (w4.alloc (.cells #[.int .i64 m, .slice ay n4 cy] 26)) (some ⟨g, 0, none⟩) k l) := HL3.out.below hb35
  have HQ5 : Hid (Seg (w4.alloc (.cells #[.int .i64 m, .slice ay n4 cy] 26)) aq ql q) := hoq.seg.below hb45
  have HQc : Hid (ql ≤ cq) := hoq.cap
  have HY5 : Hid (Flds (w4.alloc (.cells #[.int .i64 m, .slice ay n4 cy] 26)) ay n4 ys) := hoy.flds.below hb45
  have HB5 : Hid (Below w.heap.size w (w4.alloc (.cells #[.int .i64 m, .slice ay n4 cy] 26))) := HB3.out.trans (hb35.mono HB3.out.size)
  clear hput hfit hoq hoy hb4 hb45 hb35 hql hyl hft hoky hrun hr2 HT3 HX3 HL3 HB3 b0 b1
  go_upto_region 5 with fail
  generalize w4.alloc (.cells #[.int .i64 m, .slice ay n4 cy] 26) = w5 at *
  generalize w4.heap.size = bm at *
  obtain ⟨b0, b1, _, _⟩ := HM5.out.cells
  go_wp2_with fail
  refine (implPuts_any m ay n4 cy ys _ k cp l w5 HY5.out HL5.out (by omega)).mono ?_
  rintro e w6 ⟨q2, aq2, cq2, v6, n6, ys2, rfl, hput, hoq, hoy, hb6⟩
  obtain ⟨az, cz, rfl⟩ := hoy.shape
  have hfit := hput.fits
  have HQr2 : Hid (∀ x ∈ q2, 0 ≤ x ∧ x ≤ 255) := hoq.2
  obtain ⟨ql2, hql2⟩ : ∃ ql2, q2.length = ql2 := ⟨_, rfl⟩
  have hft := fldBytes_take l k
  have hqlb2 : ql2 ≤ 500 := by omega
  have hzl := hoy.len
  have hyln := HY5.out.1
  have hnz : n6 + fldBytes ys2 ≤ 5200 := by omega
  obtain ⟨hoky, hrun⟩ := puts_run HOky.out (fun f hf => ⟨by have := (HL40.out f hf).1; omega, by have := (HL40.out f hf).2; omega⟩) (by have := hlk.out; omega) 4096 hput (by have := hlk.out; omega)
  have hr2 := hrun []
  rw [List.append_nil, bytes_of_put hput hlk.out.symm] at hr2
  have HRun2 : Hid (RunN q2 4096 m ys k q2.length m ys2 l) := hr2
  rw [hql2] at hoq ⊢
  have hb67 : Below w6.heap.size w6 (w6.alloc (.cells #[.int .i64 m, .slice az n6 cz] 26)) := (Below.refl _ _).alloc (Nat.le_refl _) _
  have hb57 : Below w5.heap.size w5 (w6.alloc (.cells #[.int .i64 m, .slice az n6 cz] 26)) := hb6.trans (hb67.mono hb6.size)
  have HE7 : Hid (Box2 (w6.alloc (.cells #[.int .i64 m, .slice az n6 cz] 26)) w6.heap.size 26 (.int .i64 m) (.slice az n6 cz)) := Box2.new _ _ _ _
  have HT7 : Hid (Box2 (w6.alloc (.cells #[.int .i64 m, .slice az n6 cz] 26)) bt 26 (.int .i64 m) (.slice va n vc)) := HT5.out.stays hb57
  have HX7 : Hid (Flds (w6.alloc (.cells #[.int .i64 m, .slice az n6 cz] 26)) va n xs) := HX5.out.below hb57
  have HL7 : Hid (Flds (w6.alloc (.cells #[.int .i64 m, .slice az n6 cz] 26)) (some ⟨g, 0, none⟩) k l) := HL5.out.below hb57
  have HQ7 : Hid (Seg (w6.alloc (.cells #[.int .i64 m, .slice az n6 cz] 26)) aq ql q) := HQ5.out.below hb57
  have HR7 : Hid (Seg (w6.alloc (.cells #[.int .i64 m, .slice az n6 cz] 26)) aq2 ql2 q2) := hoq.seg.below hb67
  have HRc : Hid (ql2 ≤ cq2) := hoq.cap
  have HZ7 : Hid (Flds (w6.alloc (.cells #[.int .i64 m, .slice az n6 cz] 26)) az n6 ys2) := hoy.flds.below hb67
  have HB7 : Hid (Below w.heap.size w (w6.alloc (.cells #[.int .i64 m, .slice az n6 cz] 26))) := HB5.out.trans (hb57.mono HB5.out.size)
  clear hput hfit hoq hoy hb6 hb67 hb57 hql2 hzl hft hoky hrun hr2 hyln HT5 HX5 HL5 HQ5 HB5 HM5 HY5 b0 b1
  go_upto_region 6 with fail
  generalize w6.alloc (.cells #[.int .i64 m, .slice az n6 cz] 26) = w7 at *
  generalize w6.heap.size = be at *
  obtain ⟨b0, b1, _, _⟩ := HT7.out.cells
  go_wp2_with fail
  refine (implGetFs_any m va n vc xs 4096 aq ql cq q w7 HX7.out HQ7.out HQc.out (by omega) (by omega)).mono ?_
  rintro e w8 ⟨gs, m8, ys8, code, fa, fc, a8, n8, c8, rfl, hans, hof, hot, hb8⟩
  obtain ⟨rfl, rfl, rfl, rfl⟩ := hans.good HQr.out HOk.out (by omega) (by omega) HRun1.out
  rw [hlk.out] at hof ⊢
  have hn8 : n8 + fldBytes ys8 ≤ 1048576 := by have := hot.len; have := okT_small HOky.out; omega
  have hb89 : Below w8.heap.size w8 (w8.alloc (.cells #[.int .i64 m8, .slice a8 n8 c8] 26)) := (Below.refl _ _).alloc (Nat.le_refl _) _
  have hb79 : Below w7.heap.size w7 (w8.alloc (.cells #[.int .i64 m8, .slice a8 n8 c8] 26)) := hb8.trans (hb89.mono hb8.size)
  have HU9 : Hid (Box2 (w8.alloc (.cells #[.int .i64 m8, .slice a8 n8 c8] 26)) w8.heap.size 26 (.int .i64 m8) (.slice a8 n8 c8)) := Box2.new _ _ _ _
  have HE9 : Hid (Box2 (w8.alloc (.cells #[.int .i64 m8, .slice a8 n8 c8] 26)) be 26 (.int .i64 m8) (.slice az n6 cz)) := HE7.out.stays hb79
  have HF9 : Hid (Flds (w8.alloc (.cells #[.int .i64 m8, .slice a8 n8 c8] 26)) fa k gs) := hof.flds.below hb89
  have HV9 : Hid (Flds (w8.alloc (.cells #[.int .i64 m8, .slice a8 n8 c8] 26)) a8 n8 ys8) := hot.flds.below hb89
  have HL9 : Hid (Flds (w8.alloc (.cells #[.int .i64 m8, .slice a8 n8 c8] 26)) (some ⟨g, 0, none⟩) k gs) := HL7.out.below hb79
  have HR9 : Hid (Seg (w8.alloc (.cells #[.int .i64 m8, .slice a8 n8 c8] 26)) aq2 ql2 q2) := HR7.out.below hb79
  have HZ9 : Hid (Flds (w8.alloc (.cells #[.int .i64 m8, .slice a8 n8 c8] 26)) az n6 ys2) := HZ7.out.below hb79
  have HB9 : Hid (Below w.heap.size w (w8.alloc (.cells #[.int .i64 m8, .slice a8 n8 c8] 26))) := HB7.out.trans (hb79.mono HB7.out.size)
  clear hans hof hot hb8 hb89 hb79 HT7 HX7 HL7 HQ7 HR7 HZ7 HB7 HE7 b0 b1 HRun1 HPut
  go_upto_region 7 with fail
  generalize w8.alloc (.cells #[.int .i64 m8, .slice a8 n8 c8] 26) = w9 at *
  generalize w8.heap.size = bu at *
  obtain ⟨b0, b1, _, _⟩ := HU9.out.cells
  go_wp2_with fail
  refine (implGetFs_any m8 a8 n8 c8 ys8 4096 aq2 ql2 cq2 q2 w9 HV9.out HR9.out HRc.out hn8 (by omega)).mono ?_
  rintro e w10 ⟨hs, m10, ys10, code, ga, gc, a10, n10, c10, rfl, hans, hof, hot, hb10⟩
  obtain ⟨rfl, rfl, rfl, rfl⟩ := hans.good HQr2.out HOky.out (by omega) (by omega) HRun2.out
  rw [hlk.out] at hof ⊢
  obtain rfl : n10 = n6 := by rw [← hot.len, ← HZ9.out.1]
  have hb1011 : Below w10.heap.size w10 (w10.alloc (.cells #[.int .i64 m10, .slice a10 n10 c10] 26)) := (Below.refl _ _).alloc (Nat.le_refl _) _
  have hb911 : Below w9.heap.size w9 (w10.alloc (.cells #[.int .i64 m10, .slice a10 n10 c10] 26)) := hb10.trans (hb1011.mono hb10.size)
  have HV11 : Hid (Box2 (w10.alloc (.cells #[.int .i64 m10, .slice a10 n10 c10] 26)) w10.heap.size 26 (.int .i64 m10) (.slice a10 n10 c10)) := Box2.new _ _ _ _
  have HE11 : Hid (Box2 (w10.alloc (.cells #[.int .i64 m10, .slice a10 n10 c10] 26)) be 26 (.int .i64 m10) (.slice az n10 cz)) := HE9.out.stays hb911
  have HF11 : Hid (Flds (w10.alloc (.cells #[.int .i64 m10, .slice a10 n10 c10] 26)) fa k hs) := HF9.out.below hb911
  have HG11 : Hid (Flds (w10.alloc (.cells #[.int .i64 m10, .slice a10 n10 c10] 26)) ga k hs) := hof.flds.below hb1011
  have HL11 : Hid (Flds (w10.alloc (.cells #[.int .i64 m10, .slice a10 n10 c10] 26)) (some ⟨g, 0, none⟩) k hs) := HL9.out.below hb911
  have HW11 : Hid (Flds (w10.alloc (.cells #[.int .i64 m10, .slice a10 n10 c10] 26)) a10 n10 ys10) := hot.flds.below hb1011
  have HZ11 : Hid (Flds (w10.alloc (.cells #[.int .i64 m10, .slice a10 n10 c10] 26)) az n10 ys10) := HZ9.out.below hb911
  have HB11 : Hid (Below w.heap.size w (w10.alloc (.cells #[.int .i64 m10, .slice a10 n10 c10] 26))) := HB9.out.trans (hb911.mono HB9.out.size)
  clear hans hof hot hb10 hb1011 hb911 HU9 HE9 HF9 HV9 HL9 HR9 HZ9 HB9 b0 b1 HRun2
  go_upto_region 8 with fail
  generalize w10.alloc (.cells #[.int .i64 m10, .slice a10 n10 c10] 26) = w11 at *
  generalize w10.heap.size = bv at *
  go_wp2_with fail
  refine (sameFields_same _ _ k fc cp hs w11 HF11.out HL11.out (by omega)).mono ?_
  rintro e w12 ⟨rfl, hb12⟩
  have HV12 : Hid (Box2 w12 bv 26 (.int .i64 m10) (.slice a10 n10 c10)) := HV11.out.stays hb12
  have HE12 : Hid (Box2 w12 be 26 (.int .i64 m10) (.slice az n10 cz)) := HE11.out.stays hb12
  have HG12 : Hid (Flds w12 ga k hs) := HG11.out.below hb12
  have HL12 : Hid (Flds w12 (some ⟨g, 0, none⟩) k hs) := HL11.out.below hb12
  have HW12 : Hid (Flds w12 a10 n10 ys10) := HW11.out.below hb12
  have HZ12 : Hid (Flds w12 az n10 ys10) := HZ11.out.below hb12
  have HB12 : Hid (Below w.heap.size w w12) := HB11.out.trans (hb12.mono HB11.out.size)
  clear hb12 HV11 HE11 HF11 HG11 HL11 HW11 HZ11 HB11
  go_wp2_with fail
  refine (sameFields_same _ _ k gc cp hs w12 HG12.out HL12.out (by omega)).mono ?_
  rintro e w13 ⟨rfl, hb13⟩
  have HV13 : Hid (Box2 w13 bv 26 (.int .i64 m10) (.slice a10 n10 c10)) := HV12.out.stays hb13
  have HE13 : Hid (Box2 w13 be 26 (.int .i64 m10) (.slice az n10 cz)) := HE12.out.stays hb13
  have HW13 : Hid (Flds w13 a10 n10 ys10) := HW12.out.below hb13
  have HZ13 : Hid (Flds w13 az n10 ys10) := HZ12.out.below hb13
  have HB13 : Hid (Below w.heap.size w w13) := HB12.out.trans (hb13.mono HB12.out.size)
  clear hb13 HV12 HE12 HG12 HL12 HW12 HZ12 HB12
  obtain ⟨b0, b1, _, _⟩ := HV13.out.cells
  obtain ⟨d0, d1, _, _⟩ := HE13.out.cells
  go_wp2_with fail
  refine (sameFields_same _ _ n10 c10 cz ys10 w13 HW13.out HZ13.out (by omega)).mono ?_
  rintro e w14 ⟨rfl, hb14⟩
  have HB14 : Hid (Below w.heap.size w w14) := HB13.out.trans (hb14.mono HB13.out.size)
  have HS14 : Hid (Seg w14 a len zs) := HS.out.below HB14.out
  clear hb14 HV13 HE13 HW13 HZ13 HB13 b0 b1 d0 d1 hqlb hqlb2 hny hnz hn8 hxb hflb HQr HQr2 HOk HOky HL40 hlk hnx HQc HRc hk5
  go_wp2_with fail
  refine (drawGet_any a len cap zs w14 HS14.out hl).mono ?_
  rintro e w15 ⟨rm, ra, rn, rc, rx, most, ba, bl, bc, bs, rfl, ⟨hrn, hrx, hbl, hbc⟩, hfr, hsr, hb15⟩
  have hb1516 : Below w15.heap.size w15 (w15.alloc (.cells #[.int .i64 rm, .slice ra rn rc] 26)) := (Below.refl _ _).alloc (Nat.le_refl _) _
  have HR16 : Hid (Box2 (w15.alloc (.cells #[.int .i64 rm, .slice ra rn rc] 26)) w15.heap.size 26 (.int .i64 rm) (.slice ra rn rc)) := Box2.new _ _ _ _
  have HF16 : Hid (Flds (w15.alloc (.cells #[.int .i64 rm, .slice ra rn rc] 26)) ra rn rx) := hfr.below hb1516
  have HG16 : Hid (Seg (w15.alloc (.cells #[.int .i64 rm, .slice ra rn rc] 26)) ba bl bs) := hsr.below hb1516
  have HB16 : Hid (Below w.heap.size w (w15.alloc (.cells #[.int .i64 rm, .slice ra rn rc] 26))) := HB14.out.trans ((hb15.trans (hb1516.mono hb15.size)).mono HB14.out.size)
  clear hfr hsr hb15 hb1516 HB14 HS14
  go_upto_region 11 with fail
  generalize w15.alloc (.cells #[.int .i64 rm, .slice ra rn rc] 26) = w16 at *
  generalize w15.heap.size = br at *
  obtain ⟨b0, b1, _, _⟩ := HR16.out.cells
  go_wp2_with fail
  refine (implGetFs_any rm ra rn rc rx most ba bl bc bs w16 HF16.out HG16.out hbc (by omega) (by omega)).mono ?_
  rintro e w17 ⟨gs, m17, ys17, code, fa, fc, a17, n17, c17, rfl, hans, hof, hot, hb17⟩
  have HAns : Hid (GetAns bs most rm rx gs m17 ys17 code) := hans
  have HZs : Hid (∀ x ∈ bs, 0 ≤ x ∧ x ≤ 255) := HG16.out.2.1
  have hb1718 : Below w17.heap.size w17 (w17.alloc (.cells #[.int .i64 m17, .slice a17 n17 c17] 26)) := (Below.refl _ _).alloc (Nat.le_refl _) _
  have hb1618 : Below w16.heap.size w16 (w17.alloc (.cells #[.int .i64 m17, .slice a17 n17 c17] 26)) := hb17.trans (hb1718.mono hb17.size)
  have HW18 : Hid (Box2 (w17.alloc (.cells #[.int .i64 m17, .slice a17 n17 c17] 26)) w17.heap.size 26 (.int .i64 m17) (.slice a17 n17 c17)) := Box2.new _ _ _ _
  have HR18 : Hid (Box2 (w17.alloc (.cells #[.int .i64 m17, .slice a17 n17 c17] 26)) br 26 (.int .i64 rm) (.slice ra rn rc)) := HR16.out.stays hb1618
  have HF18 : Hid (Flds (w17.alloc (.cells #[.int .i64 m17, .slice a17 n17 c17] 26)) ra rn rx) := HF16.out.below hb1618
  have HG18 : Hid (Seg (w17.alloc (.cells #[.int .i64 m17, .slice a17 n17 c17] 26)) ba bl bs) := HG16.out.below hb1618
  have HY18 : Hid (Flds (w17.alloc (.cells #[.int .i64 m17, .slice a17 n17 c17] 26)) a17 n17 ys17) := hot.flds.below hb1718
  have HB18 : Hid (Below w.heap.size w (w17.alloc (.cells #[.int .i64 m17, .slice a17 n17 c17] 26))) := HB16.out.trans (hb1618.mono HB16.out.size)
  clear hans hof hot hb17 hb1718 hb1618 HR16 HF16 HG16 HB16 b0 b1
  go_upto_region 12 with fail
  generalize w17.alloc (.cells #[.int .i64 m17, .slice a17 n17 c17] 26) = w18 at *
  generalize w17.heap.size = bw at *
  obtain ⟨b0, b1, _, _⟩ := HR18.out.cells
  go_wp2_with fail
  refine (specGetFs_any rm ra rn rc rx most ba bl bc bs w18 HF18.out HG18.out hbc (by omega) hbl).mono ?_
  rintro e w19 ⟨gs', m19, ys19, want, u, sa, sn, sc, rfl, hans, hb19⟩
  obtain rfl : code = want := HAns.out.code HZs.out hans
  have hb1920 : Below w19.heap.size w19 (w19.alloc (.cells #[.int .i64 m19, .slice sa sn sc] 26)) := (Below.refl _ _).alloc (Nat.le_refl _) _
  have hb1820 : Below w18.heap.size w18 (w19.alloc (.cells #[.int .i64 m19, .slice sa sn sc] 26)) := hb19.trans (hb1920.mono hb19.size)
  have HW20 : Hid (Box2 (w19.alloc (.cells #[.int .i64 m19, .slice sa sn sc] 26)) bw 26 (.int .i64 m17) (.slice a17 n17 c17)) := HW18.out.stays hb1820
  have HR20 : Hid (Box2 (w19.alloc (.cells #[.int .i64 m19, .slice sa sn sc] 26)) br 26 (.int .i64 rm) (.slice ra rn rc)) := HR18.out.stays hb1820
  have HF20 : Hid (Flds (w19.alloc (.cells #[.int .i64 m19, .slice sa sn sc] 26)) ra rn rx) := HF18.out.below hb1820
  have HY20 : Hid (Flds (w19.alloc (.cells #[.int .i64 m19, .slice sa sn sc] 26)) a17 n17 ys17) := HY18.out.below hb1820
  have HB20 : Hid (Below w.heap.size w (w19.alloc (.cells #[.int .i64 m19, .slice sa sn sc] 26))) := HB18.out.trans (hb1820.mono HB18.out.size)
  clear hans hb19 hb1920 hb1820 HW18 HR18 HF18 HG18 HY18 HB18 b0 b1
  go_upto_region 13 with fail
  generalize w19.alloc (.cells #[.int .i64 m19, .slice sa sn sc] 26) = w20 at *
  have heq : (code != code) = false := by simp
  obtain ⟨b0, b1, _, _⟩ := HW20.out.cells
  obtain ⟨d0, d1, _, _⟩ := HR20.out.cells
  rcases HAns.out.said HZs.out with ⟨rfl, hg100, hokw⟩ | ⟨hne, hgs, hmm, hyy⟩
  · have HOkw : Hid (okT m17 ys17 = true) := hokw
    have hg1 : (gs.length : Int) ≤ 100 := by omega
    have hn17 : n17 + fldBytes ys17 ≤ 2097152 := by have := okT_small hokw; have := HY20.out.1; omega
    clear HAns hokw
    go_wp2_with fail
    refine (implOk_any m17 a17 n17 c17 ys17 w20 HY20.out hn17).mono ?_
    rintro e w21 ⟨rfl, hb21⟩
    rw [HOkw.out]
    have HB21 : Hid (Below w.heap.size w w21) := HB20.out.trans (hb21.mono HB20.out.size)
    clear hb21
    go_wp2_with fail
    go_ret
    exact ⟨rfl, HB21.out⟩
  · subst hgs hmm hyy
    have hne1 : (code == 0) = false := by simpa using hne
    have hne2 : (code != 0) = true := by simpa using hne
    obtain rfl : n17 = rn := by rw [← HY20.out.1, ← HF20.out.1]
    clear HAns
    go_wp2_with fail
    refine (sameFields_same _ _ n17 c17 rc ys17 w20 HY20.out HF20.out (by omega)).mono ?_
    rintro e w21 ⟨rfl, hb21⟩
    have HB21 : Hid (Below w.heap.size w w21) := HB20.out.trans (hb21.mono HB20.out.size)
    clear hb21
    go_wp2_with fail
    go_ret
    exact ⟨rfl, HB21.out⟩

end Go.Proofs.YtckpacifimpkgacGreat
