/- The draw of any client, and of one with an answer. For codes of at most 2^40 bytes. -/
import Derived.Test.YtlalebaaabdihagDoorDrawClA
import Derived.Test.YtlalebaaabdihagDoorDrawOnce
namespace Go.Proofs.YtlalebaaabdihagDoor
open Go.RowKit
set_option linter.unusedVariables false

theorem ids2_short : ∀ s ∈ ([⟨#[]⟩, ⟨#[65]⟩] : List ByteArray), s.size ≤ 3 := by decide

set_option maxRecDepth 10000 in
set_option maxHeartbeats 6400000 in
theorem l17Any_any (B c : Nat) (a : Option Addr) (len cap : Nat) (zs : List Int) (w : World) (hcur : Cur w B c a len cap zs) (hl : len ≤ 1099511627776) :
    Calls Tryd.prog 15 #[.pointer (some ⟨c, 0, none⟩)] w fun e w' => DrC w.heap.size e w' ∧ Cur w' B c a len cap zs ∧ w.grownBy w' (some c) := by
  have HC : Hid (Cur w B c a len cap zs) := hcur
  have hcw : c < w.heap.size := hcur.lt
  clear hcur
  go_enter Tryd.func15, Tryd.ntmps15
  go_upto_region 1 with fail
  obtain ⟨w1, hw1⟩ : ∃ w1, w.alloc (.cells #[.string ⟨#[]⟩, .slice none 0 0, .int .i64 0, .int .i64 0] 25) = w1 := ⟨_, rfl⟩
  have HQ1 : Hid (BoxN w1 w.heap.size 25 [.string ⟨#[]⟩, .slice none 0 0, .int .i64 0, .int .i64 0]) := by show BoxN _ _ _ _; rw [← hw1]; exact BoxN.new _ _ _
  have HE1 : Hid (DrE B c a len cap zs w w1) := by show DrE _ _ _ _ _ _ _ _; rw [← hw1]; exact .below ((Below.refl _ _).alloc (Nat.le_refl _) _)
  have hz1 : w1.heap.size = w.heap.size + 1 := by rw [← hw1]; simp
  have HW1 : Hid (_ = w1) := hw1
  have HZ1 : Hid (w1.heap.size = w.heap.size + 1) := hz1
  clear hw1 hz1
  rw [HW1.out]
  clear HW1
  have HC1 : Hid (Cur w1 B c a len cap zs) := HE1.out.2 HC.out
  have hcw1 : c < w1.heap.size := HC1.out.lt
  go_wp2_with fail
  refine (l17Draw_any B c a len cap zs w1 HC1.out hl).mono ?_
  rintro e w2 ⟨⟨id, xa, n, xc, ys, st, off, rfl, ho, hid, hn⟩, hc2, hg2⟩
  obtain ⟨w3, hw3⟩ : ∃ w3, w2.alloc (.cells #[.string id, .slice xa n xc, .int .i64 st, .int .i64 off] 25) = w3 := ⟨_, rfl⟩
  obtain ⟨bx, hbx⟩ : ∃ bx, w2.heap.size = bx := ⟨_, rfl⟩
  have h23 : Below w2.heap.size w2 w3 := by rw [← hw3]; exact (Below.refl _ _).alloc (Nat.le_refl _) _
  have hq3 : BoxN w3 bx 25 [.string id, .slice xa n xc, .int .i64 st, .int .i64 off] := by rw [← hw3, ← hbx]; exact BoxN.new _ _ _
  have hE3 : DrE B c a len cap zs w1 w3 := (DrE.cur hg2 hc2).trans (.below h23)
  have hbl : w1.heap.size ≤ bx := by have := hg2.size; omega
  have HI : Hid (BoxN w3 bx 25 [.string id, .slice xa n xc, .int .i64 st, .int .i64 off] ∧ Owns w3 w1.heap.size xa n xc ys ∧ (∀ q, xa.map (·.block) = some q → q ≠ bx) ∧ DrE B c a len cap zs w1 w3) := ⟨hq3, ho.below h23, fun q hq => by have := (ho.lt q hq).2; omega, hE3⟩
  have HId : Hid (id.size ≤ 3) := hid
  have HW3 : Hid (_ = w3) := hw3
  have HBX : Hid (_ = bx) := hbx
  have hbc : bx ≠ c := by omega
  clear hw3 hbx h23 hq3 hE3 ho hc2 hg2 hid HC1
  go_upto_region 2 with fail
  rw [HW3.out, HBX.out]
  clear HW3 HBX
  have HCt : Hid (∀ W, DrE B c a len cap zs w1 W → Cur W B c a len cap zs) := fun W h => h.2 (HE1.out.2 HC.out)
  go_wp2_with fail
  refine (l1Once_any B c a len cap zs 2 w3 (HCt.out _ HI.out.2.2.2) hl (by omega) (by omega)).mono ?_
  rintro e w4 ⟨b, rfl, hc4, hg4⟩
  have hE4 : DrE B c a len cap zs w3 w4 := .cur hg4 hc4
  have HI4 : Hid (BoxN w4 bx 25 [.string id, .slice xa n xc, .int .i64 st, .int .i64 off] ∧ Owns w4 w1.heap.size xa n xc ys ∧ (∀ q, xa.map (·.block) = some q → q ≠ bx) ∧ DrE B c a len cap zs w1 w4) := ⟨hE4.box HI.out.1 hbc, hE4.own HI.out.2.1 (fun q hq => by have := (HI.out.2.1.lt q hq).1; omega), HI.out.2.2.1, HI.out.2.2.2.trans hE4⟩
  clear hE4 hc4 hg4 HI
  cases b with
  | false =>
    go_wp2_with fail
    refine (l1Below_any B c a len cap zs 14 w4 (HCt.out _ HI4.out.2.2.2) hl (by omega) (by omega)).mono ?_
    rintro e y1 ⟨sw, rfl, hs0, hs1, hc5, hg5⟩
    have hE : DrE B c a len cap zs w4 y1 := .cur hg5 hc5
    have HIy1 : Hid (BoxN y1 bx 25 [.string id, .slice xa n xc, .int .i64 st, .int .i64 off] ∧ Owns y1 w1.heap.size xa n xc ys ∧ (∀ q, xa.map (·.block) = some q → q ≠ bx) ∧ DrE B c a len cap zs w1 y1) := ⟨hE.box HI4.out.1 hbc, hE.own HI4.out.2.1 (fun q hq => by have := (HI4.out.2.1.lt q hq).1; omega), HI4.out.2.2.1, HI4.out.2.2.2.trans hE⟩
    clear hE
    clear hc5 hg5 HI4
    by_cases h0 : sw = 0
    · subst h0
      have HCy := HCt.out _ HIy1.out.2.2.2
      have hcy : c < y1.heap.size := HCy.lt
      go_wp2_with fail
      refine (l1Int_any B c a len cap zs y1.heap.size 2 2 [0, 7] _ (HCy.new _) hl (heap_alloc_new y1 _) (by omega) rfl (by omega) (by omega)).mono ?_
      rintro e y2 ⟨v, rfl, _, hc6, hg6⟩
      have hE : DrE B c a len cap zs y1 y2 := .cur (gtrans (World.grownBy_alloc y1 _ _) hg6) hc6
      have HIy2 : Hid (BoxN y2 bx 25 [.string id, .slice xa n xc, .int .i64 st, .int .i64 off] ∧ Owns y2 w1.heap.size xa n xc ys ∧ (∀ q, xa.map (·.block) = some q → q ≠ bx) ∧ DrE B c a len cap zs w1 y2) := ⟨hE.box HIy1.out.1 hbc, hE.own HIy1.out.2.1 (fun q hq => by have := (HIy1.out.2.1.lt q hq).1; omega), HIy1.out.2.2.1, HIy1.out.2.2.2.trans hE⟩
      clear hE
      clear hc6 hg6 HCy hcy HIy1
      have d0 := HIy2.out.1.cell 0 rfl
      have d1 := HIy2.out.1.cell 1 rfl
      have d2 := HIy2.out.1.cell 2 rfl
      have d3 := HIy2.out.1.cell 3 rfl
      have f0 := HIy2.out.1.frozen 0
      have f2 := HIy2.out.1.frozen 2
      have f3 := HIy2.out.1.frozen 3
      obtain ⟨y3, hy3⟩ : ∃ y3, World.setCell y2 ⟨bx, 2, none⟩ (.int .i64 v) = y3 := ⟨_, rfl⟩
      have HIy3 : Hid (BoxN y3 bx 25 [.string id, .slice xa n xc, .int .i64 v, .int .i64 off] ∧ Owns y3 w1.heap.size xa n xc ys ∧ (∀ q, xa.map (·.block) = some q → q ≠ bx) ∧ DrE B c a len cap zs w1 y3) := by
        show _ ∧ _
        rw [← hy3]
        exact ⟨HIy2.out.1.set 2 _, owns_set HIy2.out.2.1 (fun e => HIy2.out.2.2.1 _ e rfl), HIy2.out.2.2.1, gput HIy2.out.2.2.2.1 hbl _, fun x => (HIy2.out.2.2.2.2 x).put (by have := hcw1; omega) _⟩
      have HWy3 : Hid (_ = y3) := hy3
      clear hy3
      clear HIy2
      go_upto_region 11 with fail
      rw [HWy3.out]
      clear HWy3 d0 d1 d2 d3 f0 f2 f3
      have HR0 : Hid (BoxN y3 w.heap.size 25 [.string ⟨#[]⟩, .slice none 0 0, .int .i64 0, .int .i64 0]) := HIy3.out.2.2.2.box HQ1.out (by omega)
      have d0 := HIy3.out.1.cell 0 rfl
      have d1 := HIy3.out.1.cell 1 rfl
      have d2 := HIy3.out.1.cell 2 rfl
      have d3 := HIy3.out.1.cell 3 rfl
      have g0 := HR0.out.cell 0 rfl
      have g1 := HR0.out.cell 1 rfl
      have g2 := HR0.out.cell 2 rfl
      have g3 := HR0.out.cell 3 rfl
      have f0 := HR0.out.frozen 0
      have f1 := HR0.out.frozen 1
      have f2 := HR0.out.frozen 2
      have f3 := HR0.out.frozen 3
      have hn1 : xa.map (·.block) ≠ some w.heap.size := fun e => by have := (HIy3.out.2.1.lt _ e).1; have := HZ1.out; omega
      have HF : Hid (Owns (((((y3).setCell ⟨w.heap.size, 0, none⟩ (.string id)).setCell ⟨w.heap.size, 1, none⟩ (.slice xa n xc)).setCell ⟨w.heap.size, 2, none⟩ (.int .i64 v)).setCell ⟨w.heap.size, 3, none⟩ (.int .i64 off)) w.heap.size xa n xc ys ∧ Cur (((((y3).setCell ⟨w.heap.size, 0, none⟩ (.string id)).setCell ⟨w.heap.size, 1, none⟩ (.slice xa n xc)).setCell ⟨w.heap.size, 2, none⟩ (.int .i64 v)).setCell ⟨w.heap.size, 3, none⟩ (.int .i64 off)) B c a len cap zs ∧ w.grownBy (((((y3).setCell ⟨w.heap.size, 0, none⟩ (.string id)).setCell ⟨w.heap.size, 1, none⟩ (.slice xa n xc)).setCell ⟨w.heap.size, 2, none⟩ (.int .i64 v)).setCell ⟨w.heap.size, 3, none⟩ (.int .i64 off)) (some c)) := by
        have hE := HE1.out.trans HIy3.out.2.2.2
        refine ⟨(owns_set (owns_set (owns_set (owns_set HIy3.out.2.1 hn1) hn1) hn1) hn1).low (by have := HZ1.out; omega), ((((hE.2 HC.out).put hcw _).put hcw _).put hcw _).put hcw _, ?_⟩
        exact gput (gput (gput (gput hE.1 (Nat.le_refl _) _) (Nat.le_refl _) _) (Nat.le_refl _) _) (Nat.le_refl _) _
      clear HR0 hn1
      go_wp2_with fail
      refine bodyPost_ret (v := .agg #[.string id, .slice xa n xc, .int .i64 v, .int .i64 off]) (by simp [results, Tryd.f15, go_sem, g0, g1, g2, g3]) rfl ?_
      exact ⟨⟨id, xa, n, xc, ys, v, off, rfl, HF.out.1, HId.out, hn⟩, HF.out.2⟩
    by_cases h1 : sw = 1
    · subst h1
      have HCy := HCt.out _ HIy1.out.2.2.2
      have hcy : c < y1.heap.size := HCy.lt
      have d0 := HIy1.out.1.cell 0 rfl
      have d1 := HIy1.out.1.cell 1 rfl
      have d2 := HIy1.out.1.cell 2 rfl
      have d3 := HIy1.out.1.cell 3 rfl
      go_wp2_with fail
      refine (l1Int_any B c a len cap zs y1.heap.size 3 3 [-1, (n : Int), (n : Int) + 1] _ (HCy.new _) hl (heap_alloc_new y1 _) (by omega) rfl (by omega) (by omega)).mono ?_
      rintro e y2 ⟨v, rfl, _, hc6, hg6⟩
      have hE : DrE B c a len cap zs y1 y2 := .cur (gtrans (World.grownBy_alloc y1 _ _) hg6) hc6
      have HIy2 : Hid (BoxN y2 bx 25 [.string id, .slice xa n xc, .int .i64 st, .int .i64 off] ∧ Owns y2 w1.heap.size xa n xc ys ∧ (∀ q, xa.map (·.block) = some q → q ≠ bx) ∧ DrE B c a len cap zs w1 y2) := ⟨hE.box HIy1.out.1 hbc, hE.own HIy1.out.2.1 (fun q hq => by have := (HIy1.out.2.1.lt q hq).1; omega), HIy1.out.2.2.1, HIy1.out.2.2.2.trans hE⟩
      clear hE
      clear hc6 hg6 HCy hcy HIy1 d0 d1 d2 d3
      have d0 := HIy2.out.1.cell 0 rfl
      have d1 := HIy2.out.1.cell 1 rfl
      have d2 := HIy2.out.1.cell 2 rfl
      have d3 := HIy2.out.1.cell 3 rfl
      have f0 := HIy2.out.1.frozen 0
      have f2 := HIy2.out.1.frozen 2
      have f3 := HIy2.out.1.frozen 3
      obtain ⟨y3, hy3⟩ : ∃ y3, World.setCell y2 ⟨bx, 3, none⟩ (.int .i64 v) = y3 := ⟨_, rfl⟩
      have HIy3 : Hid (BoxN y3 bx 25 [.string id, .slice xa n xc, .int .i64 st, .int .i64 v] ∧ Owns y3 w1.heap.size xa n xc ys ∧ (∀ q, xa.map (·.block) = some q → q ≠ bx) ∧ DrE B c a len cap zs w1 y3) := by
        show _ ∧ _
        rw [← hy3]
        exact ⟨HIy2.out.1.set 3 _, owns_set HIy2.out.2.1 (fun e => HIy2.out.2.2.1 _ e rfl), HIy2.out.2.2.1, gput HIy2.out.2.2.2.1 hbl _, fun x => (HIy2.out.2.2.2.2 x).put (by have := hcw1; omega) _⟩
      have HWy3 : Hid (_ = y3) := hy3
      clear hy3
      clear HIy2
      go_upto_region 11 with fail
      rw [HWy3.out]
      clear HWy3 d0 d1 d2 d3 f0 f2 f3
      have HR0 : Hid (BoxN y3 w.heap.size 25 [.string ⟨#[]⟩, .slice none 0 0, .int .i64 0, .int .i64 0]) := HIy3.out.2.2.2.box HQ1.out (by omega)
      have d0 := HIy3.out.1.cell 0 rfl
      have d1 := HIy3.out.1.cell 1 rfl
      have d2 := HIy3.out.1.cell 2 rfl
      have d3 := HIy3.out.1.cell 3 rfl
      have g0 := HR0.out.cell 0 rfl
      have g1 := HR0.out.cell 1 rfl
      have g2 := HR0.out.cell 2 rfl
      have g3 := HR0.out.cell 3 rfl
      have f0 := HR0.out.frozen 0
      have f1 := HR0.out.frozen 1
      have f2 := HR0.out.frozen 2
      have f3 := HR0.out.frozen 3
      have hn1 : xa.map (·.block) ≠ some w.heap.size := fun e => by have := (HIy3.out.2.1.lt _ e).1; have := HZ1.out; omega
      have HF : Hid (Owns (((((y3).setCell ⟨w.heap.size, 0, none⟩ (.string id)).setCell ⟨w.heap.size, 1, none⟩ (.slice xa n xc)).setCell ⟨w.heap.size, 2, none⟩ (.int .i64 st)).setCell ⟨w.heap.size, 3, none⟩ (.int .i64 v)) w.heap.size xa n xc ys ∧ Cur (((((y3).setCell ⟨w.heap.size, 0, none⟩ (.string id)).setCell ⟨w.heap.size, 1, none⟩ (.slice xa n xc)).setCell ⟨w.heap.size, 2, none⟩ (.int .i64 st)).setCell ⟨w.heap.size, 3, none⟩ (.int .i64 v)) B c a len cap zs ∧ w.grownBy (((((y3).setCell ⟨w.heap.size, 0, none⟩ (.string id)).setCell ⟨w.heap.size, 1, none⟩ (.slice xa n xc)).setCell ⟨w.heap.size, 2, none⟩ (.int .i64 st)).setCell ⟨w.heap.size, 3, none⟩ (.int .i64 v)) (some c)) := by
        have hE := HE1.out.trans HIy3.out.2.2.2
        refine ⟨(owns_set (owns_set (owns_set (owns_set HIy3.out.2.1 hn1) hn1) hn1) hn1).low (by have := HZ1.out; omega), ((((hE.2 HC.out).put hcw _).put hcw _).put hcw _).put hcw _, ?_⟩
        exact gput (gput (gput (gput hE.1 (Nat.le_refl _) _) (Nat.le_refl _) _) (Nat.le_refl _) _) (Nat.le_refl _) _
      clear HR0 hn1
      go_wp2_with fail
      refine bodyPost_ret (v := .agg #[.string id, .slice xa n xc, .int .i64 st, .int .i64 v]) (by simp [results, Tryd.f15, go_sem, g0, g1, g2, g3]) rfl ?_
      exact ⟨⟨id, xa, n, xc, ys, st, v, rfl, HF.out.1, HId.out, hn⟩, HF.out.2⟩
    by_cases h2 : sw = 2
    · subst h2
      have HCy := HCt.out _ HIy1.out.2.2.2
      have hcy : c < y1.heap.size := HCy.lt
      go_wp2_with fail
      refine (l1Str_any B c a len cap zs y1.heap.size 2 2 [⟨#[]⟩, ⟨#[65]⟩] _ (HCy.new _) hl (heap_alloc_new y1 _) (by omega) rfl (by omega) (by omega)).mono ?_
      rintro e y2 ⟨v, rfl, hv, hc6, hg6⟩
      have HV : Hid (v.size ≤ 3) := ids2_short v hv
      have hE : DrE B c a len cap zs y1 y2 := .cur (gtrans (World.grownBy_alloc y1 _ _) hg6) hc6
      have HIy2 : Hid (BoxN y2 bx 25 [.string id, .slice xa n xc, .int .i64 st, .int .i64 off] ∧ Owns y2 w1.heap.size xa n xc ys ∧ (∀ q, xa.map (·.block) = some q → q ≠ bx) ∧ DrE B c a len cap zs w1 y2) := ⟨hE.box HIy1.out.1 hbc, hE.own HIy1.out.2.1 (fun q hq => by have := (HIy1.out.2.1.lt q hq).1; omega), HIy1.out.2.2.1, HIy1.out.2.2.2.trans hE⟩
      clear hE
      clear hc6 hg6 HCy hcy HIy1 hv
      have d0 := HIy2.out.1.cell 0 rfl
      have d1 := HIy2.out.1.cell 1 rfl
      have d2 := HIy2.out.1.cell 2 rfl
      have d3 := HIy2.out.1.cell 3 rfl
      have f0 := HIy2.out.1.frozen 0
      have f2 := HIy2.out.1.frozen 2
      have f3 := HIy2.out.1.frozen 3
      obtain ⟨y3, hy3⟩ : ∃ y3, World.setCell y2 ⟨bx, 0, none⟩ (.string v) = y3 := ⟨_, rfl⟩
      have HIy3 : Hid (BoxN y3 bx 25 [.string v, .slice xa n xc, .int .i64 st, .int .i64 off] ∧ Owns y3 w1.heap.size xa n xc ys ∧ (∀ q, xa.map (·.block) = some q → q ≠ bx) ∧ DrE B c a len cap zs w1 y3) := by
        show _ ∧ _
        rw [← hy3]
        exact ⟨HIy2.out.1.set 0 _, owns_set HIy2.out.2.1 (fun e => HIy2.out.2.2.1 _ e rfl), HIy2.out.2.2.1, gput HIy2.out.2.2.2.1 hbl _, fun x => (HIy2.out.2.2.2.2 x).put (by have := hcw1; omega) _⟩
      have HWy3 : Hid (_ = y3) := hy3
      clear hy3
      clear HIy2
      go_upto_region 11 with fail
      rw [HWy3.out]
      clear HWy3 d0 d1 d2 d3 f0 f2 f3
      have HR0 : Hid (BoxN y3 w.heap.size 25 [.string ⟨#[]⟩, .slice none 0 0, .int .i64 0, .int .i64 0]) := HIy3.out.2.2.2.box HQ1.out (by omega)
      have d0 := HIy3.out.1.cell 0 rfl
      have d1 := HIy3.out.1.cell 1 rfl
      have d2 := HIy3.out.1.cell 2 rfl
      have d3 := HIy3.out.1.cell 3 rfl
      have g0 := HR0.out.cell 0 rfl
      have g1 := HR0.out.cell 1 rfl
      have g2 := HR0.out.cell 2 rfl
      have g3 := HR0.out.cell 3 rfl
      have f0 := HR0.out.frozen 0
      have f1 := HR0.out.frozen 1
      have f2 := HR0.out.frozen 2
      have f3 := HR0.out.frozen 3
      have hn1 : xa.map (·.block) ≠ some w.heap.size := fun e => by have := (HIy3.out.2.1.lt _ e).1; have := HZ1.out; omega
      have HF : Hid (Owns (((((y3).setCell ⟨w.heap.size, 0, none⟩ (.string v)).setCell ⟨w.heap.size, 1, none⟩ (.slice xa n xc)).setCell ⟨w.heap.size, 2, none⟩ (.int .i64 st)).setCell ⟨w.heap.size, 3, none⟩ (.int .i64 off)) w.heap.size xa n xc ys ∧ Cur (((((y3).setCell ⟨w.heap.size, 0, none⟩ (.string v)).setCell ⟨w.heap.size, 1, none⟩ (.slice xa n xc)).setCell ⟨w.heap.size, 2, none⟩ (.int .i64 st)).setCell ⟨w.heap.size, 3, none⟩ (.int .i64 off)) B c a len cap zs ∧ w.grownBy (((((y3).setCell ⟨w.heap.size, 0, none⟩ (.string v)).setCell ⟨w.heap.size, 1, none⟩ (.slice xa n xc)).setCell ⟨w.heap.size, 2, none⟩ (.int .i64 st)).setCell ⟨w.heap.size, 3, none⟩ (.int .i64 off)) (some c)) := by
        have hE := HE1.out.trans HIy3.out.2.2.2
        refine ⟨(owns_set (owns_set (owns_set (owns_set HIy3.out.2.1 hn1) hn1) hn1) hn1).low (by have := HZ1.out; omega), ((((hE.2 HC.out).put hcw _).put hcw _).put hcw _).put hcw _, ?_⟩
        exact gput (gput (gput (gput hE.1 (Nat.le_refl _) _) (Nat.le_refl _) _) (Nat.le_refl _) _) (Nat.le_refl _) _
      clear HR0 hn1
      go_wp2_with fail
      refine bodyPost_ret (v := .agg #[.string v, .slice xa n xc, .int .i64 st, .int .i64 off]) (by simp [results, Tryd.f15, go_sem, g0, g1, g2, g3]) rfl ?_
      exact ⟨⟨v, xa, n, xc, ys, st, off, rfl, HF.out.1, HV.out, hn⟩, HF.out.2⟩
    have e0 : (sw == 0) = false := by simpa using h0
    have e1 : (sw == 1) = false := by simpa using h1
    have e2 : (sw == 2) = false := by simpa using h2
    clear h0 h1 h2
    have HR0 : Hid (BoxN y1 w.heap.size 25 [.string ⟨#[]⟩, .slice none 0 0, .int .i64 0, .int .i64 0]) := HIy1.out.2.2.2.box HQ1.out (by omega)
    have d0 := HIy1.out.1.cell 0 rfl
    have d1 := HIy1.out.1.cell 1 rfl
    have d2 := HIy1.out.1.cell 2 rfl
    have d3 := HIy1.out.1.cell 3 rfl
    have g0 := HR0.out.cell 0 rfl
    have g1 := HR0.out.cell 1 rfl
    have g2 := HR0.out.cell 2 rfl
    have g3 := HR0.out.cell 3 rfl
    have f0 := HR0.out.frozen 0
    have f1 := HR0.out.frozen 1
    have f2 := HR0.out.frozen 2
    have f3 := HR0.out.frozen 3
    have hn1 : xa.map (·.block) ≠ some w.heap.size := fun e => by have := (HIy1.out.2.1.lt _ e).1; have := HZ1.out; omega
    have HF : Hid (Owns (((((y1).setCell ⟨w.heap.size, 0, none⟩ (.string id)).setCell ⟨w.heap.size, 1, none⟩ (.slice xa n xc)).setCell ⟨w.heap.size, 2, none⟩ (.int .i64 st)).setCell ⟨w.heap.size, 3, none⟩ (.int .i64 off)) w.heap.size xa n xc ys ∧ Cur (((((y1).setCell ⟨w.heap.size, 0, none⟩ (.string id)).setCell ⟨w.heap.size, 1, none⟩ (.slice xa n xc)).setCell ⟨w.heap.size, 2, none⟩ (.int .i64 st)).setCell ⟨w.heap.size, 3, none⟩ (.int .i64 off)) B c a len cap zs ∧ w.grownBy (((((y1).setCell ⟨w.heap.size, 0, none⟩ (.string id)).setCell ⟨w.heap.size, 1, none⟩ (.slice xa n xc)).setCell ⟨w.heap.size, 2, none⟩ (.int .i64 st)).setCell ⟨w.heap.size, 3, none⟩ (.int .i64 off)) (some c)) := by
      have hE := HE1.out.trans HIy1.out.2.2.2
      refine ⟨(owns_set (owns_set (owns_set (owns_set HIy1.out.2.1 hn1) hn1) hn1) hn1).low (by have := HZ1.out; omega), ((((hE.2 HC.out).put hcw _).put hcw _).put hcw _).put hcw _, ?_⟩
      exact gput (gput (gput (gput hE.1 (Nat.le_refl _) _) (Nat.le_refl _) _) (Nat.le_refl _) _) (Nat.le_refl _) _
    clear HR0 hn1
    go_wp2_with fail
    refine bodyPost_ret (v := .agg #[.string id, .slice xa n xc, .int .i64 st, .int .i64 off]) (by simp [results, Tryd.f15, go_sem, g0, g1, g2, g3]) rfl ?_
    exact ⟨⟨id, xa, n, xc, ys, st, off, rfl, HF.out.1, HId.out, hn⟩, HF.out.2⟩
  | true =>
    go_wp2_with fail
    refine (l1Below_any B c a len cap zs 5 w4 (HCt.out _ HI4.out.2.2.2) hl (by omega) (by omega)).mono ?_
    rintro e w5 ⟨u, rfl, hu0, hu1, hc5, hg5⟩
    have hE : DrE B c a len cap zs w4 w5 := .cur hg5 hc5
    have HIw5 : Hid (BoxN w5 bx 25 [.string id, .slice xa n xc, .int .i64 st, .int .i64 off] ∧ Owns w5 w1.heap.size xa n xc ys ∧ (∀ q, xa.map (·.block) = some q → q ≠ bx) ∧ DrE B c a len cap zs w1 w5) := ⟨hE.box HI4.out.1 hbc, hE.own HI4.out.2.1 (fun q hq => by have := (HI4.out.2.1.lt q hq).1; omega), HI4.out.2.2.1, HI4.out.2.2.2.trans hE⟩
    clear hE
    clear hc5 hg5 HI4
    obtain ⟨st2, hst2⟩ : ∃ st2, 1 + u = st2 := ⟨_, rfl⟩
    have d0 := HIw5.out.1.cell 0 rfl
    have d1 := HIw5.out.1.cell 1 rfl
    have d2 := HIw5.out.1.cell 2 rfl
    have d3 := HIw5.out.1.cell 3 rfl
    have f0 := HIw5.out.1.frozen 0
    have f2 := HIw5.out.1.frozen 2
    have f3 := HIw5.out.1.frozen 3
    obtain ⟨w6, hw6⟩ : ∃ w6, World.setCell w5 ⟨bx, 2, none⟩ (.int .i64 st2) = w6 := ⟨_, rfl⟩
    have HIw6 : Hid (BoxN w6 bx 25 [.string id, .slice xa n xc, .int .i64 st2, .int .i64 off] ∧ Owns w6 w1.heap.size xa n xc ys ∧ (∀ q, xa.map (·.block) = some q → q ≠ bx) ∧ DrE B c a len cap zs w1 w6) := by
      show _ ∧ _
      rw [← hw6]
      exact ⟨HIw5.out.1.set 2 _, owns_set HIw5.out.2.1 (fun e => HIw5.out.2.2.1 _ e rfl), HIw5.out.2.2.1, gput HIw5.out.2.2.2.1 hbl _, fun x => (HIw5.out.2.2.2.2 x).put (by have := hcw1; omega) _⟩
    have HWw6 : Hid (_ = w6) := hw6
    clear hw6
    clear HIw5
    go_upto_region 4 with fail
    rw [HWw6.out]
    clear hst2
    clear HWw6 d0 d1 d2 d3 f0 f2 f3
    go_wp2_with fail
    refine (l1Below_any B c a len cap zs 14 w6 (HCt.out _ HIw6.out.2.2.2) hl (by omega) (by omega)).mono ?_
    rintro e y1 ⟨sw, rfl, hs0, hs1, hc5, hg5⟩
    have hE : DrE B c a len cap zs w6 y1 := .cur hg5 hc5
    have HIy1 : Hid (BoxN y1 bx 25 [.string id, .slice xa n xc, .int .i64 st2, .int .i64 off] ∧ Owns y1 w1.heap.size xa n xc ys ∧ (∀ q, xa.map (·.block) = some q → q ≠ bx) ∧ DrE B c a len cap zs w1 y1) := ⟨hE.box HIw6.out.1 hbc, hE.own HIw6.out.2.1 (fun q hq => by have := (HIw6.out.2.1.lt q hq).1; omega), HIw6.out.2.2.1, HIw6.out.2.2.2.trans hE⟩
    clear hE
    clear hc5 hg5 HIw6
    by_cases h0 : sw = 0
    · subst h0
      have HCy := HCt.out _ HIy1.out.2.2.2
      have hcy : c < y1.heap.size := HCy.lt
      go_wp2_with fail
      refine (l1Int_any B c a len cap zs y1.heap.size 2 2 [0, 7] _ (HCy.new _) hl (heap_alloc_new y1 _) (by omega) rfl (by omega) (by omega)).mono ?_
      rintro e y2 ⟨v, rfl, _, hc6, hg6⟩
      have hE : DrE B c a len cap zs y1 y2 := .cur (gtrans (World.grownBy_alloc y1 _ _) hg6) hc6
      have HIy2 : Hid (BoxN y2 bx 25 [.string id, .slice xa n xc, .int .i64 st2, .int .i64 off] ∧ Owns y2 w1.heap.size xa n xc ys ∧ (∀ q, xa.map (·.block) = some q → q ≠ bx) ∧ DrE B c a len cap zs w1 y2) := ⟨hE.box HIy1.out.1 hbc, hE.own HIy1.out.2.1 (fun q hq => by have := (HIy1.out.2.1.lt q hq).1; omega), HIy1.out.2.2.1, HIy1.out.2.2.2.trans hE⟩
      clear hE
      clear hc6 hg6 HCy hcy HIy1
      have d0 := HIy2.out.1.cell 0 rfl
      have d1 := HIy2.out.1.cell 1 rfl
      have d2 := HIy2.out.1.cell 2 rfl
      have d3 := HIy2.out.1.cell 3 rfl
      have f0 := HIy2.out.1.frozen 0
      have f2 := HIy2.out.1.frozen 2
      have f3 := HIy2.out.1.frozen 3
      obtain ⟨y3, hy3⟩ : ∃ y3, World.setCell y2 ⟨bx, 2, none⟩ (.int .i64 v) = y3 := ⟨_, rfl⟩
      have HIy3 : Hid (BoxN y3 bx 25 [.string id, .slice xa n xc, .int .i64 v, .int .i64 off] ∧ Owns y3 w1.heap.size xa n xc ys ∧ (∀ q, xa.map (·.block) = some q → q ≠ bx) ∧ DrE B c a len cap zs w1 y3) := by
        show _ ∧ _
        rw [← hy3]
        exact ⟨HIy2.out.1.set 2 _, owns_set HIy2.out.2.1 (fun e => HIy2.out.2.2.1 _ e rfl), HIy2.out.2.2.1, gput HIy2.out.2.2.2.1 hbl _, fun x => (HIy2.out.2.2.2.2 x).put (by have := hcw1; omega) _⟩
      have HWy3 : Hid (_ = y3) := hy3
      clear hy3
      clear HIy2
      go_upto_region 11 with fail
      rw [HWy3.out]
      clear HWy3 d0 d1 d2 d3 f0 f2 f3
      have HR0 : Hid (BoxN y3 w.heap.size 25 [.string ⟨#[]⟩, .slice none 0 0, .int .i64 0, .int .i64 0]) := HIy3.out.2.2.2.box HQ1.out (by omega)
      have d0 := HIy3.out.1.cell 0 rfl
      have d1 := HIy3.out.1.cell 1 rfl
      have d2 := HIy3.out.1.cell 2 rfl
      have d3 := HIy3.out.1.cell 3 rfl
      have g0 := HR0.out.cell 0 rfl
      have g1 := HR0.out.cell 1 rfl
      have g2 := HR0.out.cell 2 rfl
      have g3 := HR0.out.cell 3 rfl
      have f0 := HR0.out.frozen 0
      have f1 := HR0.out.frozen 1
      have f2 := HR0.out.frozen 2
      have f3 := HR0.out.frozen 3
      have hn1 : xa.map (·.block) ≠ some w.heap.size := fun e => by have := (HIy3.out.2.1.lt _ e).1; have := HZ1.out; omega
      have HF : Hid (Owns (((((y3).setCell ⟨w.heap.size, 0, none⟩ (.string id)).setCell ⟨w.heap.size, 1, none⟩ (.slice xa n xc)).setCell ⟨w.heap.size, 2, none⟩ (.int .i64 v)).setCell ⟨w.heap.size, 3, none⟩ (.int .i64 off)) w.heap.size xa n xc ys ∧ Cur (((((y3).setCell ⟨w.heap.size, 0, none⟩ (.string id)).setCell ⟨w.heap.size, 1, none⟩ (.slice xa n xc)).setCell ⟨w.heap.size, 2, none⟩ (.int .i64 v)).setCell ⟨w.heap.size, 3, none⟩ (.int .i64 off)) B c a len cap zs ∧ w.grownBy (((((y3).setCell ⟨w.heap.size, 0, none⟩ (.string id)).setCell ⟨w.heap.size, 1, none⟩ (.slice xa n xc)).setCell ⟨w.heap.size, 2, none⟩ (.int .i64 v)).setCell ⟨w.heap.size, 3, none⟩ (.int .i64 off)) (some c)) := by
        have hE := HE1.out.trans HIy3.out.2.2.2
        refine ⟨(owns_set (owns_set (owns_set (owns_set HIy3.out.2.1 hn1) hn1) hn1) hn1).low (by have := HZ1.out; omega), ((((hE.2 HC.out).put hcw _).put hcw _).put hcw _).put hcw _, ?_⟩
        exact gput (gput (gput (gput hE.1 (Nat.le_refl _) _) (Nat.le_refl _) _) (Nat.le_refl _) _) (Nat.le_refl _) _
      clear HR0 hn1
      go_wp2_with fail
      refine bodyPost_ret (v := .agg #[.string id, .slice xa n xc, .int .i64 v, .int .i64 off]) (by simp [results, Tryd.f15, go_sem, g0, g1, g2, g3]) rfl ?_
      exact ⟨⟨id, xa, n, xc, ys, v, off, rfl, HF.out.1, HId.out, hn⟩, HF.out.2⟩
    by_cases h1 : sw = 1
    · subst h1
      have HCy := HCt.out _ HIy1.out.2.2.2
      have hcy : c < y1.heap.size := HCy.lt
      have d0 := HIy1.out.1.cell 0 rfl
      have d1 := HIy1.out.1.cell 1 rfl
      have d2 := HIy1.out.1.cell 2 rfl
      have d3 := HIy1.out.1.cell 3 rfl
      go_wp2_with fail
      refine (l1Int_any B c a len cap zs y1.heap.size 3 3 [-1, (n : Int), (n : Int) + 1] _ (HCy.new _) hl (heap_alloc_new y1 _) (by omega) rfl (by omega) (by omega)).mono ?_
      rintro e y2 ⟨v, rfl, _, hc6, hg6⟩
      have hE : DrE B c a len cap zs y1 y2 := .cur (gtrans (World.grownBy_alloc y1 _ _) hg6) hc6
      have HIy2 : Hid (BoxN y2 bx 25 [.string id, .slice xa n xc, .int .i64 st2, .int .i64 off] ∧ Owns y2 w1.heap.size xa n xc ys ∧ (∀ q, xa.map (·.block) = some q → q ≠ bx) ∧ DrE B c a len cap zs w1 y2) := ⟨hE.box HIy1.out.1 hbc, hE.own HIy1.out.2.1 (fun q hq => by have := (HIy1.out.2.1.lt q hq).1; omega), HIy1.out.2.2.1, HIy1.out.2.2.2.trans hE⟩
      clear hE
      clear hc6 hg6 HCy hcy HIy1 d0 d1 d2 d3
      have d0 := HIy2.out.1.cell 0 rfl
      have d1 := HIy2.out.1.cell 1 rfl
      have d2 := HIy2.out.1.cell 2 rfl
      have d3 := HIy2.out.1.cell 3 rfl
      have f0 := HIy2.out.1.frozen 0
      have f2 := HIy2.out.1.frozen 2
      have f3 := HIy2.out.1.frozen 3
      obtain ⟨y3, hy3⟩ : ∃ y3, World.setCell y2 ⟨bx, 3, none⟩ (.int .i64 v) = y3 := ⟨_, rfl⟩
      have HIy3 : Hid (BoxN y3 bx 25 [.string id, .slice xa n xc, .int .i64 st2, .int .i64 v] ∧ Owns y3 w1.heap.size xa n xc ys ∧ (∀ q, xa.map (·.block) = some q → q ≠ bx) ∧ DrE B c a len cap zs w1 y3) := by
        show _ ∧ _
        rw [← hy3]
        exact ⟨HIy2.out.1.set 3 _, owns_set HIy2.out.2.1 (fun e => HIy2.out.2.2.1 _ e rfl), HIy2.out.2.2.1, gput HIy2.out.2.2.2.1 hbl _, fun x => (HIy2.out.2.2.2.2 x).put (by have := hcw1; omega) _⟩
      have HWy3 : Hid (_ = y3) := hy3
      clear hy3
      clear HIy2
      go_upto_region 11 with fail
      rw [HWy3.out]
      clear HWy3 d0 d1 d2 d3 f0 f2 f3
      have HR0 : Hid (BoxN y3 w.heap.size 25 [.string ⟨#[]⟩, .slice none 0 0, .int .i64 0, .int .i64 0]) := HIy3.out.2.2.2.box HQ1.out (by omega)
      have d0 := HIy3.out.1.cell 0 rfl
      have d1 := HIy3.out.1.cell 1 rfl
      have d2 := HIy3.out.1.cell 2 rfl
      have d3 := HIy3.out.1.cell 3 rfl
      have g0 := HR0.out.cell 0 rfl
      have g1 := HR0.out.cell 1 rfl
      have g2 := HR0.out.cell 2 rfl
      have g3 := HR0.out.cell 3 rfl
      have f0 := HR0.out.frozen 0
      have f1 := HR0.out.frozen 1
      have f2 := HR0.out.frozen 2
      have f3 := HR0.out.frozen 3
      have hn1 : xa.map (·.block) ≠ some w.heap.size := fun e => by have := (HIy3.out.2.1.lt _ e).1; have := HZ1.out; omega
      have HF : Hid (Owns (((((y3).setCell ⟨w.heap.size, 0, none⟩ (.string id)).setCell ⟨w.heap.size, 1, none⟩ (.slice xa n xc)).setCell ⟨w.heap.size, 2, none⟩ (.int .i64 st2)).setCell ⟨w.heap.size, 3, none⟩ (.int .i64 v)) w.heap.size xa n xc ys ∧ Cur (((((y3).setCell ⟨w.heap.size, 0, none⟩ (.string id)).setCell ⟨w.heap.size, 1, none⟩ (.slice xa n xc)).setCell ⟨w.heap.size, 2, none⟩ (.int .i64 st2)).setCell ⟨w.heap.size, 3, none⟩ (.int .i64 v)) B c a len cap zs ∧ w.grownBy (((((y3).setCell ⟨w.heap.size, 0, none⟩ (.string id)).setCell ⟨w.heap.size, 1, none⟩ (.slice xa n xc)).setCell ⟨w.heap.size, 2, none⟩ (.int .i64 st2)).setCell ⟨w.heap.size, 3, none⟩ (.int .i64 v)) (some c)) := by
        have hE := HE1.out.trans HIy3.out.2.2.2
        refine ⟨(owns_set (owns_set (owns_set (owns_set HIy3.out.2.1 hn1) hn1) hn1) hn1).low (by have := HZ1.out; omega), ((((hE.2 HC.out).put hcw _).put hcw _).put hcw _).put hcw _, ?_⟩
        exact gput (gput (gput (gput hE.1 (Nat.le_refl _) _) (Nat.le_refl _) _) (Nat.le_refl _) _) (Nat.le_refl _) _
      clear HR0 hn1
      go_wp2_with fail
      refine bodyPost_ret (v := .agg #[.string id, .slice xa n xc, .int .i64 st2, .int .i64 v]) (by simp [results, Tryd.f15, go_sem, g0, g1, g2, g3]) rfl ?_
      exact ⟨⟨id, xa, n, xc, ys, st2, v, rfl, HF.out.1, HId.out, hn⟩, HF.out.2⟩
    by_cases h2 : sw = 2
    · subst h2
      have HCy := HCt.out _ HIy1.out.2.2.2
      have hcy : c < y1.heap.size := HCy.lt
      go_wp2_with fail
      refine (l1Str_any B c a len cap zs y1.heap.size 2 2 [⟨#[]⟩, ⟨#[65]⟩] _ (HCy.new _) hl (heap_alloc_new y1 _) (by omega) rfl (by omega) (by omega)).mono ?_
      rintro e y2 ⟨v, rfl, hv, hc6, hg6⟩
      have HV : Hid (v.size ≤ 3) := ids2_short v hv
      have hE : DrE B c a len cap zs y1 y2 := .cur (gtrans (World.grownBy_alloc y1 _ _) hg6) hc6
      have HIy2 : Hid (BoxN y2 bx 25 [.string id, .slice xa n xc, .int .i64 st2, .int .i64 off] ∧ Owns y2 w1.heap.size xa n xc ys ∧ (∀ q, xa.map (·.block) = some q → q ≠ bx) ∧ DrE B c a len cap zs w1 y2) := ⟨hE.box HIy1.out.1 hbc, hE.own HIy1.out.2.1 (fun q hq => by have := (HIy1.out.2.1.lt q hq).1; omega), HIy1.out.2.2.1, HIy1.out.2.2.2.trans hE⟩
      clear hE
      clear hc6 hg6 HCy hcy HIy1 hv
      have d0 := HIy2.out.1.cell 0 rfl
      have d1 := HIy2.out.1.cell 1 rfl
      have d2 := HIy2.out.1.cell 2 rfl
      have d3 := HIy2.out.1.cell 3 rfl
      have f0 := HIy2.out.1.frozen 0
      have f2 := HIy2.out.1.frozen 2
      have f3 := HIy2.out.1.frozen 3
      obtain ⟨y3, hy3⟩ : ∃ y3, World.setCell y2 ⟨bx, 0, none⟩ (.string v) = y3 := ⟨_, rfl⟩
      have HIy3 : Hid (BoxN y3 bx 25 [.string v, .slice xa n xc, .int .i64 st2, .int .i64 off] ∧ Owns y3 w1.heap.size xa n xc ys ∧ (∀ q, xa.map (·.block) = some q → q ≠ bx) ∧ DrE B c a len cap zs w1 y3) := by
        show _ ∧ _
        rw [← hy3]
        exact ⟨HIy2.out.1.set 0 _, owns_set HIy2.out.2.1 (fun e => HIy2.out.2.2.1 _ e rfl), HIy2.out.2.2.1, gput HIy2.out.2.2.2.1 hbl _, fun x => (HIy2.out.2.2.2.2 x).put (by have := hcw1; omega) _⟩
      have HWy3 : Hid (_ = y3) := hy3
      clear hy3
      clear HIy2
      go_upto_region 11 with fail
      rw [HWy3.out]
      clear HWy3 d0 d1 d2 d3 f0 f2 f3
      have HR0 : Hid (BoxN y3 w.heap.size 25 [.string ⟨#[]⟩, .slice none 0 0, .int .i64 0, .int .i64 0]) := HIy3.out.2.2.2.box HQ1.out (by omega)
      have d0 := HIy3.out.1.cell 0 rfl
      have d1 := HIy3.out.1.cell 1 rfl
      have d2 := HIy3.out.1.cell 2 rfl
      have d3 := HIy3.out.1.cell 3 rfl
      have g0 := HR0.out.cell 0 rfl
      have g1 := HR0.out.cell 1 rfl
      have g2 := HR0.out.cell 2 rfl
      have g3 := HR0.out.cell 3 rfl
      have f0 := HR0.out.frozen 0
      have f1 := HR0.out.frozen 1
      have f2 := HR0.out.frozen 2
      have f3 := HR0.out.frozen 3
      have hn1 : xa.map (·.block) ≠ some w.heap.size := fun e => by have := (HIy3.out.2.1.lt _ e).1; have := HZ1.out; omega
      have HF : Hid (Owns (((((y3).setCell ⟨w.heap.size, 0, none⟩ (.string v)).setCell ⟨w.heap.size, 1, none⟩ (.slice xa n xc)).setCell ⟨w.heap.size, 2, none⟩ (.int .i64 st2)).setCell ⟨w.heap.size, 3, none⟩ (.int .i64 off)) w.heap.size xa n xc ys ∧ Cur (((((y3).setCell ⟨w.heap.size, 0, none⟩ (.string v)).setCell ⟨w.heap.size, 1, none⟩ (.slice xa n xc)).setCell ⟨w.heap.size, 2, none⟩ (.int .i64 st2)).setCell ⟨w.heap.size, 3, none⟩ (.int .i64 off)) B c a len cap zs ∧ w.grownBy (((((y3).setCell ⟨w.heap.size, 0, none⟩ (.string v)).setCell ⟨w.heap.size, 1, none⟩ (.slice xa n xc)).setCell ⟨w.heap.size, 2, none⟩ (.int .i64 st2)).setCell ⟨w.heap.size, 3, none⟩ (.int .i64 off)) (some c)) := by
        have hE := HE1.out.trans HIy3.out.2.2.2
        refine ⟨(owns_set (owns_set (owns_set (owns_set HIy3.out.2.1 hn1) hn1) hn1) hn1).low (by have := HZ1.out; omega), ((((hE.2 HC.out).put hcw _).put hcw _).put hcw _).put hcw _, ?_⟩
        exact gput (gput (gput (gput hE.1 (Nat.le_refl _) _) (Nat.le_refl _) _) (Nat.le_refl _) _) (Nat.le_refl _) _
      clear HR0 hn1
      go_wp2_with fail
      refine bodyPost_ret (v := .agg #[.string v, .slice xa n xc, .int .i64 st2, .int .i64 off]) (by simp [results, Tryd.f15, go_sem, g0, g1, g2, g3]) rfl ?_
      exact ⟨⟨v, xa, n, xc, ys, st2, off, rfl, HF.out.1, HV.out, hn⟩, HF.out.2⟩
    have e0 : (sw == 0) = false := by simpa using h0
    have e1 : (sw == 1) = false := by simpa using h1
    have e2 : (sw == 2) = false := by simpa using h2
    clear h0 h1 h2
    have HR0 : Hid (BoxN y1 w.heap.size 25 [.string ⟨#[]⟩, .slice none 0 0, .int .i64 0, .int .i64 0]) := HIy1.out.2.2.2.box HQ1.out (by omega)
    have d0 := HIy1.out.1.cell 0 rfl
    have d1 := HIy1.out.1.cell 1 rfl
    have d2 := HIy1.out.1.cell 2 rfl
    have d3 := HIy1.out.1.cell 3 rfl
    have g0 := HR0.out.cell 0 rfl
    have g1 := HR0.out.cell 1 rfl
    have g2 := HR0.out.cell 2 rfl
    have g3 := HR0.out.cell 3 rfl
    have f0 := HR0.out.frozen 0
    have f1 := HR0.out.frozen 1
    have f2 := HR0.out.frozen 2
    have f3 := HR0.out.frozen 3
    have hn1 : xa.map (·.block) ≠ some w.heap.size := fun e => by have := (HIy1.out.2.1.lt _ e).1; have := HZ1.out; omega
    have HF : Hid (Owns (((((y1).setCell ⟨w.heap.size, 0, none⟩ (.string id)).setCell ⟨w.heap.size, 1, none⟩ (.slice xa n xc)).setCell ⟨w.heap.size, 2, none⟩ (.int .i64 st2)).setCell ⟨w.heap.size, 3, none⟩ (.int .i64 off)) w.heap.size xa n xc ys ∧ Cur (((((y1).setCell ⟨w.heap.size, 0, none⟩ (.string id)).setCell ⟨w.heap.size, 1, none⟩ (.slice xa n xc)).setCell ⟨w.heap.size, 2, none⟩ (.int .i64 st2)).setCell ⟨w.heap.size, 3, none⟩ (.int .i64 off)) B c a len cap zs ∧ w.grownBy (((((y1).setCell ⟨w.heap.size, 0, none⟩ (.string id)).setCell ⟨w.heap.size, 1, none⟩ (.slice xa n xc)).setCell ⟨w.heap.size, 2, none⟩ (.int .i64 st2)).setCell ⟨w.heap.size, 3, none⟩ (.int .i64 off)) (some c)) := by
      have hE := HE1.out.trans HIy1.out.2.2.2
      refine ⟨(owns_set (owns_set (owns_set (owns_set HIy1.out.2.1 hn1) hn1) hn1) hn1).low (by have := HZ1.out; omega), ((((hE.2 HC.out).put hcw _).put hcw _).put hcw _).put hcw _, ?_⟩
      exact gput (gput (gput (gput hE.1 (Nat.le_refl _) _) (Nat.le_refl _) _) (Nat.le_refl _) _) (Nat.le_refl _) _
    clear HR0 hn1
    go_wp2_with fail
    refine bodyPost_ret (v := .agg #[.string id, .slice xa n xc, .int .i64 st2, .int .i64 off]) (by simp [results, Tryd.f15, go_sem, g0, g1, g2, g3]) rfl ?_
    exact ⟨⟨id, xa, n, xc, ys, st2, off, rfl, HF.out.1, HId.out, hn⟩, HF.out.2⟩

end Go.Proofs.YtlalebaaabdihagDoor
