/- Tables that are drawn, some of them not right. For codes of at most 2^40 bytes. A draw of one of so many. The draw of a table, a field and a mode. For codes of at most 2^40 bytes. Two lists of the same fields are told to be the same; nothing but draws comes. The specification's test of a range. -/
import Derived.Test.YtghakpcagacdaacM24
import Derived.Test.YtghakpcagacdaacM10
import Derived.Test.YtghakpcagacdaacM12
import Derived.Shelf.Abstract
import Derived.Test.YtghakpcagacdaacM23
import Derived.Deep.RegionHeld3
import Derived.Deep.RegionWith
import Derived.Deep.Cut
import Derived.Deep.CutBlock
import Derived.Test.YtghakpcagacdaacM11
import Derived.Deep.QuietTactic
import Derived.Test.YtghakpcagacdaacM05
namespace Go.Proofs.Ytghakpcagacdaac
open Go.RowKit Go.Shelf
set_option linter.unusedVariables false

theorem four_new (w : World) (x y x' y' : ByteArray) (t : TypeId) : ∀ j u, (fieldCells [(x, y), (x', y')])[j]? = some u → (w.alloc (.cells #[.string x, .string y, .string x', .string y'] t)).cell? ((⟨w.heap.size, 0, none⟩ : Addr).add j) = some u := by
  intro j u hj
  have hadd : (⟨w.heap.size, 0, none⟩ : Addr).add j = ⟨w.heap.size, j, none⟩ := by unfold Addr.add; split <;> simp_all
  rw [hadd, cell_of_row _ _ _ _ _ _ (heap_alloc_new w (.cells #[.string x, .string y, .string x', .string y'] t))]
  simpa [fieldCells] using hj

set_option maxRecDepth 10000 in
set_option maxHeartbeats 3200000 in
theorem l4Any_any (B c : Nat) (a : Option Addr) (len cap : Nat) (zs : List Int) (w : World) (hcur : Cur w B c a len cap zs) (hl : len ≤ 1099511627776) :
    Calls Try.prog 41 #[.pointer (some ⟨c, 0, none⟩)] w fun e w' => ∃ (m : Int) (v : Value) (n : Nat) (xs : List Fld), e = .returned (.agg #[.int .i64 m, v]) ∧ (n ≤ 7 ∧ fldBytes xs ≤ 560) ∧ OwnF w' w.heap.size v n xs ∧ Cur w' B c a len cap zs ∧ w.grownBy w' (some c) := by
  have hcl := hcur.lt
  obtain ⟨w1, hw1⟩ : ∃ w1, w.alloc (.cells #[.int .i64 0, .slice none 0 0] 26) = w1 := ⟨_, rfl⟩
  have HQ1 : Hid (Box2 w1 w.heap.size 26 (.int .i64 0) (.slice none 0 0)) := by show Box2 _ _ _ _ _; rw [← hw1]; exact Box2.new _ _ _ _
  have hs1 : w1.heap.size = w.heap.size + 1 := by rw [← hw1]; simp
  have HC1 : Hid (Cur w1 B c a len cap zs) := by rw [← hw1]; exact hcur.new _
  have HG1 : Hid (w.grownBy w1 (some c)) := by show World.grownBy _ _ _; rw [← hw1]; exact World.grownBy_alloc _ _ _
  clear hcur
  go_enter Try.func41, Try.ntmps41
  go_wp2_with fail
  refine (l4Draw_any B c a len cap zs _ HC1.out hl).mono ?_
  rintro e w2 ⟨m, v, n, xs, rfl, ⟨hm0, hm1, hn, hfb⟩, ho2, hc2, hg2⟩
  obtain ⟨av, cv, rfl⟩ := ho2.shape
  have HC2 : Hid (Cur w2 B c a len cap zs) := hc2
  have HG2 : Hid (w.grownBy w2 (some c)) := gtrans HG1.out hg2
  have HQ2 : Hid (Box2 w2 w.heap.size 26 (.int .i64 0) (.slice none 0 0)) := HQ1.out.grown hg2 (by intro e; injection e with e; omega)
  have HO2 : Hid (OwnF w2 w.heap.size (.slice av n cv) n xs) := ⟨own_down ho2.1 (by omega), ho2.2⟩
  have hs2 : w.heap.size < w2.heap.size := HQ2.out.lt
  clear ho2 hc2 hg2 HC1 HG1 HQ1 hw1
  go_wp2_with fail
  obtain ⟨w3, hw3⟩ : ∃ w3, w2.alloc (.cells #[.int .i64 m, .slice av n cv] 26) = w3 := ⟨_, rfl⟩
  have HT3 : Hid (Box2 w3 w2.heap.size 26 (.int .i64 m) (.slice av n cv)) := by show Box2 _ _ _ _ _; rw [← hw3]; exact Box2.new _ _ _ _
  have HC3 : Hid (Cur w3 B c a len cap zs) := by rw [← hw3]; exact HC2.out.new _
  have HG3 : Hid (w.grownBy w3 (some c)) := by show World.grownBy _ _ _; rw [← hw3]; exact gnew HG2.out _
  have HQ3 : Hid (Box2 w3 w.heap.size 26 (.int .i64 0) (.slice none 0 0)) := by show Box2 _ _ _ _ _; rw [← hw3]; exact HQ2.out.alloc _
  have HO3 : Hid (OwnF w3 w.heap.size (.slice av n cv) n xs) := by rw [← hw3]; exact HO2.out.stays ((Below.refl _ _).alloc (Nat.le_refl _) _)
  rw [hw3]
  clear hw3 HC2 HG2 HQ2 HO2
  generalize w2.heap.size = tb at *
  refine (l1Below_any B c a len cap zs 10 _ HC3.out hl (by omega) (by omega)).mono ?_
  rintro e w4 ⟨x, rfl, hx0, hx1, hc4, hg4⟩
  have HT4 : Hid (Box2 w4 tb 26 (.int .i64 m) (.slice av n cv)) := HT3.out.grown hg4 (by intro e; injection e with e; omega)
  have HC4 : Hid (Cur w4 B c a len cap zs) := hc4
  have HG4 : Hid (w.grownBy w4 (some c)) := gtrans HG3.out hg4
  have HQ4 : Hid (Box2 w4 w.heap.size 26 (.int .i64 0) (.slice none 0 0)) := HQ3.out.grown hg4 (by intro e; injection e with e; omega)
  have HO4 : Hid (OwnF w4 w.heap.size (.slice av n cv) n xs) := HO3.out.grown hg4 (.inr (own_cur HO3.out.1 hcl))
  clear hc4 hg4 HT3 HC3 HG3 HQ3 HO3
  have htl : tb < w4.heap.size := HT4.out.lt
  by_cases hx00 : x = 0
  · subst hx00
    go_wp2_with fail
    refine (l1Int_any B c a len cap zs w4.heap.size 3 3 [-1, 4097, 10] _ (HC4.out.new _) hl (heap_alloc_new w4 _) (by omega) rfl (by omega) (by omega)).mono ?_
    rintro e w5 ⟨m5, rfl, hm5, hc5, hg5⟩
    have HT5 : Hid (Box2 w5 tb 26 (.int .i64 m) (.slice av n cv)) := (HT4.out.alloc _).grown hg5 (by intro e; injection e with e; omega)
    have HQ5 : Hid (Box2 w5 w.heap.size 26 (.int .i64 0) (.slice none 0 0)) := (HQ4.out.alloc _).grown hg5 (by intro e; injection e with e; omega)
    have HO5 : Hid (OwnF w5 w.heap.size (.slice av n cv) n xs) := (HO4.out.stays ((Below.refl _ _).alloc (Nat.le_refl _) _)).grown hg5 (.inr (own_cur HO4.out.1 hcl))
    have HC5 : Hid (Cur w5 B c a len cap zs) := hc5
    have HG5 : Hid (w.grownBy w5 (some c)) := gtrans (gnew HG4.out _) hg5
    clear hm5 hc5 hg5 HT4 HC4 HG4 HQ4 HO4
    obtain ⟨w6, hw6⟩ : ∃ w6, w5.setCell ⟨tb, 0, none⟩ (.int .i64 m5) = w6 := ⟨_, rfl⟩
    have HT6 : Hid (Box2 w6 tb 26 (.int .i64 m5) (.slice av n cv)) := by show Box2 _ _ _ _ _; rw [← hw6]; exact two_set0 HT5.out _
    have HQ6 : Hid (Box2 w6 w.heap.size 26 (.int .i64 0) (.slice none 0 0)) := by show Box2 _ _ _ _ _; rw [← hw6]; exact (set_block_other _ _ _ _ _ (by omega)).trans HQ5.out
    have HO6 : Hid (OwnF w6 w.heap.size (.slice av n cv) n xs) := by rw [← hw6]; exact HO5.out.grown (gset _ tb 0 _) (.inr (own_other' HO5.out.1 HT5.out (by decide)))
    have HC6 : Hid (Cur w6 B c a len cap zs) := by rw [← hw6]; exact HC5.out.put (by omega) _
    have HG6 : Hid (w.grownBy w6 (some c)) := by show World.grownBy _ _ _; rw [← hw6]; exact gput HG5.out (by omega) _
    obtain ⟨s0, s1, s2, s3⟩ := HT5.out.cells
    obtain ⟨p0, p1, p2, p3⟩ := (HT6.out).cells
    obtain ⟨q0, q1, q2, q3⟩ := (HQ6.out).cells
    have HR : Hid (Box2 ((w6.setCell ⟨w.heap.size, 0, none⟩ (.int .i64 m5)).setCell ⟨w.heap.size, 1, none⟩ (.slice av n cv)) w.heap.size 26 (.int .i64 m5) (.slice av n cv)) := two_set1 (two_set0 (HQ6.out) _) _
    have HOr : Hid (OwnF ((w6.setCell ⟨w.heap.size, 0, none⟩ (.int .i64 m5)).setCell ⟨w.heap.size, 1, none⟩ (.slice av n cv)) w.heap.size (.slice av n cv) n xs) := by
      have hne := own_other' (HO6.out).1 (HQ6.out) (by decide)
      exact (OwnF.grown (HO6.out) (gset _ w.heap.size 0 _) (.inr hne)).grown (gset _ w.heap.size 1 _) (.inr hne)
    go_wp2_with fail
    obtain ⟨r0, r1, _, _⟩ := HR.out.cells
    refine bodyPost_ret (v := .agg #[.int .i64 m5, .slice av n cv]) (by simp [results, Try.f41, go_sem, r0, r1]) rfl ?_
    exact ⟨m5, _, n, xs, rfl, ⟨by omega, by omega⟩, HOr.out, (Cur.put (HC6.out) hcl _).put hcl _, gput (gput (HG6.out) (Nat.le_refl _) _) (Nat.le_refl _) _⟩
  · have hx00' : (x == 0) = false := by simp [hx00]
    by_cases hx11 : x = 1
    · subst hx11
      obtain ⟨i0, hi, hz0, hz1, hz2⟩ := info_parts info_field
      have HEnt : Hid (∀ args w, (callFunc 42 args).run Try.prog w = .ok (.enter 42 args) w) := enters_of Try.func42 (by kernel_rfl) rfl
      obtain ⟨b0, b1, b2, b3⟩ := HT4.out.cells
      have HCd : Hid (Cur w4.drew B c a len cap zs) := HC4.out
      go_wp2_with fail
      go_region_law (first
        | (refine step_call_any rfl 42 (.tmp 18) 66 rfl HEnt.out (.pointer (some ⟨c, 0, none⟩)) rfl _ (l4Field_any B c a len cap zs _ HCd.out hl) ?_; rintro e y1 ⟨x1, z1, rfl, hx1, hz1', hc1, hg1⟩; refine ⟨_, rfl, ?_⟩; obtain ⟨d0, d1, _, _⟩ := (Box2.grown (W := w4.drew) HT4.out hg1 (by intro e; injection e with e; omega)).cells)
        | (refine step_call_any rfl 42 (.tmp 20) 66 rfl HEnt.out (.pointer (some ⟨c, 0, none⟩)) rfl _ (l4Field_any B c a len cap zs _ hc1 hl) ?_; rintro e y2 ⟨x2, z2, rfl, hx2, hz2', hc2, hg2⟩; refine ⟨_, rfl, ?_⟩; have hT2 : Box2 y2 tb 26 (.int .i64 m) (.slice av n cv) := (Box2.grown (W := w4.drew) HT4.out hg1 (by intro e; injection e with e; omega)).grown hg2 (by intro e; injection e with e; omega); obtain ⟨e0, e1, _, _⟩ := hT2.cells; obtain ⟨f0, f1, _, _⟩ := (hT2.alloc (.cells #[.string x1, .string z1, .string x2, .string z2] 36)).cells; have hO2 : OwnF y2 w.heap.size (.slice av n cv) n xs := (OwnF.grown (W := w4.drew) HO4.out hg1 (.inr (own_cur HO4.out.1 hcl))).grown hg2 (.inr (own_cur HO4.out.1 hcl)); have hw2 : w.heap.size ≤ y2.heap.size := Nat.le_trans HG4.out.size (Nat.le_trans hg1.size hg2.size))
        | (refine step_append_own rfl (.tmp 17) (.tmp 22) 24 rfl w.heap.size 36 i0 (.agg #[.string ⟨#[]⟩, .string ⟨#[]⟩]) 2 32 Try.underlying24 hi hz0 hz1 hz2 rfl (by decide) (.slice av n cv) n (fieldCells xs) rfl (hO2.1.alloc _) ⟨y2.heap.size, 0, none⟩ 2 2 (fieldCells [(x1, z1), (x2, z2)]) rfl rfl (four_new y2 x1 z1 x2 z2 _) (fieldCells_one _) (by unfold maxLen; omega) (by omega) (by rw [World.size_alloc]; omega) ?_; intro v5 w5 hown hgrow; obtain ⟨a5, c5, rfl⟩ := own_shape hown; have hne5 := own_other' hO2.1 hT2 (by decide); have hT5 : Box2 w5 tb 26 (.int .i64 m) (.slice av n cv) := (hT2.alloc _).grown hgrow hne5; obtain ⟨k0, k1, k2, k3⟩ := hT5.cells))
      all_goals
        have hQ5 : Box2 w5 w.heap.size 26 (.int .i64 0) (.slice none 0 0) := by
          have hQ2 : Box2 y2 w.heap.size 26 (.int .i64 0) (.slice none 0 0) := (Box2.grown (W := w4.drew) HQ4.out hg1 (by intro e; injection e with e; omega)).grown hg2 (by intro e; injection e with e; omega)
          exact (hQ2.alloc _).grown hgrow (own_other' hO2.1 hQ2 (by decide))
        have hG5 : w.grownBy w5 (some c) := gown (gnew (gtrans (gtrans HG4.out (gtrans (gdrew w4 1 (some c)) hg1)) hg2) _) hgrow (fun j hj => (hO2.1.lt j hj).1)
        have hC5 : Cur w5 B c a len cap zs := (hc2.new _).kept hgrow (fun j hj => by have h1 := (hO2.1.lt j hj).1; have h2 := hc2.1; omega)
        have hO5 : OwnF w5 w.heap.size (.slice a5 (n + 2) c5) (n + 2) (xs ++ [(x1, z1), (x2, z2)]) := by
          refine ⟨by rw [fieldCells_append]; exact hown, fun f hf => ?_⟩
          rcases List.mem_append.1 hf with h | h
          · exact HO4.out.2 f h
          · simp only [List.mem_cons, List.not_mem_nil, or_false] at h
            rcases h with rfl | rfl
            · exact ⟨by show _ ≤ 9223372036854775807; dsimp only; omega, by show _ ≤ 9223372036854775807; dsimp only; omega⟩
            · exact ⟨by show _ ≤ 9223372036854775807; dsimp only; omega, by show _ ≤ 9223372036854775807; dsimp only; omega⟩
        have hfb2 : fldBytes (xs ++ [(x1, z1), (x2, z2)]) ≤ 560 := by
          have : fldBytes (xs ++ [(x1, z1), (x2, z2)]) = fldBytes xs + ((x1.size + z1.size) + (x2.size + z2.size)) := by simp [fldBytes]
          omega
        obtain ⟨w6, hw6⟩ : ∃ w6, w5.setCell ⟨tb, 1, none⟩ (.slice a5 (n + 2) c5) = w6 := ⟨_, rfl⟩
        have HT6 : Hid (Box2 w6 tb 26 (.int .i64 m) (.slice a5 (n + 2) c5)) := by show Box2 _ _ _ _ _; rw [← hw6]; exact two_set1 hT5 _
        have HQ6 : Hid (Box2 w6 w.heap.size 26 (.int .i64 0) (.slice none 0 0)) := by show Box2 _ _ _ _ _; rw [← hw6]; exact (set_block_other _ _ _ _ _ (by omega)).trans hQ5
        have HO6 : Hid (OwnF w6 w.heap.size (.slice a5 (n + 2) c5) (n + 2) (xs ++ [(x1, z1), (x2, z2)])) := by rw [← hw6]; exact hO5.grown (gset _ tb 1 _) (.inr (own_other' hO5.1 hT5 (by decide)))
        have HC6 : Hid (Cur w6 B c a len cap zs) := by rw [← hw6]; exact hC5.put (by omega) _
        have HG6 : Hid (w.grownBy w6 (some c)) := by show World.grownBy _ _ _; rw [← hw6]; exact gput hG5 (by omega) _
        generalize xs ++ [(x1, z1), (x2, z2)] = ys at *
        clear hown hgrow hT5 hQ5 hG5 hC5 hO5 hT2 hO2 hc1 hg1 hc2 hg2 d0 d1 e0 e1 f0 f1 b0 b1 b2 b3
        obtain ⟨p0, p1, p2, p3⟩ := (HT6.out).cells
        obtain ⟨q0, q1, q2, q3⟩ := (HQ6.out).cells
        have HR : Hid (Box2 ((w6.setCell ⟨w.heap.size, 0, none⟩ (.int .i64 m)).setCell ⟨w.heap.size, 1, none⟩ (.slice a5 (n + 2) c5)) w.heap.size 26 (.int .i64 m) (.slice a5 (n + 2) c5)) := two_set1 (two_set0 (HQ6.out) _) _
        have HOr : Hid (OwnF ((w6.setCell ⟨w.heap.size, 0, none⟩ (.int .i64 m)).setCell ⟨w.heap.size, 1, none⟩ (.slice a5 (n + 2) c5)) w.heap.size (.slice a5 (n + 2) c5) (n + 2) ys) := by
          have hne := own_other' (HO6.out).1 (HQ6.out) (by decide)
          exact (OwnF.grown (HO6.out) (gset _ w.heap.size 0 _) (.inr hne)).grown (gset _ w.heap.size 1 _) (.inr hne)
        go_wp2_with fail
        obtain ⟨r0, r1, _, _⟩ := HR.out.cells
        refine bodyPost_ret (v := .agg #[.int .i64 m, .slice a5 (n + 2) c5]) (by simp [results, Try.f41, go_sem, r0, r1]) rfl ?_
        exact ⟨m, _, (n + 2), ys, rfl, ⟨by omega, by omega⟩, HOr.out, (Cur.put (HC6.out) hcl _).put hcl _, gput (gput (HG6.out) (Nat.le_refl _) _) (Nat.le_refl _) _⟩
    · have hx11' : (x == 1) = false := by simp [hx11]
      obtain ⟨p0, p1, p2, p3⟩ := (HT4.out).cells
      obtain ⟨q0, q1, q2, q3⟩ := (HQ4.out).cells
      have HR : Hid (Box2 ((w4.setCell ⟨w.heap.size, 0, none⟩ (.int .i64 m)).setCell ⟨w.heap.size, 1, none⟩ (.slice av n cv)) w.heap.size 26 (.int .i64 m) (.slice av n cv)) := two_set1 (two_set0 (HQ4.out) _) _
      have HOr : Hid (OwnF ((w4.setCell ⟨w.heap.size, 0, none⟩ (.int .i64 m)).setCell ⟨w.heap.size, 1, none⟩ (.slice av n cv)) w.heap.size (.slice av n cv) n xs) := by
        have hne := own_other' (HO4.out).1 (HQ4.out) (by decide)
        exact (OwnF.grown (HO4.out) (gset _ w.heap.size 0 _) (.inr hne)).grown (gset _ w.heap.size 1 _) (.inr hne)
      go_wp2_with fail
      obtain ⟨r0, r1, _, _⟩ := HR.out.cells
      refine bodyPost_ret (v := .agg #[.int .i64 m, .slice av n cv]) (by simp [results, Try.f41, go_sem, r0, r1]) rfl ?_
      exact ⟨m, _, n, xs, rfl, ⟨by omega, by omega⟩, HOr.out, (Cur.put (HC4.out) hcl _).put hcl _, gput (gput (HG4.out) (Nat.le_refl _) _) (Nat.le_refl _) _⟩

end Go.Proofs.Ytghakpcagacdaac

namespace Go.Proofs.Ytghakpcagacdaac
open Go.RowKit
set_option linter.unusedVariables false

set_option maxRecDepth 10000 in
set_option maxHeartbeats 400000 in
theorem l1Once_any (B c : Nat) (a : Option Addr) (len cap : Nat) (zs : List Int) (n : Int) (w : World) (hcur : Cur w B c a len cap zs) (hl : len ≤ 1099511627776) (hn1 : 1 ≤ n) (hn2 : n ≤ 1000000) :
    Calls Try.prog 43 #[.pointer (some ⟨c, 0, none⟩), .int .i64 n] w fun e w' => ∃ b : Bool, e = .returned (.bool b) ∧ Cur w' B c a len cap zs ∧ w.grownBy w' (some c) := by
  have HC : Hid _ := hcur
  clear hcur
  go_enter Try.func43, Try.ntmps43
  go_wp2_with fail
  refine (l1Below_any B c a len cap zs _ _ HC.out hl hn1 hn2).mono ?_
  rintro e w1 ⟨x, rfl, hx0, hx1, hc1, hg1⟩
  have HC1 : Hid _ := hc1
  have HG1 : Hid _ := hg1
  clear hc1 hg1
  go_wp2_with fail
  go_ret
  exact ⟨_, rfl, HC1.out, HG1.out⟩

end Go.Proofs.Ytghakpcagacdaac

namespace Go.Proofs.Ytghakpcagacdaac
open Go.RowKit
set_option linter.unusedVariables false

/-- What the draw keeps: the cursor, the answer's two variables, the table's and the field's, the table's fields. -/
def DO (w W : World) (c : Nat) (a : Option Addr) (len cap : Nat) (zs : List Int) (tb fb base : Nat) (m : Int) (av : Option Addr) (n cv : Nat) (xs : List Fld) (x y : ByteArray) : Prop :=
  Cur W c c a len cap zs ∧ Below w.heap.size w W ∧ Box2 W w.heap.size 26 (.int .i64 0) (.slice none 0 0) ∧ Box2 W (w.heap.size + 1) 36 (.string ⟨#[]⟩) (.string ⟨#[]⟩) ∧
    Box2 W tb 26 (.int .i64 m) (.slice av n cv) ∧ Box2 W fb 36 (.string x) (.string y) ∧ OwnF W base (.slice av n cv) n xs ∧ (Value.slice av n cv).ownBlock ≠ some fb

theorem DO.call {w W W' : World} {c : Nat} {a : Option Addr} {len cap : Nat} {zs : List Int} {tb fb base : Nat} {m : Int} {av : Option Addr} {n cv : Nat} {xs : List Fld} {x y : ByteArray} (h : DO w W c a len cap zs tb fb base m av n cv xs x y) (hc : Cur W' c c a len cap zs) (hg : W.grownBy W' (some c)) (hw : w.heap.size + 1 < c) (ht : c < tb) (hf : c < fb) (hb : c < base) : DO w W' c a len cap zs tb fb base m av n cv xs x y := by
  obtain ⟨h1, h2, h3, h4, h5, h6, h7, h8⟩ := h
  exact ⟨hc, h2.grown hg h2.size (fun k hk => by injection hk with hk; omega), h3.grown hg (fun e => by injection e with e; omega), h4.grown hg (fun e => by injection e with e; omega), h5.grown hg (fun e => by injection e with e; omega), h6.grown hg (fun e => by injection e with e; omega), h7.grown hg (.inr (own_cur h7.1 hb)), h8⟩

theorem DO.new {w W : World} {c : Nat} {a : Option Addr} {len cap : Nat} {zs : List Int} {tb fb base : Nat} {m : Int} {av : Option Addr} {n cv : Nat} {xs : List Fld} {x y : ByteArray} (h : DO w W c a len cap zs tb fb base m av n cv xs x y) (o : Obj) : DO w (W.alloc o) c a len cap zs tb fb base m av n cv xs x y := by
  obtain ⟨h1, h2, h3, h4, h5, h6, h7, h8⟩ := h
  exact ⟨h1.new o, h2.alloc h2.size o, h3.alloc o, h4.alloc o, h5.alloc o, h6.alloc o, h7.stays ((Below.refl _ _).alloc (Nat.le_refl _) _), h8⟩

theorem DO.drew {w W : World} {c : Nat} {a : Option Addr} {len cap : Nat} {zs : List Int} {tb fb base : Nat} {m : Int} {av : Option Addr} {n cv : Nat} {xs : List Fld} {x y : ByteArray} (h : DO w W c a len cap zs tb fb base m av n cv xs x y) : DO w W.drew c a len cap zs tb fb base m av n cv xs x y :=
  ⟨h.1, h.2.1.drew, h.2.2.1, h.2.2.2.1, h.2.2.2.2.1, h.2.2.2.2.2.1, h.2.2.2.2.2.2⟩

/-- Another field is put into the field's variable. -/
theorem DO.field {w W : World} {c : Nat} {a : Option Addr} {len cap : Nat} {zs : List Int} {tb fb base : Nat} {m : Int} {av : Option Addr} {n cv : Nat} {xs : List Fld} {x y : ByteArray} (h : DO w W c a len cap zs tb fb base m av n cv xs x y) (hw : w.heap.size + 1 < c) (hf : c < fb) (hne : tb ≠ fb) (x' y' : ByteArray) : DO w ((W.setCell ⟨fb, 0, none⟩ (.string x')).setCell ⟨fb, 1, none⟩ (.string y')) c a len cap zs tb fb base m av n cv xs x' y' := by
  obtain ⟨h1, h2, h3, h4, h5, h6, h7, h8⟩ := h
  have ha := h8
  refine ⟨(h1.put hf _).put hf _, (h2.setCell (p := ⟨fb, 0, none⟩) (by dsimp only; omega) _).setCell (p := ⟨fb, 1, none⟩) (by dsimp only; omega) _, ?_, ?_, ?_, two_set1 (two_set0 h6 _) _, (h7.grown (gset _ fb 0 _) (.inr ha)).grown (gset _ fb 1 _) (.inr ha), h8⟩
  · exact (set_block_other _ _ _ _ _ (by omega)).trans ((set_block_other _ _ _ _ _ (by omega)).trans h3)
  · exact (set_block_other _ _ _ _ _ (by omega)).trans ((set_block_other _ _ _ _ _ (by omega)).trans h4)
  · exact (set_block_other _ _ _ _ _ (by omega)).trans ((set_block_other _ _ _ _ _ (by omega)).trans h5)

/-- The end: the table and the field are put into the answer's variables. -/
theorem DO.end {w W : World} {c : Nat} {a : Option Addr} {len cap : Nat} {zs : List Int} {tb fb base : Nat} {m : Int} {av : Option Addr} {n cv : Nat} {xs : List Fld} {x y : ByteArray} (h : DO w W c a len cap zs tb fb base m av n cv xs x y) (hw : w.heap.size + 1 < base) :
    Box2 ((((W.setCell ⟨w.heap.size, 0, none⟩ (.int .i64 m)).setCell ⟨w.heap.size, 1, none⟩ (.slice av n cv)).setCell ⟨w.heap.size + 1, 0, none⟩ (.string x)).setCell ⟨w.heap.size + 1, 1, none⟩ (.string y)) w.heap.size 26 (.int .i64 m) (.slice av n cv) ∧
    Box2 ((((W.setCell ⟨w.heap.size, 0, none⟩ (.int .i64 m)).setCell ⟨w.heap.size, 1, none⟩ (.slice av n cv)).setCell ⟨w.heap.size + 1, 0, none⟩ (.string x)).setCell ⟨w.heap.size + 1, 1, none⟩ (.string y)) (w.heap.size + 1) 36 (.string x) (.string y) ∧
    Flds ((((W.setCell ⟨w.heap.size, 0, none⟩ (.int .i64 m)).setCell ⟨w.heap.size, 1, none⟩ (.slice av n cv)).setCell ⟨w.heap.size + 1, 0, none⟩ (.string x)).setCell ⟨w.heap.size + 1, 1, none⟩ (.string y)) av n xs ∧
    Below w.heap.size w ((((W.setCell ⟨w.heap.size, 0, none⟩ (.int .i64 m)).setCell ⟨w.heap.size, 1, none⟩ (.slice av n cv)).setCell ⟨w.heap.size + 1, 0, none⟩ (.string x)).setCell ⟨w.heap.size + 1, 1, none⟩ (.string y)) := by
  obtain ⟨h1, h2, h3, h4, h5, h6, h7, h8⟩ := h
  have hq := own_cur h7.1 (c := w.heap.size) (by omega)
  have hp := own_cur h7.1 (c := w.heap.size + 1) hw
  refine ⟨?_, ?_, ?_, ?_⟩
  · exact (set_block_other _ _ _ _ _ (by omega)).trans ((set_block_other _ _ _ _ _ (by omega)).trans (two_set1 (two_set0 h3 _) _))
  · refine two_set1 (two_set0 (x := .string ⟨#[]⟩) (y := .string ⟨#[]⟩) ?_ _) _
    exact (set_block_other _ _ _ _ _ (by omega)).trans ((set_block_other _ _ _ _ _ (by omega)).trans h4)
  · exact ((((h7.grown (gset _ w.heap.size 0 (.int .i64 m)) (.inr hq)).grown (gset _ w.heap.size 1 (.slice av n cv)) (.inr hq)).grown (gset _ (w.heap.size + 1) 0 (.string x)) (.inr hp)).grown (gset _ (w.heap.size + 1) 1 (.string y)) (.inr hp)).flds
  · exact (((h2.setCell (p := ⟨w.heap.size, 0, none⟩) (Nat.le_refl _) _).setCell (p := ⟨w.heap.size, 1, none⟩) (Nat.le_refl _) _).setCell (p := ⟨w.heap.size + 1, 0, none⟩) (Nat.le_succ _) _).setCell (p := ⟨w.heap.size + 1, 1, none⟩) (Nat.le_succ _) _

set_option maxRecDepth 10000 in
set_option maxHeartbeats 3200000 in
theorem drawOne_any (a : Option Addr) (len cap : Nat) (zs : List Int) (w : World) (hs : Seg w a len zs) (hl : len ≤ 1099511627776) :
    Calls Try.prog 14 #[.slice a len cap] w fun e w' => ∃ (m : Int) (av : Option Addr) (n cv : Nat) (xs : List Fld) (x y : ByteArray) (mode : Int), e = .returned (.tuple #[.agg #[.int .i64 m, .slice av n cv], .agg #[.string x, .string y], .int .i64 mode]) ∧ (n ≤ 7 ∧ fldBytes xs ≤ 560 ∧ x.size ≤ 1000 ∧ y.size ≤ 1000) ∧ Flds w' av n xs ∧ Below w.heap.size w w' := by
  obtain ⟨w1, hw1⟩ : ∃ w1, (w.alloc (.cells #[.int .i64 0, .slice none 0 0] 26)).alloc (.cells #[.string ⟨#[]⟩, .string ⟨#[]⟩] 36) = w1 := ⟨_, rfl⟩
  have HQ1 : Hid (Box2 w1 w.heap.size 26 (.int .i64 0) (.slice none 0 0)) := by show Box2 _ _ _ _ _; rw [← hw1]; exact (Box2.new _ _ _ _).alloc _
  have HP1 : Hid (Box2 w1 (w.heap.size + 1) 36 (.string ⟨#[]⟩) (.string ⟨#[]⟩)) := by show Box2 _ _ _ _ _; rw [← hw1, ← World.size_alloc w (.cells #[.int .i64 0, .slice none 0 0] 26)]; exact (Box2.new _ _ _ _)
  have HB1 : Hid (Below w.heap.size w w1) := by show Below _ _ _; rw [← hw1]; exact ((Below.refl _ _).alloc (Nat.le_refl _) _).alloc (by simp) _
  have HS1 : Hid (w1.heap.size = w.heap.size + 2) := by show _ = _; rw [← hw1]; simp
  have HS : Hid (Seg w1 a len zs) := hs.below HB1.out
  clear hs
  go_enter Try.func14, Try.ntmps14
  go_wp2_with fail
  refine (l1New_any a len cap zs _ HS.out hl).mono ?_
  rintro e w2 ⟨rfl, hc2, hb2⟩
  have HQ2 : Hid (Box2 w2 w.heap.size 26 (.int .i64 0) (.slice none 0 0)) := HQ1.out.stays hb2
  have HP2 : Hid (Box2 w2 (w.heap.size + 1) 36 (.string ⟨#[]⟩) (.string ⟨#[]⟩)) := HP1.out.stays hb2
  have HB2 : Hid (Below w.heap.size w w2) := HB1.out.trans (hb2.mono HB1.out.size)
  have HC2 : Hid (Cur w2 w1.heap.size w1.heap.size a len cap zs) := hc2
  have hcl := hc2.lt
  clear hc2 hb2 HQ1 HP1 HB1 HS hw1
  generalize w1.heap.size = c at *
  have hwc : w.heap.size + 1 < c := by have := HS1.out; omega
  clear HS1
  go_wp2_with fail
  refine (l4Any_any c c a len cap zs _ HC2.out hl).mono ?_
  rintro e w3 ⟨m, v, n, xs, rfl, ⟨hn, hfb⟩, ho3, hc3, hg3⟩
  obtain ⟨av, cv, rfl⟩ := ho3.shape
  have HO3 : Hid (OwnF w3 w2.heap.size (.slice av n cv) n xs) := ho3
  have HC3 : Hid (Cur w3 c c a len cap zs) := hc3
  have HQ3 : Hid (Box2 w3 w.heap.size 26 (.int .i64 0) (.slice none 0 0)) := HQ2.out.grown hg3 (by intro e; injection e with e; omega)
  have HP3 : Hid (Box2 w3 (w.heap.size + 1) 36 (.string ⟨#[]⟩) (.string ⟨#[]⟩)) := HP2.out.grown hg3 (by intro e; injection e with e; omega)
  have HB3 : Hid (Below w.heap.size w w3) := HB2.out.grown hg3 HB2.out.size (fun k e => by injection e with e; omega)
  have hcl3 := hc3.lt
  obtain ⟨w4, hw4⟩ : ∃ w4, w3.alloc (.cells #[.int .i64 m, .slice av n cv] 26) = w4 := ⟨_, rfl⟩
  have HT4 : Hid (Box2 w4 w3.heap.size 26 (.int .i64 m) (.slice av n cv)) := by show Box2 _ _ _ _ _; rw [← hw4]; exact Box2.new _ _ _ _
  have HC4 : Hid (Cur w4 c c a len cap zs) := by rw [← hw4]; exact HC3.out.new _
  have HQ4 : Hid (Box2 w4 w.heap.size 26 (.int .i64 0) (.slice none 0 0)) := by show Box2 _ _ _ _ _; rw [← hw4]; exact HQ3.out.alloc _
  have HP4 : Hid (Box2 w4 (w.heap.size + 1) 36 (.string ⟨#[]⟩) (.string ⟨#[]⟩)) := by show Box2 _ _ _ _ _; rw [← hw4]; exact HP3.out.alloc _
  have HO4 : Hid (OwnF w4 w2.heap.size (.slice av n cv) n xs) := by rw [← hw4]; exact HO3.out.stays ((Below.refl _ _).alloc (Nat.le_refl _) _)
  have HB4 : Hid (Below w.heap.size w w4) := by show Below _ _ _; rw [← hw4]; exact HB3.out.alloc HB3.out.size _
  clear ho3 hc3 hg3 HQ2 HP2 HB2 HC2 HQ3 HP3 HC3 HO3 HB3
  go_wp2_with fail
  clear hw4
  generalize w3.heap.size = tb at *
  refine (l4Field_any c c a len cap zs w4 HC4.out hl).mono ?_
  rintro e w5 ⟨x, y, rfl, hx, hy, hc5, hg5⟩
  have HD6 : Hid (DO w (w5.alloc (.cells #[.string x, .string y] 36)) c a len cap zs tb w5.heap.size w2.heap.size m av n cv xs x y) := by
    have hb5 : Below w.heap.size w w5 := HB4.out.grown hg5 HB4.out.size (fun k hk => by injection hk with hk; omega)
    refine ⟨hc5.new _, hb5.alloc hb5.size _, (HQ4.out.grown hg5 (fun e => by injection e with e; omega)).alloc _, (HP4.out.grown hg5 (fun e => by injection e with e; omega)).alloc _, (HT4.out.grown hg5 (fun e => by injection e with e; omega)).alloc _, Box2.new _ _ _ _, ?_, ?_⟩
    · exact (HO4.out.grown hg5 (.inr (own_cur HO4.out.1 hcl))).stays ((Below.refl _ _).alloc (Nat.le_refl _) _)
    · intro e
      have h1 := (HO4.out.lt _ e).2
      have h2 := hg5.size
      omega
  have htf : tb < w5.heap.size := Nat.lt_of_lt_of_le HT4.out.lt hg5.size
  clear hc5 hg5 HC4 HQ4 HP4 HT4 HO4 HB4
  go_upto_region 4 with fail
  obtain ⟨w6, hw6⟩ : ∃ w6, w5.alloc (.cells #[.string x, .string y] 36) = w6 := ⟨_, rfl⟩
  rw [hw6] at HD6 ⊢
  clear hw6
  generalize w5.heap.size = fb at *
  have hbase : c < w2.heap.size := hcl
  have hct : c < tb := by omega
  have hcf : c < fb := by omega
  have hxb : x.size ≤ 1000 := by omega
  have hyb : y.size ≤ 1000 := by omega
  go_cut [21] from 8 (fun v21 W => (∃ b : Bool, v21 = .bool b ∧ (b = true → 0 < n)) ∧ Hid (DO w W c a len cap zs tb fb w2.heap.size m av n cv xs x y))
  case first =>
    obtain ⟨b0, b1, _, _⟩ := HD6.out.2.2.2.2.1.cells
    rcases Nat.eq_zero_or_pos n with rfl | hp
    · go_wp2_with fail
      go_meet
      exact ⟨⟨false, rfl, by simp⟩, HD6⟩
    · have hpi : (0 : Int) < (n : Int) := by omega
      go_wp2_with fail
      refine (l1Once_any c c a len cap zs 3 w6 HD6.out.1 hl (by omega) (by omega)).mono ?_
      rintro e w7 ⟨b, rfl, hc7, hg7⟩
      have HD7 : Hid (DO w w7 c a len cap zs tb fb w2.heap.size m av n cv xs x y) := HD6.out.call hc7 hg7 hwc hct hcf hbase
      clear hc7 hg7
      go_wp2_with fail
      go_meet
      exact ⟨⟨b, rfl, fun _ => hp⟩, HD7⟩
  case rest =>
  obtain ⟨⟨b, rfl, hbn⟩, HDc⟩ := hcut
  clear HD6
  obtain ⟨w7, hw7⟩ : ∃ w7, wc = w7 := ⟨_, rfl⟩
  rw [hw7] at HDc ⊢
  clear hw7
  have htf2 : ¬ tb = fb := by omega
  have htf3 : ¬ fb = tb := by omega
  go_upto_if 21 with fail
  go_cut [] from 8 (fun W => ∃ x y : ByteArray, x.size ≤ 1000 ∧ y.size ≤ 1000 ∧ Hid (DO w W c a len cap zs tb fb w2.heap.size m av n cv xs x y))
  case first =>
    cases b with
    | false =>
      go_wp2_with fail
      go_meet
      exact ⟨x, y, hxb, hyb, HDc⟩
    | true =>
      have hp := hbn rfl
      obtain ⟨b0, b1, b2, b3⟩ := HDc.out.2.2.2.2.1.cells
      obtain ⟨g, off, x0, y0, rfl, hglt, _, _, _⟩ := HDc.out.2.2.2.2.2.2.1.flds.at hp
      have hpi : (0 : Int) < (n : Int) := by omega
      go_wp2_with fail
      go_region_with (first
        | (go_at_call 44; refine (l1Below_any c c a len cap zs _ _ HDc.out.drew.1 hl (by omega) (by omega)).mono ?_; rintro e y1 ⟨k', rfl, hk0, hk1, hc1, hg1⟩
           obtain ⟨k, rfl⟩ := Int.eq_ofNat_of_zero_le hk0
           have hkn : k < n := Int.ofNat_lt.1 hk1
           have hd1 := HDc.out.drew.call hc1 hg1 hwc hct hcf hbase
           obtain ⟨g', off', x1, z1, hgo, _, hxy, hx1, hy1⟩ := hd1.2.2.2.2.2.2.1.flds.at hkn
           obtain ⟨rfl, rfl⟩ : g = g' ∧ off = off' := ⟨by injection hgo with h; injection h with h1 h2, by injection hgo with h; injection h with h1 h2⟩
           have hk0i : (0 : Int) ≤ (k : Int) := hk0
           have hkni : (k : Int) < (n : Int) := hk1
           obtain ⟨d0, d1, d2, d3⟩ := hd1.2.2.2.2.1.cells
           obtain ⟨e0, e1, e2, e3⟩ := hd1.2.2.2.2.2.1.cells)
        | fail)
      all_goals
        have hsz : x1.size + z1.size ≤ 560 := by
          have h1 := fldBytes_step xs k x1 z1 hxy
          have h2 := fldBytes_take xs (k + 1)
          omega
        have HD8 : Hid (DO w ((y1.setCell ⟨fb, 0, none⟩ (.string x1)).setCell ⟨fb, 1, none⟩ (.string z1)) c a len cap zs tb fb w2.heap.size m (some ⟨g, off, none⟩) n cv xs x1 z1) := hd1.field hwc hcf htf2 x1 z1
        clear hd1 hc1 hg1 hxy hx1 hy1 d0 d1 d2 d3 e0 e1 e2 e3 b0 b1 b2 b3 hgo
        go_wp2_with fail
        go_meet
        exact ⟨x1, z1, by omega, by omega, HD8⟩
  case rest =>
  obtain ⟨x', y', hxb', hyb', HDe⟩ := hcut
  clear HDc hbn
  obtain ⟨w8, hw8⟩ : ∃ w8, wc = w8 := ⟨_, rfl⟩
  rw [hw8] at HDe ⊢
  clear hw8
  obtain ⟨b0, b1, b2, b3⟩ := HDe.out.2.2.2.2.1.cells
  obtain ⟨g0, g1, g2, g3⟩ := HDe.out.2.2.2.2.2.1.cells
  have hlt8 : c < w8.heap.size := HDe.out.1.lt
  have htl : tb < w8.heap.size := HDe.out.2.2.2.2.1.lt
  have hfl : fb < w8.heap.size := HDe.out.2.2.2.2.2.1.lt
  have k1 : ¬ tb = w8.heap.size := by omega
  have k2 : ¬ w8.heap.size = tb := by omega
  have k3 : ¬ fb = w8.heap.size := by omega
  have k4 : ¬ w8.heap.size = fb := by omega
  have k5 : ¬ tb = w.heap.size := by omega
  have k6 : ¬ w.heap.size = tb := by omega
  have k7 : ¬ tb = w.heap.size + 1 := by omega
  have k8 : ¬ w.heap.size + 1 = tb := by omega
  have k9 : ¬ fb = w.heap.size := by omega
  have k10 : ¬ w.heap.size = fb := by omega
  have k11 : ¬ fb = w.heap.size + 1 := by omega
  have k12 : ¬ w.heap.size + 1 = fb := by omega
  go_wp2_with fail
  go_region_held3 (fun W => W.cell? ⟨tb, 0, none⟩ = some (.int .i64 m) ∧ W.cell? ⟨tb, 1, none⟩ = some (.slice av n cv) ∧ W.cell? ⟨fb, 0, none⟩ = some (.string x') ∧ W.cell? ⟨fb, 1, none⟩ = some (.string y')) (first | (refine ⟨?_, ?_, ?_, ?_⟩ <;> assumption) | go_keep) (first
    | (go_at_call 45; refine (l1Int_any c c a len cap zs w8.heap.size 6 6 [1, 2, 3, 1, 0, 4] _ (HDe.out.new _).drew.1 hl (heap_alloc_new w8 _) (by omega) rfl (by omega) (by omega)).mono ?_; rintro e y1 ⟨mode, rfl, hmode, hc1, hg1⟩
       have hd1 := ((HDe.out.new (.cells #[.int .i64 1, .int .i64 2, .int .i64 3, .int .i64 1, .int .i64 0, .int .i64 4] 3)).drew).call hc1 hg1 hwc hct hcf hbase
       obtain ⟨d0, d1, d2, d3⟩ := hd1.2.2.2.2.1.cells
       obtain ⟨e0, e1, e2, e3⟩ := hd1.2.2.2.2.2.1.cells
       obtain ⟨p0, p1, p2, p3⟩ := hd1.2.2.1.cells
       obtain ⟨q0, q1, q2, q3⟩ := hd1.2.2.2.1.cells)
    | fail)
  all_goals
    have HZ : Hid _ := hd1.end (by omega)
    obtain ⟨r0, r1, _, _⟩ := HZ.out.1.cells
    obtain ⟨s0, s1, _, _⟩ := HZ.out.2.1.cells
    go_wp2_with fail
    refine bodyPost_ret (v := .tuple #[.agg #[.int .i64 m, .slice av n cv], .agg #[.string x', .string y'], .int .i64 mode]) (by simp [results, Try.f14, go_sem, r0, r1, s0, s1]) rfl ?_
    exact ⟨m, av, n, cv, xs, x', y', mode, rfl, ⟨hn, hfb, hxb', hyb'⟩, HZ.out.2.2.1, HZ.out.2.2.2⟩

end Go.Proofs.Ytghakpcagacdaac

namespace Go.Proofs.Ytghakpcagacdaac
open Go.RowKit
set_option linter.unusedVariables false

set_option maxHeartbeats 800000 in
theorem sameFields_still (a b : Option Addr) (len ca cb : Nat) (xs : List Fld) (w : World) (hx : Flds w a len xs) (hy : Flds w b len xs) (hl : len ≤ 2097152) :
    Calls Try.prog 12 #[.slice a len ca, .slice b len cb] w fun e w' => e = .returned (.bool true) ∧ ∃ n, w' = w.drewN n := by
  have HX : Hid (Flds w a len xs) := hx
  have HY : Hid (Flds w b len xs) := hy
  clear hx hy
  have hne : ((len : Int) != (len : Int)) = false := by simp
  go_enter Try.func12, Try.ntmps12
  go_wp2
  go_loopw [5] (fun i wr => ∃ k : Nat, k ≤ len ∧ i = .int .i64 k ∧ Hid (∃ n, wr = w.drewN n)) (fun i _ => len - (intOf i).toNat)
  case atStart => exact ⟨0, Nat.zero_le _, rfl, ⟨0, rfl⟩⟩
  case round =>
    obtain ⟨k, hk, rfl, HW⟩ := hrel
    by_cases hlt : k < len
    · obtain ⟨ba, oa, x, y, rfl, hba, hfa, ha0, ha1⟩ := HX.out.at hlt
      obtain ⟨bb, ob, x', y', rfl, hbb, hfb, hb0, hb1⟩ := HY.out.at hlt
      obtain ⟨rfl, rfl⟩ : x = x' ∧ y = y' := by rw [hfa] at hfb; simpa using hfb
      have ga0 : wr.cell? ⟨ba, oa + k * 2, none⟩ = some (.string x) := by obtain ⟨n, rfl⟩ := HW.out; exact ha0
      have ga1 : wr.cell? ⟨ba, oa + k * 2 + 1, none⟩ = some (.string y) := by obtain ⟨n, rfl⟩ := HW.out; exact ha1
      have gb0 : wr.cell? ⟨bb, ob + k * 2, none⟩ = some (.string x) := by obtain ⟨n, rfl⟩ := HW.out; exact hb0
      have gb1 : wr.cell? ⟨bb, ob + k * 2 + 1, none⟩ = some (.string y) := by obtain ⟨n, rfl⟩ := HW.out; exact hb1
      clear hfa hfb ha0 ha1 hb0 hb1
      have hki : (k : Int) < (len : Int) := by omega
      have hk0 : (0 : Int) ≤ (k : Int) := by omega
      go_wp2_with fail
      go_quiet (fail)
      go_wp2
      go_roundw
      case rel =>
        refine ⟨k + 1, by omega, by go_num, ?_⟩
        obtain ⟨n, rfl⟩ := HW.out
        exact ⟨_, World.drewN_drewN _ _ _⟩
      case measure => simp [intOf]; omega
    · go_wp2
      go_ret
      exact ⟨rfl, HW.out⟩

end Go.Proofs.Ytghakpcagacdaac

namespace Go.Proofs.Ytghakpcagacdaac
open Go.RowKit
set_option linter.unusedVariables false

set_option maxHeartbeats 400000 in
theorem tin_yes (x lo hi : Int) (w : World) (h1 : lo ≤ x) (h2 : x ≤ hi) : Calls Try.prog 50 #[.int .i64 x, .int .i64 lo, .int .i64 hi] w fun e w' => e = .returned (.bool true) ∧ w' = w := by
  go_enter Try.func50, Try.ntmps50
  go_wp2
  go_ret
  exact ⟨rfl, rfl⟩

set_option maxHeartbeats 400000 in
theorem tin_no (x lo hi : Int) (w : World) (h : x < lo ∨ hi < x) : Calls Try.prog 50 #[.int .i64 x, .int .i64 lo, .int .i64 hi] w fun e w' => e = .returned (.bool false) ∧ w' = w := by
  by_cases h1 : x < lo
  · clear h
    go_enter Try.func50, Try.ntmps50
    go_wp2
    go_ret
    exact ⟨rfl, rfl⟩
  · have h2 : hi < x := by omega
    clear h
    go_enter Try.func50, Try.ntmps50
    go_wp2
    go_ret
    exact ⟨ret_bool (by simp; omega), rfl⟩

end Go.Proofs.Ytghakpcagacdaac
