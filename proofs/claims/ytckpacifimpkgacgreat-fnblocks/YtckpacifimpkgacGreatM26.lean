/- Fields and tables that are drawn. For codes of at most 2^40 bytes. Tables that are drawn. For codes of at most 2^40 bytes. The draw of a table that is right and of fields. For codes of at most 2^40 bytes. Tables that are drawn, some of them not right. For codes of at most 2^40 bytes. A draw of one of so many. -/
import Derived.Test.YtckpacifimpkgacGreatM25
import Derived.Test.YtckpacifimpkgacGreatM08
import Derived.Deep.RegionWith
import Derived.Test.YtckpacifimpkgacGreatM23
import Derived.Test.YtckpacifimpkgacGreatM17
import Derived.Test.YtckpacifimpkgacGreatM06
import Derived.Test.YtckpacifimpkgacGreatM09
import Derived.Shelf.Abstract
namespace Go.Proofs.YtckpacifimpkgacGreat
open Go.RowKit
set_option linter.unusedVariables false

def nameStrs : List ByteArray := [⟨#[58, 109, 101, 116, 104, 111, 100]⟩, ⟨#[58, 112, 97, 116, 104]⟩, ⟨#[58, 115, 116, 97, 116, 117, 115]⟩, ⟨#[97, 103, 101]⟩, ⟨#[120, 45, 97]⟩, ⟨#[97, 117, 116, 104, 111, 114, 105, 122, 97, 116, 105, 111, 110]⟩, ⟨#[117, 112, 108, 111, 97, 100, 45, 111, 102, 102, 115, 101, 116]⟩, ⟨#[99, 111, 111, 107, 105, 101]⟩]
def valStrs : List ByteArray := [⟨#[71, 69, 84]⟩, ⟨#[47]⟩, ⟨#[50, 48, 48]⟩, ⟨#[]⟩, ⟨#[55]⟩, ⟨#[97, 32, 108, 111, 110, 103, 32, 118, 97, 108, 117, 101, 32, 111, 102, 32, 115, 111, 109, 101, 32, 98, 121, 116, 101, 115]⟩, ⟨#[80, 65, 84, 67, 72]⟩]

theorem nameStrs_size (v : ByteArray) (h : v ∈ nameStrs) : v.size ≤ 40 := by
  simp only [nameStrs, List.mem_cons, List.not_mem_nil, or_false] at h
  rcases h with rfl | rfl | rfl | rfl | rfl | rfl | rfl | rfl <;> decide
theorem valStrs_size (v : ByteArray) (h : v ∈ valStrs) : v.size ≤ 40 := by
  simp only [valStrs, List.mem_cons, List.not_mem_nil, or_false] at h
  rcases h with rfl | rfl | rfl | rfl | rfl | rfl | rfl <;> decide


set_option maxRecDepth 10000 in
set_option maxHeartbeats 800000 in
theorem l4Field_any (B c : Nat) (a : Option Addr) (len cap : Nat) (zs : List Int) (w : World) (hcur : Cur w B c a len cap zs) (hl : len ≤ 1099511627776) :
    Calls Tryz.prog 32 #[.pointer (some ⟨c, 0, none⟩)] w fun e w' => ∃ x y : ByteArray, e = .returned (.agg #[.string x, .string y]) ∧ x.size ≤ 40 ∧ y.size ≤ 40 ∧ Cur w' B c a len cap zs ∧ w.grownBy w' (some c) := by
  have hcl := hcur.lt
  obtain ⟨w1, hw1⟩ : ∃ w1, w.alloc (.cells #[.string ⟨#[]⟩, .string ⟨#[]⟩] 43) = w1 := ⟨_, rfl⟩
  have HQ1 : Hid (Box2 w1 w.heap.size 43 (.string ⟨#[]⟩) (.string ⟨#[]⟩)) := by show Box2 _ _ _ _ _; rw [← hw1]; exact Box2.new _ _ _ _
  have hs1 : w1.heap.size = w.heap.size + 1 := by rw [← hw1]; simp
  have HC1 : Hid (Cur w1 B c a len cap zs) := by rw [← hw1]; exact hcur.new _
  have HG1 : Hid (w.grownBy w1 (some c)) := by show World.grownBy _ _ _; rw [← hw1]; exact World.grownBy_alloc _ _ _
  clear hcur
  go_enter Tryz.func32, Tryz.ntmps32
  go_wp2_with fail
  refine (l1Str_any B c a len cap zs (w.heap.size + 1) 8 8 nameStrs _ (HC1.out.new _) hl (by rw [← hs1]; exact heap_alloc_new w1 _) (by omega) rfl (by omega) (by omega)).mono ?_
  rintro e w2 ⟨x, rfl, hx, hc2, hg2⟩
  have hx40 := nameStrs_size x hx
  have HC2 : Hid (Cur w2 B c a len cap zs) := hc2
  have HG2 : Hid (w.grownBy w2 (some c)) := gtrans (gnew HG1.out _) hg2
  have HQ2 : Hid (Box2 w2 w.heap.size 43 (.string ⟨#[]⟩) (.string ⟨#[]⟩)) := (HQ1.out.alloc _).grown hg2 (by intro e; injection e with e; omega)
  have hs2 : w.heap.size < w2.heap.size := HQ2.out.lt
  clear hx hc2 hg2 HC1 HG1 HQ1 hw1
  go_wp2_with fail
  refine (l1Str_any B c a len cap zs w2.heap.size 7 7 valStrs _ (HC2.out.new _) hl (heap_alloc_new w2 _) (by omega) rfl (by omega) (by omega)).mono ?_
  rintro e w3 ⟨y, rfl, hy, hc3, hg3⟩
  have hy40 := valStrs_size y hy
  have HC3 : Hid (Cur w3 B c a len cap zs) := hc3
  have HG3 : Hid (w.grownBy w3 (some c)) := gtrans (gnew HG2.out _) hg3
  have hq3 : Box2 w3 w.heap.size 43 (.string ⟨#[]⟩) (.string ⟨#[]⟩) := (HQ2.out.alloc _).grown hg3 (by intro e; injection e with e; omega)
  have HQ3 : Hid (Box2 ((w3.setCell ⟨w.heap.size, 0, none⟩ (.string x)).setCell ⟨w.heap.size, 1, none⟩ (.string y)) w.heap.size 43 (.string x) (.string y)) := two_set1 (two_set0 hq3 _) _
  obtain ⟨g0, g1, g2, g3⟩ := hq3.cells
  clear hy hc3 hg3 HC2 HG2 HQ2 hq3
  go_wp2_with fail
  obtain ⟨r0, r1, _, _⟩ := HQ3.out.cells
  refine bodyPost_ret (v := .agg #[.string x, .string y]) (by simp [results, Tryz.f32, go_sem, r0, r1]) rfl ?_
  exact ⟨x, y, rfl, hx40, hy40, (HC3.out.put hcl _).put hcl _, gput (gput HG3.out (Nat.le_refl _) _) (Nat.le_refl _) _⟩

end Go.Proofs.YtckpacifimpkgacGreat

namespace Go.Proofs.YtckpacifimpkgacGreat
open Go.RowKit
set_option linter.unusedVariables false

/-- A row made since is not the cursor's block. -/
theorem own_cur {w : World} {base n size c : Nat} {e : TypeId} {v : Value} {xs : List Value} (h : w.ownsRow base e size v n xs) (hc : c < base) : v.ownBlock ≠ some c := fun e => by have := (h.lt c e).1; omega

set_option maxRecDepth 10000 in
set_option maxHeartbeats 1600000 in
theorem l4Draw_ok (B c : Nat) (a : Option Addr) (len cap : Nat) (zs : List Int) (w : World) (hcur : Cur w B c a len cap zs) (hl : len ≤ 1099511627776) :
    Calls Tryz.prog 13 #[.pointer (some ⟨c, 0, none⟩)] w fun e w' => ∃ (m : Int) (v : Value) (n : Nat) (xs : List Fld), e = .returned (.agg #[.int .i64 m, v]) ∧ (0 ≤ m ∧ m ≤ 4096 ∧ n ≤ 5 ∧ fldBytes xs ≤ 400) ∧ (szL xs : Int) ≤ m ∧ OwnF w' w.heap.size v n xs ∧ Cur w' B c a len cap zs ∧ w.grownBy w' (some c) := by
  have hcl := hcur.lt
  obtain ⟨w1, hw1⟩ : ∃ w1, w.alloc (.cells #[.int .i64 0, .slice none 0 0] 26) = w1 := ⟨_, rfl⟩
  have HQ1 : Hid (Box2 w1 w.heap.size 26 (.int .i64 0) (.slice none 0 0)) := by show Box2 _ _ _ _ _; rw [← hw1]; exact Box2.new _ _ _ _
  have hs1 : w1.heap.size = w.heap.size + 1 := by rw [← hw1]; simp
  have HC1 : Hid (Cur w1 B c a len cap zs) := by rw [← hw1]; exact hcur.new _
  have HG1 : Hid (w.grownBy w1 (some c)) := by show World.grownBy _ _ _; rw [← hw1]; exact World.grownBy_alloc _ _ _
  clear hcur
  go_enter Tryz.func13, Tryz.ntmps13
  go_wp2_with fail
  refine (l1Int_any B c a len cap zs (w.heap.size + 1) 5 5 [200, 100, 4096, 0, 60] _ (HC1.out.new _) hl (by rw [← hs1]; exact heap_alloc_new w1 _) (by omega) rfl (by omega) (by omega)).mono ?_
  rintro e w2 ⟨m, rfl, hm, hc2, hg2⟩
  have hm0 : 0 ≤ m ∧ m ≤ 4096 := by
    simp only [List.mem_cons, List.not_mem_nil, or_false] at hm
    omega
  have HC2 : Hid (Cur w2 B c a len cap zs) := hc2
  have HG2 : Hid (w.grownBy w2 (some c)) := gtrans (gnew HG1.out _) hg2
  have HQ2 : Hid (Box2 w2 w.heap.size 26 (.int .i64 0) (.slice none 0 0)) := (HQ1.out.alloc _).grown hg2 (by intro e; injection e with e; omega)
  have hs2 : w.heap.size < w2.heap.size := HQ2.out.lt
  clear hm hc2 hg2 HC1 HG1 HQ1 hw1
  go_wp2_with fail
  obtain ⟨w3, hw3⟩ : ∃ w3, w2.alloc (.cells #[.int .i64 m, .slice none 0 0] 26) = w3 := ⟨_, rfl⟩
  have HT3 : Hid (Box2 w3 w2.heap.size 26 (.int .i64 m) (.slice none 0 0)) := by show Box2 _ _ _ _ _; rw [← hw3]; exact Box2.new _ _ _ _
  have HC3 : Hid (Cur w3 B c a len cap zs) := by rw [← hw3]; exact HC2.out.new _
  have HG3 : Hid (w.grownBy w3 (some c)) := by show World.grownBy _ _ _; rw [← hw3]; exact gnew HG2.out _
  have HQ3 : Hid (Box2 w3 w.heap.size 26 (.int .i64 0) (.slice none 0 0)) := by show Box2 _ _ _ _ _; rw [← hw3]; exact HQ2.out.alloc _
  clear HC2 HG2 HQ2
  rw [hw3]
  clear hw3
  generalize w2.heap.size = tb at *
  refine (l1Below_any B c a len cap zs 6 _ HC3.out hl (by omega) (by omega)).mono ?_
  rintro e w4 ⟨x, rfl, hx0, hx1, hc4, hg4⟩
  obtain ⟨n6, rfl⟩ := Int.eq_ofNat_of_zero_le hx0
  have hn6 : n6 ≤ 5 := by omega
  have HT4 : Hid (Box2 w4 tb 26 (.int .i64 m) (.slice none 0 0)) := HT3.out.grown hg4 (by intro e; injection e with e; omega)
  have HC4 : Hid (Cur w4 B c a len cap zs) := hc4
  have HG4 : Hid (w.grownBy w4 (some c)) := gtrans HG3.out hg4
  have HQ4 : Hid (Box2 w4 w.heap.size 26 (.int .i64 0) (.slice none 0 0)) := HQ3.out.grown hg4 (by intro e; injection e with e; omega)
  clear hc4 hg4 hx0 hx1 HT3 HC3 HG3 HQ3
  go_wp2_with fail
  go_loopw [4] (fun i wr => ∃ (j n cv : Nat) (av : Option Addr) (xs : List Fld), i = .int .i64 (j : Int) ∧ n + j ≤ 5 ∧ fldBytes xs + 80 * j ≤ 400 ∧ Hid (szL xs ≤ m.toNat) ∧ Hid (Box2 wr tb 26 (.int .i64 m) (.slice av n cv) ∧ OwnF wr w.heap.size (.slice av n cv) n xs ∧ Cur wr B c a len cap zs ∧ w.grownBy wr (some c) ∧ Box2 wr w.heap.size 26 (.int .i64 0) (.slice none 0 0))) (fun i _ => (intOf i).toNat)
  case atStart => exact ⟨n6, 0, 0, none, [], rfl, by omega, by simp [fldBytes]; omega, (by show _ ≤ _; simp [szL, fldBytes]), HT4.out, ⟨World.ownsRow_nil _ _ _ _, fun f hf => by cases hf⟩, HC4.out, HG4.out, HQ4.out⟩
  case round =>
    clear HT4 HC4 HG4 HQ4
    obtain ⟨j, n, cv, av, xs, rfl, hnj, hbj, HSz, HI⟩ := hrel
    obtain ⟨b0, b1, b2, b3⟩ := HI.out.1.cells
    by_cases h0 : j = 0
    · subst h0
      obtain ⟨q0, q1, q2, q3⟩ := HI.out.2.2.2.2.cells
      have HR : Hid (Box2 ((wr.setCell ⟨w.heap.size, 0, none⟩ (.int .i64 m)).setCell ⟨w.heap.size, 1, none⟩ (.slice av n cv)) w.heap.size 26 (.int .i64 m) (.slice av n cv)) := two_set1 (two_set0 HI.out.2.2.2.2 _) _
      have HOr : Hid (OwnF ((wr.setCell ⟨w.heap.size, 0, none⟩ (.int .i64 m)).setCell ⟨w.heap.size, 1, none⟩ (.slice av n cv)) w.heap.size (.slice av n cv) n xs) := by
        have ho := HI.out.2.1
        have hne := own_other' ho.1 HI.out.2.2.2.2 (by decide)
        exact (ho.grown (gset _ w.heap.size 0 _) (.inr hne)).grown (gset _ w.heap.size 1 _) (.inr hne)
      go_wp2_with fail
      obtain ⟨r0, r1, _, _⟩ := HR.out.cells
      refine bodyPost_ret (v := .agg #[.int .i64 m, .slice av n cv]) (by simp [results, Tryz.f13, go_sem, r0, r1]) rfl ?_
      exact ⟨m, _, n, xs, rfl, ⟨hm0.1, hm0.2, by omega, by omega⟩, (by have := HSz.out; have := hm0.1; omega), HOr.out, (HI.out.2.2.1.put hcl _).put hcl _, gput (gput HI.out.2.2.2.1 (Nat.le_refl _) _) (Nat.le_refl _) _⟩
    · obtain ⟨j', rfl⟩ : ∃ j', j = j' + 1 := ⟨j - 1, by omega⟩
      have htl : tb < wr.heap.size := HI.out.1.lt
      have HCd : Hid (Cur wr.drew B c a len cap zs) := HI.out.2.2.1
      have hji : ((j' + 1 : Nat) : Int) = (j' : Int) + 1 := by omega
      have hjp : (0 : Int) < (j' : Int) + 1 := by omega
      rw [hji]
      have HTb : Hid (w.heap.size < tb) := hs2
      go_wp2_with fail
      go_region_with (first
        | (go_at_call 32; refine (l4Field_any B c a len cap zs _ HCd.out hl).mono ?_; rintro e y1 ⟨x, y, rfl, hx, hy, hc1, hg1⟩; obtain ⟨d0, d1, d2, d3⟩ := (Box2.grown (W := wr.drew) HI.out.1 hg1 (by intro e; injection e with e; omega)).cells)
        | (go_at_call 31; refine (specAdd4_any m av n cv xs x y _ (OwnF.grown (W := wr.drew) HI.out.2.1 hg1 (.inr (own_cur HI.out.2.1.1 hcl))).flds hm0.1 hm0.2 ⟨by unfold maxLen; omega, by unfold maxLen; omega⟩ (by omega)).mono ?_; rintro e y2 ⟨v2, k, rfl, hfit, how, hb2⟩; obtain ⟨a2, c2, rfl⟩ := how.shape; have hbx := (Box2.grown (W := wr.drew) HI.out.1 hg1 (by intro e; injection e with e; omega)).stays hb2; obtain ⟨e0, e1, e2, e3⟩ := hbx.cells))
      all_goals
        have hg1s := hg1.size
        have HSz2 : Hid (szL (((x, y) :: xs).take k) ≤ m.toNat) := hfit.2.1
        have hk : k ≤ n + 1 := by have := hfit.1; have := HI.out.2.1.len; simp only [List.length_cons] at *; omega
        have hfb : fldBytes (((x, y) :: xs).take k) ≤ x.size + y.size + fldBytes xs := by
          have h1 := fldBytes_take ((x, y) :: xs) k
          have h2 : fldBytes ((x, y) :: xs) = x.size + y.size + fldBytes xs := by simp [fldBytes]
          omega
        have hgw : w.grownBy y2 (some c) := gtrans (gtrans HI.out.2.2.2.1 (gtrans (gdrew wr 1 (some c)) hg1)) (gbelow hb2 (some c))
        have HNew : Hid (Box2 ((y2.setCell ⟨tb, 0, none⟩ (.int .i64 m)).setCell ⟨tb, 1, none⟩ (.slice a2 k c2)) tb 26 (.int .i64 m) (.slice a2 k c2) ∧ OwnF ((y2.setCell ⟨tb, 0, none⟩ (.int .i64 m)).setCell ⟨tb, 1, none⟩ (.slice a2 k c2)) w.heap.size (.slice a2 k c2) k (((x, y) :: xs).take k) ∧ Cur ((y2.setCell ⟨tb, 0, none⟩ (.int .i64 m)).setCell ⟨tb, 1, none⟩ (.slice a2 k c2)) B c a len cap zs ∧ w.grownBy ((y2.setCell ⟨tb, 0, none⟩ (.int .i64 m)).setCell ⟨tb, 1, none⟩ (.slice a2 k c2)) (some c) ∧ Box2 ((y2.setCell ⟨tb, 0, none⟩ (.int .i64 m)).setCell ⟨tb, 1, none⟩ (.slice a2 k c2)) w.heap.size 26 (.int .i64 0) (.slice none 0 0)) := by
          have ht := HTb.out
          have hsz : wr.heap.size ≤ y1.heap.size := hg1s
          refine ⟨two_set1 (two_set0 hbx _) _, ⟨own_down (ownsRow_setCell_below (ownsRow_setCell_below how.1 (a := ⟨tb, 0, none⟩) (by show tb < _; omega) _) (a := ⟨tb, 1, none⟩) (by show tb < _; omega) _) (by have := HI.out.2.2.2.1.size; omega), how.2⟩, ((hc1.kept (gbelow hb2 none) (by simp)).put (by omega) _).put (by omega) _, gput (gput hgw (by omega) _) (by omega) _, ?_⟩
          have hq := (Box2.grown (W := wr.drew) HI.out.2.2.2.2 hg1 (by intro e; injection e with e; omega)).stays hb2
          exact (set_block_other _ _ _ _ _ (by omega)).trans ((set_block_other _ _ _ _ _ (by omega)).trans hq)
        clear hc1 hg1 how hb2 hbx hfit hgw b0 b1 b2 b3 d0 d1 d2 d3
        go_wp2_with fail
        go_roundw
        case rel => exact ⟨j', k, c2, a2, _, by go_num, by omega, by omega, HSz2, HNew⟩
        case measure => simp [intOf]

theorem l4Draw_any (B c : Nat) (a : Option Addr) (len cap : Nat) (zs : List Int) (w : World) (hcur : Cur w B c a len cap zs) (hl : len ≤ 1099511627776) :
    Calls Tryz.prog 13 #[.pointer (some ⟨c, 0, none⟩)] w fun e w' => ∃ (m : Int) (v : Value) (n : Nat) (xs : List Fld), e = .returned (.agg #[.int .i64 m, v]) ∧ (0 ≤ m ∧ m ≤ 4096 ∧ n ≤ 5 ∧ fldBytes xs ≤ 400) ∧ OwnF w' w.heap.size v n xs ∧ Cur w' B c a len cap zs ∧ w.grownBy w' (some c) :=
  (l4Draw_ok B c a len cap zs w hcur hl).mono fun e w' ⟨m, v, n, xs, h1, h2, _, h3⟩ => ⟨m, v, n, xs, h1, h2, h3⟩

end Go.Proofs.YtckpacifimpkgacGreat

namespace Go.Proofs.YtckpacifimpkgacGreat
open Go.RowKit
set_option linter.unusedVariables false

theorem fieldNew (w : World) (x y : ByteArray) (t : TypeId) : ∀ j u, [Value.string x, Value.string y][j]? = some u → (w.alloc (.cells #[.string x, .string y] t)).cell? ((⟨w.heap.size, 0, none⟩ : Addr).add j) = some u := by
  intro j u hj
  match j, hj with
  | 0, hj => simp at hj; subst hj; simp [Addr.add]
  | 1, hj => simp at hj; subst hj; simp [Addr.add]

theorem fieldTwo (x y : ByteArray) : ∀ u ∈ [Value.string x, Value.string y], u.oneCell' = true := by
  intro u hu
  simp at hu
  rcases hu with rfl | rfl <;> rfl

/-- What a draw of fields keeps. -/
def DF (w W : World) (B c : Nat) (a : Option Addr) (len cap : Nat) (zs : List Int) (g n cp : Nat) (l : List Fld) : Prop :=
  Cur W B c a len cap zs ∧ w.grownBy W (some c) ∧ OwnF W w.heap.size (.slice (some ⟨g, 0, none⟩) n cp) n l ∧ ∀ f ∈ l, f.1.size ≤ 40 ∧ f.2.size ≤ 40

theorem DF.new {w W : World} {B c : Nat} {a : Option Addr} {len cap : Nat} {zs : List Int} {g n cp : Nat} {l : List Fld} (h : DF w W B c a len cap zs g n cp l) (o : Obj) : DF w (W.alloc o) B c a len cap zs g n cp l :=
  ⟨h.1.new o, gnew h.2.1 o, h.2.2.1.stays ((Below.refl _ _).alloc (Nat.le_refl _) _), h.2.2.2⟩

theorem DF.call {w W W' : World} {B c : Nat} {a : Option Addr} {len cap : Nat} {zs : List Int} {g n cp : Nat} {l : List Fld} (h : DF w W B c a len cap zs g n cp l) (hc : Cur W' B c a len cap zs) (hg : W.grownBy W' (some c)) (hcw : c < w.heap.size) : DF w W' B c a len cap zs g n cp l :=
  ⟨hc, gtrans h.2.1 hg, h.2.2.1.grown hg (.inr (own_cur h.2.2.1.1 hcw)), h.2.2.2⟩

theorem DF.app {w W W' : World} {B c : Nat} {a : Option Addr} {len cap : Nat} {zs : List Int} {g n cp : Nat} {l : List Fld} (h : DF w W B c a len cap zs g n cp l) (hcw : c < w.heap.size) {v : Value} {x y : ByteArray} (hx : x.size ≤ 40) (hy : y.size ≤ 40)
    (ho : W'.ownsRow w.heap.size 43 2 v (n + 1) (fieldCells l ++ [.string x, .string y])) (hg : W.grownBy W' (some g)) : ∃ g' cp', v = .slice (some ⟨g', 0, none⟩) (n + 1) cp' ∧ DF w W' B c a len cap zs g' (n + 1) cp' (l ++ [(x, y)]) := by
  have hgl := h.2.2.1.lt g rfl
  rcases ho.2 with ⟨_, h0⟩ | ⟨g', cap', cur, he, hb, r⟩
  · omega
  · refine ⟨g', cap', he, h.1.kept hg (fun k hk => ?_), gown h.2.1 hg (fun k hk => ?_), ⟨?_, ?_⟩, ?_⟩
    · injection hk with hk
      have := h.1.1
      omega
    · injection hk with hk
      omega
    · rw [fieldCells_append, ← he]
      exact ho
    · intro s hs
      rcases List.mem_append.1 hs with hs | hs
      · exact h.2.2.1.2 s hs
      · obtain rfl : s = (x, y) := by simpa using hs
        unfold maxLen
        dsimp only
        omega
    · intro s hs
      rcases List.mem_append.1 hs with hs | hs
      · exact h.2.2.2 s hs
      · obtain rfl : s = (x, y) := by simpa using hs
        exact ⟨hx, hy⟩

set_option maxRecDepth 10000 in
set_option maxHeartbeats 1600000 in
theorem l5Fields_any (B c : Nat) (a : Option Addr) (len cap : Nat) (zs : List Int) (w : World) (hcur : Cur w B c a len cap zs) (hl : len ≤ 1099511627776) :
    Calls Tryz.prog 14 #[.pointer (some ⟨c, 0, none⟩)] w fun e w' => ∃ (g n cp : Nat) (l : List Fld), e = .returned (.slice (some ⟨g, 0, none⟩) n cp) ∧ n ≤ 5 ∧ DF w w' B c a len cap zs g n cp l := by
  obtain ⟨i0, hi, hz0, hz1, hz2⟩ := info_parts info_field
  have hcl : c < w.heap.size := hcur.lt
  have HD0 : Hid (DF w (w.alloc (.cells #[] 43)) B c a len cap zs w.heap.size 0 0 []) := ⟨hcur.new _, World.grownBy_alloc w _ _, ⟨World.ownsRow_lit w #[] 0 (Nat.le_refl _) (Nat.zero_le _) rfl, by simp⟩, by simp⟩
  clear hcur
  go_enter Tryz.func14, Tryz.ntmps14
  go_wp2_with fail
  refine (l1Below_any B c a len cap zs 6 _ HD0.out.1 hl (by omega) (by omega)).mono ?_
  rintro e w1 ⟨m, rfl, hm0, hm1, hc1, hg1⟩
  have HD1 : Hid (DF w w1 B c a len cap zs w.heap.size 0 0 []) := HD0.out.call hc1 hg1 hcl
  obtain ⟨M, rfl⟩ := Int.eq_ofNat_of_zero_le hm0
  clear hc1 hg1 HD0
  go_wp2_with fail
  go_loopw [3, 4] (fun v i wr => ∃ (j g n cp : Nat) (l : List Fld), i = .int .i64 (j : Int) ∧ v = .slice (some ⟨g, 0, none⟩) n cp ∧ n + j ≤ 5 ∧ Hid (DF w wr B c a len cap zs g n cp l)) (fun _ i _ => (intOf i).toNat)
  case atStart => exact ⟨M, w.heap.size, 0, 0, [], rfl, rfl, by omega, HD1⟩
  case round =>
    clear HD1
    obtain ⟨j, g, n, cp, l, rfl, rfl, hnj, HD⟩ := hrel
    by_cases hj : j = 0
    · subst hj
      go_wp2_with fail
      go_ret
      exact ⟨g, n, cp, l, rfl, by omega, HD.out⟩
    · have hji : (0 : Int) < (j : Int) := by omega
      go_wp2_with fail
      refine (l4Field_any B c a len cap zs wr HD.out.1 hl).mono ?_
      rintro e w4 ⟨x, y, rfl, hx, hy, hc4, hg4⟩
      have HX : Hid (x.size ≤ 40) := hx
      have HY : Hid (y.size ≤ 40) := hy
      have HD4 : Hid (DF w w4 B c a len cap zs g n cp l) := HD.out.call hc4 hg4 hcl
      have hsz := HD4.out.2.1.size
      clear hx hy hc4 hg4 HD
      have HN2 : Hid (∀ j u, [Value.string x, Value.string y][j]? = some u → (w4.alloc (.cells #[.string x, .string y] 43)).cell? ((⟨w4.heap.size, 0, none⟩ : Addr).add j) = some u) := fieldNew w4 x y _
      go_wp2_with (at_builtin; refine wpList_append_own _ rfl _ _ 24 rfl w.heap.size 43 i0 (.agg #[.string ⟨#[]⟩, .string ⟨#[]⟩]) 2 32 Tryz.underlying24 hi hz0 hz1 hz2 rfl (by decide) (.slice (some ⟨g, 0, none⟩) n cp) n _ rfl (HD4.out.new _).2.2.1.1 ⟨w4.heap.size, 0, none⟩ 1 1 [.string x, .string y] rfl rfl HN2.out (fieldTwo x y) (by unfold maxLen; omega) (by omega) (by simp; omega) ?_; intro v5 w5 hown5 hgrow5 _; refine Hid.out ?_)
      refine hidden ?_
      obtain ⟨g5, cp5, rfl, hd5⟩ := (HD4.out.new _).app hcl HX.out HY.out hown5 hgrow5
      have HD5 : Hid (DF w w5 B c a len cap zs g5 (n + 1) cp5 (l ++ [(x, y)])) := hd5
      clear hown5 hgrow5 hd5 HN2 HD4
      go_wp2_with fail
      go_roundw
      case rel => exact ⟨j - 1, g5, n + 1, cp5, l ++ [(x, y)], by go_num, rfl, by omega, HD5⟩
      case measure => simp [intOf]; omega

theorem fld_sum {l : List Fld} (h : ∀ f ∈ l, f.1.size ≤ 40 ∧ f.2.size ≤ 40) : fldBytes l ≤ 80 * l.length := by
  induction l with
  | nil => simp [fldBytes]
  | cons f l ih =>
    have h1 := h f (List.mem_cons_self)
    have h2 := ih (fun g hg => h g (List.mem_cons_of_mem _ hg))
    have e : fldBytes (f :: l) = f.1.size + f.2.size + fldBytes l := by simp [fldBytes]
    rw [e, List.length_cons]
    omega

set_option maxRecDepth 10000 in
set_option maxHeartbeats 1600000 in
theorem drawHead_any (a : Option Addr) (len cap : Nat) (zs : List Int) (w : World) (hs : Seg w a len zs) (hl : len ≤ 1099511627776) :
    Calls Tryz.prog 5 #[.slice a len cap] w fun e w' => ∃ (m : Int) (va : Option Addr) (n vc : Nat) (xs : List Fld) (g k cp : Nat) (l : List Fld), e = .returned (.tuple #[.agg #[.int .i64 m, .slice va n vc], .slice (some ⟨g, 0, none⟩) k cp]) ∧ okT m xs = true ∧ k ≤ 5 ∧ (∀ f ∈ l, f.1.size ≤ 40 ∧ f.2.size ≤ 40) ∧ Flds w' va n xs ∧ Flds w' (some ⟨g, 0, none⟩) k l ∧ Below w.heap.size w w' := by
  obtain ⟨w1, hw1⟩ : ∃ w1, w.alloc (.cells #[.int .i64 0, .slice none 0 0] 26) = w1 := ⟨_, rfl⟩
  have HQ1 : Hid (Box2 w1 w.heap.size 26 (.int .i64 0) (.slice none 0 0)) := by show Box2 _ _ _ _ _; rw [← hw1]; exact Box2.new _ _ _ _
  have HB1 : Hid (Below w.heap.size w w1) := by show Below _ _ _; rw [← hw1]; exact (Below.refl _ _).alloc (Nat.le_refl _) _
  have HS1 : Hid (Seg w1 a len zs) := hs.below HB1.out
  have hww : w.heap.size < w1.heap.size := HQ1.out.lt
  clear hs
  go_enter Tryz.func5, Tryz.ntmps5
  go_wp2_with fail
  refine (l1New_any a len cap zs w1 HS1.out hl).mono ?_
  rintro e w2 ⟨rfl, hc2, hb2⟩
  have HQ2 : Hid (Box2 w2 w.heap.size 26 (.int .i64 0) (.slice none 0 0)) := HQ1.out.stays hb2
  have HB2 : Hid (Below w.heap.size w w2) := HB1.out.trans (hb2.mono HB1.out.size)
  have HC2 : Hid (Cur w2 w1.heap.size w1.heap.size a len cap zs) := hc2
  have hcl : w1.heap.size < w2.heap.size := hc2.lt
  clear hc2 hb2 HQ1 HB1 hw1
  generalize w1.heap.size = c at *
  go_wp2_with fail
  refine (l4Draw_ok c c a len cap zs w2 HC2.out hl).mono ?_
  rintro e w3 ⟨m, v, n, xs, rfl, ⟨hm0, hm1, hn5, hfb⟩, hsz, ho3, hc3, hg3⟩
  obtain ⟨va, vc, rfl⟩ := ho3.shape
  have HOk : Hid (okT m xs = true) := (okT_iff m xs).2 ⟨hm0, hm1, hsz⟩
  have HQ3 : Hid (Box2 w3 w.heap.size 26 (.int .i64 0) (.slice none 0 0)) := HQ2.out.grown hg3 (by intro e; injection e with e; omega)
  have HB3 : Hid (Below w.heap.size w w3) := HB2.out.grown hg3 HB2.out.size (fun k hk => by injection hk with hk; omega)
  have HC3 : Hid (Cur w3 c c a len cap zs) := hc3
  have HO3 : Hid (OwnF w3 w2.heap.size (.slice va n vc) n xs) := ho3
  have hcl3 : w2.heap.size ≤ w3.heap.size := hg3.size
  clear hm0 hm1 hn5 hfb hsz ho3 hc3 hg3 HQ2 HB2 HC2
  go_wp2_with fail
  refine (l5Fields_any c c a len cap zs w3 HC3.out hl).mono ?_
  rintro e w4 ⟨g, k, cp, l, rfl, hk5, hd4⟩
  have HD4 : Hid (DF w3 w4 c c a len cap zs g k cp l) := hd4
  have hg4 := hd4.2.1
  have hq4 : Box2 w4 w.heap.size 26 (.int .i64 0) (.slice none 0 0) := HQ3.out.grown hg4 (by intro e; injection e with e; omega)
  have HB4 : Hid (Below w.heap.size w w4) := HB3.out.grown hg4 HB3.out.size (fun k hk => by injection hk with hk; omega)
  have HO4 : Hid (OwnF w4 w2.heap.size (.slice va n vc) n xs) := HO3.out.grown hg4 (.inr (own_cur HO3.out.1 hcl))
  have HR : Hid (Box2 ((w4.setCell ⟨w.heap.size, 0, none⟩ (.int .i64 m)).setCell ⟨w.heap.size, 1, none⟩ (.slice va n vc)) w.heap.size 26 (.int .i64 m) (.slice va n vc)) := two_set1 (two_set0 hq4 _) _
  have HEnd : Hid (∀ (v' : Value) (n' b' : Nat) (ys : List Fld), OwnF w4 b' v' n' ys → w.heap.size < b' → OwnF ((w4.setCell ⟨w.heap.size, 0, none⟩ (.int .i64 m)).setCell ⟨w.heap.size, 1, none⟩ (.slice va n vc)) b' v' n' ys) := fun v' n' b' ys h hb => by
    have hne := own_cur h.1 (c := w.heap.size) hb
    exact (h.grown (gset _ w.heap.size 0 _) (.inr hne)).grown (gset _ w.heap.size 1 _) (.inr hne)
  obtain ⟨q0, q1, q2, q3⟩ := hq4.cells
  clear hd4 hg4 hq4 HQ3 HB3 HC3 HO3
  go_wp2_with fail
  obtain ⟨r0, r1, _, _⟩ := HR.out.cells
  refine bodyPost_ret (v := .tuple #[.agg #[.int .i64 m, .slice va n vc], .slice (some ⟨g, 0, none⟩) k cp]) (by simp [results, Tryz.f5, go_sem, r0, r1]) rfl ?_
  exact ⟨m, va, n, vc, xs, g, k, cp, l, rfl, HOk.out, hk5, HD4.out.2.2.2, (HEnd.out _ _ _ _ HO4.out (by omega)).flds, (HEnd.out _ _ _ _ HD4.out.2.2.1 (by omega)).flds, (HB4.out.setCell (p := ⟨w.heap.size, 0, none⟩) (Nat.le_refl _) _).setCell (p := ⟨w.heap.size, 1, none⟩) (Nat.le_refl _) _⟩

end Go.Proofs.YtckpacifimpkgacGreat

namespace Go.Proofs.YtckpacifimpkgacGreat
open Go.RowKit Go.Shelf
set_option linter.unusedVariables false

theorem four_new (w : World) (x y x' y' : ByteArray) (t : TypeId) : ∀ j u, (fieldCells [(x, y), (x', y')])[j]? = some u → (w.alloc (.cells #[.string x, .string y, .string x', .string y'] t)).cell? ((⟨w.heap.size, 0, none⟩ : Addr).add j) = some u := by
  intro j u hj
  have hadd : (⟨w.heap.size, 0, none⟩ : Addr).add j = ⟨w.heap.size, j, none⟩ := by unfold Addr.add; split <;> simp_all
  rw [hadd, cell_of_row _ _ _ _ _ _ (heap_alloc_new w (.cells #[.string x, .string y, .string x', .string y'] t))]
  simpa [fieldCells] using hj

set_option maxRecDepth 10000 in
set_option maxHeartbeats 3200000 in
theorem l4Any_any (B c : Nat) (a : Option Addr) (len cap : Nat) (zs : List Int) (w : World) (hcur : Cur w B c a len cap zs) (hl : len ≤ 1099511627776) :
    Calls Tryz.prog 19 #[.pointer (some ⟨c, 0, none⟩)] w fun e w' => ∃ (m : Int) (v : Value) (n : Nat) (xs : List Fld), e = .returned (.agg #[.int .i64 m, v]) ∧ (n ≤ 7 ∧ fldBytes xs ≤ 560) ∧ OwnF w' w.heap.size v n xs ∧ Cur w' B c a len cap zs ∧ w.grownBy w' (some c) := by
  have hcl := hcur.lt
  obtain ⟨w1, hw1⟩ : ∃ w1, w.alloc (.cells #[.int .i64 0, .slice none 0 0] 26) = w1 := ⟨_, rfl⟩
  have HQ1 : Hid (Box2 w1 w.heap.size 26 (.int .i64 0) (.slice none 0 0)) := by show Box2 _ _ _ _ _; rw [← hw1]; exact Box2.new _ _ _ _
  have hs1 : w1.heap.size = w.heap.size + 1 := by rw [← hw1]; simp
  have HC1 : Hid (Cur w1 B c a len cap zs) := by rw [← hw1]; exact hcur.new _
  have HG1 : Hid (w.grownBy w1 (some c)) := by show World.grownBy _ _ _; rw [← hw1]; exact World.grownBy_alloc _ _ _
  clear hcur
  go_enter Tryz.func19, Tryz.ntmps19
  go_wp2_with fail
  refine (l4Draw_any B c a len cap zs _ HC1.out hl).mono ?_
  rintro e w2 ⟨m, v, n, xs, rfl, ⟨hm0, hm1, hn, hfb⟩, ho2, hc2, hg2⟩
  obtain ⟨av, cv, rfl⟩ := ho2.shape
  have HC2 : Hid (Cur w2 B c a len cap zs) := hc2
  have HG2 : Hid (w.grownBy w2 (some c)) := gtrans HG1.out hg2
  have HQ2 : Hid (Box2 w2 w.heap.size 26 (.int .i64 0) (.slice none 0 0)) := HQ1.out.grown hg2 (by intro e; injection e with e; omega)
  have HO2 : Hid (OwnF w2 w.heap.size (.slice av n cv) n xs) := ⟨own_down ho2.1 (by omega), ho2.2⟩
  have hs2 : w.heap.size < w2.heap.size := HQ2.out.lt
  clear ho2 hc2 hg2 HC1 HG1 HQ1 hw1
  go_wp2_with fail
  obtain ⟨w3, hw3⟩ : ∃ w3, w2.alloc (.cells #[.int .i64 m, .slice av n cv] 26) = w3 := ⟨_, rfl⟩
  have HT3 : Hid (Box2 w3 w2.heap.size 26 (.int .i64 m) (.slice av n cv)) := by show Box2 _ _ _ _ _; rw [← hw3]; exact Box2.new _ _ _ _
  have HC3 : Hid (Cur w3 B c a len cap zs) := by rw [← hw3]; exact HC2.out.new _
  have HG3 : Hid (w.grownBy w3 (some c)) := by show World.grownBy _ _ _; rw [← hw3]; exact gnew HG2.out _
  have HQ3 : Hid (Box2 w3 w.heap.size 26 (.int .i64 0) (.slice none 0 0)) := by show Box2 _ _ _ _ _; rw [← hw3]; exact HQ2.out.alloc _
  have HO3 : Hid (OwnF w3 w.heap.size (.slice av n cv) n xs) := by rw [← hw3]; exact HO2.out.stays ((Below.refl _ _).alloc (Nat.le_refl _) _)
  rw [hw3]
  clear hw3 HC2 HG2 HQ2 HO2
  generalize w2.heap.size = tb at *
  refine (l1Below_any B c a len cap zs 10 _ HC3.out hl (by omega) (by omega)).mono ?_
  rintro e w4 ⟨x, rfl, hx0, hx1, hc4, hg4⟩
  have HT4 : Hid (Box2 w4 tb 26 (.int .i64 m) (.slice av n cv)) := HT3.out.grown hg4 (by intro e; injection e with e; omega)
  have HC4 : Hid (Cur w4 B c a len cap zs) := hc4
  have HG4 : Hid (w.grownBy w4 (some c)) := gtrans HG3.out hg4
  have HQ4 : Hid (Box2 w4 w.heap.size 26 (.int .i64 0) (.slice none 0 0)) := HQ3.out.grown hg4 (by intro e; injection e with e; omega)
  have HO4 : Hid (OwnF w4 w.heap.size (.slice av n cv) n xs) := HO3.out.grown hg4 (.inr (own_cur HO3.out.1 hcl))
  clear hc4 hg4 HT3 HC3 HG3 HQ3 HO3
  have htl : tb < w4.heap.size := HT4.out.lt
  by_cases hx00 : x = 0
  · subst hx00
    go_wp2_with fail
    refine (l1Int_any B c a len cap zs w4.heap.size 3 3 [-1, 4097, 10] _ (HC4.out.new _) hl (heap_alloc_new w4 _) (by omega) rfl (by omega) (by omega)).mono ?_
    rintro e w5 ⟨m5, rfl, hm5, hc5, hg5⟩
    have HT5 : Hid (Box2 w5 tb 26 (.int .i64 m) (.slice av n cv)) := (HT4.out.alloc _).grown hg5 (by intro e; injection e with e; omega)
    have HQ5 : Hid (Box2 w5 w.heap.size 26 (.int .i64 0) (.slice none 0 0)) := (HQ4.out.alloc _).grown hg5 (by intro e; injection e with e; omega)
    have HO5 : Hid (OwnF w5 w.heap.size (.slice av n cv) n xs) := (HO4.out.stays ((Below.refl _ _).alloc (Nat.le_refl _) _)).grown hg5 (.inr (own_cur HO4.out.1 hcl))
    have HC5 : Hid (Cur w5 B c a len cap zs) := hc5
    have HG5 : Hid (w.grownBy w5 (some c)) := gtrans (gnew HG4.out _) hg5
    clear hm5 hc5 hg5 HT4 HC4 HG4 HQ4 HO4
    obtain ⟨w6, hw6⟩ : ∃ w6, w5.setCell ⟨tb, 0, none⟩ (.int .i64 m5) = w6 := ⟨_, rfl⟩
    have HT6 : Hid (Box2 w6 tb 26 (.int .i64 m5) (.slice av n cv)) := by show Box2 _ _ _ _ _; rw [← hw6]; exact two_set0 HT5.out _
    have HQ6 : Hid (Box2 w6 w.heap.size 26 (.int .i64 0) (.slice none 0 0)) := by show Box2 _ _ _ _ _; rw [← hw6]; exact (set_block_other _ _ _ _ _ (by omega)).trans HQ5.out
    have HO6 : Hid (OwnF w6 w.heap.size (.slice av n cv) n xs) := by rw [← hw6]; exact HO5.out.grown (gset _ tb 0 _) (.inr (own_other' HO5.out.1 HT5.out (by decide)))
    have HC6 : Hid (Cur w6 B c a len cap zs) := by rw [← hw6]; exact HC5.out.put (by omega) _
    have HG6 : Hid (w.grownBy w6 (some c)) := by show World.grownBy _ _ _; rw [← hw6]; exact gput HG5.out (by omega) _
    obtain ⟨s0, s1, s2, s3⟩ := HT5.out.cells
    obtain ⟨p0, p1, p2, p3⟩ := (HT6.out).cells
    obtain ⟨q0, q1, q2, q3⟩ := (HQ6.out).cells
    have HR : Hid (Box2 ((w6.setCell ⟨w.heap.size, 0, none⟩ (.int .i64 m5)).setCell ⟨w.heap.size, 1, none⟩ (.slice av n cv)) w.heap.size 26 (.int .i64 m5) (.slice av n cv)) := two_set1 (two_set0 (HQ6.out) _) _
    have HOr : Hid (OwnF ((w6.setCell ⟨w.heap.size, 0, none⟩ (.int .i64 m5)).setCell ⟨w.heap.size, 1, none⟩ (.slice av n cv)) w.heap.size (.slice av n cv) n xs) := by
      have hne := own_other' (HO6.out).1 (HQ6.out) (by decide)
      exact (OwnF.grown (HO6.out) (gset _ w.heap.size 0 _) (.inr hne)).grown (gset _ w.heap.size 1 _) (.inr hne)
    go_wp2_with fail
    obtain ⟨r0, r1, _, _⟩ := HR.out.cells
    refine bodyPost_ret (v := .agg #[.int .i64 m5, .slice av n cv]) (by simp [results, Tryz.f19, go_sem, r0, r1]) rfl ?_
    exact ⟨m5, _, n, xs, rfl, ⟨by omega, by omega⟩, HOr.out, (Cur.put (HC6.out) hcl _).put hcl _, gput (gput (HG6.out) (Nat.le_refl _) _) (Nat.le_refl _) _⟩
  · have hx00' : (x == 0) = false := by simp [hx00]
    by_cases hx11 : x = 1
    · subst hx11
      obtain ⟨i0, hi, hz0, hz1, hz2⟩ := info_parts info_field
      have HEnt : Hid (∀ args w, (callFunc 32 args).run Tryz.prog w = .ok (.enter 32 args) w) := enters_of Tryz.func32 (by kernel_rfl) rfl
      obtain ⟨b0, b1, b2, b3⟩ := HT4.out.cells
      have HCd : Hid (Cur w4.drew B c a len cap zs) := HC4.out
      go_wp2_with fail
      go_region_law (first
        | (refine step_call_any rfl 32 (.tmp 18) 37 rfl HEnt.out (.pointer (some ⟨c, 0, none⟩)) rfl _ (l4Field_any B c a len cap zs _ HCd.out hl) ?_; rintro e y1 ⟨x1, z1, rfl, hx1, hz1', hc1, hg1⟩; refine ⟨_, rfl, ?_⟩; obtain ⟨d0, d1, _, _⟩ := (Box2.grown (W := w4.drew) HT4.out hg1 (by intro e; injection e with e; omega)).cells)
        | (refine step_call_any rfl 32 (.tmp 20) 37 rfl HEnt.out (.pointer (some ⟨c, 0, none⟩)) rfl _ (l4Field_any B c a len cap zs _ hc1 hl) ?_; rintro e y2 ⟨x2, z2, rfl, hx2, hz2', hc2, hg2⟩; refine ⟨_, rfl, ?_⟩; have hT2 : Box2 y2 tb 26 (.int .i64 m) (.slice av n cv) := (Box2.grown (W := w4.drew) HT4.out hg1 (by intro e; injection e with e; omega)).grown hg2 (by intro e; injection e with e; omega); obtain ⟨e0, e1, _, _⟩ := hT2.cells; obtain ⟨f0, f1, _, _⟩ := (hT2.alloc (.cells #[.string x1, .string z1, .string x2, .string z2] 43)).cells; have hO2 : OwnF y2 w.heap.size (.slice av n cv) n xs := (OwnF.grown (W := w4.drew) HO4.out hg1 (.inr (own_cur HO4.out.1 hcl))).grown hg2 (.inr (own_cur HO4.out.1 hcl)); have hw2 : w.heap.size ≤ y2.heap.size := Nat.le_trans HG4.out.size (Nat.le_trans hg1.size hg2.size))
        | (refine step_append_own rfl (.tmp 17) (.tmp 22) 24 rfl w.heap.size 43 i0 (.agg #[.string ⟨#[]⟩, .string ⟨#[]⟩]) 2 32 Tryz.underlying24 hi hz0 hz1 hz2 rfl (by decide) (.slice av n cv) n (fieldCells xs) rfl (hO2.1.alloc _) ⟨y2.heap.size, 0, none⟩ 2 2 (fieldCells [(x1, z1), (x2, z2)]) rfl rfl (four_new y2 x1 z1 x2 z2 _) (fieldCells_one _) (by unfold maxLen; omega) (by omega) (by rw [World.size_alloc]; omega) ?_; intro v5 w5 hown hgrow; obtain ⟨a5, c5, rfl⟩ := own_shape hown; have hne5 := own_other' hO2.1 hT2 (by decide); have hT5 : Box2 w5 tb 26 (.int .i64 m) (.slice av n cv) := (hT2.alloc _).grown hgrow hne5; obtain ⟨k0, k1, k2, k3⟩ := hT5.cells))
      all_goals
        have hQ5 : Box2 w5 w.heap.size 26 (.int .i64 0) (.slice none 0 0) := by
          have hQ2 : Box2 y2 w.heap.size 26 (.int .i64 0) (.slice none 0 0) := (Box2.grown (W := w4.drew) HQ4.out hg1 (by intro e; injection e with e; omega)).grown hg2 (by intro e; injection e with e; omega)
          exact (hQ2.alloc _).grown hgrow (own_other' hO2.1 hQ2 (by decide))
        have hG5 : w.grownBy w5 (some c) := gown (gnew (gtrans (gtrans HG4.out (gtrans (gdrew w4 1 (some c)) hg1)) hg2) _) hgrow (fun j hj => (hO2.1.lt j hj).1)
        have hC5 : Cur w5 B c a len cap zs := (hc2.new _).kept hgrow (fun j hj => by have h1 := (hO2.1.lt j hj).1; have h2 := hc2.1; omega)
        have hO5 : OwnF w5 w.heap.size (.slice a5 (n + 2) c5) (n + 2) (xs ++ [(x1, z1), (x2, z2)]) := by
          refine ⟨by rw [fieldCells_append]; exact hown, fun f hf => ?_⟩
          rcases List.mem_append.1 hf with h | h
          · exact HO4.out.2 f h
          · simp only [List.mem_cons, List.not_mem_nil, or_false] at h
            rcases h with rfl | rfl
            · exact ⟨by show _ ≤ 9223372036854775807; dsimp only; omega, by show _ ≤ 9223372036854775807; dsimp only; omega⟩
            · exact ⟨by show _ ≤ 9223372036854775807; dsimp only; omega, by show _ ≤ 9223372036854775807; dsimp only; omega⟩
        have hfb2 : fldBytes (xs ++ [(x1, z1), (x2, z2)]) ≤ 560 := by
          have : fldBytes (xs ++ [(x1, z1), (x2, z2)]) = fldBytes xs + ((x1.size + z1.size) + (x2.size + z2.size)) := by simp [fldBytes]
          omega
        obtain ⟨w6, hw6⟩ : ∃ w6, w5.setCell ⟨tb, 1, none⟩ (.slice a5 (n + 2) c5) = w6 := ⟨_, rfl⟩
        have HT6 : Hid (Box2 w6 tb 26 (.int .i64 m) (.slice a5 (n + 2) c5)) := by show Box2 _ _ _ _ _; rw [← hw6]; exact two_set1 hT5 _
        have HQ6 : Hid (Box2 w6 w.heap.size 26 (.int .i64 0) (.slice none 0 0)) := by show Box2 _ _ _ _ _; rw [← hw6]; exact (set_block_other _ _ _ _ _ (by omega)).trans hQ5
        have HO6 : Hid (OwnF w6 w.heap.size (.slice a5 (n + 2) c5) (n + 2) (xs ++ [(x1, z1), (x2, z2)])) := by rw [← hw6]; exact hO5.grown (gset _ tb 1 _) (.inr (own_other' hO5.1 hT5 (by decide)))
        have HC6 : Hid (Cur w6 B c a len cap zs) := by rw [← hw6]; exact hC5.put (by omega) _
        have HG6 : Hid (w.grownBy w6 (some c)) := by show World.grownBy _ _ _; rw [← hw6]; exact gput hG5 (by omega) _
        generalize xs ++ [(x1, z1), (x2, z2)] = ys at *
        clear hown hgrow hT5 hQ5 hG5 hC5 hO5 hT2 hO2 hc1 hg1 hc2 hg2 d0 d1 e0 e1 f0 f1 b0 b1 b2 b3
        obtain ⟨p0, p1, p2, p3⟩ := (HT6.out).cells
        obtain ⟨q0, q1, q2, q3⟩ := (HQ6.out).cells
        have HR : Hid (Box2 ((w6.setCell ⟨w.heap.size, 0, none⟩ (.int .i64 m)).setCell ⟨w.heap.size, 1, none⟩ (.slice a5 (n + 2) c5)) w.heap.size 26 (.int .i64 m) (.slice a5 (n + 2) c5)) := two_set1 (two_set0 (HQ6.out) _) _
        have HOr : Hid (OwnF ((w6.setCell ⟨w.heap.size, 0, none⟩ (.int .i64 m)).setCell ⟨w.heap.size, 1, none⟩ (.slice a5 (n + 2) c5)) w.heap.size (.slice a5 (n + 2) c5) (n + 2) ys) := by
          have hne := own_other' (HO6.out).1 (HQ6.out) (by decide)
          exact (OwnF.grown (HO6.out) (gset _ w.heap.size 0 _) (.inr hne)).grown (gset _ w.heap.size 1 _) (.inr hne)
        go_wp2_with fail
        obtain ⟨r0, r1, _, _⟩ := HR.out.cells
        refine bodyPost_ret (v := .agg #[.int .i64 m, .slice a5 (n + 2) c5]) (by simp [results, Tryz.f19, go_sem, r0, r1]) rfl ?_
        exact ⟨m, _, (n + 2), ys, rfl, ⟨by omega, by omega⟩, HOr.out, (Cur.put (HC6.out) hcl _).put hcl _, gput (gput (HG6.out) (Nat.le_refl _) _) (Nat.le_refl _) _⟩
    · have hx11' : (x == 1) = false := by simp [hx11]
      obtain ⟨p0, p1, p2, p3⟩ := (HT4.out).cells
      obtain ⟨q0, q1, q2, q3⟩ := (HQ4.out).cells
      have HR : Hid (Box2 ((w4.setCell ⟨w.heap.size, 0, none⟩ (.int .i64 m)).setCell ⟨w.heap.size, 1, none⟩ (.slice av n cv)) w.heap.size 26 (.int .i64 m) (.slice av n cv)) := two_set1 (two_set0 (HQ4.out) _) _
      have HOr : Hid (OwnF ((w4.setCell ⟨w.heap.size, 0, none⟩ (.int .i64 m)).setCell ⟨w.heap.size, 1, none⟩ (.slice av n cv)) w.heap.size (.slice av n cv) n xs) := by
        have hne := own_other' (HO4.out).1 (HQ4.out) (by decide)
        exact (OwnF.grown (HO4.out) (gset _ w.heap.size 0 _) (.inr hne)).grown (gset _ w.heap.size 1 _) (.inr hne)
      go_wp2_with fail
      obtain ⟨r0, r1, _, _⟩ := HR.out.cells
      refine bodyPost_ret (v := .agg #[.int .i64 m, .slice av n cv]) (by simp [results, Tryz.f19, go_sem, r0, r1]) rfl ?_
      exact ⟨m, _, n, xs, rfl, ⟨by omega, by omega⟩, HOr.out, (Cur.put (HC4.out) hcl _).put hcl _, gput (gput (HG4.out) (Nat.le_refl _) _) (Nat.le_refl _) _⟩

end Go.Proofs.YtckpacifimpkgacGreat

namespace Go.Proofs.YtckpacifimpkgacGreat
open Go.RowKit
set_option linter.unusedVariables false

set_option maxRecDepth 10000 in
set_option maxHeartbeats 400000 in
theorem l1Once_any (B c : Nat) (a : Option Addr) (len cap : Nat) (zs : List Int) (n : Int) (w : World) (hcur : Cur w B c a len cap zs) (hl : len ≤ 1099511627776) (hn1 : 1 ≤ n) (hn2 : n ≤ 1000000) :
    Calls Tryz.prog 21 #[.pointer (some ⟨c, 0, none⟩), .int .i64 n] w fun e w' => ∃ b : Bool, e = .returned (.bool b) ∧ Cur w' B c a len cap zs ∧ w.grownBy w' (some c) := by
  have HC : Hid _ := hcur
  clear hcur
  go_enter Tryz.func21, Tryz.ntmps21
  go_wp2_with fail
  refine (l1Below_any B c a len cap zs _ _ HC.out hl hn1 hn2).mono ?_
  rintro e w1 ⟨x, rfl, hx0, hx1, hc1, hg1⟩
  have HC1 : Hid _ := hc1
  have HG1 : Hid _ := hg1
  clear hc1 hg1
  go_wp2_with fail
  go_ret
  exact ⟨_, rfl, HC1.out, HG1.out⟩

end Go.Proofs.YtckpacifimpkgacGreat
