/- Tables that are drawn. For codes of at most 2^40 bytes. -/
import Derived.Test.YtljhplddgcmmoabDrawTab
import Derived.Test.YtljhplddgcmmoabTabAdd
namespace Go.Proofs.Ytljhplddgcmmoab
open Go.RowKit
set_option linter.unusedVariables false

/-- A row made since is not the cursor's block. -/
theorem own_cur {w : World} {base n size c : Nat} {e : TypeId} {v : Value} {xs : List Value} (h : w.ownsRow base e size v n xs) (hc : c < base) : v.ownBlock ≠ some c := fun e => by have := (h.lt c e).1; omega

set_option maxRecDepth 10000 in
set_option maxHeartbeats 1600000 in
theorem l4Draw_any (B c : Nat) (a : Option Addr) (len cap : Nat) (zs : List Int) (w : World) (hcur : Cur w B c a len cap zs) (hl : len ≤ 1099511627776) :
    Calls Try.prog 73 #[.pointer (some ⟨c, 0, none⟩)] w fun e w' => ∃ (m : Int) (v : Value) (n : Nat) (xs : List Fld), e = .returned (.agg #[.int .i64 m, v]) ∧ (0 ≤ m ∧ m ≤ 4096 ∧ n ≤ 5 ∧ fldBytes xs ≤ 400) ∧ OwnF w' w.heap.size v n xs ∧ Cur w' B c a len cap zs ∧ w.grownBy w' (some c) := by
  have hcl := hcur.lt
  obtain ⟨w1, hw1⟩ : ∃ w1, w.alloc (.cells #[.int .i64 0, .slice none 0 0] 34) = w1 := ⟨_, rfl⟩
  have HQ1 : Hid (Box2 w1 w.heap.size 34 (.int .i64 0) (.slice none 0 0)) := by show Box2 _ _ _ _ _; rw [← hw1]; exact Box2.new _ _ _ _
  have hs1 : w1.heap.size = w.heap.size + 1 := by rw [← hw1]; simp
  have HC1 : Hid (Cur w1 B c a len cap zs) := by rw [← hw1]; exact hcur.new _
  have HG1 : Hid (w.grownBy w1 (some c)) := by show World.grownBy _ _ _; rw [← hw1]; exact World.grownBy_alloc _ _ _
  clear hcur
  go_enter Try.func73, Try.ntmps73
  go_wp2_with fail
  refine (l1Int_any B c a len cap zs (w.heap.size + 1) 5 5 [200, 100, 4096, 0, 60] _ (HC1.out.new _) hl (by rw [← hs1]; exact heap_alloc_new w1 _) (by omega) rfl (by omega) (by omega)).mono ?_
  rintro e w2 ⟨m, rfl, hm, hc2, hg2⟩
  have hm0 : 0 ≤ m ∧ m ≤ 4096 := by
    simp only [List.mem_cons, List.not_mem_nil, or_false] at hm
    omega
  have HC2 : Hid (Cur w2 B c a len cap zs) := hc2
  have HG2 : Hid (w.grownBy w2 (some c)) := gtrans (gnew HG1.out _) hg2
  have HQ2 : Hid (Box2 w2 w.heap.size 34 (.int .i64 0) (.slice none 0 0)) := (HQ1.out.alloc _).grown hg2 (by intro e; injection e with e; omega)
  have hs2 : w.heap.size < w2.heap.size := HQ2.out.lt
  clear hm hc2 hg2 HC1 HG1 HQ1 hw1
  go_wp2_with fail
  obtain ⟨w3, hw3⟩ : ∃ w3, w2.alloc (.cells #[.int .i64 m, .slice none 0 0] 34) = w3 := ⟨_, rfl⟩
  have HT3 : Hid (Box2 w3 w2.heap.size 34 (.int .i64 m) (.slice none 0 0)) := by show Box2 _ _ _ _ _; rw [← hw3]; exact Box2.new _ _ _ _
  have HC3 : Hid (Cur w3 B c a len cap zs) := by rw [← hw3]; exact HC2.out.new _
  have HG3 : Hid (w.grownBy w3 (some c)) := by show World.grownBy _ _ _; rw [← hw3]; exact gnew HG2.out _
  have HQ3 : Hid (Box2 w3 w.heap.size 34 (.int .i64 0) (.slice none 0 0)) := by show Box2 _ _ _ _ _; rw [← hw3]; exact HQ2.out.alloc _
  clear HC2 HG2 HQ2
  rw [hw3]
  clear hw3
  generalize w2.heap.size = tb at *
  refine (l1Below_any B c a len cap zs 6 _ HC3.out hl (by omega) (by omega)).mono ?_
  rintro e w4 ⟨x, rfl, hx0, hx1, hc4, hg4⟩
  obtain ⟨n6, rfl⟩ := Int.eq_ofNat_of_zero_le hx0
  have hn6 : n6 ≤ 5 := by omega
  have HT4 : Hid (Box2 w4 tb 34 (.int .i64 m) (.slice none 0 0)) := HT3.out.grown hg4 (by intro e; injection e with e; omega)
  have HC4 : Hid (Cur w4 B c a len cap zs) := hc4
  have HG4 : Hid (w.grownBy w4 (some c)) := gtrans HG3.out hg4
  have HQ4 : Hid (Box2 w4 w.heap.size 34 (.int .i64 0) (.slice none 0 0)) := HQ3.out.grown hg4 (by intro e; injection e with e; omega)
  clear hc4 hg4 hx0 hx1 HT3 HC3 HG3 HQ3
  go_wp2_with fail
  go_loopw [4] (fun i wr => ∃ (j n cv : Nat) (av : Option Addr) (xs : List Fld), i = .int .i64 (j : Int) ∧ n + j ≤ 5 ∧ fldBytes xs + 80 * j ≤ 400 ∧ Hid (Box2 wr tb 34 (.int .i64 m) (.slice av n cv) ∧ OwnF wr w.heap.size (.slice av n cv) n xs ∧ Cur wr B c a len cap zs ∧ w.grownBy wr (some c) ∧ Box2 wr w.heap.size 34 (.int .i64 0) (.slice none 0 0))) (fun i _ => (intOf i).toNat)
  case atStart => exact ⟨n6, 0, 0, none, [], rfl, by omega, by simp [fldBytes]; omega, HT4.out, ⟨World.ownsRow_nil _ _ _ _, fun f hf => by cases hf⟩, HC4.out, HG4.out, HQ4.out⟩
  case round =>
    clear HT4 HC4 HG4 HQ4
    obtain ⟨j, n, cv, av, xs, rfl, hnj, hbj, HI⟩ := hrel
    obtain ⟨b0, b1, b2, b3⟩ := HI.out.1.cells
    by_cases h0 : j = 0
    · subst h0
      obtain ⟨q0, q1, q2, q3⟩ := HI.out.2.2.2.2.cells
      have HR : Hid (Box2 ((wr.setCell ⟨w.heap.size, 0, none⟩ (.int .i64 m)).setCell ⟨w.heap.size, 1, none⟩ (.slice av n cv)) w.heap.size 34 (.int .i64 m) (.slice av n cv)) := two_set1 (two_set0 HI.out.2.2.2.2 _) _
      have HOr : Hid (OwnF ((wr.setCell ⟨w.heap.size, 0, none⟩ (.int .i64 m)).setCell ⟨w.heap.size, 1, none⟩ (.slice av n cv)) w.heap.size (.slice av n cv) n xs) := by
        have ho := HI.out.2.1
        have hne := own_other' ho.1 HI.out.2.2.2.2 (by decide)
        exact (ho.grown (gset _ w.heap.size 0 _) (.inr hne)).grown (gset _ w.heap.size 1 _) (.inr hne)
      go_wp2_with fail
      obtain ⟨r0, r1, _, _⟩ := HR.out.cells
      refine bodyPost_ret (v := .agg #[.int .i64 m, .slice av n cv]) (by simp [results, Try.f73, go_sem, r0, r1]) rfl ?_
      exact ⟨m, _, n, xs, rfl, ⟨hm0.1, hm0.2, by omega, by omega⟩, HOr.out, (HI.out.2.2.1.put hcl _).put hcl _, gput (gput HI.out.2.2.2.1 (Nat.le_refl _) _) (Nat.le_refl _) _⟩
    · obtain ⟨j', rfl⟩ : ∃ j', j = j' + 1 := ⟨j - 1, by omega⟩
      have htl : tb < wr.heap.size := HI.out.1.lt
      have HCd : Hid (Cur wr.drew B c a len cap zs) := HI.out.2.2.1
      have hji : ((j' + 1 : Nat) : Int) = (j' : Int) + 1 := by omega
      have hjp : (0 : Int) < (j' : Int) + 1 := by omega
      rw [hji]
      have HTb : Hid (w.heap.size < tb) := hs2
      go_wp2_with fail
      go_region_with (first
        | (go_at_call 52; refine (l4Field_any B c a len cap zs _ HCd.out hl).mono ?_; rintro e y1 ⟨x, y, rfl, hx, hy, hc1, hg1⟩; obtain ⟨d0, d1, d2, d3⟩ := (Box2.grown (W := wr.drew) HI.out.1 hg1 (by intro e; injection e with e; omega)).cells)
        | (go_at_call 86; refine (specAdd4_any m av n cv xs x y _ (OwnF.grown (W := wr.drew) HI.out.2.1 hg1 (.inr (own_cur HI.out.2.1.1 hcl))).flds hm0.1 hm0.2 ⟨by unfold maxLen; omega, by unfold maxLen; omega⟩ (by omega)).mono ?_; rintro e y2 ⟨v2, k, rfl, hfit, how, hb2⟩; obtain ⟨a2, c2, rfl⟩ := how.shape; have hbx := (Box2.grown (W := wr.drew) HI.out.1 hg1 (by intro e; injection e with e; omega)).stays hb2; obtain ⟨e0, e1, e2, e3⟩ := hbx.cells))
      all_goals
        have hg1s := hg1.size
        have hk : k ≤ n + 1 := by have := hfit.1; have := HI.out.2.1.len; simp only [List.length_cons] at *; omega
        have hfb : fldBytes (((x, y) :: xs).take k) ≤ x.size + y.size + fldBytes xs := by
          have h1 := fldBytes_take ((x, y) :: xs) k
          have h2 : fldBytes ((x, y) :: xs) = x.size + y.size + fldBytes xs := by simp [fldBytes]
          omega
        have hgw : w.grownBy y2 (some c) := gtrans (gtrans HI.out.2.2.2.1 (gtrans (gdrew wr 1 (some c)) hg1)) (gbelow hb2 (some c))
        have HNew : Hid (Box2 ((y2.setCell ⟨tb, 0, none⟩ (.int .i64 m)).setCell ⟨tb, 1, none⟩ (.slice a2 k c2)) tb 34 (.int .i64 m) (.slice a2 k c2) ∧ OwnF ((y2.setCell ⟨tb, 0, none⟩ (.int .i64 m)).setCell ⟨tb, 1, none⟩ (.slice a2 k c2)) w.heap.size (.slice a2 k c2) k (((x, y) :: xs).take k) ∧ Cur ((y2.setCell ⟨tb, 0, none⟩ (.int .i64 m)).setCell ⟨tb, 1, none⟩ (.slice a2 k c2)) B c a len cap zs ∧ w.grownBy ((y2.setCell ⟨tb, 0, none⟩ (.int .i64 m)).setCell ⟨tb, 1, none⟩ (.slice a2 k c2)) (some c) ∧ Box2 ((y2.setCell ⟨tb, 0, none⟩ (.int .i64 m)).setCell ⟨tb, 1, none⟩ (.slice a2 k c2)) w.heap.size 34 (.int .i64 0) (.slice none 0 0)) := by
          have ht := HTb.out
          have hsz : wr.heap.size ≤ y1.heap.size := hg1s
          refine ⟨two_set1 (two_set0 hbx _) _, ⟨own_down (ownsRow_setCell_below (ownsRow_setCell_below how.1 (a := ⟨tb, 0, none⟩) (by show tb < _; omega) _) (a := ⟨tb, 1, none⟩) (by show tb < _; omega) _) (by have := HI.out.2.2.2.1.size; omega), how.2⟩, ((hc1.kept (gbelow hb2 none) (by simp)).put (by omega) _).put (by omega) _, gput (gput hgw (by omega) _) (by omega) _, ?_⟩
          have hq := (Box2.grown (W := wr.drew) HI.out.2.2.2.2 hg1 (by intro e; injection e with e; omega)).stays hb2
          exact (set_block_other _ _ _ _ _ (by omega)).trans ((set_block_other _ _ _ _ _ (by omega)).trans hq)
        clear hc1 hg1 how hb2 hbx hfit hgw b0 b1 b2 b3 d0 d1 d2 d3
        go_wp2_with fail
        go_roundw
        case rel => exact ⟨j', k, c2, a2, _, by go_num, by omega, by omega, HNew⟩
        case measure => simp [intOf]

end Go.Proofs.Ytljhplddgcmmoab
