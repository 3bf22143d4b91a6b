/- The draw of what is gathered, right or not. -/
import Derived.Test.YtckpacifimpkgadDoorDrawsAll
import Derived.Test.YtckpacifimpkgadDoorBox4Set
import Derived.Deep.Cut
import Derived.Deep.CutBlock
namespace Go.Proofs.YtckpacifimpkgadDoor
open Go.RowKit
set_option linter.unusedVariables false

/-- What the draw keeps: the cursor, the answer's variable, what is gathered in a variable. -/
def GA (w W : World) (B c : Nat) (a : Option Addr) (len cap : Nat) (zs : List Int) (rb gb : Nat) (s : Int) (en : Bool) (A : Option Addr) (n cp : Nat) (ys : List Int) : Prop :=
  Cur W B c a len cap zs ∧ w.grownBy W (some c) ∧ Box3 W rb 30 (.int .i64 0) (.bool false) (.slice none 0 0) ∧ Box3 W gb 30 (.int .i64 s) (.bool en) (.slice A n cp) ∧ Owns W w.heap.size A n cp ys

section
variable {w W W' : World} {B c : Nat} {a : Option Addr} {len cap : Nat} {zs : List Int} {rb gb : Nat} {s : Int} {en : Bool} {A : Option Addr} {n cp : Nat} {ys : List Int}

theorem GA.call (h : GA w W B c a len cap zs rb gb s en A n cp ys) (hc : Cur W' B c a len cap zs) (hg : W.grownBy W' (some c)) (hr : c < rb) (hf : c < gb) (hw : c < w.heap.size) : GA w W' B c a len cap zs rb gb s en A n cp ys :=
  ⟨hc, gtrans h.2.1 hg, h.2.2.1.grown hg (fun e => by injection e with e; omega), h.2.2.2.1.grown hg (fun e => by injection e with e; omega), h.2.2.2.2.grown hg (fun q e e2 => by injection e with e; have := (h.2.2.2.2.lt q e2).1; omega)⟩

theorem GA.new (h : GA w W B c a len cap zs rb gb s en A n cp ys) (o : Obj) : GA w (W.alloc o) B c a len cap zs rb gb s en A n cp ys :=
  ⟨h.1.new o, gnew h.2.1 o, h.2.2.1.alloc o, h.2.2.2.1.alloc o, h.2.2.2.2.below ((Below.refl _ _).alloc (Nat.le_refl _) _)⟩

theorem GA.set0 (h : GA w W B c a len cap zs rb gb s en A n cp ys) (hf : c < gb) (hw : w.heap.size ≤ gb) (hne : rb ≠ gb) (v : Int) : GA w (W.setCell ⟨gb, 0, none⟩ (.int .i64 v)) B c a len cap zs rb gb v en A n cp ys :=
  ⟨h.1.put hf _, gput h.2.1 hw _, box3_other h.2.2.1 hne, box3_set0 h.2.2.2.1 _, owns_set h.2.2.2.2 (h.2.2.2.2.other (show W.heap[gb]? = _ from h.2.2.2.1) (by decide))⟩

theorem GA.set2 (h : GA w W B c a len cap zs rb gb s en A n cp ys) (hf : c < gb) (hw : w.heap.size ≤ gb) (hne : rb ≠ gb) {A' : Option Addr} {n' cp' : Nat} {ys' : List Int} (ho : Owns W w.heap.size A' n' cp' ys') : GA w (W.setCell ⟨gb, 2, none⟩ (.slice A' n' cp')) B c a len cap zs rb gb s en A' n' cp' ys' :=
  ⟨h.1.put hf _, gput h.2.1 hw _, box3_other h.2.2.1 hne, box3_set2 h.2.2.2.1 _, owns_set ho (ho.other (show W.heap[gb]? = _ from h.2.2.2.1) (by decide))⟩
end

theorem gaEnd {w W : World} {B c : Nat} {a : Option Addr} {len cap : Nat} {zs : List Int} {rb : Nat} {x y z : Value} {A : Option Addr} {n cp : Nat} {ys : List Int} (hc : Cur W B c a len cap zs) (hg : w.grownBy W (some c)) (hb : Box3 W rb 30 x y z) (ho : Owns W w.heap.size A n cp ys) (hr : c < rb) (hw : w.heap.size ≤ rb) (u1 u2 u3 : Value) :
    Owns (((W.setCell ⟨rb, 0, none⟩ u1).setCell ⟨rb, 1, none⟩ u2).setCell ⟨rb, 2, none⟩ u3) w.heap.size A n cp ys ∧ Cur (((W.setCell ⟨rb, 0, none⟩ u1).setCell ⟨rb, 1, none⟩ u2).setCell ⟨rb, 2, none⟩ u3) B c a len cap zs ∧ w.grownBy (((W.setCell ⟨rb, 0, none⟩ u1).setCell ⟨rb, 1, none⟩ u2).setCell ⟨rb, 2, none⟩ u3) (some c) := by
  have hne := ho.other (show W.heap[rb]? = _ from hb) (by decide)
  exact ⟨owns_set (owns_set (owns_set ho hne) hne) hne, ((hc.put hr _).put hr _).put hr _, gput (gput (gput hg hw _) hw _) hw _⟩

set_option maxRecDepth 10000 in
set_option maxHeartbeats 3200000 in
theorem l8Draw_any (B c : Nat) (a : Option Addr) (len cap : Nat) (zs : List Int) (w : World) (hcur : Cur w B c a len cap zs) (hl : len ≤ 1099511627776) :
    Calls Tryd.prog 47 #[.pointer (some ⟨c, 0, none⟩)] w fun e w' => ∃ (s : Int) (en : Bool) (A : Option Addr) (n cp : Nat) (ys : List Int), e = .returned (.agg #[.int .i64 s, .bool en, .slice A n cp]) ∧ n ≤ 9 ∧ Owns w' w.heap.size A n cp ys ∧ Cur w' B c a len cap zs ∧ w.grownBy w' (some c) := by
  have hcl := hcur.lt
  obtain ⟨w1, hw1⟩ : ∃ w1, w.alloc (.cells #[.int .i64 0, .bool false, .slice none 0 0] 30) = w1 := ⟨_, rfl⟩
  have HQ1 : Hid (Box3 w1 w.heap.size 30 (.int .i64 0) (.bool false) (.slice none 0 0)) := by show Box3 _ _ _ _ _ _; rw [← hw1]; exact Box3.new _ _ _ _ _
  have HC1 : Hid (Cur w1 B c a len cap zs) := by rw [← hw1]; exact hcur.new _
  have HG1 : Hid (w.grownBy w1 (some c)) := by show World.grownBy _ _ _; rw [← hw1]; exact World.grownBy_alloc _ _ _
  clear hcur
  go_enter Tryd.func47, Tryd.ntmps47
  go_wp2_with fail
  try rw [hw1]
  refine (l1Once_any B c a len cap zs 2 _ HC1.out hl (by omega) (by omega)).mono ?_
  rintro e w2 ⟨b, rfl, hc2, hg2⟩
  have HQ2 : Hid (Box3 w2 w.heap.size 30 (.int .i64 0) (.bool false) (.slice none 0 0)) := HQ1.out.grown hg2 (fun e => by injection e with e; omega)
  have HC2 : Hid (Cur w2 B c a len cap zs) := hc2
  have HG2 : Hid (w.grownBy w2 (some c)) := gtrans HG1.out hg2
  have hs2 : w.heap.size < w2.heap.size := HQ2.out.lt
  clear hc2 hg2 HQ1 HC1 HG1 hw1
  cases b with
  | true =>
    have HE := hidden (gaEnd HC2.out HG2.out HQ2.out (show Owns w2 w.heap.size none 0 0 [] from ⟨World.ownsRow_nil _ _ _ _, by simp⟩) (by omega) (Nat.le_refl _) (.int .i64 0) (.bool false) (.slice none 0 0))
    obtain ⟨r0, r1, r2⟩ := HQ2.out.cells
    have q0 := HQ2.out.frozen 0
    have q1 := HQ2.out.frozen 1
    have q2 := HQ2.out.frozen 2
    go_wp2_with fail
    refine bodyPost_ret (v := .agg #[.int .i64 0, .bool false, .slice none 0 0]) (by simp [results, Tryd.f47, go_sem, r0, r1, r2]) rfl ?_
    exact ⟨_, _, _, _, _, _, rfl, by omega, HE.out.1, HE.out.2.1, HE.out.2.2⟩
  | false =>
    go_wp2_with fail
    refine (l1Int_any B c a len cap zs w2.heap.size 2 2 [1, 3] _ (HC2.out.new _) hl (heap_alloc_new w2 _) (by omega) rfl (by omega) (by omega)).mono ?_
    rintro e w3 ⟨v, rfl, hv, hc3, hg3⟩
    have HQ3 : Hid (Box3 w3 w.heap.size 30 (.int .i64 0) (.bool false) (.slice none 0 0)) := (HQ2.out.alloc _).grown hg3 (fun e => by injection e with e; omega)
    have HC3 : Hid (Cur w3 B c a len cap zs) := hc3
    have HG3 : Hid (w.grownBy w3 (some c)) := gtrans (gnew HG2.out _) hg3
    clear hv hc3 hg3 HQ2 HC2 HG2 hs2
    go_wp2_with fail
    refine (l1Once_any B c a len cap zs 2 _ HC3.out hl (by omega) (by omega)).mono ?_
    rintro e w4 ⟨eb, rfl, hc4, hg4⟩
    have HQ4 : Hid (Box3 w4 w.heap.size 30 (.int .i64 0) (.bool false) (.slice none 0 0)) := HQ3.out.grown hg4 (fun e => by injection e with e; omega)
    have HC4 : Hid (Cur w4 B c a len cap zs) := hc4
    have HG4 : Hid (w.grownBy w4 (some c)) := gtrans HG3.out hg4
    clear hc4 hg4 HQ3 HC3 HG3
    go_wp2_with fail
    refine (l1Some_b B c a len cap zs _ HC4.out hl).mono ?_
    rintro e w5 ⟨g, n, cp, ys, rfl, hn, hg, ho5, hc5, hg5⟩
    have hq5 : Box3 w5 w.heap.size 30 (.int .i64 0) (.bool false) (.slice none 0 0) := HQ4.out.grown hg5 (fun e => by injection e with e; omega)
    have HE := hidden (gaEnd hc5 (gtrans HG4.out hg5) hq5 (ho5.low HG4.out.size) (by omega) (Nat.le_refl _) (.int .i64 v) (.bool eb) (.slice (some ⟨g, 0, none⟩) n cp))
    obtain ⟨r0, r1, r2⟩ := hq5.cells
    have q0 := hq5.frozen 0
    have q1 := hq5.frozen 1
    have q2 := hq5.frozen 2
    clear hq5 ho5 hc5 hg5 hg HQ4 HC4 HG4
    go_wp2_with fail
    refine bodyPost_ret (v := .agg #[.int .i64 v, .bool eb, .slice (some ⟨g, 0, none⟩) n cp]) (by simp [results, Tryd.f47, go_sem, r0, r1, r2]) rfl ?_
    exact ⟨_, _, _, _, _, _, rfl, hn, HE.out.1, HE.out.2.1, HE.out.2.2⟩

set_option maxRecDepth 10000 in
set_option maxHeartbeats 3200000 in
theorem l8Any_any (B c : Nat) (a : Option Addr) (len cap : Nat) (zs : List Int) (w : World) (hcur : Cur w B c a len cap zs) (hl : len ≤ 1099511627776) :
    Calls Tryd.prog 29 #[.pointer (some ⟨c, 0, none⟩)] w fun e w' => ∃ (s : Int) (en : Bool) (A : Option Addr) (n cp : Nat) (ys : List Int), e = .returned (.agg #[.int .i64 s, .bool en, .slice A n cp]) ∧ n ≤ 3001 ∧ Owns w' w.heap.size A n cp ys ∧ Cur w' B c a len cap zs ∧ w.grownBy w' (some c) := by
  obtain ⟨i0, hi, hz0, hz1, hz2⟩ := info_parts Tryd.info5
  have hcl := hcur.lt
  obtain ⟨w1, hw1⟩ : ∃ w1, w.alloc (.cells #[.int .i64 0, .bool false, .slice none 0 0] 30) = w1 := ⟨_, rfl⟩
  have HQ1 : Hid (Box3 w1 w.heap.size 30 (.int .i64 0) (.bool false) (.slice none 0 0)) := by show Box3 _ _ _ _ _ _; rw [← hw1]; exact Box3.new _ _ _ _ _
  have HC1 : Hid (Cur w1 B c a len cap zs) := by rw [← hw1]; exact hcur.new _
  have HG1 : Hid (w.grownBy w1 (some c)) := by show World.grownBy _ _ _; rw [← hw1]; exact World.grownBy_alloc _ _ _
  clear hcur
  go_enter Tryd.func29, Tryd.ntmps29
  go_wp2_with fail
  try rw [hw1]
  refine (l8Draw_any B c a len cap zs _ HC1.out hl).mono ?_
  rintro e w2 ⟨s, en, A, n, cp, ys, rfl, hn, ho2, hc2, hg2⟩
  have hq2 : Box3 w2 w.heap.size 30 (.int .i64 0) (.bool false) (.slice none 0 0) := HQ1.out.grown hg2 (fun e => by injection e with e; omega)
  have hs2 : w.heap.size < w2.heap.size := hq2.lt
  have HF3 : Hid (GA w (w2.alloc (.cells #[.int .i64 s, .bool en, .slice A n cp] 30)) B c a len cap zs w.heap.size w2.heap.size s en A n cp ys) := ⟨hc2.new _, gnew (gtrans HG1.out hg2) _, hq2.alloc _, Box3.new _ _ _ _ _, (ho2.low HG1.out.size).below ((Below.refl _ _).alloc (Nat.le_refl _) _)⟩
  clear hc2 hg2 HC1 HG1 HQ1 hw1 ho2 hq2
  go_upto_region 2 with fail
  obtain ⟨w3, hw3⟩ : ∃ w3, w2.alloc (.cells #[.int .i64 s, .bool en, .slice A n cp] 30) = w3 := ⟨_, rfl⟩
  rw [hw3] at HF3 ⊢
  clear hw3
  generalize w2.heap.size = gb at *
  go_wp2_with fail
  refine (l1Below_any B c a len cap zs 14 _ HF3.out.1 hl (by omega) (by omega)).mono ?_
  rintro e w4 ⟨q, rfl, hq0, hq1, hc4, hg4⟩
  have HF4 : Hid (GA w w4 B c a len cap zs w.heap.size gb s en A n cp ys) := HF3.out.call hc4 hg4 (by omega) (by omega) (by omega)
  have hs4 : gb < w4.heap.size := HF4.out.2.2.2.1.lt
  clear hc4 hg4 HF3
  obtain ⟨c0, c1, c2⟩ := HF4.out.2.2.2.1.cells
  go_upto_block 0 with fail
  go_cut [] from 8 (fun W => ∃ (s' : Int) (en' : Bool) (A' : Option Addr) (n' cp' : Nat) (ys' : List Int), n' ≤ 3001 ∧ Hid (GA w W B c a len cap zs w.heap.size gb s' en' A' n' cp' ys'))
  case first =>
    by_cases q0 : q = 0
    · subst q0
      go_wp2_with fail
      refine (l1Int_any B c a len cap zs w4.heap.size 3 3 [-1, 0, 2147483648] _ (HF4.out.new _).1 hl (heap_alloc_new w4 _) (by have := HF4.out.1.lt; omega) rfl (by omega) (by omega)).mono ?_
      rintro e w5 ⟨v, rfl, hv, hc5, hg5⟩
      have hF5 := (HF4.out.new (.cells #[.int .i64 (-1), .int .i64 0, .int .i64 2147483648] 3)).call hc5 hg5 (by omega) (by omega) (by omega)
      have HF5 := hidden (hF5.set0 (by omega) (by omega) (by omega) v)
      clear c0 c1 c2
      obtain ⟨c0, c1, c2⟩ := hF5.2.2.2.1.cells
      have f0 := hF5.2.2.2.1.frozen 0
      clear hv hc5 hg5 hF5
      go_wp2_with fail
      go_meet
      exact ⟨v, en, A, n, cp, ys, by omega, HF5⟩
    have b0 : (q == 0) = false := by simpa using q0
    by_cases q1 : q = 1
    · subst q1
      go_wp2_with fail
      refine (l1Below_any B c a len cap zs 2 _ HF4.out.1 hl (by omega) (by omega)).mono ?_
      rintro e w5 ⟨v, rfl, hv0, hv1, hc5, hg5⟩
      obtain ⟨V, rfl⟩ := Int.eq_ofNat_of_zero_le hv0
      have HF5 : Hid (GA w w5 B c a len cap zs w.heap.size gb s en A n cp ys) := HF4.out.call hc5 hg5 (by omega) (by omega) (by omega)
      clear hc5 hg5 c0 c1 c2
      go_wp2_with (at_make; refine wpList_make_room _ rfl _ _ 22 rfl 5 i0 (.int .u8 0) Tryd.underlying22 hi hz0 hz1 rfl hz2 _ _ _ _ (3000 + V) (3000 + V) rfl rfl (by omega) (by omega) (by omega) (by omega) ?_; intro w6 hg6 hb6; refine Hid.out ?_)
      refine hidden ?_
      have hF6 : GA w w6 B c a len cap zs w.heap.size gb s en A n cp ys := HF5.out.call (HF5.out.1.kept (gbelow hb6 none) (by simp)) (gbelow hb6 _) (by omega) (by omega) (by omega)
      have hs5 := HF5.out.2.1.size
      have hO6 : Owns w6 w.heap.size (some ⟨w5.heap.size, 0, none⟩) (3000 + V) (3000 + V) (List.replicate (3000 + V) (0 : Int)) := by
        have h := own_of_row (cur := (List.replicate (3000 + V) (Value.int .u8 0))) hg6 (base := w.heap.size) hs5 (n := 3000 + V) (c := 3000 + V) (by simp) (Nat.le_refl _) (by unfold maxLen; omega)
        rw [List.take_of_length_le (by simp)] at h
        refine ⟨by rw [List.map_replicate]; exact h, fun x hx => ?_⟩
        rw [List.eq_of_mem_replicate hx]
        omega
      have HF6 := hidden (hF6.set2 (by omega) (by omega) (by omega) hO6)
      obtain ⟨c0, c1, c2⟩ := hF6.2.2.2.1.cells
      have f2 := hF6.2.2.2.1.frozen 2
      clear hg6 hb6 hF6 hO6
      generalize w5.heap.size = gz at *
      go_wp2_with fail
      go_meet
      exact ⟨s, en, _, 3000 + V, 3000 + V, _, by omega, HF6⟩
    have b1 : (q == 1) = false := by simpa using q1
    go_wp2_with fail
    go_meet
    exact ⟨s, en, A, n, cp, ys, by omega, HF4⟩
  case rest =>
  obtain ⟨s', en', A', n', cp', ys', hn', HF5⟩ := hcut
  clear HF4 c0 c1 c2
  obtain ⟨w5, hw5⟩ : ∃ w5, wc = w5 := ⟨_, rfl⟩
  rw [hw5] at HF5 ⊢
  clear hw5
  have HE := hidden (gaEnd HF5.out.1 HF5.out.2.1 HF5.out.2.2.1 HF5.out.2.2.2.2 (by omega) (Nat.le_refl _) (.int .i64 s') (.bool en') (.slice A' n' cp'))
  obtain ⟨d0, d1, d2⟩ := HF5.out.2.2.2.1.cells
  obtain ⟨r0, r1, r2⟩ := HF5.out.2.2.1.cells
  have q0 := HF5.out.2.2.1.frozen 0
  have q1 := HF5.out.2.2.1.frozen 1
  have q2 := HF5.out.2.2.1.frozen 2
  clear HF5
  go_wp2_with fail
  refine bodyPost_ret (v := .agg #[.int .i64 s', .bool en', .slice A' n' cp']) (by simp [results, Tryd.f29, go_sem, r0, r1, r2]) rfl ?_
  exact ⟨_, _, _, _, _, _, rfl, hn', HE.out.1, HE.out.2⟩

end Go.Proofs.YtckpacifimpkgadDoor
