/- The draw of any frame, right or not. -/
import Derived.Test.YtckpacifimpkgadDoorDrawFr
import Derived.Test.YtckpacifimpkgadDoorDrawsAll
namespace Go.Proofs.YtckpacifimpkgadDoor
open Go.RowKit
set_option linter.unusedVariables false

/-- What the draw of any frame keeps. -/
def FA (w W : World) (B c : Nat) (a : Option Addr) (len cap : Nat) (zs : List Int) (rb fb : Nat) (k f s : Int) (g n cp : Nat) (ys : List Int) : Prop :=
  Cur W B c a len cap zs ∧ w.grownBy W (some c) ∧ Box4 W rb 33 (.int .i64 0) (.int .i64 0) (.int .i64 0) (.slice none 0 0) ∧ Box4 W fb 33 (.int .i64 k) (.int .i64 f) (.int .i64 s) (.slice (some ⟨g, 0, none⟩) n cp) ∧ Owns W w.heap.size (some ⟨g, 0, none⟩) n cp ys

theorem FA.call {w W W' : World} {B c : Nat} {a : Option Addr} {len cap : Nat} {zs : List Int} {rb fb : Nat} {k f s : Int} {g n cp : Nat} {ys : List Int} (h : FA w W B c a len cap zs rb fb k f s g n cp ys) (hc : Cur W' B c a len cap zs) (hg : W.grownBy W' (some c)) (hr : c < rb) (hf : c < fb) (hw : c < w.heap.size) : FA w W' B c a len cap zs rb fb k f s g n cp ys :=
  ⟨hc, gtrans h.2.1 hg, h.2.2.1.grown hg (fun e => by injection e with e; omega), h.2.2.2.1.grown hg (fun e => by injection e with e; omega), h.2.2.2.2.grown hg (fun q e e2 => by injection e with e; have := (h.2.2.2.2.lt q e2).1; omega)⟩

theorem FA.new {w W : World} {B c : Nat} {a : Option Addr} {len cap : Nat} {zs : List Int} {rb fb : Nat} {k f s : Int} {g n cp : Nat} {ys : List Int} (h : FA w W B c a len cap zs rb fb k f s g n cp ys) (o : Obj) : FA w (W.alloc o) B c a len cap zs rb fb k f s g n cp ys :=
  ⟨h.1.new o, gnew h.2.1 o, h.2.2.1.alloc o, h.2.2.2.1.alloc o, h.2.2.2.2.below ((Below.refl _ _).alloc (Nat.le_refl _) _)⟩

theorem Owns.put {W : World} {base n cap : Nat} {a : Option Addr} {zs : List Int} (h : Owns W base a n cap zs) {b i : Nat} {v : Value} (hb : a.map (·.block) ≠ some b) : Owns (W.setCell ⟨b, i, none⟩ v) base a n cap zs :=
  h.grown (gset W b i v) (fun q e e2 => by injection e with e; subst e; exact hb e2)

theorem FA.set0 {w W : World} {B c : Nat} {a : Option Addr} {len cap : Nat} {zs : List Int} {rb fb : Nat} {k f s : Int} {g n cp : Nat} {ys : List Int} (h : FA w W B c a len cap zs rb fb k f s g n cp ys) (hf : c < fb) (hw : w.heap.size ≤ fb) (hne : rb ≠ fb) (v : Int) : FA w (W.setCell ⟨fb, 0, none⟩ (.int .i64 v)) B c a len cap zs rb fb v f s g n cp ys :=
  ⟨h.1.put hf _, gput h.2.1 hw _, h.2.2.1.put hne _ _, h.2.2.2.1.set0 _, h.2.2.2.2.put (h.2.2.2.2.other h.2.2.2.1 (by decide))⟩

theorem FA.set1 {w W : World} {B c : Nat} {a : Option Addr} {len cap : Nat} {zs : List Int} {rb fb : Nat} {k f s : Int} {g n cp : Nat} {ys : List Int} (h : FA w W B c a len cap zs rb fb k f s g n cp ys) (hf : c < fb) (hw : w.heap.size ≤ fb) (hne : rb ≠ fb) (v : Int) : FA w (W.setCell ⟨fb, 1, none⟩ (.int .i64 v)) B c a len cap zs rb fb k v s g n cp ys :=
  ⟨h.1.put hf _, gput h.2.1 hw _, h.2.2.1.put hne _ _, h.2.2.2.1.set1 _, h.2.2.2.2.put (h.2.2.2.2.other h.2.2.2.1 (by decide))⟩

theorem FA.set2 {w W : World} {B c : Nat} {a : Option Addr} {len cap : Nat} {zs : List Int} {rb fb : Nat} {k f s : Int} {g n cp : Nat} {ys : List Int} (h : FA w W B c a len cap zs rb fb k f s g n cp ys) (hf : c < fb) (hw : w.heap.size ≤ fb) (hne : rb ≠ fb) (v : Int) : FA w (W.setCell ⟨fb, 2, none⟩ (.int .i64 v)) B c a len cap zs rb fb k f v g n cp ys :=
  ⟨h.1.put hf _, gput h.2.1 hw _, h.2.2.1.put hne _ _, h.2.2.2.1.set2 _, h.2.2.2.2.put (h.2.2.2.2.other h.2.2.2.1 (by decide))⟩

theorem FA.set3 {w W : World} {B c : Nat} {a : Option Addr} {len cap : Nat} {zs : List Int} {rb fb : Nat} {k f s : Int} {g n cp : Nat} {ys : List Int} (h : FA w W B c a len cap zs rb fb k f s g n cp ys) (hf : c < fb) (hw : w.heap.size ≤ fb) (hne : rb ≠ fb) {g' n' cp' : Nat} {ys' : List Int} (ho : Owns W w.heap.size (some ⟨g', 0, none⟩) n' cp' ys') : FA w (W.setCell ⟨fb, 3, none⟩ (.slice (some ⟨g', 0, none⟩) n' cp')) B c a len cap zs rb fb k f s g' n' cp' ys' :=
  ⟨h.1.put hf _, gput h.2.1 hw _, h.2.2.1.put hne _ _, h.2.2.2.1.set3 _, ho.put (ho.other h.2.2.2.1 (by decide))⟩

theorem FA.end {w W : World} {B c : Nat} {a : Option Addr} {len cap : Nat} {zs : List Int} {rb fb : Nat} {k f s : Int} {g n cp : Nat} {ys : List Int} (h : FA w W B c a len cap zs rb fb k f s g n cp ys) (hr : c < rb) (hw : w.heap.size ≤ rb) (hwr : rb = w.heap.size) :
    let X := (((W.setCell ⟨rb, 0, none⟩ (.int .i64 k)).setCell ⟨rb, 1, none⟩ (.int .i64 f)).setCell ⟨rb, 2, none⟩ (.int .i64 s)).setCell ⟨rb, 3, none⟩ (.slice (some ⟨g, 0, none⟩) n cp)
    Owns X w.heap.size (some ⟨g, 0, none⟩) n cp ys ∧ Cur X B c a len cap zs ∧ w.grownBy X (some c) := by
  have hne := h.2.2.2.2.other h.2.2.1 (by decide)
  exact ⟨(((h.2.2.2.2.put hne).put hne).put hne).put hne, (((h.1.put hr _).put hr _).put hr _).put hr _, gput (gput (gput (gput h.2.1 hw _) hw _) hw _) hw _⟩

set_option maxRecDepth 10000 in
set_option maxHeartbeats 3200000 in
theorem l6Any_any (B c : Nat) (a : Option Addr) (len cap : Nat) (zs : List Int) (w : World) (hcur : Cur w B c a len cap zs) (hl : len ≤ 1099511627776) :
    Calls Tryd.prog 30 #[.pointer (some ⟨c, 0, none⟩)] w fun e w' => ∃ (k f s : Int) (g n cp : Nat) (ys : List Int), e = .returned (.agg #[.int .i64 k, .int .i64 f, .int .i64 s, .slice (some ⟨g, 0, none⟩) n cp]) ∧ n ≤ 1001 ∧ w.heap.size ≤ g ∧ Owns w' w.heap.size (some ⟨g, 0, none⟩) n cp ys ∧ Cur w' B c a len cap zs ∧ w.grownBy w' (some c) := by
  obtain ⟨i0, hi, hz0, hz1, hz2⟩ := info_parts Tryd.info5
  have hcl := hcur.lt
  obtain ⟨w1, hw1⟩ : ∃ w1, w.alloc (.cells #[.int .i64 0, .int .i64 0, .int .i64 0, .slice none 0 0] 33) = w1 := ⟨_, rfl⟩
  have HQ1 : Hid (Box4 w1 w.heap.size 33 (.int .i64 0) (.int .i64 0) (.int .i64 0) (.slice none 0 0)) := by show Box4 _ _ _ _ _ _ _; rw [← hw1]; exact Box4.new _ _ _ _ _ _
  have HC1 : Hid (Cur w1 B c a len cap zs) := by rw [← hw1]; exact hcur.new _
  have HG1 : Hid (w.grownBy w1 (some c)) := by show World.grownBy _ _ _; rw [← hw1]; exact World.grownBy_alloc _ _ _
  clear hcur
  go_enter Tryd.func30, Tryd.ntmps30
  go_wp2_with fail
  try rw [hw1]
  refine (l6Frame_any B c a len cap zs _ HC1.out hl).mono ?_
  rintro e w2 ⟨k, f, s, g, n, cp, ys, rfl, _, _, _, hn, hg0, ho2, hc2, hg2⟩
  have hq2 : Box4 w2 w.heap.size 33 (.int .i64 0) (.int .i64 0) (.int .i64 0) (.slice none 0 0) := HQ1.out.grown hg2 (fun e => by injection e with e; omega)
  have hs2 : w.heap.size < w2.heap.size := hq2.lt
  have HF3 : Hid (FA w (w2.alloc (.cells #[.int .i64 k, .int .i64 f, .int .i64 s, .slice (some ⟨g, 0, none⟩) n cp] 33)) B c a len cap zs w.heap.size w2.heap.size k f s g n cp ys) := ⟨hc2.new _, gnew (gtrans HG1.out hg2) _, hq2.alloc _, Box4.new _ _ _ _ _ _, (ho2.low (Nat.le_of_lt HQ1.out.lt)).below ((Below.refl _ _).alloc (Nat.le_refl _) _)⟩
  have hgg : w.heap.size ≤ g := by have := HQ1.out.lt; omega
  clear hc2 hg2 HC1 HG1 HQ1 hw1 ho2 hq2 hg0
  go_upto_region 2 with fail
  obtain ⟨w3, hw3⟩ : ∃ w3, w2.alloc (.cells #[.int .i64 k, .int .i64 f, .int .i64 s, .slice (some ⟨g, 0, none⟩) n cp] 33) = w3 := ⟨_, rfl⟩
  rw [hw3] at HF3 ⊢
  clear hw3
  generalize w2.heap.size = fb at *
  go_wp2_with fail
  refine (l1Below_any B c a len cap zs 14 _ HF3.out.1 hl (by omega) (by omega)).mono ?_
  rintro e w4 ⟨q, rfl, hq0, hq1, hc4, hg4⟩
  have HF4 : Hid (FA w w4 B c a len cap zs w.heap.size fb k f s g n cp ys) := HF3.out.call hc4 hg4 (by omega) (by omega) (by omega)
  have hs4 : fb < w4.heap.size := HF4.out.2.2.2.1.lt
  clear hc4 hg4 HF3
  obtain ⟨c0, c1, c2, c3⟩ := HF4.out.2.2.2.1.cells
  go_upto_block 0 with fail
  go_cut [] from 8 (fun W => ∃ (k f s : Int) (g n cp : Nat) (ys : List Int), n ≤ 1001 ∧ w.heap.size ≤ g ∧ Hid (FA w W B c a len cap zs w.heap.size fb k f s g n cp ys))
  case first =>
    by_cases q0 : q = 0
    · subst q0
      go_wp2_with fail
      refine (l1Int_any B c a len cap zs w4.heap.size 3 3 [-1, 256, 255] _ (HF4.out.new _).1 hl (heap_alloc_new w4 _) (by omega) rfl (by omega) (by omega)).mono ?_
      rintro e w5 ⟨v, rfl, hv, hc5, hg5⟩
      have hF5 := (HF4.out.new (.cells #[.int .i64 (-1), .int .i64 256, .int .i64 255] 3)).call hc5 hg5 (by omega) (by omega) (by omega)
      have HF5 := hidden (hF5.set0 (by omega) (by omega) (by omega) v)
      clear c0 c1 c2 c3
      obtain ⟨c0, c1, c2, c3⟩ := hF5.2.2.2.1.cells
      have f2 := hF5.2.2.2.1.frozen 0
      clear hv hc5 hg5 hF5
      go_wp2_with fail
      go_meet
      exact ⟨v, f, s, g, n, cp, ys, by omega, hgg, HF5⟩
    have b0 : (q == 0) = false := by simpa using q0
    by_cases q1 : q = 1
    · subst q1
      go_wp2_with fail
      refine (l1Int_any B c a len cap zs w4.heap.size 2 2 [-1, 256] _ (HF4.out.new _).1 hl (heap_alloc_new w4 _) (by omega) rfl (by omega) (by omega)).mono ?_
      rintro e w5 ⟨v, rfl, hv, hc5, hg5⟩
      have hF5 := (HF4.out.new (.cells #[.int .i64 (-1), .int .i64 256] 3)).call hc5 hg5 (by omega) (by omega) (by omega)
      have HF5 := hidden (hF5.set1 (by omega) (by omega) (by omega) v)
      clear c0 c1 c2 c3
      obtain ⟨c0, c1, c2, c3⟩ := hF5.2.2.2.1.cells
      have f2 := hF5.2.2.2.1.frozen 1
      clear hv hc5 hg5 hF5
      go_wp2_with fail
      go_meet
      exact ⟨k, v, s, g, n, cp, ys, by omega, hgg, HF5⟩
    have b1 : (q == 1) = false := by simpa using q1
    by_cases q2 : q = 2
    · subst q2
      go_wp2_with fail
      refine (l1Int_any B c a len cap zs w4.heap.size 3 3 [-1, 2147483648, 2147483647] _ (HF4.out.new _).1 hl (heap_alloc_new w4 _) (by omega) rfl (by omega) (by omega)).mono ?_
      rintro e w5 ⟨v, rfl, hv, hc5, hg5⟩
      have hF5 := (HF4.out.new (.cells #[.int .i64 (-1), .int .i64 2147483648, .int .i64 2147483647] 3)).call hc5 hg5 (by omega) (by omega) (by omega)
      have HF5 := hidden (hF5.set2 (by omega) (by omega) (by omega) v)
      clear c0 c1 c2 c3
      obtain ⟨c0, c1, c2, c3⟩ := hF5.2.2.2.1.cells
      have f2 := hF5.2.2.2.1.frozen 2
      clear hv hc5 hg5 hF5
      go_wp2_with fail
      go_meet
      exact ⟨k, f, v, g, n, cp, ys, by omega, hgg, HF5⟩
    have b2 : (q == 2) = false := by simpa using q2
    by_cases q3 : q = 3
    · subst q3
      go_wp2_with fail
      refine (l1Below_any B c a len cap zs 2 _ HF4.out.1 hl (by omega) (by omega)).mono ?_
      rintro e w5 ⟨v, rfl, hv0, hv1, hc5, hg5⟩
      obtain ⟨V, rfl⟩ := Int.eq_ofNat_of_zero_le hv0
      have HF5 : Hid (FA w w5 B c a len cap zs w.heap.size fb k f s g n cp ys) := HF4.out.call hc5 hg5 (by omega) (by omega) (by omega)
      clear hc5 hg5 c0 c1 c2 c3
      go_wp2_with (at_make; refine wpList_make_room _ rfl _ _ 22 rfl 5 i0 (.int .u8 0) Tryd.underlying22 hi hz0 hz1 rfl hz2 _ _ _ _ (1000 + V) (1000 + V) rfl rfl (by omega) (by omega) (by omega) (by omega) ?_; intro w6 hg6 hb6; refine Hid.out ?_)
      refine hidden ?_
      have hF6 : FA w w6 B c a len cap zs w.heap.size fb k f s g n cp ys := HF5.out.call (HF5.out.1.kept (gbelow hb6 none) (by simp)) (gbelow hb6 _) (by omega) (by omega) (by omega)
      have hs5 := HF5.out.2.1.size
      have hO6 : Owns w6 w.heap.size (some ⟨w5.heap.size, 0, none⟩) (1000 + V) (1000 + V) (List.replicate (1000 + V) (0 : Int)) := by
        have h := own_of_row (cur := (List.replicate (1000 + V) (Value.int .u8 0))) hg6 (base := w.heap.size) hs5 (n := 1000 + V) (c := 1000 + V) (by simp) (Nat.le_refl _) (by unfold maxLen; omega)
        rw [List.take_of_length_le (by simp)] at h
        refine ⟨by rw [List.map_replicate]; exact h, fun x hx => ?_⟩
        rw [List.eq_of_mem_replicate hx]
        omega
      have HF6 := hidden (hF6.set3 (by omega) (by omega) (by omega) hO6)
      obtain ⟨c0, c1, c2, c3⟩ := hF6.2.2.2.1.cells
      have f3 := hF6.2.2.2.1.frozen 3
      clear hg6 hb6 hF6 hO6
      generalize w5.heap.size = gz at *
      go_wp2_with fail
      go_meet
      exact ⟨k, f, s, gz, 1000 + V, 1000 + V, _, by omega, hs5, HF6⟩
    have b3 : (q == 3) = false := by simpa using q3
    go_wp2_with fail
    go_meet
    exact ⟨k, f, s, g, n, cp, ys, by omega, hgg, HF4⟩
  case rest =>
  obtain ⟨k', f', s', g', n', cp', ys', hn', hgg', HF5⟩ := hcut
  clear HF4 c0 c1 c2 c3
  obtain ⟨w5, hw5⟩ : ∃ w5, wc = w5 := ⟨_, rfl⟩
  rw [hw5] at HF5 ⊢
  clear hw5
  have HE := hidden (HF5.out.end (by omega) (by omega) (by omega))
  obtain ⟨d0, d1, d2, d3⟩ := HF5.out.2.2.2.1.cells
  obtain ⟨r0, r1, r2, r3⟩ := HF5.out.2.2.1.cells
  have q0 := HF5.out.2.2.1.frozen 0
  have q1 := HF5.out.2.2.1.frozen 1
  have q2 := HF5.out.2.2.1.frozen 2
  have q3 := HF5.out.2.2.1.frozen 3
  clear HF5
  go_wp2_with fail
  refine bodyPost_ret (v := .agg #[.int .i64 k', .int .i64 f', .int .i64 s', .slice (some ⟨g', 0, none⟩) n' cp']) (by simp [results, Tryd.f30, go_sem, r0, r1, r2, r3]) rfl ?_
  exact ⟨k', f', s', g', n', cp', rfl, hn', hgg', ⟨ys', HE.out.1⟩, HE.out.2⟩

end Go.Proofs.YtckpacifimpkgadDoor
