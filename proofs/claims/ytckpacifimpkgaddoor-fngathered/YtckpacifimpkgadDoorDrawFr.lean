/- The draw of a frame: its numbers are within their bounds, its body is short and in memory of its own. -/
import Derived.Test.YtckpacifimpkgadDoorDrawsAll
import Derived.Test.YtckpacifimpkgadDoorBox4
import Derived.Deep.Cut
import Derived.Deep.CutBlock
namespace Go.Proofs.YtckpacifimpkgadDoor
open Go.RowKit
set_option linter.unusedVariables false

/-- What the draw of a frame keeps: the cursor, the answer's variable, the frame's. -/
def FS (w W : World) (B c : Nat) (a : Option Addr) (len cap : Nat) (zs : List Int) (rb fb : Nat) (k f s : Int) : Prop :=
  Cur W B c a len cap zs ∧ w.grownBy W (some c) ∧ Box4 W rb 33 (.int .i64 0) (.int .i64 0) (.int .i64 0) (.slice none 0 0) ∧ Box4 W fb 33 (.int .i64 k) (.int .i64 f) (.int .i64 s) (.slice none 0 0)

theorem FS.call {w W W' : World} {B c : Nat} {a : Option Addr} {len cap : Nat} {zs : List Int} {rb fb : Nat} {k f s : Int} (h : FS w W B c a len cap zs rb fb k f s) (hc : Cur W' B c a len cap zs) (hg : W.grownBy W' (some c)) (hr : c < rb) (hf : c < fb) : FS w W' B c a len cap zs rb fb k f s :=
  ⟨hc, gtrans h.2.1 hg, h.2.2.1.grown hg (fun e => by injection e with e; omega), h.2.2.2.grown hg (fun e => by injection e with e; omega)⟩

theorem FS.new {w W : World} {B c : Nat} {a : Option Addr} {len cap : Nat} {zs : List Int} {rb fb : Nat} {k f s : Int} (h : FS w W B c a len cap zs rb fb k f s) (o : Obj) : FS w (W.alloc o) B c a len cap zs rb fb k f s :=
  ⟨h.1.new o, gnew h.2.1 o, h.2.2.1.alloc o, h.2.2.2.alloc o⟩

theorem Box4.set2 {W : World} {b : Nat} {t : TypeId} {x y z u : Value} (h : Box4 W b t x y z u) (v : Value) : Box4 (W.setCell ⟨b, 2, none⟩ v) b t x y v u := by
  show _ = _
  rw [setCell_eq_setRow W b 2 _ t (0, 0) _ h, setRow_heap W b _ _ t (0, 0) h]
  rfl

theorem Box4.set0 {W : World} {b : Nat} {t : TypeId} {x y z u : Value} (h : Box4 W b t x y z u) (v : Value) : Box4 (W.setCell ⟨b, 0, none⟩ v) b t v y z u := by
  show _ = _
  rw [setCell_eq_setRow W b 0 _ t (0, 0) _ h, setRow_heap W b _ _ t (0, 0) h]
  rfl

theorem Box4.set1 {W : World} {b : Nat} {t : TypeId} {x y z u : Value} (h : Box4 W b t x y z u) (v : Value) : Box4 (W.setCell ⟨b, 1, none⟩ v) b t x v z u := by
  show _ = _
  rw [setCell_eq_setRow W b 1 _ t (0, 0) _ h, setRow_heap W b _ _ t (0, 0) h]
  rfl

theorem Box4.set3 {W : World} {b : Nat} {t : TypeId} {x y z u : Value} (h : Box4 W b t x y z u) (v : Value) : Box4 (W.setCell ⟨b, 3, none⟩ v) b t x y z v := by
  show _ = _
  rw [setCell_eq_setRow W b 3 _ t (0, 0) _ h, setRow_heap W b _ _ t (0, 0) h]
  rfl

theorem Box4.put {W : World} {b : Nat} {t : TypeId} {x y z u : Value} (h : Box4 W b t x y z u) {b' : Nat} (hb : b ≠ b') (i : Nat) (v : Value) : Box4 (W.setCell ⟨b', i, none⟩ v) b t x y z u := by
  show _ = _
  rw [show (W.setCell ⟨b', i, none⟩ v).heap[b]? = W.heap[b]? by simp [World.setCell, Array.getElem?_modify, Ne.symm hb]]
  exact h

theorem FS.stream {w W : World} {B c : Nat} {a : Option Addr} {len cap : Nat} {zs : List Int} {rb fb : Nat} {k f s : Int} (h : FS w W B c a len cap zs rb fb k f s) (hr : c < rb) (hf : c < fb) (hw : w.heap.size ≤ fb) (hne : rb ≠ fb) (s' : Int) : FS w (W.setCell ⟨fb, 2, none⟩ (.int .i64 s')) B c a len cap zs rb fb k f s' :=
  ⟨h.1.put hf _, gput h.2.1 hw _, h.2.2.1.put hne _ _, h.2.2.2.set2 _⟩

theorem l1Bytes_int (B c : Nat) (a : Option Addr) (len cap : Nat) (zs : List Int) (n : Nat) (m : Int) (w : World) (hcur : Cur w B c a len cap zs) (hl : len ≤ 1099511627776) (hn2 : n ≤ 1000000) (hm : m = (n : Int)) :
    Calls Tryd.prog 16 #[.pointer (some ⟨c, 0, none⟩), .int .i64 m] w fun e w' => ∃ g cp ys, e = .returned (.slice (some ⟨g, 0, none⟩) n cp) ∧ w.heap.size ≤ g ∧ Owns w' w.heap.size (some ⟨g, 0, none⟩) n cp ys ∧ Cur w' B c a len cap zs ∧ w.grownBy w' (some c) := by
  subst hm
  exact l1Bytes_any B c a len cap zs n w hcur hl hn2

/-- The end of the draw of a frame: its body is put into its variable, and it into the answer's. -/
theorem FS.end {w W W' : World} {B c : Nat} {a : Option Addr} {len cap : Nat} {zs : List Int} {rb fb : Nat} {k f s : Int} {g n cp : Nat} {ys : List Int} (h : FS w W B c a len cap zs rb fb k f s) (hc : Cur W' B c a len cap zs) (hg : W.grownBy W' (some c)) (hr : c < rb) (hf : c < fb) (hw : w.heap.size ≤ rb) (hw2 : w.heap.size ≤ fb) (hne : rb ≠ fb) (ho : Owns W' W.heap.size (some ⟨g, 0, none⟩) n cp ys) (hgg : W.heap.size ≤ g) (hrW : rb < W.heap.size) (hfW : fb < W.heap.size) :
    Box4 W' fb 33 (.int .i64 k) (.int .i64 f) (.int .i64 s) (.slice none 0 0) ∧ Box4 W' rb 33 (.int .i64 0) (.int .i64 0) (.int .i64 0) (.slice none 0 0) ∧
    (∀ v, let X := ((((W'.setCell ⟨fb, 3, none⟩ v).setCell ⟨rb, 0, none⟩ (.int .i64 k)).setCell ⟨rb, 1, none⟩ (.int .i64 f)).setCell ⟨rb, 2, none⟩ (.int .i64 s)).setCell ⟨rb, 3, none⟩ v
      Owns X w.heap.size (some ⟨g, 0, none⟩) n cp ys ∧ Cur X B c a len cap zs ∧ w.grownBy X (some c)) := by
  have h1 := h.call hc hg hr hf
  refine ⟨h1.2.2.2, h1.2.2.1, fun v => ⟨⟨?_, ho.2⟩, ?_, ?_⟩⟩
  · refine own_low (base := W.heap.size) ?_ h.2.1.size
    exact ownsRow_setCell_below (ownsRow_setCell_below (ownsRow_setCell_below (ownsRow_setCell_below (ownsRow_setCell_below ho.1 (by dsimp only; omega) _) (by dsimp only; omega) _) (by dsimp only; omega) _) (by dsimp only; omega) _) (by dsimp only; omega) _
  · exact ((((hc.put hf _).put hr _).put hr _).put hr _).put hr _
  · exact gput (gput (gput (gput (gput h1.2.1 hw2 _) hw _) hw _) hw _) hw _

set_option maxRecDepth 10000 in
set_option maxHeartbeats 3200000 in
theorem l6Frame_any (B c : Nat) (a : Option Addr) (len cap : Nat) (zs : List Int) (w : World) (hcur : Cur w B c a len cap zs) (hl : len ≤ 1099511627776) :
    Calls Tryd.prog 48 #[.pointer (some ⟨c, 0, none⟩)] w fun e w' => ∃ (k f s : Int) (g n cp : Nat) (ys : List Int), e = .returned (.agg #[.int .i64 k, .int .i64 f, .int .i64 s, .slice (some ⟨g, 0, none⟩) n cp]) ∧ (0 ≤ k ∧ k ≤ 10) ∧ (0 ≤ f ∧ f ≤ 44) ∧ (0 ≤ s ∧ s ≤ 5) ∧ n ≤ 13 ∧ w.heap.size ≤ g ∧ Owns w' w.heap.size (some ⟨g, 0, none⟩) n cp ys ∧ Cur w' B c a len cap zs ∧ w.grownBy w' (some c) := by
  have hcl := hcur.lt
  obtain ⟨w1, hw1⟩ : ∃ w1, w.alloc (.cells #[.int .i64 0, .int .i64 0, .int .i64 0, .slice none 0 0] 33) = w1 := ⟨_, rfl⟩
  have HQ1 : Hid (Box4 w1 w.heap.size 33 (.int .i64 0) (.int .i64 0) (.int .i64 0) (.slice none 0 0)) := by show Box4 _ _ _ _ _ _ _; rw [← hw1]; exact Box4.new _ _ _ _ _ _
  have HC1 : Hid (Cur w1 B c a len cap zs) := by rw [← hw1]; exact hcur.new _
  have HG1 : Hid (w.grownBy w1 (some c)) := by show World.grownBy _ _ _; rw [← hw1]; exact World.grownBy_alloc _ _ _
  clear hcur
  go_enter Tryd.func48, Tryd.ntmps48
  go_wp2_with fail
  try rw [hw1]
  refine (l1Below_any B c a len cap zs 11 _ HC1.out hl (by omega) (by omega)).mono ?_
  rintro e w2 ⟨k, rfl, hk0, hk1, hc2, hg2⟩
  have HC2 : Hid (Cur w2 B c a len cap zs) := hc2
  have HG2 : Hid (w.grownBy w2 (some c)) := gtrans HG1.out hg2
  have HQ2 : Hid (Box4 w2 w.heap.size 33 (.int .i64 0) (.int .i64 0) (.int .i64 0) (.slice none 0 0)) := HQ1.out.grown hg2 (fun e => by injection e with e; omega)
  have hs2 : w.heap.size < w2.heap.size := HQ2.out.lt
  clear hc2 hg2 HC1 HG1 HQ1 hw1
  go_wp2_with fail
  refine (l1Int_any B c a len cap zs w2.heap.size 8 8 [0, 1, 4, 5, 8, 12, 32, 44] _ (HC2.out.new _) hl (heap_alloc_new w2 _) (by omega) rfl (by omega) (by omega)).mono ?_
  rintro e w3 ⟨f, rfl, hf, hc3, hg3⟩
  have hf0 : 0 ≤ f ∧ f ≤ 44 := by
    simp only [List.mem_cons, List.not_mem_nil, or_false] at hf
    omega
  obtain ⟨hf1, hf2⟩ := hf0
  have HC3 : Hid (Cur w3 B c a len cap zs) := hc3
  have HG3 : Hid (w.grownBy w3 (some c)) := gtrans (gnew HG2.out _) hg3
  have HQ3 : Hid (Box4 w3 w.heap.size 33 (.int .i64 0) (.int .i64 0) (.int .i64 0) (.slice none 0 0)) := (HQ2.out.alloc _).grown hg3 (fun e => by injection e with e; omega)
  have hs3 : w.heap.size < w3.heap.size := HQ3.out.lt
  clear hf hc3 hg3 HC2 HG2 HQ2 hs2
  go_wp2_with fail
  refine (l1Int_any B c a len cap zs w3.heap.size 5 5 [1, 1, 3, 0, 5] _ (HC3.out.new _) hl (heap_alloc_new w3 _) (by omega) rfl (by omega) (by omega)).mono ?_
  rintro e w4 ⟨s, rfl, hs, hc4, hg4⟩
  have hs0 : 0 ≤ s ∧ s ≤ 5 := by
    simp only [List.mem_cons, List.not_mem_nil, or_false] at hs
    omega
  obtain ⟨hs1, hs2⟩ := hs0
  have HG4 : Hid (w.grownBy w4 (some c)) := gtrans (gnew HG3.out _) hg4
  have hq4 : Box4 w4 w.heap.size 33 (.int .i64 0) (.int .i64 0) (.int .i64 0) (.slice none 0 0) := (HQ3.out.alloc _).grown hg4 (fun e => by injection e with e; omega)
  have hs4 : w.heap.size < w4.heap.size := hq4.lt
  have HF4 : Hid (FS w (w4.alloc (.cells #[.int .i64 k, .int .i64 f, .int .i64 s, .slice none 0 0] 33)) B c a len cap zs w.heap.size w4.heap.size k f s) := ⟨hc4.new _, gnew HG4.out _, hq4.alloc _, Box4.new _ _ _ _ _ _⟩
  clear hs hc4 hg4 HC3 HG3 HQ3 hs3 HG4 hq4
  go_upto_region 2 with fail
  obtain ⟨w5, hw5⟩ : ∃ w5, w4.alloc (.cells #[.int .i64 k, .int .i64 f, .int .i64 s, .slice none 0 0] 33) = w5 := ⟨_, rfl⟩
  rw [hw5] at HF4 ⊢
  clear hw5
  generalize w4.heap.size = fb at *
  have hs5 : fb < w5.heap.size := HF4.out.2.2.2.lt
  go_wp2_with fail
  refine (l1Int_any B c a len cap zs w5.heap.size 7 7 [0, 1, 4, 5, 6, 8, 12] _ (HF4.out.new _).1 hl (heap_alloc_new w5 _) (by omega) rfl (by omega) (by omega)).mono ?_
  rintro e w6 ⟨m, rfl, hm, hc6, hg6⟩
  have hm0 : 0 ≤ m ∧ m ≤ 12 := by
    simp only [List.mem_cons, List.not_mem_nil, or_false] at hm
    omega
  obtain ⟨n, rfl⟩ := Int.eq_ofNat_of_zero_le hm0.1
  have hn : n ≤ 12 := by omega
  have HF6 : Hid (FS w w6 B c a len cap zs w.heap.size fb k f s) := (HF4.out.new _).call hc6 hg6 (by omega) (by omega)
  clear hm hm0 hc6 hg6 HF4 hs5
  obtain ⟨c0, c1, c2, c3⟩ := HF6.out.2.2.2.cells
  go_upto_block 0 with fail
  go_cut [4] from 17 (fun v4 W => ∃ n : Nat, n ≤ 12 ∧ v4 = .int .i64 n ∧ Hid (FS w W B c a len cap zs w.heap.size fb k f s))
  case first =>
    have hk11 : k = 0 ∨ k = 1 ∨ k = 2 ∨ k = 3 ∨ k = 4 ∨ k = 5 ∨ k = 6 ∨ k = 7 ∨ k = 8 ∨ k = 9 ∨ k = 10 := by omega
    clear hk0 hk1
    rcases hk11 with rfl | rfl | rfl | rfl | rfl | rfl | rfl | rfl | rfl | rfl | rfl
    · go_wp2_with fail
      go_meet
      exact ⟨n, by omega, rfl, HF6⟩
    · go_wp2_with fail
      go_meet
      exact ⟨n, by omega, rfl, HF6⟩
    · go_wp2_with fail
      go_meet
      exact ⟨5, by omega, rfl, HF6⟩
    · go_wp2_with fail
      go_meet
      exact ⟨4, by omega, rfl, HF6⟩
    · go_wp2_with fail
      refine (l1Below_any B c a len cap zs 3 _ HF6.out.1 hl (by omega) (by omega)).mono ?_
      rintro e w6b ⟨q, rfl, hq0, hq1, hc6b, hg6b⟩
      have HF6b : Hid (FS w w6b B c a len cap zs w.heap.size fb 4 f s) := HF6.out.call hc6b hg6b (by omega) (by omega)
      clear hc6b hg6b HF6 c0 c1 c2 c3
      obtain ⟨c0, c1, c2, c3⟩ := HF6b.out.2.2.2.cells
      obtain ⟨Q, rfl⟩ := Int.eq_ofNat_of_zero_le hq0
      cases hack : (bits BinOp.and IntKind.i64 f 1 == 1) with
      | true =>
        go_wp2_with fail
        go_meet
        exact ⟨0, by omega, rfl, HF6b⟩
      | false =>
        go_wp2_with fail
        go_meet
        exact ⟨6 * Q, by omega, by congr 1, HF6b⟩
    · go_wp2_with fail
      go_meet
      exact ⟨n, by omega, rfl, HF6⟩
    · go_wp2_with fail
      go_meet
      exact ⟨8, by omega, rfl, HF6⟩
    · go_wp2_with fail
      go_meet
      exact ⟨8, by omega, rfl, HF6⟩
    · go_wp2_with fail
      go_meet
      exact ⟨4, by omega, rfl, HF6⟩
    · go_wp2_with fail
      go_meet
      exact ⟨n, by omega, rfl, HF6⟩
    · go_wp2_with fail
      go_meet
      exact ⟨n, by omega, rfl, HF6⟩
  case rest =>
  obtain ⟨n, hn, rfl, HF7⟩ := hcut
  clear HF6 c0 c1 c2 c3
  obtain ⟨w7, hw7⟩ : ∃ w7, wc = w7 := ⟨_, rfl⟩
  rw [hw7] at HF7 ⊢
  clear hw7
  go_wp2_with fail
  refine (l1Once_any B c a len cap zs 8 _ HF7.out.1 hl (by omega) (by omega)).mono ?_
  rintro e w8 ⟨b, rfl, hc8, hg8⟩
  have HF8 : Hid (FS w w8 B c a len cap zs w.heap.size fb k f s) := HF7.out.call hc8 hg8 (by omega) (by omega)
  clear hc8 hg8 HF7
  go_upto_if 37 with fail
  go_cut [4] from 17 (fun v4 W => ∃ n : Nat, n ≤ 13 ∧ v4 = .int .i64 n ∧ Hid (FS w W B c a len cap zs w.heap.size fb k f s))
  case first =>
    cases b
    · go_wp2_with fail
      go_meet
      exact ⟨n, by omega, rfl, HF8⟩
    · go_wp2_with fail
      go_meet
      exact ⟨n + 1, by omega, by congr 1, HF8⟩
  case rest =>
  obtain ⟨n, hn, rfl, HF9⟩ := hcut
  clear HF8
  obtain ⟨w9, hw9⟩ : ∃ w9, wc = w9 := ⟨_, rfl⟩
  rw [hw9] at HF9 ⊢
  clear hw9
  obtain ⟨c0, c1, c2, c3⟩ := HF9.out.2.2.2.cells
  go_upto_region 18 with fail
  go_cut [47] from 40 (fun v47 W => (∃ b : Bool, v47 = .bool b) ∧ Hid (W = w9))
  case first =>
    by_cases h67 : 6 ≤ k ∧ k ≤ 7
    · go_wp2_with (go_at_call 49; refine (l1In_yes k 6 7 _ h67.1 h67.2).mono ?_; rintro e w' ⟨rfl, rfl⟩)
      go_meet
      exact ⟨⟨_, rfl⟩, rfl⟩
    · go_wp2_with (go_at_call 49; refine (l1In_no k 6 7 _ (by omega)).mono ?_; rintro e w' ⟨rfl, rfl⟩)
      go_meet
      exact ⟨⟨_, rfl⟩, rfl⟩
  case rest =>
  obtain ⟨⟨b2, rfl⟩, HWc⟩ := hcut
  rw [HWc.out]
  clear HWc
  go_upto_if 47 with fail
  go_cut [] from 40 (fun W => ∃ s' : Int, (0 ≤ s' ∧ s' ≤ 5) ∧ Hid (FS w W B c a len cap zs w.heap.size fb k f s'))
  case first =>
    cases b2
    · go_wp2_with fail
      go_meet
      exact ⟨s, ⟨hs1, hs2⟩, HF9⟩
    · have hs9 : fb < w9.heap.size := HF9.out.2.2.2.lt
      go_wp2_with fail
      refine (l1Int_any B c a len cap zs w9.heap.size 5 5 [0, 0, 0, 0, 1] _ (HF9.out.new _).1 hl (heap_alloc_new w9 _) (by omega) rfl (by omega) (by omega)).mono ?_
      rintro e w10 ⟨s2, rfl, hs2m, hc10, hg10⟩
      have hs20 : 0 ≤ s2 ∧ s2 ≤ 1 := by
        simp only [List.mem_cons, List.not_mem_nil, or_false] at hs2m
        omega
      have hF10 := (HF9.out.new (.cells #[.int .i64 0, .int .i64 0, .int .i64 0, .int .i64 0, .int .i64 1] 3)).call hc10 hg10 (by omega) (by omega)
      have HF10 : Hid (FS w (w10.setCell ⟨fb, 2, none⟩ (.int .i64 s2)) B c a len cap zs w.heap.size fb k f s2) := hF10.stream (by omega) (by omega) (by omega) (by omega) s2
      clear c0 c1 c2 c3
      obtain ⟨c0, c1, c2, c3⟩ := hF10.2.2.2.cells
      have f2 := hF10.2.2.2.frozen 2
      clear hs2m hc10 hg10 hF10 hs9
      go_wp2_with fail
      go_meet
      exact ⟨s2, by omega, HF10⟩
  case rest =>
  obtain ⟨s', ⟨hs1', hs2'⟩, HF10⟩ := hcut
  clear HF9 c0 c1 c2 c3
  obtain ⟨w10, hw10⟩ : ∃ w10, wc = w10 := ⟨_, rfl⟩
  rw [hw10] at HF10 ⊢
  clear hw10
  go_wp2_with fail
  refine (l1Bytes_any B c a len cap zs n _ HF10.out.1 hl (by omega)).mono ?_
  rintro e w11 ⟨g, cp, ys, rfl, hgg, ho, hc11, hg11⟩
  have hsz := HF10.out.2.1.size
  obtain ⟨hx1, hx2, hx3⟩ := HF10.out.end hc11 hg11 (by omega) (by omega) (by omega) (by omega) (by omega) ho hgg HF10.out.2.2.1.lt HF10.out.2.2.2.lt
  have HE := hidden (hx3 (.slice (some ⟨g, 0, none⟩) n cp))
  obtain ⟨d0, d1, d2, d3⟩ := hx1.cells
  obtain ⟨r0, r1, r2, r3⟩ := hx2.cells
  have g3 := hx1.frozen 3
  have q0 := hx2.frozen 0
  have q1 := hx2.frozen 1
  have q2 := hx2.frozen 2
  have q3 := hx2.frozen 3
  have hne1 : ¬ w.heap.size = fb := by omega
  have hne2 : ¬ fb = w.heap.size := by omega
  clear ho hc11 hg11 hx1 hx2 hx3 HF10
  go_wp2_with fail
  refine bodyPost_ret (v := .agg #[.int .i64 k, .int .i64 f, .int .i64 s', .slice (some ⟨g, 0, none⟩) n cp]) (by simp [results, Tryd.f48, go_sem, r0, r1, r2, r3]) rfl ?_
  exact ⟨k, f, s', g, n, cp, ys, rfl, by omega, ⟨hf1, hf2⟩, by omega, by omega, by omega, HE.out⟩

end Go.Proofs.YtckpacifimpkgadDoor
