/- The program's AddField. The table behind a field in a form. -/
import Derived.Test.YtbaijmkghgnleaaGreatDoorM19
import Derived.Deep.RegionWith
import Derived.Test.YtbaijmkghgnleaaGreatDoorM10
namespace Go.Proofs.YtbaijmkghgnleaaGreatDoor
open Go.RowKit
set_option linter.unusedVariables false

theorem add_fits {m : Int} {xs : List Fld} {x y : ByteArray} {k : Nat} (h : Left (m - ((x.size : Int) + (y.size : Int) + 32)) xs k) (hm : (x.size : Int) + (y.size : Int) + 32 ≤ m) : FitN m.toNat ((x, y) :: xs) (k + 1) ∧ (szL (xs.take k) : Int) ≤ m - ((x.size : Int) + (y.size : Int) + 32) := by
  obtain ⟨h1, h2, h3⟩ := h
  have hz : (szL (xs.take k) : Int) ≤ m - ((x.size : Int) + (y.size : Int) + 32) := by
    rcases h2 with rfl | h2
    · simp only [List.take_zero, szL_nil]; omega
    · exact h2
  refine ⟨⟨by simp; omega, ?_, ?_⟩, hz⟩
  · rw [List.take_succ_cons, szL_cons]
    dsimp only
    omega
  · rcases h3 with h3 | h3
    · exact .inl (by simp; omega)
    · refine .inr ?_
      rw [List.take_succ_cons, szL_cons]
      dsimp only
      omega

theorem add_none {m : Int} {xs : List Fld} {x y : ByteArray} {k : Nat} (h : Left (m - ((x.size : Int) + (y.size : Int) + 32)) xs k) (h0 : 0 ≤ m) (hm : m < (x.size : Int) + (y.size : Int) + 32) : k = 0 ∧ FitN m.toNat ((x, y) :: xs) 0 := by
  obtain ⟨h1, h2, h3⟩ := h
  refine ⟨?_, Nat.zero_le _, by simp [szL_nil], .inr ?_⟩
  · rcases h2 with h2 | h2
    · exact h2
    · omega
  · rw [List.take_succ_cons, szL_cons]
    dsimp only
    omega

set_option maxRecDepth 10000 in
set_option maxHeartbeats 3200000 in
theorem implAddF_any (m : Int) (a : Option Addr) (len ca : Nat) (xs : List Fld) (x y : ByteArray) (w : World) (hx : Flds w a len xs) (hf : x.size ≤ maxLen ∧ y.size ≤ maxLen) (hl : len + (x.size + y.size) + fldBytes xs ≤ 1048576) :
    Calls Tryz.prog 86 #[.agg #[.int .i64 m, .slice a len ca], .agg #[.string x, .string y]] w fun e w' => ∃ v n ys, e = .returned (.agg #[.int .i64 m, v]) ∧ AddAns m xs (x, y) ys ∧ OwnF w' w.heap.size v n ys ∧ Below w.heap.size w w' := by
  have HX : Hid (Flds w a len xs) := hx
  have hlen := hx.1
  clear hx
  obtain ⟨w2, hw2⟩ : ∃ w2, ((w.alloc (.cells #[.int .i64 m, .slice a len ca] 32)).alloc (.cells #[.string x, .string y] 69)).alloc (.cells #[.int .i64 0, .slice none 0 0] 32) = w2 := ⟨_, rfl⟩
  have q1 : Box2 w2 w.heap.size 32 (.int .i64 m) (.slice a len ca) := by rw [← hw2]; exact ((Box2.new _ _ _ _).alloc _).alloc _
  have q3 : Box2 w2 (w.heap.size + 1) 69 (.string x) (.string y) := by
    rw [← hw2]
    have := (Box2.new (w.alloc (.cells #[.int .i64 m, .slice a len ca] 32)) 69 (.string x) (.string y)).alloc (.cells #[.int .i64 0, .slice none 0 0] 32)
    rwa [World.size_alloc] at this
  have q2 : Box2 w2 (w.heap.size + 1 + 1) 32 (.int .i64 0) (.slice none 0 0) := by
    rw [← hw2]
    have := Box2.new ((w.alloc (.cells #[.int .i64 m, .slice a len ca] 32)).alloc (.cells #[.string x, .string y] 69)) 32 (.int .i64 0) (.slice none 0 0)
    rwa [World.size_alloc, World.size_alloc] at this
  have HB2 : Hid (Below w.heap.size w w2) := by show Below _ _ _; rw [← hw2]; exact (((Below.refl _ _).alloc (Nat.le_refl _) _).alloc (by simp) _).alloc (by simp; omega) _
  have HW2 : Hid (w2.heap.size = w.heap.size + 3) := by show _ = _; rw [← hw2]; simp
  have HQ : Hid (∀ W, Below w2.heap.size w2 W → Box2 W w.heap.size 32 (.int .i64 m) (.slice a len ca) ∧ Box2 W (w.heap.size + 1 + 1) 32 (.int .i64 0) (.slice none 0 0) ∧ Flds W a len xs ∧ Below w.heap.size w W ∧ Box2 W (w.heap.size + 1) 69 (.string x) (.string y)) := fun W h =>
    have hb := HB2.out.trans (h.mono HB2.out.size)
    ⟨q1.stays h, q2.stays h, HX.out.below hb, hb, q3.stays h⟩
  obtain ⟨c0, c1, _, _⟩ := q1.cells
  clear q1 q2 q3
  go_enter Tryz.func86, Tryz.ntmps86
  go_wp2_with fail
  refine (implOk_any m a len ca xs _ (HQ.out _ (Below.refl _ _)).2.2.1 (by omega)).mono ?_
  rintro e w3 ⟨rfl, hb3⟩
  have HB3 : Hid (Below w2.heap.size w2 w3) := hb3
  obtain ⟨d0, d1, _, _⟩ := (HQ.out _ hb3).1.cells
  obtain ⟨d2, d3, _, _⟩ := (HQ.out _ hb3).2.2.2.2.cells
  clear hb3 c0 c1 hw2
  have HC : Hid (∀ (v : Value) (k : Nat) (W : World) (ys : List Fld) (m' : Int) (base : Nat), Below w2.heap.size w2 W → w2.heap.size ≤ base → OwnF W base v k ys → Below w.heap.size w ((W.setCell ⟨w.heap.size + 1 + 1, 0, none⟩ (.int .i64 m')).setCell ⟨w.heap.size + 1 + 1, 1, none⟩ v) ∧ Box2 ((W.setCell ⟨w.heap.size + 1 + 1, 0, none⟩ (.int .i64 m')).setCell ⟨w.heap.size + 1 + 1, 1, none⟩ v) (w.heap.size + 1 + 1) 32 (.int .i64 m') v ∧ OwnF ((W.setCell ⟨w.heap.size + 1 + 1, 0, none⟩ (.int .i64 m')).setCell ⟨w.heap.size + 1 + 1, 1, none⟩ v) w.heap.size v k ys) := fun v k W ys m' base hW hbase ho =>
    put_box (HQ.out _ hW).2.2.2.1 (by omega) (HQ.out _ hW).2.1 (by have := HW2.out; omega) ho m'
  cases hok : okT m xs with
  | false =>
    have HAns : Hid (AddAns m xs (x, y) xs) := .inr ⟨hok, rfl⟩
    clear hok
    go_wp2_with fail
    refine (implCopy_any m a len ca xs _ (HQ.out _ HB3.out).2.2.1 (by omega)).mono ?_
    rintro e w5 ⟨v5, rfl, ho5, hb5⟩
    obtain ⟨a5, c5, rfl⟩ := ho5.shape
    have hb5' : Below w2.heap.size w2 w5 := HB3.out.trans (hb5.mono HB3.out.size)
    obtain ⟨g0, g1, g2, g3⟩ := (HQ.out _ hb5').2.1.cells
    have HF : Hid (Below w.heap.size w ((w5.setCell ⟨w.heap.size + 1 + 1, 0, none⟩ (.int .i64 m)).setCell ⟨w.heap.size + 1 + 1, 1, none⟩ (.slice a5 len c5)) ∧ Box2 ((w5.setCell ⟨w.heap.size + 1 + 1, 0, none⟩ (.int .i64 m)).setCell ⟨w.heap.size + 1 + 1, 1, none⟩ (.slice a5 len c5)) (w.heap.size + 1 + 1) 32 (.int .i64 m) (.slice a5 len c5) ∧ OwnF ((w5.setCell ⟨w.heap.size + 1 + 1, 0, none⟩ (.int .i64 m)).setCell ⟨w.heap.size + 1 + 1, 1, none⟩ (.slice a5 len c5)) w.heap.size (.slice a5 len c5) len xs) := HC.out _ _ _ _ m _ hb5' HB3.out.size ho5
    clear ho5 hb5 hb5' d0 d1 d2 d3
    go_wp2_with fail
    obtain ⟨r0, r1⟩ := ret_tab HF.out.2.1
    refine bodyPost_ret (v := .agg #[.int .i64 m, .slice a5 len c5]) (by simp [results, Tryz.f86, go_sem, r0, r1]) rfl ?_
    exact ⟨_, len, xs, rfl, HAns.out, HF.out.2.2, HF.out.1⟩
  | true =>
    obtain ⟨hfew, hz, hm0, hm1, hzm⟩ := okT_few hok
    have HOk : Hid (okT m xs = true) := hok
    clear hok
    have hxi : (x.size : Int) + (y.size : Int) ≤ 1048576 := by omega
    go_wp2_with fail
    refine (implOf4_any x y _ (by omega)).mono ?_
    rintro e w4 ⟨rfl, hb4⟩
    have HB4 : Hid (Below w2.heap.size w2 w4) := HB3.out.trans (hb4.mono HB3.out.size)
    obtain ⟨e0, e1, _, _⟩ := (HQ.out _ HB4.out).1.cells
    clear hb4 d0 d1 d2 d3
    go_wp2_with fail
    refine (ringOf_any a len ca xs _ (HQ.out _ HB4.out).2.2.1 (by omega) (by omega)).mono ?_
    rintro e w5 ⟨b, p, rfl, hbl, hR5, hb5⟩
    have HR5 : Hid (Ring w5 b p xs) := hR5
    have HB5 : Hid (Below w2.heap.size w2 w5) := HB4.out.trans (hb5.mono HB4.out.size)
    have hbl2 : w2.heap.size ≤ b := Nat.le_trans HB4.out.size hbl
    obtain ⟨d0, d1, _, _⟩ := (HQ.out _ HB5.out).1.cells
    clear hR5 hb5 e0 e1 hbl
    go_wp2_with fail
    refine (shrink_any b p xs (m - ((x.size : Int) + (y.size : Int) + 32)) _ HR5.out (by omega)).mono ?_
    rintro e w6 ⟨v6, k, rfl, hL, hR6, hg6⟩
    have HR6 : Hid (Ring w6 b p (xs.take k)) := hR6
    have HB6 : Hid (Below w2.heap.size w2 w6) := HB5.out.grown hg6 HB5.out.size (fun q e => by injection e with e; omega)
    obtain ⟨e0, e1, _, _⟩ := (HQ.out _ HB6.out).1.cells
    obtain ⟨e2, e3, _, _⟩ := (HQ.out _ HB6.out).2.2.2.2.cells
    clear hR6 hg6 d0 d1
    by_cases hle : (x.size : Int) + (y.size : Int) + 32 ≤ m
    · obtain ⟨hfit, hzk⟩ := add_fits hL hle
      have hk128 : 32 * (xs.take k).length ≤ szL (xs.take k) := by unfold szL; omega
      have HAns : Hid (AddAns m xs (x, y) ((x, y) :: xs.take k)) := .inl ⟨HOk.out, k + 1, hfit, by rw [List.take_succ_cons]⟩
      clear hL hfit
      go_wp2_with fail
      refine (push_any b p (xs.take k) x y _ HR6.out (by omega) (by omega) (by omega)).mono ?_
      rintro e w8 ⟨v8, rfl, hR8, hg8⟩
      have HR8 : Hid (Ring w8 b ((p + 127) % 128) ((x, y) :: xs.take k)) := hR8
      have HB8 : Hid (Below w2.heap.size w2 w8) := HB6.out.grown hg8 HB6.out.size (fun q e => by injection e with e; omega)
      have HSz : Hid (∀ f ∈ (x, y) :: xs.take k, f.1.size ≤ maxLen ∧ f.2.size ≤ maxLen) := by
        intro f hf'
        rcases List.mem_cons.1 hf' with rfl | h
        · exact hf
        · exact HX.out.2.1 f (List.mem_of_mem_take h)
      obtain ⟨d0, d1, _, _⟩ := (HQ.out _ HB8.out).1.cells
      clear hR8 hg8 e0 e1 e2 e3
      generalize (x, y) :: xs.take k = fs at *
      generalize (p + 127) % 128 = q at *
      have HRd : Hid (Ring w8.drew b q fs) := HR8.out
      have HBd : Hid (Below w2.heap.size w2 w8.drew) := HB8.out.drew
      have HFs : Hid (∀ f ∈ fs, f.1.size ≤ maxLen ∧ f.2.size ≤ maxLen) := HSz
      go_wp2_with fail
      go_region_with (first
        | (go_at_call 104; refine (list_any b q fs _ HRd.out HFs.out).mono ?_; rintro e w7 ⟨v7, rfl, ho7, hb7⟩; obtain ⟨a7, c7, rfl⟩ := ho7.shape; have hb7' : Below w2.heap.size w2 w7 := HBd.out.trans (hb7.mono HBd.out.size); obtain ⟨g0, g1, g2, g3⟩ := (HQ.out _ hb7').2.1.cells; obtain ⟨t0, t1, _, _⟩ := (HQ.out _ hb7').1.cells))
      all_goals
        have HF : Hid (Below w.heap.size w ((w7.setCell ⟨w.heap.size + 1 + 1, 0, none⟩ (.int .i64 m)).setCell ⟨w.heap.size + 1 + 1, 1, none⟩ (.slice a7 (List.length fs) c7)) ∧ Box2 ((w7.setCell ⟨w.heap.size + 1 + 1, 0, none⟩ (.int .i64 m)).setCell ⟨w.heap.size + 1 + 1, 1, none⟩ (.slice a7 (List.length fs) c7)) (w.heap.size + 1 + 1) 32 (.int .i64 m) (.slice a7 (List.length fs) c7) ∧ OwnF ((w7.setCell ⟨w.heap.size + 1 + 1, 0, none⟩ (.int .i64 m)).setCell ⟨w.heap.size + 1 + 1, 1, none⟩ (.slice a7 (List.length fs) c7)) w.heap.size (.slice a7 (List.length fs) c7) (List.length fs) fs) := HC.out _ _ _ _ m _ hb7' HBd.out.size ho7
        clear ho7 hb7 hb7' t0 t1
        go_wp2_with fail
        obtain ⟨r0, r1⟩ := ret_tab HF.out.2.1
        refine bodyPost_ret (v := .agg #[.int .i64 m, .slice a7 (List.length fs) c7]) (by simp [results, Tryz.f86, go_sem, r0, r1]) rfl ?_
        exact ⟨_, _, _, rfl, HAns.out, HF.out.2.2, HF.out.1⟩
    · have hlt : m < (x.size : Int) + (y.size : Int) + 32 := by omega
      obtain ⟨rfl, hfit⟩ := add_none hL hm0 hlt
      have HAns : Hid (AddAns m xs (x, y) []) := .inl ⟨HOk.out, 0, hfit, rfl⟩
      have HR7 : Hid (Ring w6 b p []) := HR6
      clear hL hfit hle
      have HRd : Hid (Ring w6.drew b p []) := HR7.out
      have HBd : Hid (Below w2.heap.size w2 w6.drew) := HB6.out.drew
      have HFs : Hid (∀ f ∈ ([] : List Fld), f.1.size ≤ maxLen ∧ f.2.size ≤ maxLen) := fun f hf => by cases hf
      go_wp2_with fail
      go_region_with (first
        | (go_at_call 104; refine (list_any b p [] _ HRd.out HFs.out).mono ?_; rintro e w7 ⟨v7, rfl, ho7, hb7⟩; obtain ⟨a7, c7, rfl⟩ := ho7.shape; have hb7' : Below w2.heap.size w2 w7 := HBd.out.trans (hb7.mono HBd.out.size); obtain ⟨g0, g1, g2, g3⟩ := (HQ.out _ hb7').2.1.cells; obtain ⟨t0, t1, _, _⟩ := (HQ.out _ hb7').1.cells))
      all_goals
        have HF : Hid (Below w.heap.size w ((w7.setCell ⟨w.heap.size + 1 + 1, 0, none⟩ (.int .i64 m)).setCell ⟨w.heap.size + 1 + 1, 1, none⟩ (.slice a7 (0) c7)) ∧ Box2 ((w7.setCell ⟨w.heap.size + 1 + 1, 0, none⟩ (.int .i64 m)).setCell ⟨w.heap.size + 1 + 1, 1, none⟩ (.slice a7 (0) c7)) (w.heap.size + 1 + 1) 32 (.int .i64 m) (.slice a7 (0) c7) ∧ OwnF ((w7.setCell ⟨w.heap.size + 1 + 1, 0, none⟩ (.int .i64 m)).setCell ⟨w.heap.size + 1 + 1, 1, none⟩ (.slice a7 (0) c7)) w.heap.size (.slice a7 (0) c7) (0) []) := HC.out _ _ _ _ m _ hb7' HBd.out.size ho7
        clear ho7 hb7 hb7' t0 t1
        go_wp2_with fail
        obtain ⟨r0, r1⟩ := ret_tab HF.out.2.1
        refine bodyPost_ret (v := .agg #[.int .i64 m, .slice a7 (0) c7]) (by simp [results, Tryz.f86, go_sem, r0, r1]) rfl ?_
        exact ⟨_, _, _, rfl, HAns.out, HF.out.2.2, HF.out.1⟩

end Go.Proofs.YtbaijmkghgnleaaGreatDoor

namespace Go.Proofs.YtbaijmkghgnleaaGreatDoor
open Go.RowKit
set_option linter.unusedVariables false

set_option maxRecDepth 10000 in
set_option maxHeartbeats 1600000 in
theorem behind_any (T : TypeId) (hT : T = 108 ∨ T = 109 ∨ T = 110 ∨ T = 111)
    (m : Int) (a : Option Addr) (len ca : Nat) (xs : List Fld) (x y : ByteArray) (w : World) (hx : Flds w a len xs) (hf : x.size ≤ maxLen ∧ y.size ≤ maxLen) (hl : len + (x.size + y.size) + fldBytes xs ≤ 1048576) :
    Calls Tryz.prog 75 #[.agg #[.int .i64 m, .slice a len ca], .iface T (.agg #[]), .agg #[.string x, .string y]] w fun e w' => ∃ v n ys, e = .returned (.agg #[.int .i64 m, v]) ∧ ((T = 110 ∧ AddAns m xs (x, y) ys) ∨ (T ≠ 110 ∧ ys = xs)) ∧ OwnF w' w.heap.size v n ys ∧ Below w.heap.size w w' := by
  have HX : Hid (Flds w a len xs) := hx
  have hlen := hx.1
  clear hx
  obtain ⟨w2, hw2⟩ : ∃ w2, ((w.alloc (.cells #[.int .i64 m, .slice a len ca] 32)).alloc (.cells #[.string x, .string y] 69)).alloc (.cells #[.int .i64 0, .slice none 0 0] 32) = w2 := ⟨_, rfl⟩
  have q1 : Box2 w2 w.heap.size 32 (.int .i64 m) (.slice a len ca) := by rw [← hw2]; exact ((Box2.new _ _ _ _).alloc _).alloc _
  have q3 : Box2 w2 (w.heap.size + 1) 69 (.string x) (.string y) := by
    rw [← hw2]
    have := (Box2.new (w.alloc (.cells #[.int .i64 m, .slice a len ca] 32)) 69 (.string x) (.string y)).alloc (.cells #[.int .i64 0, .slice none 0 0] 32)
    rwa [World.size_alloc] at this
  have q2 : Box2 w2 (w.heap.size + 1 + 1) 32 (.int .i64 0) (.slice none 0 0) := by
    rw [← hw2]
    have := Box2.new ((w.alloc (.cells #[.int .i64 m, .slice a len ca] 32)).alloc (.cells #[.string x, .string y] 69)) 32 (.int .i64 0) (.slice none 0 0)
    rwa [World.size_alloc, World.size_alloc] at this
  have HB2 : Hid (Below w.heap.size w w2) := by show Below _ _ _; rw [← hw2]; exact (((Below.refl _ _).alloc (Nat.le_refl _) _).alloc (by simp) _).alloc (by simp; omega) _
  have HW2 : Hid (w2.heap.size = w.heap.size + 3) := by show _ = _; rw [← hw2]; simp
  have HQ : Hid (∀ W, Below w2.heap.size w2 W → Box2 W w.heap.size 32 (.int .i64 m) (.slice a len ca) ∧ Box2 W (w.heap.size + 1 + 1) 32 (.int .i64 0) (.slice none 0 0) ∧ Flds W a len xs ∧ Below w.heap.size w W ∧ Box2 W (w.heap.size + 1) 69 (.string x) (.string y)) := fun W h =>
    have hb := HB2.out.trans (h.mono HB2.out.size)
    ⟨q1.stays h, q2.stays h, HX.out.below hb, hb, q3.stays h⟩
  have HC : Hid (∀ (v : Value) (k : Nat) (W : World) (ys : List Fld) (m' : Int) (base : Nat), Below w2.heap.size w2 W → w2.heap.size ≤ base → OwnF W base v k ys → Below w.heap.size w ((W.setCell ⟨w.heap.size + 1 + 1, 0, none⟩ (.int .i64 m')).setCell ⟨w.heap.size + 1 + 1, 1, none⟩ v) ∧ Box2 ((W.setCell ⟨w.heap.size + 1 + 1, 0, none⟩ (.int .i64 m')).setCell ⟨w.heap.size + 1 + 1, 1, none⟩ v) (w.heap.size + 1 + 1) 32 (.int .i64 m') v ∧ OwnF ((W.setCell ⟨w.heap.size + 1 + 1, 0, none⟩ (.int .i64 m')).setCell ⟨w.heap.size + 1 + 1, 1, none⟩ v) w.heap.size v k ys) := fun v k W ys m' base hW hbase ho =>
    put_box (HQ.out _ hW).2.2.2.1 (by omega) (HQ.out _ hW).2.1 (by have := HW2.out; omega) ho m'
  obtain ⟨c0, c1, _, _⟩ := q1.cells
  obtain ⟨c2, c3, _, _⟩ := q3.cells
  clear q1 q2 q3
  by_cases hadd : T = 110
  · subst hadd
    have hta : ∀ w : World, (Instr.typeAssert (.iface 110 (.agg #[])) 96 110 true).run Tryz.prog w = .ok (.tuple #[.agg #[], .bool true]) w := fun w => assert_yes Tryz.underlying110 w
    clear hT
    go_enter Tryz.func75, Tryz.ntmps75
    go_wp2_with fail
    refine (implAddF_any m a len ca xs x y _ (HQ.out _ (Below.refl _ _)).2.2.1 hf hl).mono ?_
    rintro e w5 ⟨v5, n5, ys, rfl, hans, ho5, hb5⟩
    have HAns : Hid (AddAns m xs (x, y) ys) := hans
    obtain ⟨a5, c5, rfl⟩ := ho5.shape
    have HF : Hid _ := HC.out _ _ _ _ m _ hb5 (Nat.le_refl _) ho5
    obtain ⟨g0, g1, g2, g3⟩ := (HQ.out _ hb5).2.1.cells
    clear hans ho5 hb5 c0 c1 c2 c3 hw2
    go_wp2_with fail
    obtain ⟨r0, r1⟩ := ret_tab HF.out.2.1
    refine bodyPost_ret (v := .agg #[.int .i64 m, .slice a5 n5 c5]) (by simp [results, Tryz.f75, go_sem, r0, r1]) rfl ?_
    exact ⟨_, n5, ys, rfl, by first | exact .inl ⟨trivial, HAns.out⟩ | exact .inl ⟨rfl, HAns.out⟩, HF.out.2.2, HF.out.1⟩
  · have hne : T ≠ 110 := hadd
    have hta : ∀ w : World, (Instr.typeAssert (.iface T (.agg #[])) 96 110 true).run Tryz.prog w = .ok (.tuple #[.agg #[], .bool false]) w := fun w => assert_no Tryz.underlying110 (by kernel_rfl) hne w
    clear hT hadd
    go_enter Tryz.func75, Tryz.ntmps75
    go_wp2_with fail
    refine (implCopy_any m a len ca xs _ (HQ.out _ (Below.refl _ _)).2.2.1 (by omega)).mono ?_
    rintro e w5 ⟨v5, rfl, ho5, hb5⟩
    obtain ⟨a5, c5, rfl⟩ := ho5.shape
    have HF : Hid _ := HC.out _ _ _ _ m _ hb5 (Nat.le_refl _) ho5
    obtain ⟨g0, g1, g2, g3⟩ := (HQ.out _ hb5).2.1.cells
    clear ho5 hb5 c0 c1 c2 c3 hw2
    go_wp2_with fail
    obtain ⟨r0, r1⟩ := ret_tab HF.out.2.1
    refine bodyPost_ret (v := .agg #[.int .i64 m, .slice a5 len c5]) (by simp [results, Tryz.f75, go_sem, r0, r1]) rfl ?_
    exact ⟨_, len, xs, rfl, .inr ⟨hne, rfl⟩, HF.out.2.2, HF.out.1⟩

end Go.Proofs.YtbaijmkghgnleaaGreatDoor
