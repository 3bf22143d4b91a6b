/- The table behind a field in a form. -/
import Derived.Test.YtcicboolbeognalFormPut
import Derived.Test.YtcicboolbeognalTimAdd
namespace Go.Proofs.Ytcicboolbeognal
open Go.RowKit
set_option linter.unusedVariables false

set_option maxRecDepth 10000 in
set_option maxHeartbeats 1600000 in
theorem behind_any (T : TypeId) (hT : T = 125 ∨ T = 126 ∨ T = 127 ∨ T = 128)
    (m : Int) (a : Option Addr) (len ca : Nat) (xs : List Fld) (x y : ByteArray) (w : World) (hx : Flds w a len xs) (hf : x.size ≤ maxLen ∧ y.size ≤ maxLen) (hl : len + (x.size + y.size) + fldBytes xs ≤ 1048576) :
    Calls Try.prog 60 #[.agg #[.int .i64 m, .slice a len ca], .iface T (.agg #[]), .agg #[.string x, .string y]] w fun e w' => ∃ v n ys, e = .returned (.agg #[.int .i64 m, v]) ∧ ((T = 127 ∧ AddAns m xs (x, y) ys) ∨ (T ≠ 127 ∧ ys = xs)) ∧ OwnF w' w.heap.size v n ys ∧ Below w.heap.size w w' := by
  have HX : Hid (Flds w a len xs) := hx
  have hlen := hx.1
  clear hx
  obtain ⟨w2, hw2⟩ : ∃ w2, ((w.alloc (.cells #[.int .i64 m, .slice a len ca] 40)).alloc (.cells #[.string x, .string y] 44)).alloc (.cells #[.int .i64 0, .slice none 0 0] 40) = w2 := ⟨_, rfl⟩
  have q1 : Box2 w2 w.heap.size 40 (.int .i64 m) (.slice a len ca) := by rw [← hw2]; exact ((Box2.new _ _ _ _).alloc _).alloc _
  have q3 : Box2 w2 (w.heap.size + 1) 44 (.string x) (.string y) := by
    rw [← hw2]
    have := (Box2.new (w.alloc (.cells #[.int .i64 m, .slice a len ca] 40)) 44 (.string x) (.string y)).alloc (.cells #[.int .i64 0, .slice none 0 0] 40)
    rwa [World.size_alloc] at this
  have q2 : Box2 w2 (w.heap.size + 1 + 1) 40 (.int .i64 0) (.slice none 0 0) := by
    rw [← hw2]
    have := Box2.new ((w.alloc (.cells #[.int .i64 m, .slice a len ca] 40)).alloc (.cells #[.string x, .string y] 44)) 40 (.int .i64 0) (.slice none 0 0)
    rwa [World.size_alloc, World.size_alloc] at this
  have HB2 : Hid (Below w.heap.size w w2) := by show Below _ _ _; rw [← hw2]; exact (((Below.refl _ _).alloc (Nat.le_refl _) _).alloc (by simp) _).alloc (by simp; omega) _
  have HW2 : Hid (w2.heap.size = w.heap.size + 3) := by show _ = _; rw [← hw2]; simp
  have HQ : Hid (∀ W, Below w2.heap.size w2 W → Box2 W w.heap.size 40 (.int .i64 m) (.slice a len ca) ∧ Box2 W (w.heap.size + 1 + 1) 40 (.int .i64 0) (.slice none 0 0) ∧ Flds W a len xs ∧ Below w.heap.size w W ∧ Box2 W (w.heap.size + 1) 44 (.string x) (.string y)) := fun W h =>
    have hb := HB2.out.trans (h.mono HB2.out.size)
    ⟨q1.stays h, q2.stays h, HX.out.below hb, hb, q3.stays h⟩
  have HC : Hid (∀ (v : Value) (k : Nat) (W : World) (ys : List Fld) (m' : Int) (base : Nat), Below w2.heap.size w2 W → w2.heap.size ≤ base → OwnF W base v k ys → Below w.heap.size w ((W.setCell ⟨w.heap.size + 1 + 1, 0, none⟩ (.int .i64 m')).setCell ⟨w.heap.size + 1 + 1, 1, none⟩ v) ∧ Box2 ((W.setCell ⟨w.heap.size + 1 + 1, 0, none⟩ (.int .i64 m')).setCell ⟨w.heap.size + 1 + 1, 1, none⟩ v) (w.heap.size + 1 + 1) 40 (.int .i64 m') v ∧ OwnF ((W.setCell ⟨w.heap.size + 1 + 1, 0, none⟩ (.int .i64 m')).setCell ⟨w.heap.size + 1 + 1, 1, none⟩ v) w.heap.size v k ys) := fun v k W ys m' base hW hbase ho =>
    put_box (HQ.out _ hW).2.2.2.1 (by omega) (HQ.out _ hW).2.1 (by have := HW2.out; omega) ho m'
  obtain ⟨c0, c1, _, _⟩ := q1.cells
  obtain ⟨c2, c3, _, _⟩ := q3.cells
  clear q1 q2 q3
  by_cases hadd : T = 127
  · subst hadd
    have hta : ∀ w : World, (Instr.typeAssert (.iface 127 (.agg #[])) 82 127 true).run Try.prog w = .ok (.tuple #[.agg #[], .bool true]) w := fun w => assert_yes Try.underlying127 w
    clear hT
    go_enter Try.func60, Try.ntmps60
    go_wp2_with fail
    refine (implAddF_any m a len ca xs x y _ (HQ.out _ (Below.refl _ _)).2.2.1 hf hl).mono ?_
    rintro e w5 ⟨v5, n5, ys, rfl, hans, ho5, hb5⟩
    have HAns : Hid (AddAns m xs (x, y) ys) := hans
    obtain ⟨a5, c5, rfl⟩ := ho5.shape
    have HF : Hid _ := HC.out _ _ _ _ m _ hb5 (Nat.le_refl _) ho5
    obtain ⟨g0, g1, g2, g3⟩ := (HQ.out _ hb5).2.1.cells
    clear hans ho5 hb5 c0 c1 c2 c3 hw2
    go_wp2_with fail
    obtain ⟨r0, r1⟩ := ret_tab HF.out.2.1
    refine bodyPost_ret (v := .agg #[.int .i64 m, .slice a5 n5 c5]) (by simp [results, Try.f60, go_sem, r0, r1]) rfl ?_
    exact ⟨_, n5, ys, rfl, by first | exact .inl ⟨trivial, HAns.out⟩ | exact .inl ⟨rfl, HAns.out⟩, HF.out.2.2, HF.out.1⟩
  · have hne : T ≠ 127 := hadd
    have hta : ∀ w : World, (Instr.typeAssert (.iface T (.agg #[])) 82 127 true).run Try.prog w = .ok (.tuple #[.agg #[], .bool false]) w := fun w => assert_no Try.underlying127 (by kernel_rfl) hne w
    clear hT hadd
    go_enter Try.func60, Try.ntmps60
    go_wp2_with fail
    refine (implCopy_any m a len ca xs _ (HQ.out _ (Below.refl _ _)).2.2.1 (by omega)).mono ?_
    rintro e w5 ⟨v5, rfl, ho5, hb5⟩
    obtain ⟨a5, c5, rfl⟩ := ho5.shape
    have HF : Hid _ := HC.out _ _ _ _ m _ hb5 (Nat.le_refl _) ho5
    obtain ⟨g0, g1, g2, g3⟩ := (HQ.out _ hb5).2.1.cells
    clear ho5 hb5 c0 c1 c2 c3 hw2
    go_wp2_with fail
    obtain ⟨r0, r1⟩ := ret_tab HF.out.2.1
    refine bodyPost_ret (v := .agg #[.int .i64 m, .slice a5 len c5]) (by simp [results, Try.f60, go_sem, r0, r1]) rfl ?_
    exact ⟨_, len, xs, rfl, .inr ⟨hne, rfl⟩, HF.out.2.2, HF.out.1⟩

end Go.Proofs.Ytcicboolbeognal
