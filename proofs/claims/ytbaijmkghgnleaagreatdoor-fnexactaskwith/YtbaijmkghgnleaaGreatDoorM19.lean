/- The program's copy of a table, by the library's Clone. What a table needs where it is cut: lemmas. -/
import Derived.Lib.SliceRun
import Derived.Deep.RegionWith
import Derived.Test.YtbaijmkghgnleaaGreatDoorM14
import Derived.Test.YtbaijmkghgnleaaGreatDoorM10
import Derived.Test.YtbaijmkghgnleaaGreatDoorM17
import Derived.Test.YtbaijmkghgnleaaGreatDoorM18
namespace Go.Proofs.YtbaijmkghgnleaaGreatDoor
open Go.RowKit
set_option linter.unusedVariables false

set_option maxRecDepth 10000 in
set_option maxHeartbeats 1600000 in
theorem clone4_any (a : Option Addr) (len ca : Nat) (xs : List Fld) (w : World) (hx : Flds w a len xs) (hl : len ≤ 2097152) :
    Calls Tryz.prog 55 #[.slice a len ca] w fun e w' => ∃ a' ca', e = .returned (.slice a' len ca') ∧ OwnF w' w.heap.size (.slice a' len ca') len xs ∧ Below w.heap.size w w' := by
  cases a with
  | none =>
    obtain rfl : len = 0 := hx.none_nil rfl
    obtain rfl : xs = [] := List.eq_nil_of_length_eq_zero hx.1
    clear hx
    have qT : ∀ (w : World) (a : Option Addr) (n c n' c' : Nat), (binOp .eql 30 (.slice a n c) (.slice none n' c')).run Tryz.prog w = .ok (.bool a.isNone) w := fun w a n c n' c' => Lib.run_eql_slice_nil w _ _ a n c n' c' Tryz.underlying30
    go_enter Tryz.func55, Tryz.ntmps55
    go_wp2
    go_ret
    exact ⟨none, 0, rfl, ⟨World.ownsRow_nil _ _ _ _, fun f hf => by cases hf⟩, Below.refl _ _⟩
  | some ad =>
    obtain ⟨i0, hi, hz0, hz1, hz2⟩ := info_parts info_field
    have HX : Hid (Flds w (some ad) len xs) := hx
    have hlen := hx.1
    clear hx
    have qT : ∀ (w : World) (a : Option Addr) (n c n' c' : Nat), (binOp .eql 30 (.slice a n c) (.slice none n' c')).run Tryz.prog w = .ok (.bool a.isNone) w := fun w a n c n' c' => Lib.run_eql_slice_nil w _ _ a n c n' c' Tryz.underlying30
    have HF1 : Hid (Flds (w.alloc (.cells #[] 69)) (some ad) len xs) := HX.out.below ((Below.refl _ _).alloc (Nat.le_refl _) _)
    have HO1 : Hid ((w.alloc (.cells #[] 69)).ownsRow w.heap.size 69 2 (.slice (some ⟨w.heap.size, 0, none⟩) 0 0) 0 []) := World.ownsRow_lit w #[] 0 (Nat.le_refl _) (Nat.zero_le _) rfl
    have HA : Hid (0 + len ≤ maxLen ∧ (0 + len) * 32 ≤ 140737488355328 ∧ (fieldCells xs).length = len * 2) := ⟨by unfold maxLen; omega, by omega, by rw [fieldCells_len]; omega⟩
    go_enter Tryz.func55, Tryz.ntmps55
    go_wp2_with (first | (refine wpList_plain rfl fun K hK => ?_; refine wp_append_src (.tmp 5) (.tmp 6) 30 rfl w.heap.size 69 i0 (.agg #[.string ⟨#[]⟩, .string ⟨#[]⟩]) 2 32 Tryz.underlying30 hi hz0 hz1 hz2 rfl (by decide) w.heap.size 0 0 [] rfl HO1.out (some ad) len ca (fieldCells xs) rfl (fun h => by cases h) HA.out.2.2 HF1.out.cells (fieldCells_one xs) HA.out.1 HA.out.2.1 (by simp) ?_; intro v4 w4 hown hgrow; obtain ⟨a4, cap4, rfl⟩ := own_shape hown; refine hK _ _ ?_) | fail)
    have HB4 : Hid (Below w.heap.size w w4) := ((Below.refl _ _).alloc (Nat.le_refl _) _).grown hgrow (by simp) (by simp)
    have HO4 : Hid (OwnF w4 w.heap.size (.slice a4 len cap4) len xs) := by
      refine ⟨?_, HX.out.2.1⟩
      have := hown
      rw [Nat.zero_add, List.nil_append] at this
      exact this
    clear hown hgrow
    go_ret
    exact ⟨a4, cap4, rfl, HO4.out, HB4.out⟩

set_option maxRecDepth 10000 in
set_option maxHeartbeats 1600000 in
theorem implCopy_any (m : Int) (a : Option Addr) (len ca : Nat) (xs : List Fld) (w : World) (hx : Flds w a len xs) (hl : len ≤ 2097152) :
    Calls Tryz.prog 31 #[.agg #[.int .i64 m, .slice a len ca]] w fun e w' => ∃ v, e = .returned (.agg #[.int .i64 m, v]) ∧ OwnF w' w.heap.size v len xs ∧ Below w.heap.size w w' := by
  have HX : Hid (Flds w a len xs) := hx
  clear hx
  go_enter Tryz.func31, Tryz.ntmps31
  go_wp2_with fail
  obtain ⟨w2, hw2⟩ : ∃ w2, (w.alloc (.cells #[.int .i64 m, .slice a len ca] 32)).alloc (.cells #[.int .i64 0, .slice none 0 0] 32) = w2 := ⟨_, rfl⟩
  have q1 : Box2 w2 w.heap.size 32 (.int .i64 m) (.slice a len ca) := by rw [← hw2]; exact (Box2.new _ _ _ _).alloc _
  have q2 : Box2 w2 (w.heap.size + 1) 32 (.int .i64 0) (.slice none 0 0) := by
    rw [← hw2]
    have := Box2.new (w.alloc (.cells #[.int .i64 m, .slice a len ca] 32)) 32 (.int .i64 0) (.slice none 0 0)
    rwa [World.size_alloc] at this
  have HB2 : Hid (Below w.heap.size w w2) := by show Below _ _ _; rw [← hw2]; exact ((Below.refl _ _).alloc (Nat.le_refl _) _).alloc (by simp) _
  have HW2 : Hid (w2.heap.size = w.heap.size + 2) := by show _ = _; rw [← hw2]; simp
  have HQ : Hid (∀ W, Below w2.heap.size w2 W → Box2 W w.heap.size 32 (.int .i64 m) (.slice a len ca) ∧ Box2 W (w.heap.size + 1) 32 (.int .i64 0) (.slice none 0 0)) := fun W h => ⟨q1.stays h, q2.stays h⟩
  rw [hw2]
  clear hw2
  obtain ⟨c0, c1, _, _⟩ := q1.cells
  clear q1 q2
  go_region_with (first
    | (go_at_call 55; refine (clone4_any a len ca xs _ (HX.out.below HB2.out.drew) hl).mono ?_; rintro e w4 ⟨a4, cap4, rfl, hown, hb4⟩; have hb4' : Below w2.heap.size w2 w4 := (Below.refl w2.heap.size w2).drew.trans (hb4.mono (Nat.le_refl _)); obtain ⟨e0, e1, _, _⟩ := (HQ.out _ hb4').1.cells; obtain ⟨g0, g1, g2, g3⟩ := (HQ.out _ hb4').2.cells))
  all_goals
    have h2 := HW2.out
    have HO4 : Hid (OwnF ((w4.setCell ⟨w.heap.size + 1, 0, none⟩ (.int .i64 m)).setCell ⟨w.heap.size + 1, 1, none⟩ (.slice a4 len cap4)) w.heap.size (.slice a4 len cap4) len xs ∧ Below w.heap.size w ((w4.setCell ⟨w.heap.size + 1, 0, none⟩ (.int .i64 m)).setCell ⟨w.heap.size + 1, 1, none⟩ (.slice a4 len cap4))) := by
      have hb : Below w.heap.size w w4 := HB2.out.trans (hb4'.mono HB2.out.size)
      have := put_box hb (by omega) (HQ.out _ hb4').2 (base := w2.drew.heap.size) (by show _ < w2.heap.size; omega) hown m
      exact ⟨this.2.2, this.1⟩
    clear hown hb4 hb4' h2
    go_wp2
    refine bodyPost_ret (v := .agg #[.int .i64 m, .slice a4 len cap4]) (by simp [results, Tryz.f31, go_sem, g0, g1]) rfl ?_
    exact ⟨_, rfl, HO4.out.1, HO4.out.2⟩

end Go.Proofs.YtbaijmkghgnleaaGreatDoor

namespace Go.Proofs.YtbaijmkghgnleaaGreatDoor
open Go.RowKit
set_option linter.unusedVariables false

theorem okT_few {m : Int} {xs : List Fld} (h : okT m xs = true) : xs.length ≤ 128 ∧ szL xs ≤ 4096 ∧ 0 ≤ m ∧ m ≤ 4096 ∧ (szL xs : Int) ≤ m := by
  have h1 : 0 ≤ m ∧ m ≤ 4096 ∧ (szL xs : Int) ≤ m := of_decide_eq_true h
  have h2 : 32 * xs.length ≤ szL xs := by unfold szL; omega
  omega

theorem Left.fit {n : Int} {xs : List Fld} {k : Nat} (h : Left n xs k) (h0 : 0 ≤ n) : FitN n.toNat xs k := by
  obtain ⟨h1, h2, h3⟩ := h
  refine ⟨h1, ?_, ?_⟩
  · rcases h2 with rfl | h2
    · simp [szL, fldBytes]
    · omega
  · rcases h3 with h3 | h3
    · exact .inl h3
    · exact .inr (by omega)

theorem ret_tab {w : World} {b : Nat} {t : TypeId} {x y : Value} (h : Box2 w b t x y) : w.cell? ⟨b, 0, none⟩ = some x ∧ w.cell? ⟨b, 1, none⟩ = some y := ⟨h.cells.1, h.cells.2.1⟩

end Go.Proofs.YtbaijmkghgnleaaGreatDoor
