/- The table behind a field in a form. The program's FindField. -/
import Derived.Test.YtghakpcagacdaalM15
import Derived.Test.YtghakpcagacdaalM28
import Derived.Maps.OwnOps
import Derived.Maps.OwnSet
import Derived.Test.YtghakpcagacdaalM23
import Derived.Test.YtghakpcagacdaalM14
namespace Go.Proofs.Ytghakpcagacdaal
open Go.RowKit
set_option linter.unusedVariables false

set_option maxRecDepth 10000 in
set_option maxHeartbeats 1600000 in
theorem behind_any (T : TypeId) (hT : T = 125 ∨ T = 126 ∨ T = 127 ∨ T = 128)
    (m : Int) (a : Option Addr) (len ca : Nat) (xs : List Fld) (x y : ByteArray) (w : World) (hx : Flds w a len xs) (hf : x.size ≤ maxLen ∧ y.size ≤ maxLen) (hl : len + (x.size + y.size) + fldBytes xs ≤ 1048576) :
    Calls Try.prog 60 #[.agg #[.int .i64 m, .slice a len ca], .iface T (.agg #[]), .agg #[.string x, .string y]] w fun e w' => ∃ v n ys, e = .returned (.agg #[.int .i64 m, v]) ∧ ((T = 127 ∧ AddAns m xs (x, y) ys) ∨ (T ≠ 127 ∧ ys = xs)) ∧ OwnF w' w.heap.size v n ys ∧ Below w.heap.size w w' := by
  have HX : Hid (Flds w a len xs) := hx
  have hlen := hx.1
  clear hx
  obtain ⟨w2, hw2⟩ : ∃ w2, ((w.alloc (.cells #[.int .i64 m, .slice a len ca] 40)).alloc (.cells #[.string x, .string y] 44)).alloc (.cells #[.int .i64 0, .slice none 0 0] 40) = w2 := ⟨_, rfl⟩
  have q1 : Box2 w2 w.heap.size 40 (.int .i64 m) (.slice a len ca) := by rw [← hw2]; exact ((Box2.new _ _ _ _).alloc _).alloc _
  have q3 : Box2 w2 (w.heap.size + 1) 44 (.string x) (.string y) := by
    rw [← hw2]
    have := (Box2.new (w.alloc (.cells #[.int .i64 m, .slice a len ca] 40)) 44 (.string x) (.string y)).alloc (.cells #[.int .i64 0, .slice none 0 0] 40)
    rwa [World.size_alloc] at this
  have q2 : Box2 w2 (w.heap.size + 1 + 1) 40 (.int .i64 0) (.slice none 0 0) := by
    rw [← hw2]
    have := Box2.new ((w.alloc (.cells #[.int .i64 m, .slice a len ca] 40)).alloc (.cells #[.string x, .string y] 44)) 40 (.int .i64 0) (.slice none 0 0)
    rwa [World.size_alloc, World.size_alloc] at this
  have HB2 : Hid (Below w.heap.size w w2) := by show Below _ _ _; rw [← hw2]; exact (((Below.refl _ _).alloc (Nat.le_refl _) _).alloc (by simp) _).alloc (by simp; omega) _
  have HW2 : Hid (w2.heap.size = w.heap.size + 3) := by show _ = _; rw [← hw2]; simp
  have HQ : Hid (∀ W, Below w2.heap.size w2 W → Box2 W w.heap.size 40 (.int .i64 m) (.slice a len ca) ∧ Box2 W (w.heap.size + 1 + 1) 40 (.int .i64 0) (.slice none 0 0) ∧ Flds W a len xs ∧ Below w.heap.size w W ∧ Box2 W (w.heap.size + 1) 44 (.string x) (.string y)) := fun W h =>
    have hb := HB2.out.trans (h.mono HB2.out.size)
    ⟨q1.stays h, q2.stays h, HX.out.below hb, hb, q3.stays h⟩
  have HC : Hid (∀ (v : Value) (k : Nat) (W : World) (ys : List Fld) (m' : Int) (base : Nat), Below w2.heap.size w2 W → w2.heap.size ≤ base → OwnF W base v k ys → Below w.heap.size w ((W.setCell ⟨w.heap.size + 1 + 1, 0, none⟩ (.int .i64 m')).setCell ⟨w.heap.size + 1 + 1, 1, none⟩ v) ∧ Box2 ((W.setCell ⟨w.heap.size + 1 + 1, 0, none⟩ (.int .i64 m')).setCell ⟨w.heap.size + 1 + 1, 1, none⟩ v) (w.heap.size + 1 + 1) 40 (.int .i64 m') v ∧ OwnF ((W.setCell ⟨w.heap.size + 1 + 1, 0, none⟩ (.int .i64 m')).setCell ⟨w.heap.size + 1 + 1, 1, none⟩ v) w.heap.size v k ys) := fun v k W ys m' base hW hbase ho =>
    put_box (HQ.out _ hW).2.2.2.1 (by omega) (HQ.out _ hW).2.1 (by have := HW2.out; omega) ho m'
  obtain ⟨c0, c1, _, _⟩ := q1.cells
  obtain ⟨c2, c3, _, _⟩ := q3.cells
  clear q1 q2 q3
  by_cases hadd : T = 127
  · subst hadd
    have hta : ∀ w : World, (Instr.typeAssert (.iface 127 (.agg #[])) 82 127 true).run Try.prog w = .ok (.tuple #[.agg #[], .bool true]) w := fun w => assert_yes Try.underlying127 w
    clear hT
    go_enter Try.func60, Try.ntmps60
    go_wp2_with fail
    refine (implAddF_any m a len ca xs x y _ (HQ.out _ (Below.refl _ _)).2.2.1 hf hl).mono ?_
    rintro e w5 ⟨v5, n5, ys, rfl, hans, ho5, hb5⟩
    have HAns : Hid (AddAns m xs (x, y) ys) := hans
    obtain ⟨a5, c5, rfl⟩ := ho5.shape
    have HF : Hid _ := HC.out _ _ _ _ m _ hb5 (Nat.le_refl _) ho5
    obtain ⟨g0, g1, g2, g3⟩ := (HQ.out _ hb5).2.1.cells
    clear hans ho5 hb5 c0 c1 c2 c3 hw2
    go_wp2_with fail
    obtain ⟨r0, r1⟩ := ret_tab HF.out.2.1
    refine bodyPost_ret (v := .agg #[.int .i64 m, .slice a5 n5 c5]) (by simp [results, Try.f60, go_sem, r0, r1]) rfl ?_
    exact ⟨_, n5, ys, rfl, by first | exact .inl ⟨trivial, HAns.out⟩ | exact .inl ⟨rfl, HAns.out⟩, HF.out.2.2, HF.out.1⟩
  · have hne : T ≠ 127 := hadd
    have hta : ∀ w : World, (Instr.typeAssert (.iface T (.agg #[])) 82 127 true).run Try.prog w = .ok (.tuple #[.agg #[], .bool false]) w := fun w => assert_no Try.underlying127 (by kernel_rfl) hne w
    clear hT hadd
    go_enter Try.func60, Try.ntmps60
    go_wp2_with fail
    refine (implCopy_any m a len ca xs _ (HQ.out _ (Below.refl _ _)).2.2.1 (by omega)).mono ?_
    rintro e w5 ⟨v5, rfl, ho5, hb5⟩
    obtain ⟨a5, c5, rfl⟩ := ho5.shape
    have HF : Hid _ := HC.out _ _ _ _ m _ hb5 (Nat.le_refl _) ho5
    obtain ⟨g0, g1, g2, g3⟩ := (HQ.out _ hb5).2.1.cells
    clear ho5 hb5 c0 c1 c2 c3 hw2
    go_wp2_with fail
    obtain ⟨r0, r1⟩ := ret_tab HF.out.2.1
    refine bodyPost_ret (v := .agg #[.int .i64 m, .slice a5 len c5]) (by simp [results, Try.f60, go_sem, r0, r1]) rfl ?_
    exact ⟨_, len, xs, rfl, .inr ⟨hne, rfl⟩, HF.out.2.2, HF.out.1⟩

end Go.Proofs.Ytghakpcagacdaal

namespace Go.Proofs.Ytghakpcagacdaal
open Go.RowKit
set_option linter.unusedVariables false

theorem find_both {L : List Fld} {f : Fld} {i : Nat} (h1 : L[i]? = some f) (h2 : ∀ i', 0 ≤ i' → i' < i → L[i']? ≠ some f) : FindAns L f ((i : Int) + 1) true :=
  .inl ⟨rfl, i, h1, fun j hj => h2 j (Nat.zero_le _) hj, rfl⟩

theorem find_name {L : List Fld} {f : Fld} {i : Nat} (h0 : ∀ i, 0 ≤ i → L[i]? ≠ some f) (h1 : (L.map (·.1))[i]? = some f.1) (h2 : ∀ i', 0 ≤ i' → i' < i → (L.map (·.1))[i']? ≠ some f.1) : FindAns L f ((i : Int) + 1) false := by
  refine .inr ⟨rfl, fun j => h0 j (Nat.zero_le _), .inl ?_⟩
  rw [List.getElem?_map] at h1
  obtain ⟨g, hg, e⟩ := Option.map_eq_some_iff.1 h1
  refine ⟨i, g, hg, e, fun j g' hj hg' e' => h2 j (Nat.zero_le _) hj ?_, rfl⟩
  rw [List.getElem?_map, hg', ← e']
  rfl

theorem find_none {L : List Fld} {f : Fld} (h0 : ∀ i, 0 ≤ i → L[i]? ≠ some f) (h1 : ∀ i, 0 ≤ i → (L.map (·.1))[i]? ≠ some f.1) : FindAns L f 0 false := by
  refine .inr ⟨rfl, fun j => h0 j (Nat.zero_le _), .inr ⟨fun j g' hg' e' => h1 j (Nat.zero_le _) ?_, rfl⟩⟩
  rw [List.getElem?_map, hg', ← e']
  rfl

set_option maxRecDepth 10000 in
set_option maxHeartbeats 1600000 in
theorem implFind_any (m : Int) (a : Option Addr) (len ca : Nat) (xs : List Fld) (x y : ByteArray) (w : World) (hx : Flds w a len xs) (hl : len ≤ 2097152) (hxy : x.size ≤ maxLen ∧ y.size ≤ maxLen) :
    Calls Try.prog 57 #[.agg #[.int .i64 m, .slice a len ca], .agg #[.string x, .string y]] w fun e w' => ∃ i b, e = .returned (.tuple #[.int .i64 i, .bool b]) ∧ FindAns (firstL ++ xs) (x, y) i b ∧ Below w.heap.size w w' := by
  have HX : Hid (Flds w a len xs) := hx
  have hkey1 := key_field (x, y) hxy
  have hkey2 : keyOf Try.prog 9 (.string x) = some (litT x) := WideMaps.keyOf_string_mk Try.underlying9 hxy.1
  clear hx
  obtain ⟨w2, hw2⟩ : ∃ w2, (w.alloc (.cells #[.int .i64 m, .slice a len ca] 40)).alloc (.cells #[.string x, .string y] 44) = w2 := ⟨_, rfl⟩
  have q1 : Box2 w2 w.heap.size 40 (.int .i64 m) (.slice a len ca) := by rw [← hw2]; exact (Box2.new _ _ _ _).alloc _
  have q2 : Box2 w2 (w.heap.size + 1) 44 (.string x) (.string y) := by
    rw [← hw2]
    have := Box2.new (w.alloc (.cells #[.int .i64 m, .slice a len ca] 40)) 44 (.string x) (.string y)
    rwa [World.size_alloc] at this
  have HB2 : Hid (Below w.heap.size w w2) := by show Below _ _ _; rw [← hw2]; exact ((Below.refl _ _).alloc (Nat.le_refl _) _).alloc (by simp) _
  obtain ⟨c0, c1, _, _⟩ := q1.cells
  go_enter Try.func57, Try.ntmps57
  go_wp2_with fail
  refine (numbers_any m a len ca xs _ (HX.out.below HB2.out) hl).mono ?_
  rintro e w3 ⟨b1, b2, D1, D2, rfl, o1, o2, n1, n2, hb3⟩
  have hB3 : Below w.heap.size w w3 := HB2.out.trans (hb3.mono HB2.out.size)
  obtain ⟨d0, d1, _, _⟩ := (q2.stays hb3).cells
  clear hw2 q1 q2 hb3 c0 c1
  rcases n1.2 (x, y) hxy with ⟨i, _, hi1, hi2, hi3, hi4⟩ | ⟨hi1, hi2, hi3⟩
  · have hans := find_both hi1 hi2
    go_wp2_with (first
      | (at_lookup; refine wpList_lookup_own_ok_int _ rfl _ _ 120 rfl 44 3 .i64 field_keyed Try.underlying120 Try.underlying3 (by simp [go_sem]) b1 2097300 D1 rfl o1 _ (litF (x, y)) rfl hkey1 ?_; intro c hat hwc; rw [hi4] at hat; rw [hi3]; injection hat with hat; injection hat with _ hat; subst hat)
      | fail)
    refine bodyPost_ret (v := .tuple #[.int .i64 ((i : Int) + 1), .bool true]) (by simp [results, Try.f57, go_sem]) rfl ?_
    exact ⟨_, .inr ⟨rfl, hans, hB3⟩⟩
  · rcases n2.2 x hxy.1 with ⟨i, _, hj1, hj2, hj3, hj4⟩ | ⟨hj1, hj2, hj3⟩
    · have hans := find_name hi1 hj1 hj2
      go_wp2_with (first
        | (at_lookup; refine wpList_lookup_own_ok_int _ rfl _ _ 120 rfl 44 3 .i64 field_keyed Try.underlying120 Try.underlying3 (by simp [go_sem]) b1 2097300 D1 rfl o1 _ (litF (x, y)) rfl hkey1 ?_; intro c hat hwc; rw [hi3] at hat; rw [hi2]; injection hat with hat; injection hat with _ hat; subst hat)
        | (at_lookup; refine wpList_lookup_own_int _ rfl _ _ 121 rfl 9 3 .i64 text_keyed Try.underlying121 Try.underlying3 (by simp [go_sem]) b2 2097300 D2 rfl o2 _ (litT x) rfl hkey2 ?_; intro c hat hwc; rw [hj4] at hat; injection hat with hat; injection hat with _ hat; subst hat)
        | fail)
      refine bodyPost_ret (v := .tuple #[.int .i64 ((i : Int) + 1), .bool false]) (by simp [results, Try.f57, go_sem]) rfl ?_
      exact ⟨_, .inl ⟨rfl, hans, hB3⟩⟩
    · have hans := find_none hi1 hj1
      go_wp2_with (first
        | (at_lookup; refine wpList_lookup_own_ok_int _ rfl _ _ 120 rfl 44 3 .i64 field_keyed Try.underlying120 Try.underlying3 (by simp [go_sem]) b1 2097300 D1 rfl o1 _ (litF (x, y)) rfl hkey1 ?_; intro c hat hwc; rw [hi3] at hat; rw [hi2]; injection hat with hat; injection hat with _ hat; subst hat)
        | (at_lookup; refine wpList_lookup_own_int _ rfl _ _ 121 rfl 9 3 .i64 text_keyed Try.underlying121 Try.underlying3 (by simp [go_sem]) b2 2097300 D2 rfl o2 _ (litT x) rfl hkey2 ?_; intro c hat hwc; rw [hj3] at hat; injection hat with hat; injection hat with _ hat; subst hat)
        | fail)
      refine bodyPost_ret (v := .tuple #[.int .i64 0, .bool false]) (by simp [results, Try.f57, go_sem]) rfl ?_
      exact ⟨_, .inl ⟨rfl, hans, hB3⟩⟩

end Go.Proofs.Ytghakpcagacdaal
