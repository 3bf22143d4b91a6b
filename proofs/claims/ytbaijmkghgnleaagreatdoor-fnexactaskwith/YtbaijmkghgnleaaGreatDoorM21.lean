/- The program's FindField. -/
import Derived.Maps.OwnOps
import Derived.Maps.OwnSet
import Derived.Test.YtbaijmkghgnleaaGreatDoorM17
import Derived.Test.YtbaijmkghgnleaaGreatDoorM10
namespace Go.Proofs.YtbaijmkghgnleaaGreatDoor
open Go.RowKit
set_option linter.unusedVariables false

theorem find_both {L : List Fld} {f : Fld} {i : Nat} (h1 : L[i]? = some f) (h2 : ∀ i', 0 ≤ i' → i' < i → L[i']? ≠ some f) : FindAns L f ((i : Int) + 1) true :=
  .inl ⟨rfl, i, h1, fun j hj => h2 j (Nat.zero_le _) hj, rfl⟩

theorem find_name {L : List Fld} {f : Fld} {i : Nat} (h0 : ∀ i, 0 ≤ i → L[i]? ≠ some f) (h1 : (L.map (·.1))[i]? = some f.1) (h2 : ∀ i', 0 ≤ i' → i' < i → (L.map (·.1))[i']? ≠ some f.1) : FindAns L f ((i : Int) + 1) false := by
  refine .inr ⟨rfl, fun j => h0 j (Nat.zero_le _), .inl ?_⟩
  rw [List.getElem?_map] at h1
  obtain ⟨g, hg, e⟩ := Option.map_eq_some_iff.1 h1
  refine ⟨i, g, hg, e, fun j g' hj hg' e' => h2 j (Nat.zero_le _) hj ?_, rfl⟩
  rw [List.getElem?_map, hg', ← e']
  rfl

theorem find_none {L : List Fld} {f : Fld} (h0 : ∀ i, 0 ≤ i → L[i]? ≠ some f) (h1 : ∀ i, 0 ≤ i → (L.map (·.1))[i]? ≠ some f.1) : FindAns L f 0 false := by
  refine .inr ⟨rfl, fun j => h0 j (Nat.zero_le _), .inr ⟨fun j g' hg' e' => h1 j (Nat.zero_le _) ?_, rfl⟩⟩
  rw [List.getElem?_map, hg', ← e']
  rfl

set_option maxRecDepth 10000 in
set_option maxHeartbeats 1600000 in
theorem implFind_any (m : Int) (a : Option Addr) (len ca : Nat) (xs : List Fld) (x y : ByteArray) (w : World) (hx : Flds w a len xs) (hl : len ≤ 2097152) (hxy : x.size ≤ maxLen ∧ y.size ≤ maxLen) :
    Calls Tryz.prog 72 #[.agg #[.int .i64 m, .slice a len ca], .agg #[.string x, .string y]] w fun e w' => ∃ i b, e = .returned (.tuple #[.int .i64 i, .bool b]) ∧ FindAns (firstL ++ xs) (x, y) i b ∧ Below w.heap.size w w' := by
  have HX : Hid (Flds w a len xs) := hx
  have hkey1 := key_field (x, y) hxy
  have hkey2 : keyOf Tryz.prog 9 (.string x) = some (litT x) := WideMaps.keyOf_string_mk Tryz.underlying9 hxy.1
  clear hx
  obtain ⟨w2, hw2⟩ : ∃ w2, (w.alloc (.cells #[.int .i64 m, .slice a len ca] 32)).alloc (.cells #[.string x, .string y] 69) = w2 := ⟨_, rfl⟩
  have q1 : Box2 w2 w.heap.size 32 (.int .i64 m) (.slice a len ca) := by rw [← hw2]; exact (Box2.new _ _ _ _).alloc _
  have q2 : Box2 w2 (w.heap.size + 1) 69 (.string x) (.string y) := by
    rw [← hw2]
    have := Box2.new (w.alloc (.cells #[.int .i64 m, .slice a len ca] 32)) 69 (.string x) (.string y)
    rwa [World.size_alloc] at this
  have HB2 : Hid (Below w.heap.size w w2) := by show Below _ _ _; rw [← hw2]; exact ((Below.refl _ _).alloc (Nat.le_refl _) _).alloc (by simp) _
  obtain ⟨c0, c1, _, _⟩ := q1.cells
  go_enter Tryz.func72, Tryz.ntmps72
  go_wp2_with fail
  refine (numbers_any m a len ca xs _ (HX.out.below HB2.out) hl).mono ?_
  rintro e w3 ⟨b1, b2, D1, D2, rfl, o1, o2, n1, n2, hb3⟩
  have hB3 : Below w.heap.size w w3 := HB2.out.trans (hb3.mono HB2.out.size)
  obtain ⟨d0, d1, _, _⟩ := (q2.stays hb3).cells
  clear hw2 q1 q2 hb3 c0 c1
  rcases n1.2 (x, y) hxy with ⟨i, _, hi1, hi2, hi3, hi4⟩ | ⟨hi1, hi2, hi3⟩
  · have hans := find_both hi1 hi2
    go_wp2_with (first
      | (at_lookup; refine wpList_lookup_own_ok_int _ rfl _ _ 103 rfl 69 3 .i64 field_keyed Tryz.underlying103 Tryz.underlying3 (by simp [go_sem]) b1 2097300 D1 rfl o1 _ (litF (x, y)) rfl hkey1 ?_; intro c hat hwc; rw [hi4] at hat; rw [hi3]; injection hat with hat; injection hat with _ hat; subst hat)
      | fail)
    refine bodyPost_ret (v := .tuple #[.int .i64 ((i : Int) + 1), .bool true]) (by simp [results, Tryz.f72, go_sem]) rfl ?_
    exact ⟨_, .inr ⟨rfl, hans, hB3⟩⟩
  · rcases n2.2 x hxy.1 with ⟨i, _, hj1, hj2, hj3, hj4⟩ | ⟨hj1, hj2, hj3⟩
    · have hans := find_name hi1 hj1 hj2
      go_wp2_with (first
        | (at_lookup; refine wpList_lookup_own_ok_int _ rfl _ _ 103 rfl 69 3 .i64 field_keyed Tryz.underlying103 Tryz.underlying3 (by simp [go_sem]) b1 2097300 D1 rfl o1 _ (litF (x, y)) rfl hkey1 ?_; intro c hat hwc; rw [hi3] at hat; rw [hi2]; injection hat with hat; injection hat with _ hat; subst hat)
        | (at_lookup; refine wpList_lookup_own_int _ rfl _ _ 104 rfl 9 3 .i64 text_keyed Tryz.underlying104 Tryz.underlying3 (by simp [go_sem]) b2 2097300 D2 rfl o2 _ (litT x) rfl hkey2 ?_; intro c hat hwc; rw [hj4] at hat; injection hat with hat; injection hat with _ hat; subst hat)
        | fail)
      refine bodyPost_ret (v := .tuple #[.int .i64 ((i : Int) + 1), .bool false]) (by simp [results, Tryz.f72, go_sem]) rfl ?_
      exact ⟨_, .inl ⟨rfl, hans, hB3⟩⟩
    · have hans := find_none hi1 hj1
      go_wp2_with (first
        | (at_lookup; refine wpList_lookup_own_ok_int _ rfl _ _ 103 rfl 69 3 .i64 field_keyed Tryz.underlying103 Tryz.underlying3 (by simp [go_sem]) b1 2097300 D1 rfl o1 _ (litF (x, y)) rfl hkey1 ?_; intro c hat hwc; rw [hi3] at hat; rw [hi2]; injection hat with hat; injection hat with _ hat; subst hat)
        | (at_lookup; refine wpList_lookup_own_int _ rfl _ _ 104 rfl 9 3 .i64 text_keyed Tryz.underlying104 Tryz.underlying3 (by simp [go_sem]) b2 2097300 D2 rfl o2 _ (litT x) rfl hkey2 ?_; intro c hat hwc; rw [hj3] at hat; injection hat with hat; injection hat with _ hat; subst hat)
        | fail)
      refine bodyPost_ret (v := .tuple #[.int .i64 0, .bool false]) (by simp [results, Tryz.f72, go_sem]) rfl ?_
      exact ⟨_, .inl ⟨rfl, hans, hB3⟩⟩

end Go.Proofs.YtbaijmkghgnleaaGreatDoor
