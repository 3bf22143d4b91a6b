/- The specification's FindField. -/
import Derived.Test.YtbaijmkghgnleaaGreatDoorM33
import Derived.Test.YtbaijmkghgnleaaGreatDoorM10
import Derived.Lib.Strings
namespace Go.Proofs.YtbaijmkghgnleaaGreatDoor
open Go.RowKit
set_option linter.unusedVariables false

set_option maxRecDepth 10000 in
set_option maxHeartbeats 3200000 in
theorem specFind_any (m : Int) (a : Option Addr) (len ca : Nat) (xs : List Fld) (x y : ByteArray) (w : World) (hx : Flds w a len xs) (hl : len ≤ 2097152) :
    Calls Tryz.prog 66 #[.agg #[.int .i64 m, .slice a len ca], .agg #[.string x, .string y]] w fun e w' => ∃ i b, e = .returned (.tuple #[.int .i64 i, .bool b]) ∧ FindAns (firstL ++ xs) (x, y) i b ∧ Below w.heap.size w w' := by
  have HX : Hid (Flds w a len xs) := hx
  have hlen := hx.1
  clear hx
  obtain ⟨w2, hw2⟩ : ∃ w2, (w.alloc (.cells #[.int .i64 m, .slice a len ca] 32)).alloc (.cells #[.string x, .string y] 69) = w2 := ⟨_, rfl⟩
  have hq1 : w2.heap[w.heap.size]? = some (.cells #[.int .i64 m, .slice a len ca] 32 (0, 0)) := by
    rw [← hw2]
    have h1 := heap_alloc_new w (.cells #[.int .i64 m, .slice a len ca] 32)
    have hlt : w.heap.size < (w.alloc (.cells #[.int .i64 m, .slice a len ca] 32)).heap.size := by simp
    exact (((Below.refl _ _).alloc (Nat.le_refl _) (.cells #[.string x, .string y] 69)).block _ hlt).trans h1
  have hq2 : w2.heap[w.heap.size + 1]? = some (.cells #[.string x, .string y] 69 (0, 0)) := by
    rw [← hw2]
    have h1 := heap_alloc_new (w.alloc (.cells #[.int .i64 m, .slice a len ca] 32)) (.cells #[.string x, .string y] 69)
    rw [World.size_alloc] at h1
    exact h1
  have HB2 : Hid (Below w.heap.size w w2) := by show Below _ _ _; rw [← hw2]; exact ((Below.refl _ _).alloc (Nat.le_refl _) _).alloc (by simp) _
  have HW2 : Hid (w2.heap.size = w.heap.size + 2) := by show _ = _; rw [← hw2]; simp
  go_enter Tryz.func66, Tryz.ntmps66
  go_wp2_with fail
  refine (specFirst_any w2).mono ?_
  rintro e w3 ⟨rfl, hf3, hb3⟩
  have HT : Hid (∀ W, Below w3.heap.size w3 W → W.heap[w.heap.size]? = some (.cells #[.int .i64 m, .slice a len ca] 32 (0, 0)) ∧ W.heap[w.heap.size + 1]? = some (.cells #[.string x, .string y] 69 (0, 0)) ∧ Below w.heap.size w W ∧ Flds W a len xs ∧ Flds W (some ⟨w2.heap.size, 0, none⟩) 61 firstL) := by
    intro W hW
    have h2 := HW2.out
    have h3 := hb3.size
    have hb : Below w2.heap.size w2 W := hb3.trans (hW.mono h3)
    have hbw := HB2.out.trans (hb.mono HB2.out.size)
    exact ⟨(hb.block _ (by omega)).trans hq1, (hb.block _ (by omega)).trans hq2, hbw, HX.out.below hbw, hf3.below hW⟩
  clear hq1 hq2 hf3 hb3 hw2
  generalize w2.heap.size = gF at *
  have hL : (firstL ++ xs).length = 61 + len := by rw [List.length_append, firstL_len, hlen]
  go_wp2_with fail
  go_loopw [7, 8] (fun nm i wr => ∃ (k : Nat) (n : Int), k ≤ 61 + len ∧ i = .int .i64 ((k : Int) + 1) ∧ nm = .int .i64 n ∧ 0 ≤ n ∧ n ≤ 4000000 ∧ Hid (∀ j, j < k → (firstL ++ xs)[j]? ≠ some (x, y)) ∧ Hid (NameAt (firstL ++ xs) (x, y) k n) ∧ Hid (Below w3.heap.size w3 wr)) (fun _ i _ => 62 + len - (intOf i).toNat)
  case atStart => exact ⟨0, 0, Nat.zero_le _, rfl, rfl, by omega, by omega, by intro j hj; omega, .inl ⟨rfl, by intro j g hj; omega⟩, Below.refl _ _⟩
  case round =>
    obtain ⟨k, n, hk, rfl, rfl, hn0, hn1, HNo, HNm, HB⟩ := hrel
    obtain ⟨t1, t2, t3, t4, t5⟩ := HT.out wr HB.out
    obtain ⟨c0, c1, _, _⟩ := two_cells t1
    have hws : w.heap.size < wr.heap.size := (Array.getElem?_eq_some_iff.1 t1).1
    obtain ⟨c2, c3, _, _⟩ := two_cells t2
    by_cases hlt : k < 61 + len
    · have hki : (k : Int) + 1 ≤ 61 + (len : Int) := by omega
      by_cases h61 : k < 61
      · obtain ⟨b, off, x1, y1, he, hbb, hfx, d0, d1⟩ := t5.at h61
        injection he with he
        injection he with e1 e2 _
        subst e1 e2
        have hk6 : (k : Int) + 1 ≤ 61 := by omega
        have hk7 : (k : Int) < 61 := by omega
        have HL : Hid ((firstL ++ xs)[k]? = some (x1, y1)) := by
          show _ = _
          rw [List.getElem?_append_left (by rw [firstL_len]; exact h61)]
          exact hfx
        rw [Nat.zero_add] at d0
        rw [Nat.zero_add] at d1
        clear hfx t1 t2 t4 t5
        have HB3 : Hid (Below w.heap.size w wr) := t3
        clear t3
        obtain ⟨W1, hW1⟩ : ∃ W1, wr.alloc (.cells #[.string x1, .string y1] 69) = W1 := ⟨_, rfl⟩
        have hB1 : Below wr.heap.size wr W1 := by rw [← hW1]; exact (Below.refl _ _).alloc (Nat.le_refl _) _
        have HB1 : Hid (Below w3.heap.size w3 W1) := HB.out.trans (hB1.mono HB.out.size)
        obtain ⟨v1, v2, v3, v4, v5⟩ := HT.out W1 HB1.out
        obtain ⟨f2, f3, _, _⟩ := two_cells v2
        have hxb : W1.heap[wr.heap.size]? = some (.cells #[.string x1, .string y1] 69 (0, 0)) := by rw [← hW1]; exact heap_alloc_new wr _
        obtain ⟨f0, f1, _, _⟩ := two_cells hxb
        have HBw : Hid (Below w.heap.size w W1) := v3
        clear v1 v2 v3 v4 v5 hB1 hxb
        by_cases hxx : x1 = x
        · subst hxx
          by_cases hyy : y1 = y
          · subst hyy
            go_wp2_with fail
            refine bodyPost_ret (v := .tuple #[.int .i64 ((k : Int) + 1), .bool true]) (by simp [results, Tryz.f66, go_sem]) rfl ?_
            exact ⟨_, .inr ⟨rfl, .inl ⟨rfl, k, HL.out, HNo.out, rfl⟩, HBw.out⟩⟩
          · have hyl : ¬ y1.toList = y.toList := fun e => hyy (bytes_inj e)
            have hyb : (y1.toList == y.toList) = false := by simp [hyl]
            have HNo2 : Hid (∀ j, j < k + 1 → (firstL ++ xs)[j]? ≠ some (x1, y)) := no_next HNo.out HL.out (fun e => hyy (by injection e))
            by_cases hn : n = 0
            · subst hn
              have HN2 : Hid (NameAt (firstL ++ xs) (x1, y) (k + 1) ((k : Int) + 1)) := HNm.out.hit HL.out rfl
              go_wp2_with fail
              go_roundw
              case rel => exact ⟨k + 1, (k : Int) + 1, by omega, by go_num, rfl, by omega, by omega, HNo2, HN2, HB1⟩
              case measure => simp [intOf]; omega
            · have HN2 : Hid (NameAt (firstL ++ xs) (x1, y) (k + 1) n) := HNm.out.keep hn
              go_wp2_with fail
              go_roundw
              case rel => exact ⟨k + 1, n, by omega, by go_num, rfl, hn0, hn1, HNo2, HN2, HB1⟩
              case measure => simp [intOf]; omega
        · have hxl : ¬ x1.toList = x.toList := fun e => hxx (bytes_inj e)
          have hxb : (x1.toList == x.toList) = false := by simp [hxl]
          have HNo2 : Hid (∀ j, j < k + 1 → (firstL ++ xs)[j]? ≠ some (x, y)) := no_next HNo.out HL.out (fun e => hxx (by injection e))
          have HN2 : Hid (NameAt (firstL ++ xs) (x, y) (k + 1) n) := HNm.out.miss HL.out hxx
          by_cases hn : n = 0
          · subst hn
            go_wp2_with fail
            go_roundw
            case rel => exact ⟨k + 1, 0, by omega, by go_num, rfl, by omega, by omega, HNo2, HN2, HB1⟩
            case measure => simp [intOf]; omega
          · go_wp2_with fail
            go_roundw
            case rel => exact ⟨k + 1, n, by omega, by go_num, rfl, hn0, hn1, HNo2, HN2, HB1⟩
            case measure => simp [intOf]; omega
      · obtain ⟨kk, rfl⟩ : ∃ kk, k = kk + 61 := ⟨k - 61, by omega⟩
        obtain ⟨b, off, x1, y1, rfl, hbb, hfx, d0, d1⟩ := t4.at (k := kk) (by omega)
        have hk6 : ¬ (((kk + 61 : Nat) : Int) + 1 ≤ 61) := by omega
        have hk6d : decide (((kk + 61 : Nat) : Int) + 1 ≤ 61) = false := by simp; omega
        have hk62 : ((kk + 61 : Nat) : Int) + 1 - 62 = (kk : Int) := by omega
        have hk63 : ((kk + 61 : Nat) : Int) - 61 = (kk : Int) := by omega
        have hkl : (kk : Int) < (len : Int) := by omega
        have HL : Hid ((firstL ++ xs)[kk + 61]? = some (x1, y1)) := by
          show _ = _
          rw [List.getElem?_append_right (by rw [firstL_len]; omega), firstL_len, Nat.add_sub_cancel]
          exact hfx
        clear hfx t1 t2 t4 t5
        have HB3 : Hid (Below w.heap.size w wr) := t3
        clear t3
        generalize hkk : kk + 61 = k at *
        obtain ⟨W1, hW1⟩ : ∃ W1, wr.alloc (.cells #[.string x1, .string y1] 69) = W1 := ⟨_, rfl⟩
        have hB1 : Below wr.heap.size wr W1 := by rw [← hW1]; exact (Below.refl _ _).alloc (Nat.le_refl _) _
        have HB1 : Hid (Below w3.heap.size w3 W1) := HB.out.trans (hB1.mono HB.out.size)
        obtain ⟨v1, v2, v3, v4, v5⟩ := HT.out W1 HB1.out
        obtain ⟨f2, f3, _, _⟩ := two_cells v2
        have hxb : W1.heap[wr.heap.size]? = some (.cells #[.string x1, .string y1] 69 (0, 0)) := by rw [← hW1]; exact heap_alloc_new wr _
        obtain ⟨f0, f1, _, _⟩ := two_cells hxb
        have HBw : Hid (Below w.heap.size w W1) := v3
        clear v1 v2 v3 v4 v5 hB1 hxb
        by_cases hxx : x1 = x
        · subst hxx
          by_cases hyy : y1 = y
          · subst hyy
            go_wp2_with fail
            refine bodyPost_ret (v := .tuple #[.int .i64 ((k : Int) + 1), .bool true]) (by simp [results, Tryz.f66, go_sem]) rfl ?_
            exact ⟨_, .inr ⟨rfl, .inl ⟨rfl, k, HL.out, HNo.out, rfl⟩, HBw.out⟩⟩
          · have hyl : ¬ y1.toList = y.toList := fun e => hyy (bytes_inj e)
            have hyb : (y1.toList == y.toList) = false := by simp [hyl]
            have HNo2 : Hid (∀ j, j < k + 1 → (firstL ++ xs)[j]? ≠ some (x1, y)) := no_next HNo.out HL.out (fun e => hyy (by injection e))
            by_cases hn : n = 0
            · subst hn
              have HN2 : Hid (NameAt (firstL ++ xs) (x1, y) (k + 1) ((k : Int) + 1)) := HNm.out.hit HL.out rfl
              go_wp2_with fail
              go_roundw
              case rel => exact ⟨k + 1, (k : Int) + 1, by omega, by go_num, rfl, by omega, by omega, HNo2, HN2, HB1⟩
              case measure => simp [intOf]; omega
            · have HN2 : Hid (NameAt (firstL ++ xs) (x1, y) (k + 1) n) := HNm.out.keep hn
              go_wp2_with fail
              go_roundw
              case rel => exact ⟨k + 1, n, by omega, by go_num, rfl, hn0, hn1, HNo2, HN2, HB1⟩
              case measure => simp [intOf]; omega
        · have hxl : ¬ x1.toList = x.toList := fun e => hxx (bytes_inj e)
          have hxb : (x1.toList == x.toList) = false := by simp [hxl]
          have HNo2 : Hid (∀ j, j < k + 1 → (firstL ++ xs)[j]? ≠ some (x, y)) := no_next HNo.out HL.out (fun e => hxx (by injection e))
          have HN2 : Hid (NameAt (firstL ++ xs) (x, y) (k + 1) n) := HNm.out.miss HL.out hxx
          by_cases hn : n = 0
          · subst hn
            go_wp2_with fail
            go_roundw
            case rel => exact ⟨k + 1, 0, by omega, by go_num, rfl, by omega, by omega, HNo2, HN2, HB1⟩
            case measure => simp [intOf]; omega
          · go_wp2_with fail
            go_roundw
            case rel => exact ⟨k + 1, n, by omega, by go_num, rfl, hn0, hn1, HNo2, HN2, HB1⟩
            case measure => simp [intOf]; omega
    · have hk5 : k = 61 + len := by omega
      have HFin : Hid (FindAns (firstL ++ xs) (x, y) n false) := by
        refine NameAt.done ?_ ?_
        · rw [hL, ← hk5]; exact HNm.out
        · rw [hL, ← hk5]; exact HNo.out
      have HB3 : Hid (Below w.heap.size w wr) := t3
      have hki : ¬ (k : Int) + 1 ≤ 61 + (len : Int) := by omega
      clear t1 t2 t3 t4 t5
      go_wp2_with fail
      refine bodyPost_ret (v := .tuple #[.int .i64 n, .bool false]) (by simp [results, Tryz.f66, go_sem]) rfl ?_
      exact ⟨_, .inl ⟨rfl, HFin.out, HB3.out⟩⟩

end Go.Proofs.YtbaijmkghgnleaaGreatDoor
