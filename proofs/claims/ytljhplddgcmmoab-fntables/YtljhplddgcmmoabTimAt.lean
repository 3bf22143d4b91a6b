/- The program's FieldAt. -/
import Derived.Test.YtljhplddgcmmoabTimGet
import Derived.Test.YtljhplddgcmmoabTabTwo
import Derived.Deep.RegionWith
namespace Go.Proofs.Ytljhplddgcmmoab
open Go.RowKit
set_option linter.unusedVariables false

set_option maxRecDepth 10000 in
set_option maxHeartbeats 1600000 in
theorem implAt_any (m i : Int) (a : Option Addr) (len ca : Nat) (xs : List Fld) (w : World) (hx : Flds w a len xs) (hl : len ≤ 2097152) (hi2 : i ≤ 9223372036854775807) :
    Calls Try.prog 25 #[.agg #[.int .i64 m, .slice a len ca], .int .i64 i] w fun e w' => e = .returned (.tuple #[.agg #[.string (atAns xs i).1.1, .string (atAns xs i).1.2], .bool (atAns xs i).2]) ∧ Below w.heap.size w w' := by
  have HX : Hid (Flds w a len xs) := hx
  have hlen := hx.1
  clear hx
  obtain ⟨w2, hw2⟩ : ∃ w2, (w.alloc (.cells #[.int .i64 m, .slice a len ca] 34)).alloc (.cells #[.string ⟨#[]⟩, .string ⟨#[]⟩] 36) = w2 := ⟨_, rfl⟩
  have hq1 : w2.heap[w.heap.size]? = some (.cells #[.int .i64 m, .slice a len ca] 34 (0, 0)) := by
    rw [← hw2]
    have h1 := heap_alloc_new w (.cells #[.int .i64 m, .slice a len ca] 34)
    have hlt : w.heap.size < (w.alloc (.cells #[.int .i64 m, .slice a len ca] 34)).heap.size := by simp
    exact (((Below.refl _ _).alloc (Nat.le_refl _) (.cells #[.string ⟨#[]⟩, .string ⟨#[]⟩] 36)).block _ hlt).trans h1
  have hq2 : w2.heap[w.heap.size + 1]? = some (.cells #[.string ⟨#[]⟩, .string ⟨#[]⟩] 36 (0, 0)) := by
    rw [← hw2]
    have h1 := heap_alloc_new (w.alloc (.cells #[.int .i64 m, .slice a len ca] 34)) (.cells #[.string ⟨#[]⟩, .string ⟨#[]⟩] 36)
    rw [World.size_alloc] at h1
    exact h1
  have HB2 : Hid (Below w.heap.size w w2) := by show Below _ _ _; rw [← hw2]; exact ((Below.refl _ _).alloc (Nat.le_refl _) _).alloc (by simp) _
  have HW2 : Hid (w2.heap.size = w.heap.size + 2) := by show _ = _; rw [← hw2]; simp
  have HQ2 : Hid (w2.heap[w.heap.size + 1]? = some (.cells #[.string ⟨#[]⟩, .string ⟨#[]⟩] 36 (0, 0))) := hq2
  obtain ⟨c0, c1, _, _⟩ := two_cells hq1
  obtain ⟨g0, g1, g2, g3⟩ := two_cells hq2
  clear hq1 hq2
  by_cases h61 : i ≤ 61
  · have e : atAns xs i = firstAns i := by rw [atAns, if_pos h61]
    rw [e]
    generalize hF : firstAns i = F
    have HF : Hid (firstAns i = F) := hF
    clear e hF
    go_enter Try.func25, Try.ntmps25
    go_wp2_with fail
    refine (implFF_any i w2).mono ?_
    rintro e w3 ⟨rfl, hb3⟩
    rw [HF.out]
    obtain ⟨k0, k1, k2, k3⟩ := two_cells ((hb3.block _ (by have := HW2.out; omega)).trans HQ2.out)
    have HB3 : Hid (Below w.heap.size w w3) := HB2.out.trans (hb3.mono HB2.out.size)
    clear hb3 g0 g1 g2 g3 c0 c1
    go_wp2_with fail
    refine bodyPost_ret (v := .tuple #[.agg #[.string F.1.1, .string F.1.2], .bool F.2]) (by simp [results, Try.f25, go_sem, k0, k1]) rfl ?_
    exact ⟨rfl, (HB3.out.setCell (p := ⟨w.heap.size + 1, 0, none⟩) (by simp) _).setCell (p := ⟨w.heap.size + 1, 1, none⟩) (by simp) _⟩
  · obtain ⟨k, rfl⟩ : ∃ k : Nat, i = (k : Int) + 62 := ⟨(i - 62).toNat, by omega⟩
    have hk62 : ((k : Int) + 62 - 62).toNat = k := by omega
    by_cases hk : k < len
    · obtain ⟨b, off, x, y, rfl, hb, hfx, hc0, hc1⟩ := (HX.out.below HB2.out).at hk
      have e : atAns xs ((k : Int) + 62) = ((x, y), true) := by
        rw [atAns, if_neg h61, hk62, if_pos (by omega), List.getD_eq_getElem?_getD, hfx]
        rfl
      rw [e]
      clear e hfx
      have hki : (k : Int) < (len : Int) := by omega
      have hkb : (k : Int) ≤ 2097152 := by omega
      clear hi2 h61 hk62
      go_enter Try.func25, Try.ntmps25
      go_wp2_with fail
      refine bodyPost_ret (v := .tuple #[.agg #[.string x, .string y], .bool true]) (by simp [results, Try.f25, go_sem, g0, g1]) rfl ?_
      exact ⟨rfl, (HB2.out.setCell (p := ⟨w.heap.size + 1, 0, none⟩) (by simp) _).setCell (p := ⟨w.heap.size + 1, 1, none⟩) (by simp) _⟩
    · have e : atAns xs ((k : Int) + 62) = (fnil, false) := by
        rw [atAns, if_neg h61, hk62, if_neg (by omega)]
      rw [e]
      clear e
      have hki : (len : Int) ≤ (k : Int) := by omega
      have hw : wrap64 (wrap64 ((k : Int) + 62 - 61) - 1) = (k : Int) := by unfold wrap64; omega
      have hd : decide ((k : Int) + 62 ≤ 61) = false := by simp; omega
      have hd2 : decide ((len : Int) ≤ (k : Int)) = true := by simp; omega
      clear hi2 h61 hk hk62
      go_enter Try.func25, Try.ntmps25
      go_wp2_with fail
      refine bodyPost_ret (v := .tuple #[.agg #[.string ⟨#[]⟩, .string ⟨#[]⟩], .bool false]) (by simp [results, Try.f25, go_sem, g0, g1]) rfl ?_
      exact ⟨rfl, (HB2.out.setCell (p := ⟨w.heap.size + 1, 0, none⟩) (by simp) _).setCell (p := ⟨w.heap.size + 1, 1, none⟩) (by simp) _⟩

end Go.Proofs.Ytljhplddgcmmoab
