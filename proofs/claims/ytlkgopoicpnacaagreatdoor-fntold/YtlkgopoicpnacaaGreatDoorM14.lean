/- What the specification's GetRec answers. -/
import Derived.Test.YtlkgopoicpnacaaGreatDoorM12
import Derived.Test.YtlkgopoicpnacaaGreatDoorM13
import Derived.Test.YtlkgopoicpnacaaGreatDoorM13
import Derived.Test.YtlkgopoicpnacaaGreatDoorM13
import Derived.Lib.ConvBytes
import Derived.Lib.Strings
import Derived.Lib.AtoiErrMem
import Derived.Deep.QuietTactic
namespace Go.Proofs.YtlkgopoicpnacaaGreatDoor
open Go.RowKit
set_option linter.unusedVariables false

theorem gbr_is (zs : List Int) (at_ k : Nat) (h1 : 1 ≤ k) (h7 : k ≤ 7) : gbr zs (at_ : Int) (k : Int) = if at_ + k ≤ zs.length then (gb ((zs.drop at_).take k), true) else (0, false) := by
  split
  · rename_i h
    rw [gbr, if_pos ⟨by omega, by omega, by omega, by omega⟩, Int.toNat_natCast, Int.toNat_natCast]
  · rename_i h
    rw [gbr, if_neg (by omega)]

theorem seg_bytes (w1 : World) (s : ByteArray) : Seg (Lib.bytesWorld w1 5 s) (some ⟨w1.heap.size, 0, none⟩) s.size (txI s) := by
  refine ⟨txI_len s, txI_range s, .inr ⟨w1.heap.size, 0, rfl, by rw [Lib.bytesWorld_size]; omega, fun i hi => ?_⟩⟩
  rw [Nat.zero_add, Lib.bytesWorld_cell w1 5 s i hi]
  have h3 : i < s.data.size := hi
  simp only [txI, List.getD_eq_getElem?_getD, List.getElem?_map, Array.getElem?_toList]
  rw [Array.getElem?_eq_getElem h3]
  rfl

theorem seg_set {W : World} {b o len : Nat} {zs : List Int} (h : Seg W (some ⟨b, o, none⟩) len zs) {b' k : Nat} (hne : b ≠ b') (v : Value) : Seg (W.setCell ⟨b', k, none⟩ v) (some ⟨b, o, none⟩) len zs := by
  obtain ⟨h1, h2, h3⟩ := h
  refine ⟨h1, h2, ?_⟩
  rcases h3 with h0 | ⟨b1, off, e, hb, hc⟩
  · exact .inl h0
  · injection e with e
    injection e with e1 e2 _
    subst e1 e2
    refine .inr ⟨b, o, rfl, by simpa using hb, fun i hi => ?_⟩
    have := hc i hi
    simp only [World.cell?] at this ⊢
    rw [set_block_ne W b b' k v hne]
    exact this

theorem gb_byte (l : List Int) (hr : ∀ x ∈ l, 0 ≤ x ∧ x ≤ 255) (k : Nat) : gb ((l.drop k).take 1) = ((gb ((l.drop k).take 1)).toNat : Int) ∧ (gb ((l.drop k).take 1)).toNat ≤ 255 := by
  have h := fold_bound ((l.drop k).take 1) 0 1 (by omega) (by omega) (fun n hn => hr n (List.mem_of_mem_drop (List.mem_of_mem_take hn)))
  have hl : ((l.drop k).take 1).length ≤ 1 := by simp; omega
  have hp : (256 : Nat) ^ ((l.drop k).take 1).length ≤ 256 ^ 1 := Nat.pow_le_pow_right (by omega) hl
  have h0 : 0 ≤ gb ((l.drop k).take 1) := h.1
  have h1 : gb ((l.drop k).take 1) < ((1 * 256 ^ ((l.drop k).take 1).length : Nat) : Int) := h.2
  omega

set_option maxRecDepth 10000 in
set_option maxHeartbeats 3200000 in
theorem specGetR_any (s : ByteArray) (w : World) (hs : s.size ≤ 1099511627776) :
    Calls Tryz.prog 103 #[.string s] w fun e w' => (∃ v, e = .returned v ∧ GotR w.heap.size s v w') ∧ Below w.heap.size w w' := by
  obtain ⟨w1, hw1⟩ : ∃ w1, w.alloc (.cells #[.int .i64 0, .int .i64 0, .int .i64 0, .string ⟨#[]⟩, .int .i64 0, .slice none 0 0] 107) = w1 := ⟨_, rfl⟩
  have HE : Hid (w.alloc (.cells #[.int .i64 0, .int .i64 0, .int .i64 0, .string ⟨#[]⟩, .int .i64 0, .slice none 0 0] 107) = w1) := hw1
  have q1 : BoxN w1 w.heap.size 107 [.int .i64 0, .int .i64 0, .int .i64 0, .string ⟨#[]⟩, .int .i64 0, .slice none 0 0] := by rw [← hw1]; exact BoxN.new _ _ _
  have HB1 : Hid (Below w.heap.size w w1) := by show Below _ _ _; rw [← hw1]; exact (Below.refl _ _).alloc (Nat.le_refl _) _
  clear hw1
  have hcv := Lib.run_convert_string_bytes (P := Tryz.prog) w1 9 22 5 s (u := .string) Tryz.underlying9 Tryz.underlying22 Tryz.underlying5
  have hbw : Below w1.heap.size w1 (Lib.bytesWorld w1 5 s) := Lib.bytesWorld_below w1 5 s
  have hsg := seg_bytes w1 s
  have hcp : s.size ≤ grownCap w1 s.size 0 5 := grownCap_ge w1 s.size 0 5
  obtain ⟨W2, hW2⟩ : ∃ W2, Lib.bytesWorld w1 5 s = W2 := ⟨_, rfl⟩
  obtain ⟨cp, hcpe⟩ : ∃ cp, grownCap w1 s.size 0 5 = cp := ⟨_, rfl⟩
  rw [hW2] at hcv hbw hsg
  rw [hcpe] at hcv hcp
  have HZ : Hid (W2.heap.size = w1.heap.size + 1) := by show _ = _; rw [← hW2, Lib.bytesWorld_size]
  clear hW2 hcpe
  go_enter Tryz.func103, Tryz.ntmps103
  go_upto_region 1 with fail
  rw [HE.out]
  clear HE
  have HBa : Hid (Below W2.heap.size W2 (W2.alloc (.cells #[.int .i64 0, .int .i64 0, .int .i64 0, .string ⟨#[]⟩, .int .i64 0, .slice none 0 0] 107))) := (Below.refl _ _).alloc (Nat.le_refl _) _
  have HN : Hid (BoxN (W2.alloc (.cells #[.int .i64 0, .int .i64 0, .int .i64 0, .string ⟨#[]⟩, .int .i64 0, .slice none 0 0] 107)) W2.heap.size 107 [.int .i64 0, .int .i64 0, .int .i64 0, .string ⟨#[]⟩, .int .i64 0, .slice none 0 0]) := BoxN.new _ _ _
  go_wp2_with fail
  obtain ⟨W3, hW3⟩ : ∃ W3, W2.alloc (.cells #[.int .i64 0, .int .i64 0, .int .i64 0, .string ⟨#[]⟩, .int .i64 0, .slice none 0 0] 107) = W3 := ⟨_, rfl⟩
  rw [hW3] at HBa HN ⊢
  clear hW3
  have h23 := hbw.trans (HBa.out.mono hbw.size)
  have HB3 : Hid (Below w.heap.size w W3) := HB1.out.trans (h23.mono HB1.out.size)
  have HQ3 : Hid (BoxN W3 w.heap.size 107 [.int .i64 0, .int .i64 0, .int .i64 0, .string ⟨#[]⟩, .int .i64 0, .slice none 0 0]) := q1.stays h23
  have HS3 : Hid (Seg W3 (some ⟨w1.heap.size, 0, none⟩) s.size (txI s)) := hsg.below HBa.out
  have hlt1 : w.heap.size < w1.heap.size := q1.lt
  have HZ2 : Hid (w1.heap.size < W2.heap.size) := by have := HZ.out; show _ < _; omega
  generalize w1.heap.size = rb at *
  generalize W2.heap.size = nb at *
  have hltn : rb < nb := HZ2.out
  clear hcv hbw hsg HBa h23 HB1 q1 HZ HZ2
  have HLt : Hid ((txI s).length = s.size) := txI_len s
  have HRg : Hid (∀ x ∈ txI s, 0 ≤ x ∧ x ≤ 255) := txI_range s
  have HNo : Hid (¬ (16 ≤ s.size ∧ 16 + idN (txI s) + dataN (txI s) = s.size) → recOf s = none) := fun h => by
    cases hr : recOf s with
    | none => rfl
    | some r => exact absurd ⟨(recOf_len (by rw [hr]; simp)).1, (recOf_len (by rw [hr]; simp)).2.1⟩ h
  have HG : Hid (∀ (W : World), Below W3.heap.size W3 W → ∀ (at_ k : Nat) (AT K : Int), AT = (at_ : Int) → K = (k : Int) → 1 ≤ k → k ≤ 7 → at_ ≤ 1000 → Calls Tryz.prog 117 #[.slice (some ⟨rb, 0, none⟩) s.size cp, .int .i64 AT, .int .i64 K] W fun e w' => ∃ x b, e = .returned (.tuple #[.int .i64 x, .bool b]) ∧ w' = W ∧ (at_ + k ≤ s.size → b = true ∧ x = gb (((txI s).drop at_).take k)) ∧ (b = true → at_ + k ≤ s.size)) := by
    intro W hW at_ k AT K hA hK h1 h7 hat
    subst hA hK
    refine (specGet_any (some ⟨rb, 0, none⟩) s.size cp (at_ : Int) (k : Int) (txI s) W (HS3.out.below hW) hs (by omega) (by omega)).mono ?_
    rintro e w' ⟨rfl, rfl⟩
    refine ⟨_, _, rfl, rfl, fun h => ?_, fun h => ?_⟩
    · rw [gbr_is _ _ _ h1 h7, if_pos (by rw [HLt.out]; exact h)]
      exact ⟨rfl, rfl⟩
    · rw [gbr_is _ _ _ h1 h7] at h
      split at h
      · rename_i h'
        rw [HLt.out] at h'
        exact h'
      · cases h
  refine (HG.out _ (Below.refl _ _) 0 3 0 3 rfl rfl (by omega) (by omega) (by omega)).mono ?_
  rintro e w' ⟨x0, b0, rfl, hw, g0, n0⟩
  obtain rfl : W3 = w' := hw.symm
  go_wp2_with fail
  refine (HG.out _ (Below.refl _ _) 3 2 3 2 rfl rfl (by omega) (by omega) (by omega)).mono ?_
  rintro e w' ⟨x1, b1, rfl, hw, g1, n1⟩
  obtain rfl : W3 = w' := hw.symm
  go_wp2_with fail
  refine (HG.out _ (Below.refl _ _) 5 1 5 1 rfl rfl (by omega) (by omega) (by omega)).mono ?_
  rintro e w' ⟨x2, b2, rfl, hw, g2, n2⟩
  obtain rfl : W3 = w' := hw.symm
  go_wp2_with fail
  refine (HG.out _ (Below.refl _ _) 6 1 6 1 rfl rfl (by omega) (by omega) (by omega)).mono ?_
  rintro e w' ⟨x3, b3, rfl, hw, g3, n3⟩
  obtain rfl : W3 = w' := hw.symm
  cases b0
  · have HX := (show Hid _ from HNo.out (fun h => by have := (g0 (by omega)).1; cases this))
    clear HNo HG HS3 HLt HRg g0 g1 g2 g3 n0 n1 n2 n3
    obtain ⟨z0, z1, z2, z3, z4, z5⟩ := (show _ ∧ _ ∧ _ ∧ _ ∧ _ ∧ _ from ⟨HN.out.cell 0 rfl, HN.out.cell 1 rfl, HN.out.cell 2 rfl, HN.out.cell 3 rfl, HN.out.cell 4 rfl, HN.out.cell 5 rfl⟩)
    obtain ⟨r0, r1, r2, r3, r4, r5⟩ := (show _ ∧ _ ∧ _ ∧ _ ∧ _ ∧ _ from ⟨HQ3.out.cell 0 rfl, HQ3.out.cell 1 rfl, HQ3.out.cell 2 rfl, HQ3.out.cell 3 rfl, HQ3.out.cell 4 rfl, HQ3.out.cell 5 rfl⟩)
    have f0 := HQ3.out.frozen 0
    have f1 := HQ3.out.frozen 1
    have f2 := HQ3.out.frozen 2
    have f3 := HQ3.out.frozen 3
    have f4 := HQ3.out.frozen 4
    have f5 := HQ3.out.frozen 5
    go_wp2_with fail
    refine bodyPost_ret (v := .tuple #[.agg #[.int .i64 0, .int .i64 0, .int .i64 0, .string ⟨#[]⟩, .int .i64 0, .slice none 0 0], .bool false]) (by simp [results, Tryz.f103, go_sem, r0, r1, r2, r3, r4, r5]) rfl ?_
    exact ⟨⟨_, rfl, .inl ⟨HX.out, rfl⟩⟩, (((((HB3.out.setCell (Nat.le_refl _) _).setCell (Nat.le_refl _) _).setCell (Nat.le_refl _) _).setCell (Nat.le_refl _) _).setCell (Nat.le_refl _) _).setCell (Nat.le_refl _) _⟩
  cases b1
  · have HX := (show Hid _ from HNo.out (fun h => by have := (g1 (by omega)).1; cases this))
    clear HNo HG HS3 HLt HRg g0 g1 g2 g3 n0 n1 n2 n3
    obtain ⟨z0, z1, z2, z3, z4, z5⟩ := (show _ ∧ _ ∧ _ ∧ _ ∧ _ ∧ _ from ⟨HN.out.cell 0 rfl, HN.out.cell 1 rfl, HN.out.cell 2 rfl, HN.out.cell 3 rfl, HN.out.cell 4 rfl, HN.out.cell 5 rfl⟩)
    obtain ⟨r0, r1, r2, r3, r4, r5⟩ := (show _ ∧ _ ∧ _ ∧ _ ∧ _ ∧ _ from ⟨HQ3.out.cell 0 rfl, HQ3.out.cell 1 rfl, HQ3.out.cell 2 rfl, HQ3.out.cell 3 rfl, HQ3.out.cell 4 rfl, HQ3.out.cell 5 rfl⟩)
    have f0 := HQ3.out.frozen 0
    have f1 := HQ3.out.frozen 1
    have f2 := HQ3.out.frozen 2
    have f3 := HQ3.out.frozen 3
    have f4 := HQ3.out.frozen 4
    have f5 := HQ3.out.frozen 5
    go_wp2_with fail
    refine bodyPost_ret (v := .tuple #[.agg #[.int .i64 0, .int .i64 0, .int .i64 0, .string ⟨#[]⟩, .int .i64 0, .slice none 0 0], .bool false]) (by simp [results, Tryz.f103, go_sem, r0, r1, r2, r3, r4, r5]) rfl ?_
    exact ⟨⟨_, rfl, .inl ⟨HX.out, rfl⟩⟩, (((((HB3.out.setCell (Nat.le_refl _) _).setCell (Nat.le_refl _) _).setCell (Nat.le_refl _) _).setCell (Nat.le_refl _) _).setCell (Nat.le_refl _) _).setCell (Nat.le_refl _) _⟩
  cases b2
  · have HX := (show Hid _ from HNo.out (fun h => by have := (g2 (by omega)).1; cases this))
    clear HNo HG HS3 HLt HRg g0 g1 g2 g3 n0 n1 n2 n3
    obtain ⟨z0, z1, z2, z3, z4, z5⟩ := (show _ ∧ _ ∧ _ ∧ _ ∧ _ ∧ _ from ⟨HN.out.cell 0 rfl, HN.out.cell 1 rfl, HN.out.cell 2 rfl, HN.out.cell 3 rfl, HN.out.cell 4 rfl, HN.out.cell 5 rfl⟩)
    obtain ⟨r0, r1, r2, r3, r4, r5⟩ := (show _ ∧ _ ∧ _ ∧ _ ∧ _ ∧ _ from ⟨HQ3.out.cell 0 rfl, HQ3.out.cell 1 rfl, HQ3.out.cell 2 rfl, HQ3.out.cell 3 rfl, HQ3.out.cell 4 rfl, HQ3.out.cell 5 rfl⟩)
    have f0 := HQ3.out.frozen 0
    have f1 := HQ3.out.frozen 1
    have f2 := HQ3.out.frozen 2
    have f3 := HQ3.out.frozen 3
    have f4 := HQ3.out.frozen 4
    have f5 := HQ3.out.frozen 5
    go_wp2_with fail
    refine bodyPost_ret (v := .tuple #[.agg #[.int .i64 0, .int .i64 0, .int .i64 0, .string ⟨#[]⟩, .int .i64 0, .slice none 0 0], .bool false]) (by simp [results, Tryz.f103, go_sem, r0, r1, r2, r3, r4, r5]) rfl ?_
    exact ⟨⟨_, rfl, .inl ⟨HX.out, rfl⟩⟩, (((((HB3.out.setCell (Nat.le_refl _) _).setCell (Nat.le_refl _) _).setCell (Nat.le_refl _) _).setCell (Nat.le_refl _) _).setCell (Nat.le_refl _) _).setCell (Nat.le_refl _) _⟩
  cases b3
  · have HX := (show Hid _ from HNo.out (fun h => by have := (g3 (by omega)).1; cases this))
    clear HNo HG HS3 HLt HRg g0 g1 g2 g3 n0 n1 n2 n3
    obtain ⟨z0, z1, z2, z3, z4, z5⟩ := (show _ ∧ _ ∧ _ ∧ _ ∧ _ ∧ _ from ⟨HN.out.cell 0 rfl, HN.out.cell 1 rfl, HN.out.cell 2 rfl, HN.out.cell 3 rfl, HN.out.cell 4 rfl, HN.out.cell 5 rfl⟩)
    obtain ⟨r0, r1, r2, r3, r4, r5⟩ := (show _ ∧ _ ∧ _ ∧ _ ∧ _ ∧ _ from ⟨HQ3.out.cell 0 rfl, HQ3.out.cell 1 rfl, HQ3.out.cell 2 rfl, HQ3.out.cell 3 rfl, HQ3.out.cell 4 rfl, HQ3.out.cell 5 rfl⟩)
    have f0 := HQ3.out.frozen 0
    have f1 := HQ3.out.frozen 1
    have f2 := HQ3.out.frozen 2
    have f3 := HQ3.out.frozen 3
    have f4 := HQ3.out.frozen 4
    have f5 := HQ3.out.frozen 5
    go_wp2_with fail
    refine bodyPost_ret (v := .tuple #[.agg #[.int .i64 0, .int .i64 0, .int .i64 0, .string ⟨#[]⟩, .int .i64 0, .slice none 0 0], .bool false]) (by simp [results, Tryz.f103, go_sem, r0, r1, r2, r3, r4, r5]) rfl ?_
    exact ⟨⟨_, rfl, .inl ⟨HX.out, rfl⟩⟩, (((((HB3.out.setCell (Nat.le_refl _) _).setCell (Nat.le_refl _) _).setCell (Nat.le_refl _) _).setCell (Nat.le_refl _) _).setCell (Nat.le_refl _) _).setCell (Nat.le_refl _) _⟩
  have h7 : 7 ≤ s.size := n3 rfl
  obtain ⟨_, rfl⟩ := g0 (by omega)
  obtain ⟨_, rfl⟩ := g1 (by omega)
  obtain ⟨_, rfl⟩ := g2 (by omega)
  obtain ⟨_, rfl⟩ := g3 (by omega)
  clear g0 g1 g2 g3 n0 n1 n2 n3
  obtain ⟨e3, hN⟩ := gb_byte (txI s) HRg.out 6
  rw [e3]
  clear e3
  have HIN : Hid ((gb (((txI s).drop 6).take 1)).toNat = idN (txI s)) := rfl
  rw [HIN.out] at hN ⊢
  clear HIN
  by_cases h7n : 7 + idN (txI s) ≤ s.size
  case neg =>
    have HX := (show Hid _ from HNo.out (by omega))
    have hgt : (s.size : Int) < 7 + (idN (txI s) : Int) := by omega
    generalize idN (txI s) = N at *
    generalize gb (((txI s).drop 0).take 3) = y0 at *
    generalize gb (((txI s).drop 3).take 2) = y1 at *
    generalize gb (((txI s).drop 5).take 1) = y2 at *
    clear HNo HG HS3 HLt HRg
    obtain ⟨z0, z1, z2, z3, z4, z5⟩ := (show _ ∧ _ ∧ _ ∧ _ ∧ _ ∧ _ from ⟨HN.out.cell 0 rfl, HN.out.cell 1 rfl, HN.out.cell 2 rfl, HN.out.cell 3 rfl, HN.out.cell 4 rfl, HN.out.cell 5 rfl⟩)
    obtain ⟨r0, r1, r2, r3, r4, r5⟩ := (show _ ∧ _ ∧ _ ∧ _ ∧ _ ∧ _ from ⟨HQ3.out.cell 0 rfl, HQ3.out.cell 1 rfl, HQ3.out.cell 2 rfl, HQ3.out.cell 3 rfl, HQ3.out.cell 4 rfl, HQ3.out.cell 5 rfl⟩)
    have f0 := HQ3.out.frozen 0
    have f1 := HQ3.out.frozen 1
    have f2 := HQ3.out.frozen 2
    have f3 := HQ3.out.frozen 3
    have f4 := HQ3.out.frozen 4
    have f5 := HQ3.out.frozen 5
    go_wp2_with fail
    refine bodyPost_ret (v := .tuple #[.agg #[.int .i64 0, .int .i64 0, .int .i64 0, .string ⟨#[]⟩, .int .i64 0, .slice none 0 0], .bool false]) (by simp [results, Tryz.f103, go_sem, r0, r1, r2, r3, r4, r5]) rfl ?_
    exact ⟨⟨_, rfl, .inl ⟨HX.out, rfl⟩⟩, (((((HB3.out.setCell (Nat.le_refl _) _).setCell (Nat.le_refl _) _).setCell (Nat.le_refl _) _).setCell (Nat.le_refl _) _).setCell (Nat.le_refl _) _).setCell (Nat.le_refl _) _⟩
  have h7i : ¬ (s.size : Int) < 7 + (idN (txI s) : Int) := by omega
  generalize hNN : idN (txI s) = N at *
  generalize hy0 : gb (((txI s).drop 0).take 3) = y0 at *
  generalize hy1 : gb (((txI s).drop 3).take 2) = y1 at *
  generalize hy2 : gb (((txI s).drop 5).take 1) = y2 at *
  have HY : Hid (idN (txI s) = N ∧ gb (((txI s).drop 0).take 3) = y0 ∧ gb (((txI s).drop 3).take 2) = y1 ∧ gb (((txI s).drop 5).take 1) = y2) := ⟨hNN, hy0, hy1, hy2⟩
  clear hNN hy0 hy1 hy2
  obtain ⟨ID, hID⟩ : ∃ ID, txU (((txI s).drop 7).take N) = ID := ⟨_, rfl⟩
  have HID : Hid (txU (((txI s).drop 7).take N) = ID) := hID
  have hcvA : ∀ c, (convert 22 9 (.slice (some ⟨rb, 7, none⟩) N c)).run Tryz.prog W3 = .ok (.string ID) W3 := fun c => by rw [← hID]; exact conv_txt_at (HS3.out.part7 7 N (by omega))
  have hcvB : cp = 7 → (convert 22 9 (.slice (some ⟨rb, 0, none⟩) N 0)).run Tryz.prog W3 = .ok (.string ID) W3 := fun h => by
    obtain rfl : N = 0 := by omega
    rw [← hID]
    exact conv_txt_at ⟨by simp, by simp, .inl rfl⟩
  clear hID
  have HB4a : Hid (Below W3.heap.size W3 (W3.alloc (.cells #[.int .i64 y0, .int .i64 y1, .int .i64 y2, .string ID, .int .i64 0, .slice none 0 0] 107))) := (Below.refl _ _).alloc (Nat.le_refl _) _
  have HR4 : Hid (BoxN (W3.alloc (.cells #[.int .i64 y0, .int .i64 y1, .int .i64 y2, .string ID, .int .i64 0, .slice none 0 0] 107)) W3.heap.size 107 [.int .i64 y0, .int .i64 y1, .int .i64 y2, .string ID, .int .i64 0, .slice none 0 0]) := BoxN.new _ _ _
  have hnb3 : nb < W3.heap.size := HN.out.lt
  go_upto_region 9 with fail
  go_cut [14] from 15 (fun v W => v = .pointer (some ⟨W3.heap.size, 0, none⟩) ∧ W = (W3.alloc (.cells #[.int .i64 y0, .int .i64 y1, .int .i64 y2, .string ID, .int .i64 0, .slice none 0 0] 107)))
  case first =>
    by_cases hc7 : cp = 7
    · have hcv := hcvB hc7
      subst hc7
      clear hcvA hcvB
      go_wp2_with fail
      go_meet
      exact ⟨rfl, rfl⟩
    · have hcv := hcvA (cp - 7)
      clear hcvA hcvB
      go_wp2_with fail
      go_meet
      exact ⟨rfl, rfl⟩
  case rest =>
  obtain ⟨rfl, hwc⟩ := hcut
  rw [hwc]
  clear hwc hcvA hcvB
  obtain ⟨W4, hW4⟩ : ∃ W4, (W3.alloc (.cells #[.int .i64 y0, .int .i64 y1, .int .i64 y2, .string ID, .int .i64 0, .slice none 0 0] 107)) = W4 := ⟨_, rfl⟩
  rw [hW4] at HB4a HR4 ⊢
  clear hW4
  have HB4 : Hid (Below w.heap.size w W4) := HB3.out.trans (HB4a.out.mono HB3.out.size)
  have HN4 : Hid (BoxN W4 nb 107 [.int .i64 0, .int .i64 0, .int .i64 0, .string ⟨#[]⟩, .int .i64 0, .slice none 0 0]) := HN.out.stays HB4a.out
  have HQ4 : Hid (BoxN W4 w.heap.size 107 [.int .i64 0, .int .i64 0, .int .i64 0, .string ⟨#[]⟩, .int .i64 0, .slice none 0 0]) := HQ3.out.stays HB4a.out
  have HS4 : Hid (Seg W4 (some ⟨rb, 0, none⟩) s.size (txI s)) := HS3.out.below HB4a.out
  have HG4 := (show Hid _ from HG.out W4 HB4a.out)
  generalize W3.heap.size = rr at *
  clear HG HB4a HB3 HN HQ3 HS3
  go_wp2_with fail
  refine (HG4.out (7 + N) 4 (7 + (N : Int)) 4 (by omega) rfl (by omega) (by omega) (by omega)).mono ?_
  rintro e w' ⟨x5, b5, rfl, hw, g5, n5⟩
  obtain rfl : W4 = w' := hw.symm
  go_wp2_with fail
  refine (HG4.out (11 + N) 1 (11 + (N : Int)) 1 (by omega) rfl (by omega) (by omega) (by omega)).mono ?_
  rintro e w' ⟨x6, b6, rfl, hw, g6, n6⟩
  obtain rfl : W4 = w' := hw.symm
  clear HG4
  cases b5
  · have HX := (show Hid _ from HNo.out (fun h => by have := (g5 (by omega)).1; cases this))
    clear g5 g6 n5 n6
    obtain ⟨z0, z1, z2, z3, z4, z5⟩ := (show _ ∧ _ ∧ _ ∧ _ ∧ _ ∧ _ from ⟨HN4.out.cell 0 rfl, HN4.out.cell 1 rfl, HN4.out.cell 2 rfl, HN4.out.cell 3 rfl, HN4.out.cell 4 rfl, HN4.out.cell 5 rfl⟩)
    obtain ⟨r0, r1, r2, r3, r4, r5⟩ := (show _ ∧ _ ∧ _ ∧ _ ∧ _ ∧ _ from ⟨HQ4.out.cell 0 rfl, HQ4.out.cell 1 rfl, HQ4.out.cell 2 rfl, HQ4.out.cell 3 rfl, HQ4.out.cell 4 rfl, HQ4.out.cell 5 rfl⟩)
    have f0 := HQ4.out.frozen 0
    have f1 := HQ4.out.frozen 1
    have f2 := HQ4.out.frozen 2
    have f3 := HQ4.out.frozen 3
    have f4 := HQ4.out.frozen 4
    have f5 := HQ4.out.frozen 5
    go_wp2_with fail
    refine bodyPost_ret (v := .tuple #[.agg #[.int .i64 0, .int .i64 0, .int .i64 0, .string ⟨#[]⟩, .int .i64 0, .slice none 0 0], .bool false]) (by simp [results, Tryz.f103, go_sem, r0, r1, r2, r3, r4, r5]) rfl ?_
    exact ⟨⟨_, rfl, .inl ⟨HX.out, rfl⟩⟩, (((((HB4.out.setCell (Nat.le_refl _) _).setCell (Nat.le_refl _) _).setCell (Nat.le_refl _) _).setCell (Nat.le_refl _) _).setCell (Nat.le_refl _) _).setCell (Nat.le_refl _) _⟩
  cases b6
  · have HX := (show Hid _ from HNo.out (fun h => by have := (g6 (by omega)).1; cases this))
    clear g5 g6 n5 n6
    obtain ⟨z0, z1, z2, z3, z4, z5⟩ := (show _ ∧ _ ∧ _ ∧ _ ∧ _ ∧ _ from ⟨HN4.out.cell 0 rfl, HN4.out.cell 1 rfl, HN4.out.cell 2 rfl, HN4.out.cell 3 rfl, HN4.out.cell 4 rfl, HN4.out.cell 5 rfl⟩)
    obtain ⟨r0, r1, r2, r3, r4, r5⟩ := (show _ ∧ _ ∧ _ ∧ _ ∧ _ ∧ _ from ⟨HQ4.out.cell 0 rfl, HQ4.out.cell 1 rfl, HQ4.out.cell 2 rfl, HQ4.out.cell 3 rfl, HQ4.out.cell 4 rfl, HQ4.out.cell 5 rfl⟩)
    have f0 := HQ4.out.frozen 0
    have f1 := HQ4.out.frozen 1
    have f2 := HQ4.out.frozen 2
    have f3 := HQ4.out.frozen 3
    have f4 := HQ4.out.frozen 4
    have f5 := HQ4.out.frozen 5
    go_wp2_with fail
    refine bodyPost_ret (v := .tuple #[.agg #[.int .i64 0, .int .i64 0, .int .i64 0, .string ⟨#[]⟩, .int .i64 0, .slice none 0 0], .bool false]) (by simp [results, Tryz.f103, go_sem, r0, r1, r2, r3, r4, r5]) rfl ?_
    exact ⟨⟨_, rfl, .inl ⟨HX.out, rfl⟩⟩, (((((HB4.out.setCell (Nat.le_refl _) _).setCell (Nat.le_refl _) _).setCell (Nat.le_refl _) _).setCell (Nat.le_refl _) _).setCell (Nat.le_refl _) _).setCell (Nat.le_refl _) _⟩
  have h12 : 12 + N ≤ s.size := by have := n6 rfl; omega
  obtain ⟨_, rfl⟩ := g5 (by omega)
  obtain ⟨_, rfl⟩ := g6 (by omega)
  clear g5 g6 n5 n6
  obtain ⟨e6, hM⟩ := gb_byte (txI s) HRg.out (11 + N)
  rw [e6]
  clear e6
  have HDN : Hid ((gb (((txI s).drop (11 + N)).take 1)).toNat = dataN (txI s)) := by show _ = _; rw [dataN, HY.out.1]
  rw [HDN.out] at hM ⊢
  clear HDN
  by_cases h12m : 12 + N + dataN (txI s) ≤ s.size
  case neg =>
    have HX := (show Hid _ from HNo.out (by omega))
    have hgt : (s.size : Int) < 12 + (N : Int) + (dataN (txI s) : Int) := by omega
    generalize dataN (txI s) = M at *
    generalize gb (((txI s).drop (7 + N)).take 4) = y5 at *
    obtain ⟨z0, z1, z2, z3, z4, z5⟩ := (show _ ∧ _ ∧ _ ∧ _ ∧ _ ∧ _ from ⟨HN4.out.cell 0 rfl, HN4.out.cell 1 rfl, HN4.out.cell 2 rfl, HN4.out.cell 3 rfl, HN4.out.cell 4 rfl, HN4.out.cell 5 rfl⟩)
    obtain ⟨r0, r1, r2, r3, r4, r5⟩ := (show _ ∧ _ ∧ _ ∧ _ ∧ _ ∧ _ from ⟨HQ4.out.cell 0 rfl, HQ4.out.cell 1 rfl, HQ4.out.cell 2 rfl, HQ4.out.cell 3 rfl, HQ4.out.cell 4 rfl, HQ4.out.cell 5 rfl⟩)
    have f0 := HQ4.out.frozen 0
    have f1 := HQ4.out.frozen 1
    have f2 := HQ4.out.frozen 2
    have f3 := HQ4.out.frozen 3
    have f4 := HQ4.out.frozen 4
    have f5 := HQ4.out.frozen 5
    go_wp2_with fail
    refine bodyPost_ret (v := .tuple #[.agg #[.int .i64 0, .int .i64 0, .int .i64 0, .string ⟨#[]⟩, .int .i64 0, .slice none 0 0], .bool false]) (by simp [results, Tryz.f103, go_sem, r0, r1, r2, r3, r4, r5]) rfl ?_
    exact ⟨⟨_, rfl, .inl ⟨HX.out, rfl⟩⟩, (((((HB4.out.setCell (Nat.le_refl _) _).setCell (Nat.le_refl _) _).setCell (Nat.le_refl _) _).setCell (Nat.le_refl _) _).setCell (Nat.le_refl _) _).setCell (Nat.le_refl _) _⟩
  have h12i : ¬ (s.size : Int) < 12 + (N : Int) + (dataN (txI s) : Int) := by omega
  generalize hMM : dataN (txI s) = M at *
  generalize hy5 : gb (((txI s).drop (7 + N)).take 4) = y5 at *
  have HY2 : Hid (dataN (txI s) = M ∧ gb (((txI s).drop (7 + N)).take 4) = y5) := ⟨hMM, hy5⟩
  clear hMM hy5
  have hrf := HR4.out.frozen 4
  have hr4 := HR4.out.cell 4 rfl
  obtain ⟨j0, ji, jz0, jz1, jz2⟩ := info_parts Tryz.info5
  have hrr4 : rr < W4.heap.size := HR4.out.lt
  have hb5 : Below w.heap.size w (W4.setCell ⟨rr, 4, none⟩ (.int .i64 y5)) := HB4.out.setCell (by dsimp only; omega) _
  have HR5 : Hid (BoxN (W4.setCell ⟨rr, 4, none⟩ (.int .i64 y5)) rr 107 [.int .i64 y0, .int .i64 y1, .int .i64 y2, .string ID, .int .i64 y5, .slice none 0 0]) := HR4.out.set 4 _
  have HN5 : Hid (BoxN (W4.setCell ⟨rr, 4, none⟩ (.int .i64 y5)) nb 107 [.int .i64 0, .int .i64 0, .int .i64 0, .string ⟨#[]⟩, .int .i64 0, .slice none 0 0]) := HN4.out.other (by omega) _
  have HQ5 : Hid (BoxN (W4.setCell ⟨rr, 4, none⟩ (.int .i64 y5)) w.heap.size 107 [.int .i64 0, .int .i64 0, .int .i64 0, .string ⟨#[]⟩, .int .i64 0, .slice none 0 0]) := HQ4.out.other (by omega) _
  have HS5 : Hid (Seg (W4.setCell ⟨rr, 4, none⟩ (.int .i64 y5)) (some ⟨rb, 0, none⟩) s.size (txI s)) := seg_set HS4.out (by omega) _
  have HB5 : Hid (Below w.heap.size w (W4.setCell ⟨rr, 4, none⟩ (.int .i64 y5))) := hb5
  clear hb5
  go_upto_region 15 with fail
  obtain ⟨W5, hW5⟩ : ∃ W5, W4.setCell ⟨rr, 4, none⟩ (.int .i64 y5) = W5 := ⟨_, rfl⟩
  rw [hW5] at HR5 HN5 HQ5 HS5 HB5 ⊢
  clear hW5 hrf hr4 HR4 HN4 HQ4 HS4 HB4 hrr4
  obtain ⟨data, hdata⟩ : ∃ data, ((txI s).drop (12 + N)).take M = data := ⟨_, rfl⟩
  have HDt : Hid (((txI s).drop (12 + N)).take M = data) := hdata
  have HDr : Hid (∀ x ∈ data, 0 ≤ x ∧ x ≤ 255) := fun x hx => HRg.out x (by rw [← hdata] at hx; exact List.mem_of_mem_drop (List.mem_of_mem_take hx))
  have HDl : Hid (data.length = M) := by show _ = _; rw [← hdata]; have := HLt.out; simp; omega
  have HSd : Hid (Seg (W5.alloc (.cells #[] 5)) (some ⟨rb, 12 + N, none⟩) M data) := by rw [← hdata]; exact (HS5.out.part7 (12 + N) M (by omega)).below ((Below.refl _ _).alloc (Nat.le_refl _) _)
  have HO5 : Hid ((W5.alloc (.cells #[] 5)).ownsRow W5.heap.size 5 1 (.slice (some ⟨W5.heap.size, 0, none⟩) 0 0) 0 []) := World.ownsRow_lit W5 #[] 0 (Nat.le_refl _) (Nat.zero_le _) rfl
  have hr5lt : rr < W5.heap.size := HR5.out.lt
  have HFin : Hid (∀ (A : Option Addr) (C : Nat) (w6 : World), Owns w6 W5.heap.size A M C data → (W5.alloc (.cells #[] 5)).grownBy w6 (some W5.heap.size) → BoxN w6 rr 107 [.int .i64 y0, .int .i64 y1, .int .i64 y2, .string ID, .int .i64 y5, .slice none 0 0] ∧ Hid (BoxN (w6.setCell ⟨rr, 5, none⟩ (.slice A M C)) rr 107 [.int .i64 y0, .int .i64 y1, .int .i64 y2, .string ID, .int .i64 y5, .slice A M C]) ∧ Hid (BoxN (w6.setCell ⟨rr, 5, none⟩ (.slice A M C)) nb 107 [.int .i64 0, .int .i64 0, .int .i64 0, .string ⟨#[]⟩, .int .i64 0, .slice none 0 0]) ∧ Hid (BoxN (w6.setCell ⟨rr, 5, none⟩ (.slice A M C)) w.heap.size 107 [.int .i64 0, .int .i64 0, .int .i64 0, .string ⟨#[]⟩, .int .i64 0, .slice none 0 0]) ∧ Hid (Below w.heap.size w (w6.setCell ⟨rr, 5, none⟩ (.slice A M C))) ∧ Hid (Owns (w6.setCell ⟨rr, 5, none⟩ (.slice A M C)) rr A M C data)) := by
    intro A C w6 ho hg
    have b1 := (HR5.out.alloc (.cells #[] 5)).grown hg (fun e => by injection e with e; omega)
    have b2 := (HN5.out.alloc (.cells #[] 5)).grown hg (fun e => by injection e with e; omega)
    have b3 := (HQ5.out.alloc (.cells #[] 5)).grown hg (fun e => by injection e with e; omega)
    have hb := ((HB5.out.alloc HB5.out.size (.cells #[] 5)).grown hg (by have := HB5.out.size; simp; omega) (fun q e => by injection e with e; have := HB5.out.size; omega))
    exact ⟨b1, b1.set 5 _, b2.other (by omega) _, b3.other (by omega) _, hb.setCell (by dsimp only; omega) _, owns_low (owns_set ho (fun e => by have := (ho.lt _ e).1; omega)) (by omega)⟩
  clear hdata
  go_cut [] from 19 (fun W => ∃ A C, Hid (BoxN W rr 107 [.int .i64 y0, .int .i64 y1, .int .i64 y2, .string ID, .int .i64 y5, .slice A M C]) ∧ Hid (BoxN W nb 107 [.int .i64 0, .int .i64 0, .int .i64 0, .string ⟨#[]⟩, .int .i64 0, .slice none 0 0]) ∧ Hid (BoxN W w.heap.size 107 [.int .i64 0, .int .i64 0, .int .i64 0, .string ⟨#[]⟩, .int .i64 0, .slice none 0 0]) ∧ Hid (Below w.heap.size w W) ∧ Hid (Owns W rr A M C data))
  case first =>
    by_cases hc12 : cp = 12 + N
    · obtain rfl : M = 0 := by omega
      obtain rfl : data = [] := List.eq_nil_of_length_eq_zero HDl.out
      subst hc12
      go_wp2_with (at_builtin; refine wpList_append_own _ rfl _ _ 22 rfl W5.heap.size 5 j0 (.int .u8 0) 1 1 Tryz.underlying22 ji jz0 jz1 jz2 rfl (by decide) (.slice (some ⟨W5.heap.size, 0, none⟩) 0 0) 0 [] rfl HO5.out ⟨rb, 0, none⟩ 0 (12 + N - (12 + N)) [] rfl rfl (by simp) (by simp) (by unfold maxLen; omega) (by omega) (by simp) ?_; intro v6 w6 hown6 hgrow6 _; refine Hid.out ?_)
      refine hidden ?_
      have hown6' : w6.ownsRow W5.heap.size 5 1 v6 0 (([] : List Int).map (Value.int .u8)) := by
        have h := hown6
        rw [Nat.zero_add] at h
        simpa using h
      obtain ⟨A6, C6, rfl⟩ := shape_of_owns hown6'
      have HF := (show Hid _ from HFin.out A6 C6 w6 ⟨hown6', HDr.out⟩ hgrow6)
      obtain ⟨k5, kz⟩ := (show _ ∧ _ from ⟨HF.out.1.cell 5 rfl, HF.out.1.frozen 5⟩)
      clear hown6 hown6' hgrow6
      go_wp2_with fail
      go_meet
      exact ⟨A6, C6, HF.out.2⟩
    · have hlt12 : 12 + N < cp := by omega
      have HKe : Hid (12 + N + M - (12 + N) = M) := by show _ = _; omega
      go_wp2_with (at_builtin; refine wpList_append_own _ rfl _ _ 22 rfl W5.heap.size 5 j0 (.int .u8 0) 1 1 Tryz.underlying22 ji jz0 jz1 jz2 rfl (by decide) (.slice (some ⟨W5.heap.size, 0, none⟩) 0 0) 0 [] rfl HO5.out ⟨rb, 12 + N, none⟩ (12 + N + M - (12 + N)) (cp - (12 + N)) (data.map (Value.int .u8)) rfl (by rw [List.length_map, HDl.out, HKe.out, Nat.mul_one]) (seg_src HSd.out _ rfl) (ints_one data) (by unfold maxLen; omega) (by omega) (by simp) ?_; intro v6 w6 hown6 hgrow6 _; refine Hid.out ?_)
      refine hidden ?_
      have hown6' : w6.ownsRow W5.heap.size 5 1 v6 M (data.map (Value.int .u8)) := by
        have h := hown6
        rw [Nat.zero_add, HKe.out] at h
        simpa using h
      obtain ⟨A6, C6, rfl⟩ := shape_of_owns hown6'
      have HF := (show Hid _ from HFin.out A6 C6 w6 ⟨hown6', HDr.out⟩ hgrow6)
      obtain ⟨k5, kz⟩ := (show _ ∧ _ from ⟨HF.out.1.cell 5 rfl, HF.out.1.frozen 5⟩)
      clear hown6 hown6' hgrow6
      go_wp2_with fail
      go_meet
      exact ⟨A6, C6, HF.out.2⟩
  case rest =>
  obtain ⟨W6, hW6⟩ : ∃ W6, wc = W6 := ⟨_, rfl⟩
  rw [hW6] at hcut ⊢
  clear hW6 HFin HO5 HSd HR5 HN5 HQ5 HS5 HB5
  obtain ⟨A, C, HR6, HN6, HQ6, HB6, HO6⟩ := hcut
  have HIs : Hid (ID.size = N) := by show _ = _; rw [← HID.out, txU_size]; have := HLt.out; simp; omega
  have hIDs : ID.size = N := HIs.out
  have HP : Hid (parseR (txI s) = ⟨y0, y1, y2, ID, y5, data⟩) := by
    show _ = _
    rw [parseR, HY.out.1, HY2.out.1, HY.out.2.2.1, HY.out.2.2.2, HID.out, HY2.out.2, HDt.out, show (txI s).take 3 = ((txI s).drop 0).take 3 by simp, HY.out.2.1]
  clear HY HY2 HID HDt HNo HLt HRg
  have c0 := HR6.out.cell 0 rfl
  have c1 := HR6.out.cell 1 rfl
  have c2 := HR6.out.cell 2 rfl
  have c3 := HR6.out.cell 3 rfl
  have c4 := HR6.out.cell 4 rfl
  have c5 := HR6.out.cell 5 rfl
  go_wp2_with fail
  refine (specRok_any y0 y1 y2 ID y5 A M C W6 (by unfold maxLen; omega) (by omega)).mono ?_
  rintro e W7 ⟨rfl, hb7⟩
  have HB7 : Hid (Below w.heap.size w W7) := HB6.out.trans (hb7.mono HB6.out.size)
  have HN7 : Hid (BoxN W7 nb 107 [.int .i64 0, .int .i64 0, .int .i64 0, .string ⟨#[]⟩, .int .i64 0, .slice none 0 0]) := HN6.out.stays hb7
  have HQ7 : Hid (BoxN W7 w.heap.size 107 [.int .i64 0, .int .i64 0, .int .i64 0, .string ⟨#[]⟩, .int .i64 0, .slice none 0 0]) := HQ6.out.stays hb7
  have HR7 : Hid (BoxN W7 rr 107 [.int .i64 y0, .int .i64 y1, .int .i64 y2, .string ID, .int .i64 y5, .slice A M C]) := HR6.out.stays hb7
  have HO7 : Hid (Owns W7 rr A M C data) := HO6.out.below hb7
  clear hb7 HB6 HN6 HQ6 HR6 HO6 c0 c1 c2 c3 c4 c5
  cases hok : okRec y0 y1 y2 ID y5 M
  · have HX : Hid (recOf s = none) := recOf_none (fun h => by
      have h1 := h.1
      rw [HP.out, R.ok, HDl.out, hok] at h1
      cases h1)
    clear HP hok HO7 HR7
    obtain ⟨z0, z1, z2, z3, z4, z5⟩ := (show _ ∧ _ ∧ _ ∧ _ ∧ _ ∧ _ from ⟨HN7.out.cell 0 rfl, HN7.out.cell 1 rfl, HN7.out.cell 2 rfl, HN7.out.cell 3 rfl, HN7.out.cell 4 rfl, HN7.out.cell 5 rfl⟩)
    obtain ⟨r0, r1, r2, r3, r4, r5⟩ := (show _ ∧ _ ∧ _ ∧ _ ∧ _ ∧ _ from ⟨HQ7.out.cell 0 rfl, HQ7.out.cell 1 rfl, HQ7.out.cell 2 rfl, HQ7.out.cell 3 rfl, HQ7.out.cell 4 rfl, HQ7.out.cell 5 rfl⟩)
    have f0 := HQ7.out.frozen 0
    have f1 := HQ7.out.frozen 1
    have f2 := HQ7.out.frozen 2
    have f3 := HQ7.out.frozen 3
    have f4 := HQ7.out.frozen 4
    have f5 := HQ7.out.frozen 5
    go_wp2_with fail
    refine bodyPost_ret (v := .tuple #[.agg #[.int .i64 0, .int .i64 0, .int .i64 0, .string ⟨#[]⟩, .int .i64 0, .slice none 0 0], .bool false]) (by simp [results, Tryz.f103, go_sem, r0, r1, r2, r3, r4, r5]) rfl ?_
    exact ⟨⟨_, rfl, .inl ⟨HX.out, rfl⟩⟩, (((((HB7.out.setCell (Nat.le_refl _) _).setCell (Nat.le_refl _) _).setCell (Nat.le_refl _) _).setCell (Nat.le_refl _) _).setCell (Nat.le_refl _) _).setCell (Nat.le_refl _) _⟩
  obtain ⟨he, hq, hk, hid, hn, hd2⟩ := okRec_iff hok
  obtain ⟨E, rfl⟩ := Int.eq_ofNat_of_zero_le he.1
  obtain ⟨Q, rfl⟩ := Int.eq_ofNat_of_zero_le hq.1
  obtain ⟨K, rfl⟩ := Int.eq_ofNat_of_zero_le (show 0 ≤ y2 by omega)
  obtain ⟨M5, rfl⟩ := Int.eq_ofNat_of_zero_le hn.1
  have c0 := HR7.out.cell 0 rfl
  have c1 := HR7.out.cell 1 rfl
  have c2 := HR7.out.cell 2 rfl
  have c3 := HR7.out.cell 3 rfl
  have c4 := HR7.out.cell 4 rfl
  have c5 := HR7.out.cell 5 rfl
  have HOk : Hid (okRec E Q K ID M5 M = true) := hok
  clear hok
  go_wp2_with fail
  refine (specPut13_any E Q K ID M5 A M C data W7 HO7.out.seg (by omega) (by omega) (by omega) (by omega) (by omega) (by omega)).mono ?_
  rintro e W8 ⟨rfl, hb8⟩
  have HB8 : Hid (Below w.heap.size w W8) := HB7.out.trans (hb8.mono HB7.out.size)
  have HN8 : Hid (BoxN W8 nb 107 [.int .i64 0, .int .i64 0, .int .i64 0, .string ⟨#[]⟩, .int .i64 0, .slice none 0 0]) := HN7.out.stays hb8
  have HQ8 : Hid (BoxN W8 w.heap.size 107 [.int .i64 0, .int .i64 0, .int .i64 0, .string ⟨#[]⟩, .int .i64 0, .slice none 0 0]) := HQ7.out.stays hb8
  have HR8 : Hid (BoxN W8 rr 107 [.int .i64 E, .int .i64 Q, .int .i64 K, .string ID, .int .i64 M5, .slice A M C]) := HR7.out.stays hb8
  have HO8 : Hid (Owns W8 rr A M C data) := HO7.out.below hb8
  clear hb8 HB7 HN7 HQ7 HR7 HO7 c0 c1 c2 c3 c4 c5
  have HRo : Hid ((⟨E, Q, K, ID, M5, data⟩ : R).ok = true) := by show R.ok _ = _; rw [R.ok, HDl.out]; exact HOk.out
  have HRp : Hid ((⟨E, Q, K, ID, M5, data⟩ : R).put = sumB (recB E Q K ID M5 data)) := rfl
  have HRr : Hid (txI (txU (sumB (recB E Q K ID M5 data))) = sumB (recB E Q K ID M5 data)) := txI_txU _ (sumB_range _ (recB_range _ _ _ _ _ _ HDr.out))
  generalize hT : txU (sumB (recB E Q K ID M5 data)) = t at *
  by_cases hts : t = s
  · subst hts
    have HX : Hid (recOf t = some ⟨E, Q, K, ID, M5, data⟩) := recOf_iff.2 ⟨HRo.out, by rw [HRp.out, ← HRr.out]⟩
    clear hT
    have HO9 : Hid (∀ (u0 u1 u2 u3 u4 u5 : Value), Owns ((((((W8.setCell ⟨w.heap.size, 0, none⟩ u0).setCell ⟨w.heap.size, 1, none⟩ u1).setCell ⟨w.heap.size, 2, none⟩ u2).setCell ⟨w.heap.size, 3, none⟩ u3).setCell ⟨w.heap.size, 4, none⟩ u4).setCell ⟨w.heap.size, 5, none⟩ u5) w.heap.size A M C data) := fun u0 u1 u2 u3 u4 u5 => by
      have hA : A.map (·.block) ≠ some w.heap.size := fun e => by have := (HO8.out.lt _ e).1; omega
      exact owns_low (owns_set (owns_set (owns_set (owns_set (owns_set (owns_set HO8.out hA) hA) hA) hA) hA) hA) (by omega)
    obtain ⟨z0, z1, z2, z3, z4, z5⟩ := (show _ ∧ _ ∧ _ ∧ _ ∧ _ ∧ _ from ⟨HR8.out.cell 0 rfl, HR8.out.cell 1 rfl, HR8.out.cell 2 rfl, HR8.out.cell 3 rfl, HR8.out.cell 4 rfl, HR8.out.cell 5 rfl⟩)
    obtain ⟨r0, r1, r2, r3, r4, r5⟩ := (show _ ∧ _ ∧ _ ∧ _ ∧ _ ∧ _ from ⟨HQ8.out.cell 0 rfl, HQ8.out.cell 1 rfl, HQ8.out.cell 2 rfl, HQ8.out.cell 3 rfl, HQ8.out.cell 4 rfl, HQ8.out.cell 5 rfl⟩)
    have f0 := HQ8.out.frozen 0
    have f1 := HQ8.out.frozen 1
    have f2 := HQ8.out.frozen 2
    have f3 := HQ8.out.frozen 3
    have f4 := HQ8.out.frozen 4
    have f5 := HQ8.out.frozen 5
    clear HR8 HQ8 HN8 HO8
    go_wp2_with fail
    refine bodyPost_ret (v := .tuple #[.agg #[.int .i64 E, .int .i64 Q, .int .i64 K, .string ID, .int .i64 M5, .slice A M C], .bool true]) (by simp [results, Tryz.f103, go_sem, r0, r1, r2, r3, r4, r5]) rfl ?_
    refine ⟨⟨_, rfl, .inr ⟨⟨E, Q, K, ID, M5, data⟩, A, C, HX.out, ?_, ?_⟩⟩, (((((HB8.out.setCell (Nat.le_refl _) _).setCell (Nat.le_refl _) _).setCell (Nat.le_refl _) _).setCell (Nat.le_refl _) _).setCell (Nat.le_refl _) _).setCell (Nat.le_refl _) _⟩
    · rw [HDl.out]
    · rw [HDl.out]
      exact HO9.out _ _ _ _ _ _
  · have HX : Hid (recOf s = none) := recOf_none (fun h => by
      have h2 := h.2
      rw [HP.out, HRp.out] at h2
      exact hts (by rw [← hT, h2, txU_txI]))
    clear HP HRo HRp HRr hT
    have hne : (t.toList == s.toList) = false := by
      rw [beq_eq_false_iff_ne, Lib.toList_data, Lib.toList_data]
      intro e2
      exact hts (by cases t; cases s; exact congrArg ByteArray.mk (Array.toList_inj.1 e2))
    clear HO8 HR8 hts
    obtain ⟨z0, z1, z2, z3, z4, z5⟩ := (show _ ∧ _ ∧ _ ∧ _ ∧ _ ∧ _ from ⟨HN8.out.cell 0 rfl, HN8.out.cell 1 rfl, HN8.out.cell 2 rfl, HN8.out.cell 3 rfl, HN8.out.cell 4 rfl, HN8.out.cell 5 rfl⟩)
    obtain ⟨r0, r1, r2, r3, r4, r5⟩ := (show _ ∧ _ ∧ _ ∧ _ ∧ _ ∧ _ from ⟨HQ8.out.cell 0 rfl, HQ8.out.cell 1 rfl, HQ8.out.cell 2 rfl, HQ8.out.cell 3 rfl, HQ8.out.cell 4 rfl, HQ8.out.cell 5 rfl⟩)
    have f0 := HQ8.out.frozen 0
    have f1 := HQ8.out.frozen 1
    have f2 := HQ8.out.frozen 2
    have f3 := HQ8.out.frozen 3
    have f4 := HQ8.out.frozen 4
    have f5 := HQ8.out.frozen 5
    go_wp2_with fail
    refine bodyPost_ret (v := .tuple #[.agg #[.int .i64 0, .int .i64 0, .int .i64 0, .string ⟨#[]⟩, .int .i64 0, .slice none 0 0], .bool false]) (by simp [results, Tryz.f103, go_sem, r0, r1, r2, r3, r4, r5]) rfl ?_
    exact ⟨⟨_, rfl, .inl ⟨HX.out, rfl⟩⟩, (((((HB8.out.setCell (Nat.le_refl _) _).setCell (Nat.le_refl _) _).setCell (Nat.le_refl _) _).setCell (Nat.le_refl _) _).setCell (Nat.le_refl _) _).setCell (Nat.le_refl _) _⟩

end Go.Proofs.YtlkgopoicpnacaaGreatDoor
