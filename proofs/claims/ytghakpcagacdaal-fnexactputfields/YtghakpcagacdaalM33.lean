/- The specification's tables of Huffman's code: the lengths, and the codes. The specification's codes: a table in memory of its own. -/
import Derived.Test.YtghakpcagacdaalM07
import Derived.Test.YtghakpcagacdaalM02
import Derived.Test.YtghakpcagacdaalM08
namespace Go.Proofs.Ytghakpcagacdaal
open Go.RowKit
set_option linter.unusedVariables false

/-- A table of whole numbers in a block of its own. -/
def Tab (w : World) (g : Nat) (L : List Int) : Prop := w.heap[g]? = some (.cells (L.map (Value.int .i64)).toArray 3 (0, 0))

theorem Tab.cell {w : World} {g : Nat} {L : List Int} (h : Tab w g L) (k : Nat) (hk : k < L.length) : w.cell? ⟨g, k, none⟩ = some (.int .i64 (L.getD k 0)) := by
  rw [cell_of_row w g k _ 3 (0, 0) h]
  simp [List.getD_eq_getElem?_getD, hk]
theorem Tab.lt {w : World} {g : Nat} {L : List Int} (h : Tab w g L) : g < w.heap.size := (Array.getElem?_eq_some_iff.1 h).1
theorem Tab.below {w w' : World} {g B : Nat} {L : List Int} (h : Tab w g L) (hb : Below B w w') (hg : g < B) : Tab w' g L := (hb.block g hg).trans h

theorem Try.info3 : (Try.prog.info? 3).map (fun i => (i.zero, i.size, i.bytes)) = some (some (.int .i64 0), 1, 8) := by kernel_rfl

theorem lens_fill : Instr.fill (fun i => some (i * 1, 1)) ((Array.range (lensI.length * 1)).map ((Value.int .i64 0).cells[· % (Value.int .i64 0).cells.size]!)) (litVals lensI) = some (lensI.map (Value.int .i64)).toArray := by kernel_rfl

theorem specLens_any (w : World) : Calls Try.prog 68 #[] w fun e w' => e = .returned (.slice (some ⟨w.heap.size, 0, none⟩) 257 257) ∧ w' = w.alloc (.cells (lensI.map (Value.int .i64)).toArray 3) := by
  obtain ⟨i0, hi, hz0, hz1, hz2⟩ := info_parts Try.info3
  have h := lit_calls Try.func68 96 lensI "l03_huff.go:4" "l03_huff.go:5" _ i0 (by kernel_rfl) rfl rfl Try.underlying96 hi hz1 hz0 (by rw [lens_len]; omega) (by rw [lens_len]; omega) lens_fill w
  rw [lens_len] at h
  exact h

end Go.Proofs.Ytghakpcagacdaal

namespace Go.Proofs.Ytghakpcagacdaal
open Go.RowKit
set_option linter.unusedVariables false

/-- A table of whole numbers that stands in block g. -/
def Nums (w : World) (g : Nat) (L : List Int) : Prop := g < w.heap.size ∧ ∀ k, k < L.length → w.cell? ⟨g, k, none⟩ = some (.int .i64 (L.getD k 0))

theorem Tab.nums {w : World} {g : Nat} {L : List Int} (h : Tab w g L) : Nums w g L := ⟨h.lt, fun k hk => h.cell k hk⟩
theorem Nums.below {w w' : World} {g B : Nat} {L : List Int} (h : Nums w g L) (hb : Below B w w') (hg : g < B) : Nums w' g L := ⟨Nat.lt_of_lt_of_le h.1 hb.size, fun k hk => (hb.cell (p := ⟨g, k, none⟩) hg).trans (h.2 k hk)⟩
theorem Nums.stays {w w' : World} {g : Nat} {L : List Int} (h : Nums w g L) (hb : Below w.heap.size w w') : Nums w' g L := h.below hb h.1

theorem map_set (L : List Int) (k : Nat) (x : Int) : (L.map (Value.int .i64)).set k (.int .i64 x) = (L.set k x).map (Value.int .i64) := by rw [List.map_set]

set_option maxRecDepth 10000 in
set_option maxHeartbeats 800000 in
theorem specCodes_any (w : World) : Calls Try.prog 69 #[] w fun e w' => ∃ g, e = .returned (.slice (some ⟨g, 0, none⟩) 257 257) ∧ Nums w' g codesI ∧ w.heap.size ≤ g ∧ Below w.heap.size w w' := by
  obtain ⟨i0, hi, hz0, hz1, hz2⟩ := info_parts Try.info3
  go_enter Try.func69, Try.ntmps69
  go_wp2_with fail
  refine (specLens_any w).mono ?_
  rintro e w1 ⟨rfl, hw1⟩
  have HT : Hid (Nums w1 w.heap.size lensI) := by
    show Nums _ _ _
    rw [hw1]
    exact Tab.nums (heap_alloc_new w _)
  have HB1 : Hid (Below w.heap.size w w1) := by
    show Below _ _ _
    rw [hw1]
    exact (Below.refl _ _).alloc (Nat.le_refl _) _
  have hs1 : w1.heap.size = w.heap.size + 1 := by rw [hw1]; simp
  clear hw1
  go_wp2_with (at_make; refine wpList_make_full _ rfl _ _ 96 rfl w1.heap.size 3 i0 (.int .i64 0) 1 Try.underlying96 hi hz0 hz1 .i64 .i64 257 257 257 rfl rfl rfl rfl (by rw [hz2]; omega) (by unfold maxLen; omega) (Nat.le_refl _) ?_; intro w2 hown2 hgrow2; refine Hid.out ?_)
  refine hidden ?_
  obtain ⟨h, hh⟩ : ∃ h, w.heap.size = h := ⟨_, rfl⟩
  rw [hh] at hs1
  have hmc : (madeCells (Value.int .i64 0).cells (257 * 1)).toList = (List.replicate 257 (0 : Int)).map (Value.int .i64) := by
    rw [show (Value.int .i64 0).cells = #[Value.int .i64 0] from rfl, toList_madeCells_one, List.map_replicate]
  rw [hmc, hs1] at hown2
  have HO2 : Hid (w2.ownsRow (h + 1) 3 1 (.slice (some ⟨h + 1, 0, none⟩) 257 257) 257 ((cout 0).2.2.map (Value.int .i64))) := hown2
  have HB2 : Hid (Below (h + 1) w1 w2) := by
    show Below _ _ _
    exact ((Below.refl (h + 1) w1).grown hgrow2 (by omega) (fun _ e => by cases e))
  have HT2 : Hid (Nums w2 h lensI) := by
    show Nums _ _ _
    rw [hh] at HT
    exact HT.out.below HB2.out (by omega)
  have HB0 : Hid (Below h w w2) := by
    show Below _ _ _
    rw [hh] at HB1
    exact HB1.out.trans (HB2.out.mono (by omega))
  clear hown2 hgrow2 hmc HT HB1 HB2
  rw [hh]
  go_wp2_with fail
  go_loopw [3, 4, 5] (fun c l n wr => ∃ m : Nat, m ≤ 30 ∧ n = .int .i64 ((m : Int) + 1) ∧ c = .int .i64 (cout m).1 ∧ l = .int .i64 (cout m).2.1 ∧ 0 ≤ (cout m).2.1 ∧ (cout m).2.1 ≤ (m : Int) ∧ Hid (wr.ownsRow (h + 1) 3 1 (.slice (some ⟨h + 1, 0, none⟩) 257 257) 257 ((cout m).2.2.map (Value.int .i64))) ∧ Hid (Below (h + 1) w2 wr)) (fun _ _ n _ => 31 - (intOf n).toNat)
  case atStart => exact ⟨0, Nat.zero_le _, rfl, rfl, rfl, Int.le_refl _, Int.le_refl _, HO2, Below.refl _ _⟩
  case round =>
    clear HO2
    obtain ⟨m, hm, rfl, rfl, rfl, hl0, hl1, HO, HB⟩ := hrel
    by_cases hm30 : m < 30
    · have hmi : (m : Int) + 1 ≤ 30 := by omega
      obtain ⟨s0, hs0⟩ : ∃ s0, cout m = s0 := ⟨_, rfl⟩
      rw [hs0] at hl0 hl1 HO ⊢
      have HS0 : Hid (cout m = s0) := hs0
      clear hs0
      go_wp2_with fail
      go_loopw [3, 4, 6] (fun c l k wi => ∃ (j : Nat) (s : Int × Int × List Int), j ≤ 257 ∧ k = .int .i64 j ∧ c = .int .i64 s.1 ∧ l = .int .i64 s.2.1 ∧ 0 ≤ s.2.1 ∧ s.2.1 ≤ (m : Int) + 1 ∧ Hid (cin ((m : Int) + 1) (lensI.take j) 0 s0 = s) ∧ Hid (wi.ownsRow (h + 1) 3 1 (.slice (some ⟨h + 1, 0, none⟩) 257 257) 257 (s.2.2.map (Value.int .i64))) ∧ Hid (Below (h + 1) w2 wi)) (fun _ _ k _ => 257 - (intOf k).toNat)
      case atStart => exact ⟨0, s0, Nat.zero_le _, rfl, rfl, rfl, hl0, by omega, rfl, HO, HB⟩
      case round =>
        clear HO HB hl0 hl1
        obtain ⟨j, ⟨c, l, L⟩, hj, rfl, rfl, rfl, hl0, hl1, HC, HO, HB⟩ := hrel
        dsimp only at hl0 hl1 HO ⊢
        by_cases hj7 : j < 257
        · have hcell := (HT2.out.below HB.out (Nat.lt_succ_self h)).2 j (by rw [lens_len]; exact hj7)
          have HCN : Hid (cin ((m : Int) + 1) (lensI.take (j + 1)) 0 s0 = cone ((m : Int) + 1) (lensI.getD j 0) j (c, l, L)) := by
            show _ = _
            have htl : (lensI.take j).length = j := by rw [List.length_take, lens_len]; omega
            rw [take_next j (by rw [lens_len]; exact hj7), cin_snoc, HC.out, Nat.zero_add, htl]
          generalize lensI.getD j 0 = le at hcell HCN
          have hji : (j : Int) ≤ 256 := by omega
          by_cases hne : le = (m : Int) + 1
          · rw [hne] at hcell HCN
            clear hne
            have hf : wr.frozen? ⟨h + 1, j, none⟩ = false := HO.out.frozenAt j
            obtain ⟨u, hu⟩ : ∃ u, wr.cell? ⟨h + 1, j, none⟩ = some u := by
              rw [HO.out.cellAt j hj7]
              exact ⟨_, List.getElem?_eq_getElem (by have := HO.out.1; omega)⟩
            by_cases hp : 0 < l
            · go_wp2_with fail
              go_roundw
              case rel =>
                refine ⟨j + 1, (wrap64 (wrap64 (c + 1) * 2 ^ ((m : Int) + 1 - l).toNat), (m : Int) + 1, L.set j (wrap64 (wrap64 (c + 1) * 2 ^ ((m : Int) + 1 - l).toNat))), by omega, by go_num, rfl, rfl, by dsimp only; omega, by dsimp only; omega, ?_, ?_, ?_⟩
                · show _ = _
                  rw [HCN.out, cone, if_pos rfl, if_pos hp]
                · show World.ownsRow _ _ _ _ _ _ _
                  have := (HO.out.stored j (.int .i64 (wrap64 (wrap64 (c + 1) * 2 ^ ((m : Int) + 1 - l).toNat)))).1
                  rw [map_set] at this
                  simpa using this
                · exact HB.out.setCell (p := ⟨h + 1, j, none⟩) (Nat.le_refl _) _
              case measure => simp [intOf]; omega
            · go_wp2_with fail
              go_roundw
              case rel =>
                refine ⟨j + 1, (c, (m : Int) + 1, L.set j c), by omega, by go_num, rfl, rfl, by dsimp only; omega, by dsimp only; omega, ?_, ?_, ?_⟩
                · show _ = _
                  rw [HCN.out, cone, if_pos rfl, if_neg hp]
                · show World.ownsRow _ _ _ _ _ _ _
                  have := (HO.out.stored j (.int .i64 c)).1
                  rw [map_set] at this
                  simpa using this
                · exact HB.out.setCell (p := ⟨h + 1, j, none⟩) (Nat.le_refl _) _
              case measure => simp [intOf]; omega
          · have hbn : (le != (m : Int) + 1) = true := by simp [hne]
            go_wp2_with fail
            go_roundw
            case rel =>
              refine ⟨j + 1, (c, l, L), by omega, by go_num, rfl, rfl, hl0, hl1, ?_, HO, HB⟩
              show _ = _
              rw [HCN.out, cone, if_neg hne]
            case measure => simp [intOf]; omega
        · have hj5 : j = 257 := by omega
          subst hj5
          have hce : cout (m + 1) = (c, l, L) := by
            have hc := HC.out
            rw [List.take_of_length_le (by rw [lens_len]; exact Nat.le_refl _)] at hc
            rw [cout, HS0.out, Int.natCast_add]
            exact hc
          go_wp2_with fail
          go_roundw
          case rel =>
            refine ⟨m + 1, by omega, by go_num, by rw [hce], by rw [hce], by rw [hce]; exact hl0, by rw [hce]; simpa using hl1, ?_, HB⟩
            rw [hce]
            exact HO
          case measure => simp [intOf]; omega
    · have hm3 : m = 30 := by omega
      subst hm3
      go_wp2_with fail
      go_ret
      have hc := codes_all
      refine ⟨h + 1, rfl, ⟨(HO.out.lt _ rfl).2, fun k hk => ?_⟩, by omega, ?_⟩
      · rw [codes_len] at hk
        rw [HO.out.cellAt k hk, hc]
        simp [List.getD_eq_getElem?_getD, codes_len, hk]
      · rw [hh]
        exact HB0.out.trans (HB.out.mono (by omega))

end Go.Proofs.Ytghakpcagacdaal
