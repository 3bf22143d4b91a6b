/- The program's codes, and its symbols in the order of their codes. What the program's HuffLen answers. For texts of at most 2^40 bytes. Shifts of words of 64 bits, and their bits; no program in it. Two steps of a region that draws its order: a call that leaves the world as it was, an append onto a row of the call's own. No program in it. What the program's Huff answers: the one list of bytes that is the code of the text, in memory of its own. For texts of at most 2^40 bytes. -/
import Derived.Test.YtckpacifimpkgacGreatM05
import Derived.Test.YtckpacifimpkgacGreatM03
import Derived.Test.YtckpacifimpkgacGreatM02
import Derived.Laws.BitsAllLaws
import Derived.Deep.RegionLaw
import Derived.Laws.AppendOwn
import Derived.WalkKit
import Derived.Shelf.Abstract
namespace Go.Proofs.YtckpacifimpkgacGreat
open Go.RowKit
set_option linter.unusedVariables false

set_option maxRecDepth 10000 in
set_option maxHeartbeats 1600000 in
theorem implCodes_any (w : World) : Calls Tryz.prog 92 #[.agg (tabV lensI)] w fun e w' => e = .returned (.agg (tabV codesI)) ∧ Below w.heap.size w w' := by
  have HRows : Hid (∀ w, Calls Tryz.prog 101 #[.agg (tabV lensI)] w fun e w' => e = .returned (.agg (tabV rowsI)) ∧ Below w.heap.size w w') := implRows_any
  obtain ⟨LV, hLV⟩ : ∃ LV, LV = tabV lensI := ⟨_, rfl⟩
  have HL : Hid (∀ k, k < 257 → LV[k]? = some (.int .i64 (lensI.getD k 0))) := by
    intro k hk
    rw [hLV, tabV_at lensI k (by rw [lens_len]; exact hk)]
  have hLs : (Tryz.prog.info? 136).map (·.size) = some LV.size := by rw [hLV]; exact sizeA lens_len
  obtain ⟨Z, hZ⟩ : ∃ Z : List Int, List.replicate 257 0 = Z := ⟨_, rfl⟩
  obtain ⟨Y, hY⟩ : ∃ Y : List Int, List.replicate 93 0 = Y := ⟨_, rfl⟩
  have hz : ∀ w, (zeroValue 136).run Tryz.prog w = .ok (.agg (tabV Z)) w := by rw [← hZ]; exact zeroA
  have hy : ∀ w, (zeroValue 148).run Tryz.prog w = .ok (.agg (tabV Y)) w := by rw [← hY]; exact zeroR
  have HZ : Hid (List.replicate 257 0 = Z) := hZ
  have HZl : Hid (Z.length = 257) := by show _ = _; rw [← hZ, List.length_replicate]
  have hys : (tabV Y).size = (tabV rowsI).size := by rw [tabV_size, tabV_size, ← hY, List.length_replicate, rowsI_len]
  rw [← hLV] at HRows ⊢
  clear hLV hZ hY
  have hg1 : ((w.alloc (.cells LV 136)).alloc (.cells (tabV Z) 136)).heap[w.heap.size]? = some (.cells LV 136 (0, 0)) := heap_kept (heap_alloc_last w _) _
  have ha1 := Arr.new (w.alloc (.cells LV 136)) 136 Z
  have hb1 : Below w.heap.size w ((w.alloc (.cells LV 136)).alloc (.cells (tabV Z) 136)) := ((Below.refl _ _).alloc (Nat.le_refl _) _).alloc (by simp) _
  rw [World.size_alloc] at ha1
  obtain ⟨w1, hw1⟩ : ∃ w1, (w.alloc (.cells LV 136)).alloc (.cells (tabV Z) 136) = w1 := ⟨_, rfl⟩
  have hs1 : w1.heap.size = w.heap.size + 2 := by rw [← hw1]; simp
  rw [hw1] at ha1 hb1 hg1
  go_enter Tryz.func92, Tryz.ntmps92
  go_wp2_with (refine wpList_load_row rfl 136 _ rfl _ rfl 136 LV (0, 0) _ hg1 Tryz.underlying136 rfl hLs ?_)
  clear hw1
  have HG1 : Hid (w1.heap[w.heap.size]? = some (.cells LV 136 (0, 0))) := hg1
  have HA1 : Hid (Arr w1 (w.heap.size + 1) 136 Z) := ha1
  have HB1 : Hid (Below w.heap.size w w1) := hb1
  clear hg1 ha1 hb1
  obtain ⟨h, hh⟩ : ∃ h, w.heap.size = h := ⟨_, rfl⟩
  rw [hh] at HG1 HA1 HB1 hs1 ⊢
  refine (HRows.out w1).mono ?_
  rintro e w2 ⟨rfl, hb2⟩
  have hs2 := hb2.size
  have hg2 : w2.heap[h]? = some (.cells LV 136 (0, 0)) := (hb2.block h (by omega)).trans HG1.out
  have HA2 : Hid (Arr w2 (h + 1) 136 Z) := HA1.out.stays hb2
  have HB2 : Hid (Below h w w2) := HB1.out.trans (hb2.mono (by omega))
  clear hb2 HG1 HA1 HB1
  have hh2 : h + 2 ≤ w2.heap.size := by omega
  clear hs1 hs2
  obtain ⟨w3, hw3⟩ : ∃ w3, (w2.alloc (.cells (tabV rowsI) 148)).alloc (.cells (tabV Z) 136) = w3 := ⟨_, rfl⟩
  have HR3 : Hid (Arr w3 w2.heap.size 148 rowsI) := by show Arr _ _ _ _; rw [← hw3]; exact (Arr.new w2 _ rowsI).alloc _
  have HC3 : Hid (Arr w3 (w2.heap.size + 1) 136 Z) := by
    show Arr _ _ _ _
    rw [← hw3]
    have := Arr.new (w2.alloc (.cells (tabV rowsI) 148)) 136 Z
    rwa [World.size_alloc] at this
  have HB3 : Hid (Below w2.heap.size w2 w3) := by show Below _ _ _; rw [← hw3]; exact ((Below.refl _ _).alloc (Nat.le_refl _) _).alloc (by simp) _
  have hg3 : w3.heap[h]? = some (.cells LV 136 (0, 0)) := (HB3.out.block h (by omega)).trans hg2
  go_wp2_with (first
    | (refine wpList_store_row rfl 148 _ _ rfl w2.heap.size (tabV rowsI) rfl rfl 148 (tabV Y) (heap_alloc_last w2 _) (sizeR rowsI_len) hys (tabV_one _) ?_; rw [World.setRow_alloc_new])
    | (refine wpList_load_row rfl 136 _ rfl h rfl 136 LV (0, 0) _ hg3 Tryz.underlying136 rfl hLs ?_; refine Hid.out ?_))
  refine hidden ?_
  clear hw3 hg2 hz hy hys hg3 HRows
  obtain ⟨g, hg⟩ : ∃ g, w2.heap.size = g := ⟨_, rfl⟩
  rw [hg] at HR3 HC3 HB3 hh2 ⊢
  go_wp2_with fail
  go_loopw [10] (fun i wr => ∃ (j : Nat) (s : List Int × List Int), j ≤ 257 ∧ i = .int .i64 j ∧ Hid (cmade (lensI.take j) 0 (rowsI, Z) = s) ∧ Hid (Arr wr g 148 s.1) ∧ Hid (Arr wr (g + 1) 136 s.2) ∧ Hid (Below g w2 wr)) (fun i _ => 257 - (intOf i).toNat)
  case atStart => exact ⟨0, (rowsI, Z), Nat.zero_le _, rfl, rfl, HR3, HC3, HB3⟩
  case round =>
    clear HR3 HC3 HB3
    obtain ⟨j, ⟨R, C⟩, hj, rfl, HE, HR, HC, HB⟩ := hrel
    dsimp only at HR HC
    have HRl : Hid (R.length = 93) := by
      have := (cmade_len (lensI.take j) 0 (rowsI, Z)).1
      rw [HE.out, rowsI_len] at this
      exact this
    have HCl : Hid (C.length = 257) := by
      have := (cmade_len (lensI.take j) 0 (rowsI, Z)).2
      rw [HE.out, HZl.out] at this
      exact this
    by_cases hj7 : j < 257
    · have hji : (j : Int) ≤ 256 := by omega
      obtain ⟨l, el, hl5, hl30⟩ := len_nat j hj7
      have HN : Hid (cmade (lensI.take (j + 1)) 0 (rowsI, Z) = cstep (l : Int) j (R, C)) := by
        show _ = _
        have htl : (lensI.take j).length = j := by rw [List.length_take, lens_len]; omega
        rw [take_next j (by rw [lens_len]; exact hj7), cmade_snoc, el, HE.out, Nat.zero_add, htl]
      have hidx : ∀ w, (Instr.index 136 (.agg LV) (.int .i64 (j : Int))).run Tryz.prog w = .ok (.int .i64 (l : Int)) w := index_arr LV j hj7 l (by rw [HL.out j hj7, el])
      have c1 := HR.out.cell (l * 3 + 1) (by rw [HRl.out]; omega)
      obtain ⟨r, hr⟩ : ∃ r, R.getD (l * 3 + 1) 0 = r := ⟨_, rfl⟩
      rw [hr] at c1
      have HRr : Hid (R.getD (l * 3 + 1) 0 = r) := hr
      have f1 := HC.out.frozen j
      have d1 := HC.out.cell j (by rw [HCl.out]; exact hj7)
      have c2 : ∀ v, (wr.setCell ⟨g + 1, j, none⟩ v).cell? ⟨g, l * 3 + 1, none⟩ = some (.int .i64 r) := fun v => by
        rw [(HR.out.set_other j v (by omega)).cell (l * 3 + 1) (by rw [HRl.out]; omega), hr]
      have f2 : ∀ v, (wr.setCell ⟨g + 1, j, none⟩ v).frozen? ⟨g, l * 3 + 1, none⟩ = false := fun v => (HR.out.set_other j v (by omega)).frozen _
      clear hr el
      have hli : (l : Int) ≤ 30 := by omega
      go_wp2_with fail
      go_roundw
      case rel =>
        refine ⟨j + 1, cstep (l : Int) j (R, C), by omega, by go_num, HN, ?_, ?_, ?_⟩
        · show Arr _ _ _ _
          rw [cstep, Int.toNat_natCast]
          dsimp only
          rw [HRr.out]
          exact (HR.out.set_other (g' := g + 1) _ _ (by omega)).set _ _
        · show Arr _ _ _ _
          rw [cstep, Int.toNat_natCast]
          dsimp only
          rw [HRr.out]
          exact (HC.out.set _ _).set_other (g' := g) _ _ (by omega)
        · exact (HB.out.setCell (p := ⟨g + 1, j, none⟩) (by simp) _).setCell (p := ⟨g, l * 3 + 1, none⟩) (Nat.le_refl _) _
      case measure => simp [intOf]; omega
    · have hj5 : j = 257 := by omega
      subst hj5
      have hc : Arr wr (g + 1) 136 codesI := by
        have h1 := HE.out
        rw [List.take_of_length_le (by rw [lens_len]; exact Nat.le_refl _), ← HZ.out] at h1
        have h2 := codes_made
        rw [h1] at h2
        have h3 := HC.out
        rw [← h2]
        exact h3
      have hz1 : Arr wr (h + 1) 136 Z := HA2.out.below HB.out (by omega)
      have hzs : (tabV Z).size = (tabV codesI).size := by rw [tabV_size, tabV_size, HZl.out, codes_len]
      have HBw : Hid (Below h w wr) := HB2.out.trans (HB.out.mono (by omega))
      clear HE HR HC HB HA2
      go_wp2_with (first
        | (refine wpList_load_row rfl 136 _ rfl (g + 1) rfl 136 (tabV codesI) (0, 0) _ hc Tryz.underlying136 rfl (sizeA codes_len) ?_)
        | (refine wpList_store_row rfl 136 _ _ rfl (h + 1) (tabV codesI) rfl rfl 136 (tabV Z) hz1 (sizeA codes_len) hzs (tabV_one _) ?_))
      refine bodyPost_ret (results_cell_row rfl _ _ (h + 1) 136 (tabV codesI) (0, 0) _ rfl (setRow_heap _ _ _ _ _ _ hz1) Tryz.underlying136 rfl (sizeA codes_len)) rfl ⟨rfl, ?_⟩
      first | exact below_setRow HBw.out (by omega) _ | (rw [hh]; exact below_setRow HBw.out (by omega) _)

set_option maxRecDepth 10000 in
set_option maxHeartbeats 1600000 in
theorem implRanks_any (w : World) : Calls Tryz.prog 102 #[.agg (tabV lensI)] w fun e w' => e = .returned (.agg (tabV rankI)) ∧ Below w.heap.size w w' := by
  have HRows : Hid (∀ w, Calls Tryz.prog 101 #[.agg (tabV lensI)] w fun e w' => e = .returned (.agg (tabV rowsI)) ∧ Below w.heap.size w w') := implRows_any
  obtain ⟨LV, hLV⟩ : ∃ LV, LV = tabV lensI := ⟨_, rfl⟩
  have HL : Hid (∀ k, k < 257 → LV[k]? = some (.int .i64 (lensI.getD k 0))) := by
    intro k hk
    rw [hLV, tabV_at lensI k (by rw [lens_len]; exact hk)]
  have hLs : (Tryz.prog.info? 136).map (·.size) = some LV.size := by rw [hLV]; exact sizeA lens_len
  obtain ⟨Z, hZ⟩ : ∃ Z : List Int, List.replicate 257 0 = Z := ⟨_, rfl⟩
  obtain ⟨Y, hY⟩ : ∃ Y : List Int, List.replicate 93 0 = Y := ⟨_, rfl⟩
  have hz : ∀ w, (zeroValue 136).run Tryz.prog w = .ok (.agg (tabV Z)) w := by rw [← hZ]; exact zeroA
  have hy : ∀ w, (zeroValue 148).run Tryz.prog w = .ok (.agg (tabV Y)) w := by rw [← hY]; exact zeroR
  have HZ : Hid (List.replicate 257 0 = Z) := hZ
  have HZl : Hid (Z.length = 257) := by show _ = _; rw [← hZ, List.length_replicate]
  have hys : (tabV Y).size = (tabV rowsI).size := by rw [tabV_size, tabV_size, ← hY, List.length_replicate, rowsI_len]
  rw [← hLV] at HRows ⊢
  clear hLV hZ hY
  have hg1 : ((w.alloc (.cells LV 136)).alloc (.cells (tabV Z) 136)).heap[w.heap.size]? = some (.cells LV 136 (0, 0)) := heap_kept (heap_alloc_last w _) _
  have ha1 := Arr.new (w.alloc (.cells LV 136)) 136 Z
  have hb1 : Below w.heap.size w ((w.alloc (.cells LV 136)).alloc (.cells (tabV Z) 136)) := ((Below.refl _ _).alloc (Nat.le_refl _) _).alloc (by simp) _
  rw [World.size_alloc] at ha1
  obtain ⟨w1, hw1⟩ : ∃ w1, (w.alloc (.cells LV 136)).alloc (.cells (tabV Z) 136) = w1 := ⟨_, rfl⟩
  have hs1 : w1.heap.size = w.heap.size + 2 := by rw [← hw1]; simp
  rw [hw1] at ha1 hb1 hg1
  go_enter Tryz.func102, Tryz.ntmps102
  go_wp2_with (refine wpList_load_row rfl 136 _ rfl _ rfl 136 LV (0, 0) _ hg1 Tryz.underlying136 rfl hLs ?_)
  clear hw1
  have HG1 : Hid (w1.heap[w.heap.size]? = some (.cells LV 136 (0, 0))) := hg1
  have HA1 : Hid (Arr w1 (w.heap.size + 1) 136 Z) := ha1
  have HB1 : Hid (Below w.heap.size w w1) := hb1
  clear hg1 ha1 hb1
  obtain ⟨h, hh⟩ : ∃ h, w.heap.size = h := ⟨_, rfl⟩
  rw [hh] at HG1 HA1 HB1 hs1 ⊢
  refine (HRows.out w1).mono ?_
  rintro e w2 ⟨rfl, hb2⟩
  have hs2 := hb2.size
  have hg2 : w2.heap[h]? = some (.cells LV 136 (0, 0)) := (hb2.block h (by omega)).trans HG1.out
  have HA2 : Hid (Arr w2 (h + 1) 136 Z) := HA1.out.stays hb2
  have HB2 : Hid (Below h w w2) := HB1.out.trans (hb2.mono (by omega))
  clear hb2 HG1 HA1 HB1
  have hh2 : h + 2 ≤ w2.heap.size := by omega
  clear hs1 hs2
  obtain ⟨w3, hw3⟩ : ∃ w3, (w2.alloc (.cells (tabV rowsI) 148)).alloc (.cells (tabV Z) 136) = w3 := ⟨_, rfl⟩
  have HR3 : Hid (Arr w3 w2.heap.size 148 rowsI) := by show Arr _ _ _ _; rw [← hw3]; exact (Arr.new w2 _ rowsI).alloc _
  have HC3 : Hid (Arr w3 (w2.heap.size + 1) 136 Z) := by
    show Arr _ _ _ _
    rw [← hw3]
    have := Arr.new (w2.alloc (.cells (tabV rowsI) 148)) 136 Z
    rwa [World.size_alloc] at this
  have HB3 : Hid (Below w2.heap.size w2 w3) := by show Below _ _ _; rw [← hw3]; exact ((Below.refl _ _).alloc (Nat.le_refl _) _).alloc (by simp) _
  have hg3 : w3.heap[h]? = some (.cells LV 136 (0, 0)) := (HB3.out.block h (by omega)).trans hg2
  go_wp2_with (first
    | (refine wpList_store_row rfl 148 _ _ rfl w2.heap.size (tabV rowsI) rfl rfl 148 (tabV Y) (heap_alloc_last w2 _) (sizeR rowsI_len) hys (tabV_one _) ?_; rw [World.setRow_alloc_new])
    | (refine wpList_load_row rfl 136 _ rfl h rfl 136 LV (0, 0) _ hg3 Tryz.underlying136 rfl hLs ?_; refine Hid.out ?_))
  refine hidden ?_
  clear hw3 hg2 hz hy hys hg3 HRows
  obtain ⟨g, hg⟩ : ∃ g, w2.heap.size = g := ⟨_, rfl⟩
  rw [hg] at HR3 HC3 HB3 hh2 ⊢
  go_wp2_with fail
  go_loopw [10] (fun i wr => ∃ (j : Nat) (s : List Int × List Int), j ≤ 257 ∧ i = .int .i64 j ∧ Hid (kmade (lensI.take j) 0 (rowsI, Z) = s) ∧ Hid (Arr wr g 148 s.1) ∧ Hid (Arr wr (g + 1) 136 s.2) ∧ Hid (Below g w2 wr)) (fun i _ => 257 - (intOf i).toNat)
  case atStart => exact ⟨0, (rowsI, Z), Nat.zero_le _, rfl, rfl, HR3, HC3, HB3⟩
  case round =>
    clear HR3 HC3 HB3
    obtain ⟨j, ⟨R, C⟩, hj, rfl, HE, HR, HC, HB⟩ := hrel
    dsimp only at HR HC
    have HRl : Hid (R.length = 93) := by
      have := (kmade_len (lensI.take j) 0 (rowsI, Z)).1
      rw [HE.out, rowsI_len] at this
      exact this
    have HCl : Hid (C.length = 257) := by
      have := (kmade_len (lensI.take j) 0 (rowsI, Z)).2
      rw [HE.out, HZl.out] at this
      exact this
    by_cases hj7 : j < 257
    · have hji : (j : Int) ≤ 256 := by omega
      obtain ⟨l, el, hl5, hl30⟩ := len_nat j hj7
      have HN : Hid (kmade (lensI.take (j + 1)) 0 (rowsI, Z) = kstep (l : Int) j (R, C)) := by
        show _ = _
        have htl : (lensI.take j).length = j := by rw [List.length_take, lens_len]; omega
        rw [take_next j (by rw [lens_len]; exact hj7), kmade_snoc, el, HE.out, Nat.zero_add, htl]
      have hidx : ∀ w, (Instr.index 136 (.agg LV) (.int .i64 (j : Int))).run Tryz.prog w = .ok (.int .i64 (l : Int)) w := index_arr LV j hj7 l (by rw [HL.out j hj7, el])
      have c1 := HR.out.cell (l * 3 + 2) (by rw [HRl.out]; omega)
      have hrin := rank_at j hj7
      rw [HZ.out, HE.out, el, Int.toNat_natCast] at hrin
      dsimp only at hrin
      obtain ⟨r, hr⟩ : ∃ r : Nat, R.getD (l * 3 + 2) 0 = (r : Int) := ⟨(R.getD (l * 3 + 2) 0).toNat, by omega⟩
      rw [hr] at hrin
      have hr7 : r < 257 := by omega
      have hri : (r : Int) ≤ 256 := by omega
      clear hrin
      rw [hr] at c1
      have HRr : Hid (R.getD (l * 3 + 2) 0 = (r : Int)) := hr
      have f1 := HC.out.frozen r
      have d1 := HC.out.cell r (by rw [HCl.out]; exact hr7)
      have c2 : ∀ v, (wr.setCell ⟨g + 1, r, none⟩ v).cell? ⟨g, l * 3 + 2, none⟩ = some (.int .i64 (r : Int)) := fun v => by
        rw [(HR.out.set_other r v (by omega)).cell (l * 3 + 2) (by rw [HRl.out]; omega), hr]
      have f2 : ∀ v, (wr.setCell ⟨g + 1, r, none⟩ v).frozen? ⟨g, l * 3 + 2, none⟩ = false := fun v => (HR.out.set_other r v (by omega)).frozen _
      clear hr el
      have hli : (l : Int) ≤ 30 := by omega
      go_wp2_with fail
      go_roundw
      case rel =>
        refine ⟨j + 1, kstep (l : Int) j (R, C), by omega, by go_num, HN, ?_, ?_, ?_⟩
        · show Arr _ _ _ _
          rw [kstep, Int.toNat_natCast]
          dsimp only
          have ew : wrap64 ((r : Int) + 1) = (r : Int) + 1 := by unfold wrap64; omega
          rw [HRr.out, ew]
          exact (HR.out.set_other (g' := g + 1) _ _ (by omega)).set _ _
        · show Arr _ _ _ _
          rw [kstep, Int.toNat_natCast]
          dsimp only
          rw [HRr.out, Int.toNat_natCast]
          exact (HC.out.set _ _).set_other (g' := g) _ _ (by omega)
        · exact (HB.out.setCell (p := ⟨g + 1, r, none⟩) (by simp) _).setCell (p := ⟨g, l * 3 + 2, none⟩) (Nat.le_refl _) _
      case measure => simp [intOf]; omega
    · have hj5 : j = 257 := by omega
      subst hj5
      have hc : Arr wr (g + 1) 136 rankI := by
        have h1 := HE.out
        rw [List.take_of_length_le (by rw [lens_len]; exact Nat.le_refl _), ← HZ.out] at h1
        have h2 := ranks_made
        rw [h1] at h2
        have h3 := HC.out
        rw [← h2]
        exact h3
      have hz1 : Arr wr (h + 1) 136 Z := HA2.out.below HB.out (by omega)
      have hzs : (tabV Z).size = (tabV rankI).size := by rw [tabV_size, tabV_size, HZl.out, rankI_len]
      have HBw : Hid (Below h w wr) := HB2.out.trans (HB.out.mono (by omega))
      clear HE HR HC HB HA2
      go_wp2_with (first
        | (refine wpList_load_row rfl 136 _ rfl (g + 1) rfl 136 (tabV rankI) (0, 0) _ hc Tryz.underlying136 rfl (sizeA rankI_len) ?_)
        | (refine wpList_store_row rfl 136 _ _ rfl (h + 1) (tabV rankI) rfl rfl 136 (tabV Z) hz1 (sizeA rankI_len) hzs (tabV_one _) ?_))
      refine bodyPost_ret (results_cell_row rfl _ _ (h + 1) 136 (tabV rankI) (0, 0) _ rfl (setRow_heap _ _ _ _ _ _ hz1) Tryz.underlying136 rfl (sizeA rankI_len)) rfl ⟨rfl, ?_⟩
      first | exact below_setRow HBw.out (by omega) _ | (rw [hh]; exact below_setRow HBw.out (by omega) _)

end Go.Proofs.YtckpacifimpkgacGreat

namespace Go.Proofs.YtckpacifimpkgacGreat
open Go.RowKit
set_option linter.unusedVariables false

set_option maxRecDepth 10000 in
set_option maxHeartbeats 800000 in
theorem implHLen_any (s : ByteArray) (w : World) (hs : s.size ≤ 1099511627776) : Calls Tryz.prog 77 #[.string s] w fun e w' => e = .returned (.int .i64 (((bitLen s.data.toList + 7) / 8 : Nat) : Int)) ∧ Below w.heap.size w w' := by
  obtain ⟨Z, hZ⟩ : ∃ Z : List Int, List.replicate 257 0 = Z := ⟨_, rfl⟩
  have hz : ∀ w, (zeroValue 136).run Tryz.prog w = .ok (.agg (tabV Z)) w := by rw [← hZ]; exact zeroA
  have hzs : (tabV Z).size = (tabV lensI).size := by rw [tabV_size, tabV_size, ← hZ, List.length_replicate, lens_len]
  clear hZ
  go_enter Tryz.func77, Tryz.ntmps77
  go_wp2_with fail
  refine (implLens_any w).mono ?_
  rintro e w1 ⟨rfl, hw1⟩
  have hb1 : Below w.heap.size w w1 := by
    rw [hw1]
    exact (Below.refl _ _).alloc (Nat.le_refl _) _
  have hs1 : w.heap.size ≤ w1.heap.size := hb1.size
  clear hw1
  go_wp2_with (refine wpList_store_row rfl 136 _ _ rfl w1.heap.size (tabV lensI) rfl rfl 136 (tabV Z) (heap_alloc_last w1 _) (sizeA lens_len) hzs (tabV_one _) ?_; rw [World.setRow_alloc_new]; refine Hid.out ?_)
  refine hidden ?_
  obtain ⟨w2, hw2⟩ : ∃ w2, w1.alloc (.cells (tabV lensI) 136) = w2 := ⟨_, rfl⟩
  have HT : Hid (Arr w2 w1.heap.size 136 lensI) := by show Arr _ _ _ _; rw [← hw2]; exact Arr.new w1 _ _
  have HB1 : Hid (Below w.heap.size w w2) := by show Below _ _ _; rw [← hw2]; exact hb1.alloc (by omega) _
  rw [hw2]
  clear hw2 hb1 hs1 hz hzs
  have hsi : (s.size : Int) ≤ 1099511627776 := by omega
  obtain ⟨h, hh⟩ : ∃ h, w1.heap.size = h := ⟨_, rfl⟩
  rw [hh] at HT ⊢
  go_wp2_with fail
  go_loopw [4, 9] (fun n i wr => ∃ k : Nat, k ≤ s.size ∧ i = .int .i64 k ∧ n = .int .i64 (bitLen (s.data.toList.take k)) ∧ wr = w2) (fun _ i _ => s.size - (intOf i).toNat)
  case atStart => exact ⟨0, Nat.zero_le _, rfl, rfl, rfl⟩
  case round =>
    obtain ⟨k, hk, rfl, rfl, rfl⟩ := hrel
    have hlen : bitLen (s.data.toList.take k) ≤ 30 * k := by
      have h1 := bitLen_le (s.data.toList.take k)
      have h2 : (s.data.toList.take k).length ≤ k := by rw [List.length_take]; omega
      omega
    by_cases hlt : k < s.size
    · have hti : (k : Int) < (s.size : Int) := by omega
      have hstr := str_take_snoc s k hlt
      obtain ⟨c, hc⟩ : ∃ c, s[k] = c := ⟨_, rfl⟩
      rw [hc] at hstr
      have hcn : c.toNat < 256 := c.toNat_lt
      have hlc : wr.cell? ⟨h, c.toNat, none⟩ = some (.int .i64 (lenOf c)) := by
        rw [← lens_at]
        exact HT.out.cell c.toNat (by rw [lens_len]; omega)
      have hL := lenOf_range c
      have HN : Hid (bitLen (s.data.toList.take (k + 1)) = bitLen (s.data.toList.take k) + lenOf c) := by
        show _ = _
        rw [hstr, bitLen_snoc]
      clear hstr
      generalize bitLen (s.data.toList.take k) = n at *
      have hci : ((c.toNat : Nat) : Int) < 257 := by omega
      have hsum : (n : Int) + (lenOf c : Int) ≤ 32985348833310 := by omega
      go_wp2_with fail
      go_roundw
      case rel => exact ⟨k + 1, by omega, by go_num, by rw [HN.out]; go_num, trivial⟩
      case measure => simp [intOf]; omega
    · have hks : k = s.size := by omega
      subst hks
      rw [List.take_of_length_le (by rw [str_len]; exact Nat.le_refl _)] at hlen ⊢
      obtain ⟨n, hn⟩ : ∃ n, bitLen s.data.toList = n := ⟨_, rfl⟩
      have HNN : Hid (bitLen s.data.toList = n) := hn
      rw [hn] at hlen ⊢
      clear hn
      have hn7 : (n : Int) + 8 ≤ 32985348833310 := by omega
      go_wp2_with fail
      go_ret
      exact ⟨ret_int (by rw [HNN.out]; omega), HB1.out⟩

end Go.Proofs.YtckpacifimpkgacGreat

namespace Go.Proofs.YtckpacifimpkgacGreat
open Go.RowKit
set_option linter.unusedVariables false

theorem bitsN_mod (m x : Nat) : bitsN m (x % 2 ^ m) = bitsN m x := by
  have hp : 0 < 2 ^ m := Nat.pow_pos (by decide)
  have h := bitsN_join 0 m (x / 2 ^ m) (x % 2 ^ m) (Nat.mod_lt _ hp)
  have e : x / 2 ^ m * 2 ^ m + x % 2 ^ m = x := by rw [Nat.mul_comm]; exact Nat.div_add_mod _ _
  rw [e, Nat.zero_add] at h
  rw [h]
  rfl

theorem bitsN_same (m x y : Nat) (h : x % 2 ^ m = y % 2 ^ m) : bitsN m x = bitsN m y := by rw [← bitsN_mod m x, h, bitsN_mod]

theorem shl_bits (N L H c : Nat) (hN : N + L ≤ 64) (hc : c < 2 ^ L) : bitsN (N + L) (H * 2 ^ L % 18446744073709551616 + c) = bitsN N H ++ bitsN L c := by
  rw [← bitsN_join N L H c hc]
  refine bitsN_same _ _ _ ?_
  have hd : 2 ^ (N + L) ∣ 18446744073709551616 := Nat.pow_dvd_pow (n := 64) 2 hN
  rw [Nat.add_mod, Nat.mod_mod_of_dvd _ hd, ← Nat.add_mod]

theorem shr_bits (M H : Nat) : bitsN (M + 8) H = bitsN 8 (H / 2 ^ M % 256) ++ bitsN M H := by
  have hp : 0 < 2 ^ M := Nat.pow_pos (by decide)
  have h := bitsN_join 8 M (H / 2 ^ M) (H % 2 ^ M) (Nat.mod_lt _ hp)
  have e : H / 2 ^ M * 2 ^ M + H % 2 ^ M = H := by rw [Nat.mul_comm]; exact Nat.div_add_mod _ _
  rw [e, bitsN_mod, Nat.add_comm 8 M] at h
  rw [h]
  congr 1
  exact (bitsN_mod 8 _).symm

theorem shl_mult (H L : Nat) (hL : L ≤ 64) : H * 2 ^ L % 18446744073709551616 = (H % 2 ^ (64 - L)) * 2 ^ L := by
  have e : 18446744073709551616 = 2 ^ L * 2 ^ (64 - L) := by
    rw [← Nat.pow_add, show L + (64 - L) = 64 by omega]
  rw [e, Nat.mul_comm H, Nat.mul_mod_mul_left, Nat.mul_comm]

theorem shl_room (H L c : Nat) (hL : L ≤ 64) (hc : c < 2 ^ L) : H * 2 ^ L % 18446744073709551616 + c < 18446744073709551616 := by
  rw [shl_mult H L hL]
  have hp : 0 < 2 ^ (64 - L) := Nat.pow_pos (by decide)
  have h1 : H % 2 ^ (64 - L) + 1 ≤ 2 ^ (64 - L) := Nat.mod_lt _ hp
  have h2 := Nat.mul_le_mul_right (2 ^ L) h1
  rw [← Nat.pow_add, show 64 - L + L = 64 by omega, Nat.add_mul, Nat.one_mul] at h2
  omega

theorem or_shl (H L c : Nat) (hL : L ≤ 64) (hc : c < 2 ^ L) : bits .or .u64 ((H * 2 ^ L % 18446744073709551616 : Nat) : Int) (c : Int) = ((H * 2 ^ L % 18446744073709551616 + c : Nat) : Int) := by
  have hr := shl_room H L c hL hc
  rw [u64_or_nat _ _ (Nat.mod_lt _ (by decide)) (by omega), shl_mult H L hL]
  have := Nat.shiftLeft_add_eq_or_of_lt (b := c) (i := L) hc (H % 2 ^ (64 - L))
  rw [Nat.shiftLeft_eq] at this
  rw [← this]

theorem last_byte (N P H : Nat) (h : N + P = 8) : bitsN 8 ((H * 2 ^ P % 18446744073709551616 + (2 ^ P - 1)) % 256) = bitsN N H ++ List.replicate P true := by
  have hp : 0 < 2 ^ P := Nat.pow_pos (by decide)
  have h1 := bitsN_mod 8 (H * 2 ^ P % 18446744073709551616 + (2 ^ P - 1))
  have h2 := shl_bits N P H (2 ^ P - 1) (by omega) (by omega)
  rw [h, bitsN_ones] at h2
  rw [← h2]
  exact h1

end Go.Proofs.YtckpacifimpkgacGreat

namespace Go.Proofs.YtckpacifimpkgacGreat
open Go.RowKit
set_option linter.unusedVariables false

theorem step_append_own {P : Program} {ops : Array Oper} {o : Oper} {a : Act} {w : World} {K : Act → World → Prop} {Q : Exit → Act → World → Prop} {E : Prop}
    (hg : o.guard = none) (s x : Operand) (t : TypeId) (ho : o.op = .call { callee := .builtin .append, args := #[s, x], argTypes := #[t, t] })
    (base : Nat) (e : TypeId) (i : TypeInfo) (z : Value) (size bytes : Nat) (ht : P.underlying t = some (.slice e)) (hi : P.info? e = some i) (hz : i.zero = some z)
    (hsize : i.size = size) (hby : i.bytes = bytes) (hzs : z.cells.size = size) (hsz : 0 < size)
    (v : Value) (n : Nat) (xs : List Value) (hs : a.eval s = v) (hown : w.ownsRow base e size v n xs)
    (ad : Addr) (m c : Nat) (news : List Value) (hx : a.eval x = .slice (some ad) m c) (hl : news.length = m * size) (hnews : ∀ j u, news[j]? = some u → w.cell? (ad.add j) = some u) (h1 : ∀ u ∈ news, u.oneCell' = true)
    (h63 : n + m ≤ maxLen) (hbytes : (n + m) * bytes ≤ 140737488355328) (hbase : base ≤ w.heap.size)
    (h : ∀ v' w', w'.ownsRow base e size v' (n + m) (xs ++ news) → w.grownBy w' v.ownBlock → K (a.put o.dst v') w') :
    if Region.wanted o (yielded ops a.tmps) = true then Oper.wp P o a w K Q else E := by
  have hw : Region.wanted o (yielded ops a.tmps) = true := by simp [Region.wanted, hg]
  rw [if_pos hw]
  exact wp_append_own w s x t ho base e i z size bytes ht hi hz hsize hby hzs hsz v n xs hs hown ad m c news hx hl hnews h1 h63 hbytes hbase fun v' w' h2 h3 _ => h v' w' h2 h3

theorem step_call_same {P : Program} {ops : Array Oper} {o : Oper} {a : Act} {w : World} {K : Act → World → Prop} {Q : Exit → Act → World → Prop} {E : Prop}
    (hg : o.guard = none) (f : FuncId) (x : Operand) (t : TypeId) (ho : o.op = .call { callee := .value (.func f), args := #[x], argTypes := #[t] })
    (hent : ∀ args w, (callFunc f args).run P w = .ok (.enter f args) w) (u v : Value) (hx : a.eval x = u)
    (hc : Calls P f #[u] w fun e w' => e = .returned v ∧ w' = w) (h : K (a.put o.dst v) w) :
    if Region.wanted o (yielded ops a.tmps) = true then Oper.wp P o a w K Q else E := by
  have hw : Region.wanted o (yielded ops a.tmps) = true := by simp [Region.wanted, hg]
  rw [if_pos hw]
  have hf : a.eval (.func f) = .func (.func f) #[] #[] := rfl
  unfold Oper.wp
  simp [execOp, ho, resolve, invoke, Deferred.ofValue, hent, hf, hx, Oper.upon_enter]
  refine hc.mono ?_
  rintro e w' ⟨rfl, rfl⟩
  exact h

end Go.Proofs.YtckpacifimpkgacGreat

namespace Go.Proofs.YtckpacifimpkgacGreat
open Go.RowKit
set_option linter.unusedVariables false

theorem word_nat (x : Nat) : IntKind.u64.wrap (x : Int) = ((x % 18446744073709551616 : Nat) : Int) := by
  simp [IntKind.wrap, IntKind.bits, IntKind.signed]

theorem byte_nat (x : Nat) : IntKind.u8.wrap (x : Int) = ((x % 256 : Nat) : Int) := by
  simp [IntKind.wrap, IntKind.bits, IntKind.signed]

set_option maxRecDepth 10000 in
theorem ones_word (P : Nat) (h : P ≤ 30) : IntKind.u64.wrap (IntKind.u64.wrap ((2 : Int) ^ P) - 1) = ((2 ^ P - 1 : Nat) : Int) := by
  have : ∀ P : Nat, P < 31 → IntKind.u64.wrap (IntKind.u64.wrap ((2 : Int) ^ P) - 1) = ((2 ^ P - 1 : Nat) : Int) := by decide +kernel
  exact this P (by omega)

set_option maxHeartbeats 400000 in
theorem onesOf_any (P : Nat) (hP : P ≤ 30) (w : World) : Calls Tryz.prog 93 #[.int .i64 (P : Int)] w fun e w' => e = .returned (.int .u64 ((2 ^ P - 1 : Nat) : Int)) ∧ w' = w := by
  have hPi : (P : Int) ≤ 30 := by omega
  have HM : Hid (IntKind.u64.wrap (IntKind.u64.wrap ((2 : Int) ^ P) - 1) = ((2 ^ P - 1 : Nat) : Int)) := ones_word P hP
  go_enter Tryz.func93, Tryz.ntmps93
  go_wp2
  go_ret
  exact ⟨ret_int HM.out, rfl⟩

set_option maxRecDepth 200000 in
set_option maxHeartbeats 1600000 in
theorem implHuff_any (s : ByteArray) (w : World) (hs : s.size ≤ 1099511627776) : Calls Tryz.prog 78 #[.string s] w fun e w' => ∃ (o : List Int) (a : Option Addr) (cap : Nat), e = .returned (.slice a o.length cap) ∧ Owns w' w.heap.size a o.length cap o ∧ HuffOf s.data.toList o ∧ Below w.heap.size w w' := by
  obtain ⟨i0, hi, hz0, hz1, hz2⟩ := info_parts Tryz.info5
  obtain ⟨Z, hZ⟩ : ∃ Z : List Int, List.replicate 257 0 = Z := ⟨_, rfl⟩
  have hz : ∀ w, (zeroValue 136).run Tryz.prog w = .ok (.agg (tabV Z)) w := by rw [← hZ]; exact zeroA
  have hzs : (tabV Z).size = (tabV lensI).size := by rw [tabV_size, tabV_size, ← hZ, List.length_replicate, lens_len]
  have hzc : (tabV Z).size = (tabV codesI).size := by rw [tabV_size, tabV_size, ← hZ, List.length_replicate, codes_len]
  clear hZ
  have HNl : Hid ((bitLen s.data.toList + 7) / 8 ≤ 4123168604160) := by
    show _ ≤ _
    have := bitLen_le s.data.toList
    rw [str_len] at this
    omega
  go_enter Tryz.func78, Tryz.ntmps78
  go_wp2_with fail
  refine (implLens_any w).mono ?_
  rintro e w1 ⟨rfl, hw1⟩
  have HB1 : Hid (Below w.heap.size w w1) := by
    show Below _ _ _
    rw [hw1]
    exact (Below.refl _ _).alloc (Nat.le_refl _) _
  clear hw1
  have hg2 := heap_alloc_last w1 (.cells (tabV lensI) 136)
  go_wp2_with (first
    | (refine wpList_store_row rfl 136 _ _ rfl w1.heap.size (tabV lensI) rfl rfl 136 (tabV Z) (heap_alloc_last w1 _) (sizeA lens_len) hzs (tabV_one _) ?_; rw [World.setRow_alloc_new])
    | (refine wpList_load_row rfl 136 _ rfl w1.heap.size rfl 136 (tabV lensI) (0, 0) _ hg2 Tryz.underlying136 rfl (sizeA lens_len) ?_))
  obtain ⟨w2, hw2⟩ : ∃ w2, w1.alloc (.cells (tabV lensI) 136) = w2 := ⟨_, rfl⟩
  have HT2 : Hid (Arr w2 w1.heap.size 136 lensI) := by show Arr _ _ _ _; rw [← hw2]; exact Arr.new w1 _ _
  have HB2 : Hid (Below w.heap.size w w2) := by show Below _ _ _; rw [← hw2]; exact HB1.out.alloc HB1.out.size _
  rw [hw2]
  clear hw2 hg2 hzs HB1
  obtain ⟨h, hh⟩ : ∃ h, w1.heap.size = h := ⟨_, rfl⟩
  rw [hh] at HT2 ⊢
  clear hh
  refine (implCodes_any w2).mono ?_
  rintro e w3 ⟨rfl, hb3⟩
  have HT3 : Hid (Arr w3 h 136 lensI) := HT2.out.stays hb3
  have HB3 : Hid (Below w.heap.size w w3) := HB2.out.trans (hb3.mono HB2.out.size)
  clear hb3 HT2 HB2
  go_wp2_with (refine wpList_store_row rfl 136 _ _ rfl w3.heap.size (tabV codesI) rfl rfl 136 (tabV Z) (heap_alloc_last w3 _) (sizeA codes_len) hzc (tabV_one _) ?_; rw [World.setRow_alloc_new])
  obtain ⟨w4, hw4⟩ : ∃ w4, w3.alloc (.cells (tabV codesI) 136) = w4 := ⟨_, rfl⟩
  have HC4 : Hid (Arr w4 w3.heap.size 136 codesI) := by show Arr _ _ _ _; rw [← hw4]; exact Arr.new w3 _ _
  have HT4 : Hid (Arr w4 h 136 lensI) := by show Arr _ _ _ _; rw [← hw4]; exact HT3.out.alloc _
  have HB4 : Hid (Below w.heap.size w w4) := by show Below _ _ _; rw [← hw4]; exact HB3.out.alloc HB3.out.size _
  rw [hw4]
  clear hw4 hzc hz HT3 HB3
  obtain ⟨g, hg⟩ : ∃ g, w3.heap.size = g := ⟨_, rfl⟩
  rw [hg] at HC4 ⊢
  clear hg
  refine (implHLen_any s w4 hs).mono ?_
  rintro e w5 ⟨rfl, hb5⟩
  have HC5 : Hid (Arr w5 g 136 codesI) := HC4.out.stays hb5
  have HT5 : Hid (Arr w5 h 136 lensI) := HT4.out.stays hb5
  have HB5 : Hid (Below w.heap.size w w5) := HB4.out.trans (hb5.mono HB4.out.size)
  clear hb5 HC4 HT4 HB4
  generalize (bitLen s.data.toList + 7) / 8 = n at *
  go_wp2_with (at_make; refine wpList_make_own _ rfl _ _ 22 rfl w5.heap.size 5 i0 (.int .u8 0) 1 Tryz.underlying22 hi hz0 hz1 .i64 .i64 (n : Int) n rfl rfl rfl (by rw [hz2]; have := HNl.out; omega) (by have := HNl.out; unfold maxLen; omega) (Nat.le_refl _) ?_; intro w6 hown6 hgrow6; refine Hid.out ?_)
  refine hidden ?_
  have HO6 : Hid (w6.ownsRow w5.heap.size 5 1 (.slice (some ⟨w5.heap.size, 0, none⟩) 0 n) 0 (([] : List Int).map (Value.int .u8))) := hown6
  have HB6 : Hid (Below w5.heap.size w5 w6) := (Below.refl _ _).grown hgrow6 (Nat.le_refl _) (fun _ e => by cases e)
  clear hown6 hgrow6 HNl
  obtain ⟨b, hb⟩ : ∃ b, w5.heap.size = b := ⟨_, rfl⟩
  rw [hb] at HO6 HB6 ⊢
  have hsi : (s.size : Int) ≤ 1099511627776 := by omega
  go_wp2_with fail
  go_loopw [5, 6, 7, 19] (fun v acc n i wr => ∃ (k N H : Nat) (o : List Int), k ≤ s.size ∧ i = .int .i64 k ∧ n = .int .i64 N ∧ acc = .int .u64 H ∧ N < 8 ∧ H < 18446744073709551616 ∧ Hid (byteBits o ++ bitsN N H = textBits (s.data.toList.take k)) ∧ Hid (∀ x ∈ o, 0 ≤ x ∧ x ≤ 255) ∧ Hid (wr.ownsRow b 5 1 v o.length (o.map (Value.int .u8))) ∧ Hid (Below b w5 wr)) (fun _ _ _ i _ => s.size - (intOf i).toNat)
  case atStart => exact ⟨0, 0, 0, [], Nat.zero_le _, rfl, rfl, rfl, by omega, by omega, rfl, by intro x hx; simp at hx, HO6, HB6⟩
  case round =>
    clear HO6 HB6
    obtain ⟨k, N, H, o, hk, rfl, rfl, rfl, hN, hH, HE, HR, HO, HB⟩ := hrel
    by_cases hlt : k < s.size
    · have hti : (k : Int) < (s.size : Int) := by omega
      have hstr := str_take_snoc s k hlt
      obtain ⟨c, hc⟩ : ∃ c, s[k] = c := ⟨_, rfl⟩
      rw [hc] at hstr
      have hcn : c.toNat < 256 := c.toNat_lt
      have hlc : wr.cell? ⟨h, c.toNat, none⟩ = some (.int .i64 (lenOf c)) := by
        rw [← lens_at]
        exact (HT5.out.stays (hb ▸ HB.out)).cell c.toNat (by rw [lens_len]; omega)
      have hcc : wr.cell? ⟨g, c.toNat, none⟩ = some (.int .i64 (codeOfB c)) := by
        rw [← codes_at]
        exact (HC5.out.stays (hb ▸ HB.out)).cell c.toNat (by rw [codes_len]; omega)
      have hL := lenOf_range c
      have hCL := codeOf_lt c
      have HE2 : Hid (byteBits o ++ bitsN (N + lenOf c) (H * 2 ^ lenOf c % 18446744073709551616 + codeOfB c) = textBits (s.data.toList.take (k + 1))) := by
        show _ = _
        rw [shl_bits _ _ _ _ (by omega) hCL, ← List.append_assoc, HE.out, hstr, textBits_snoc]
        rfl
      have hroom := shl_room H (lenOf c) (codeOfB c) (by omega) hCL
      have HVal : Hid (bits .or .u64 ((H * 2 ^ lenOf c % 18446744073709551616 : Nat) : Int) (codeOfB c : Int) = ((H * 2 ^ lenOf c % 18446744073709551616 + codeOfB c : Nat) : Int)) := or_shl H (lenOf c) (codeOfB c) (by omega) hCL
      have hCs : (codeOfB c : Int) < 1073741824 := by
        have h1 : 2 ^ lenOf c ≤ 2 ^ 30 := Nat.pow_le_pow_right (by decide) hL.2
        omega
      clear hstr hCL
      have hci : ((c.toNat : Nat) : Int) < 257 := by omega
      have hLi : (lenOf c : Int) ≤ 30 := by omega
      have hLi5 : (5 : Int) ≤ (lenOf c : Int) := by omega
      have HRoom : Hid (H * 2 ^ lenOf c % 18446744073709551616 + codeOfB c < 18446744073709551616) := hroom
      clear hroom
      go_wp2_with fail
      go_quiet (fail)
      have hval : bits .or .u64 (IntKind.u64.wrap ((H : Int) * 2 ^ lenOf c)) (codeOfB c : Int) = ((H * 2 ^ lenOf c % 18446744073709551616 + codeOfB c : Nat) : Int) := by
        have e1 : (H : Int) * 2 ^ lenOf c = ((H * 2 ^ lenOf c : Nat) : Int) := by simp
        rw [e1, word_nat]
        exact HVal.out
      rw [hval]
      have HOd : Hid ((wr.drewN nq).ownsRow b 5 1 u5 o.length (o.map (Value.int .u8))) := HO.out
      have HBd : Hid (Below b w5 (wr.drewN nq)) := below_drewN HB.out nq
      have hlcd : (wr.drewN nq).cell? ⟨h, c.toNat, none⟩ = some (.int .i64 (lenOf c)) := hlc
      generalize wr.drewN nq = wd at *
      clear hval HVal hlc hcc HO HB HE
      generalize H * 2 ^ lenOf c % 18446744073709551616 + codeOfB c = H2 at *
      generalize IntKind.u64.wrap ((H : Int) * 2 ^ lenOf c) = dead
      have HH2 : Hid (H2 < 18446744073709551616) := HRoom.out
      have hNL : (N : Int) + (lenOf c : Int) ≤ 37 := by omega
      generalize hTT : textBits (s.data.toList.take (k + 1)) = TT at *
      have HTT : Hid (textBits (s.data.toList.take (k + 1)) = TT) := hTT
      have HTL : Hid (TT.length ≤ 30 * (k + 1)) := by
        show _ ≤ _
        rw [← hTT]
        have := bitLen_le (s.data.toList.take (k + 1))
        unfold bitLen at this
        have h2 : (s.data.toList.take (k + 1)).length ≤ k + 1 := by rw [List.length_take]; omega
        omega
      clear hTT HRoom hH
      go_wp2_with fail
      go_loopw [5, 7] (fun v n wi => ∃ (M : Nat) (u : List Int), n = .int .i64 M ∧ M ≤ 37 ∧ Hid (byteBits u ++ bitsN M H2 = TT) ∧ Hid (∀ x ∈ u, 0 ≤ x ∧ x ≤ 255) ∧ Hid (wi.ownsRow b 5 1 v u.length (u.map (Value.int .u8))) ∧ Hid (Below b w5 wi)) (fun _ n _ => (intOf n).toNat)
      case atStart => exact ⟨N + lenOf c, o, by go_num, by omega, HE2, HR, HOd, HBd⟩
      case round =>
        clear HOd HBd HE2 HR hlcd
        obtain ⟨M, u, rfl, hM, HE, HR, HO, HB⟩ := hrel
        have hlen : 8 * u.length + M ≤ 30 * (k + 1) := by
          have h1 := HTL.out
          rw [← HE.out, List.length_append, byteBits_len, bitsN_len] at h1
          exact h1
        by_cases h8 : 8 ≤ M
        · obtain ⟨M8, hMe⟩ : ∃ M8, M = M8 + 8 := ⟨M - 8, by omega⟩
          have h8i : (8 : Int) ≤ (M : Int) := by omega
          have hsub : (M : Int) - 8 = (M8 : Int) := by omega
          have HE2 : Hid (byteBits (u ++ [((H2 / 2 ^ M8 % 256 : Nat) : Int)]) ++ bitsN M8 H2 = TT) := by
            show _ = _
            rw [byteBits_snoc, List.append_assoc, Int.toNat_natCast, ← shr_bits, ← hMe]
            exact HE.out
          have hq : H2 / 2 ^ M8 % 256 < 256 := Nat.mod_lt _ (by decide)
          have hdiv : (H2 : Int) / 2 ^ M8 = ((H2 / 2 ^ M8 : Nat) : Int) := by simp
          have hbyte : IntKind.u8.wrap ((H2 / 2 ^ M8 : Nat) : Int) = ((H2 / 2 ^ M8 % 256 : Nat) : Int) := byte_nat _
          generalize H2 / 2 ^ M8 = Q at *
          generalize Q % 256 = q at *
          have hq0 : (0 : Int) ≤ (q : Int) := by omega
          have hq1 : (q : Int) ≤ 255 := by omega
          have hM8 : (M8 : Int) ≤ 29 := by omega
          have HMe : Hid (M = M8 + 8) := hMe
          have hA : u.length + 1 ≤ maxLen ∧ (u.length + 1) * 1 ≤ 140737488355328 := ⟨by unfold maxLen; omega, by omega⟩
          clear hMe h8
          have hsz := HB.out.size
          have HN : Hid (∀ j v, [Value.int .u8 (q : Int)][j]? = some v → (wr.alloc (.cells #[.int .u8 (q : Int)] 5)).cell? ((⟨wr.heap.size, 0, none⟩ : Addr).add j) = some v) := one_new wr q
          have hbs : b ≤ wr.heap.size := by omega
          go_wp2_with (at_builtin; refine wpList_append_own _ rfl _ _ 22 rfl b 5 i0 (.int .u8 0) 1 1 Tryz.underlying22 hi hz0 hz1 hz2 rfl (by decide) u5 u.length _ rfl (HO.out.alloc _) ⟨wr.heap.size, 0, none⟩ 1 1 [.int .u8 (q : Int)] rfl rfl HN.out (ints_one [(q : Int)]) hA.1 hA.2 (by simp; omega) ?_; intro v2 w7 hown hgrow _; refine Hid.out ?_)
          refine hidden ?_
          have HB3 : Hid (Below b w5 w7) := (HB.out.alloc hbs _).grown hgrow (by simp; omega) (fun q hq => (HO.out.lt q hq).1)
          have HO3 : Hid (w7.ownsRow b 5 1 v2 (u ++ [(q : Int)]).length ((u ++ [(q : Int)]).map (Value.int .u8))) := by
            show World.ownsRow _ _ _ _ _ _ _
            rw [List.map_append, List.length_append]
            exact hown
          have HR3 : Hid (∀ x ∈ u ++ [(q : Int)], 0 ≤ x ∧ x ≤ 255) := by
            intro x hx
            rcases List.mem_append.1 hx with hx | hx
            · exact HR.out x hx
            · obtain rfl := List.mem_singleton.1 hx
              exact ⟨hq0, hq1⟩
          clear hown hgrow HO HB HN HR hbyte hdiv
          go_wp2_with fail
          go_roundw
          case rel => exact ⟨M8, u ++ [(q : Int)], by go_num, by omega, HE2, HR3, HO3, HB3⟩
          case measure =>
            have := HMe.out
            simp [intOf]
            omega
        · have hM8i : ¬ (8 : Int) ≤ (M : Int) := by omega
          go_wp2_with fail
          go_roundw
          case rel => exact ⟨k + 1, M, H2, u, by omega, by go_num, rfl, rfl, by omega, HH2.out, by show _ = _; rw [HE.out, HTT.out], HR, HO, HB⟩
          case measure => simp [intOf]; omega
    · have hks : k = s.size := by omega
      subst hks
      have HE' : Hid (byteBits o ++ bitsN N H = textBits s.data.toList) := by
        show _ = _
        rw [HE.out, List.take_of_length_le (by rw [str_len]; exact Nat.le_refl _)]
      clear HE
      have hlen : 8 * o.length + N ≤ 30 * s.size := by
        have h1 := bitLen_le s.data.toList
        unfold bitLen at h1
        rw [← HE'.out, List.length_append, byteBits_len, bitsN_len, str_len] at h1
        exact h1
      have hsz := HB.out.size
      have HBw : Hid (Below w.heap.size w wr) := HB5.out.trans (HB.out.mono (by have := HB5.out.size; omega))
      have hbw : w.heap.size ≤ b := by rw [← hb]; exact HB5.out.size
      clear hH
      by_cases hN0 : N = 0
      · subst hN0
        obtain ⟨a', cap', rfl⟩ := shape_of_owns HO.out
        go_wp2_with fail
        go_ret
        refine ⟨o, a', cap', rfl, ⟨?_, HR.out⟩, ⟨HR.out, 0, by omega, ?_⟩, HBw.out⟩
        · exact own_lower HO.out hbw
        · have := HE'.out
          simpa [bitsN] using this
      · obtain ⟨P, hP⟩ : ∃ P, 8 - N = P := ⟨_, rfl⟩
        have hPi : (8 : Int) - (N : Int) = (P : Int) := by omega
        have hP8 : 1 ≤ P ∧ P ≤ 7 := by omega
        have hp : 0 < 2 ^ P := Nat.pow_pos (by decide)
        have HE2 : Hid (byteBits (o ++ [(((H * 2 ^ P % 18446744073709551616 + (2 ^ P - 1)) % 256 : Nat) : Int)]) = textBits s.data.toList ++ List.replicate P true) := by
          show _ = _
          rw [byteBits_snoc, Int.toNat_natCast, last_byte N P H (by omega), ← List.append_assoc, HE'.out]
        have HVal : Hid (bits .or .u64 (IntKind.u64.wrap ((H : Int) * 2 ^ P)) ((2 ^ P - 1 : Nat) : Int) = ((H * 2 ^ P % 18446744073709551616 + (2 ^ P - 1) : Nat) : Int)) := by
          show bits _ _ _ _ = _
          have e1 : (H : Int) * 2 ^ P = ((H * 2 ^ P : Nat) : Int) := by simp
          rw [e1, word_nat]
          exact or_shl H P (2 ^ P - 1) (by omega) (by omega)
        have HOnes : Hid (∀ w, Calls Tryz.prog 93 #[.int .i64 (P : Int)] w fun e w' => e = .returned (.int .u64 ((2 ^ P - 1 : Nat) : Int)) ∧ w' = w) := fun w => onesOf_any P (by omega) w
        generalize 2 ^ P - 1 = OP at *
        generalize H * 2 ^ P % 18446744073709551616 + OP = X at *
        have hNp : (0 : Int) < (N : Int) := by omega
        have hPi7 : (P : Int) ≤ 7 := by omega
        clear hp
        have hval := HVal.out
        have hbyte : IntKind.u8.wrap (X : Int) = ((X % 256 : Nat) : Int) := byte_nat X
        have hXb : X % 256 < 256 := Nat.mod_lt _ (by decide)
        generalize X % 256 = q at *
        have hq0 : (0 : Int) ≤ (q : Int) := by omega
        have hq1 : (q : Int) ≤ 255 := by omega
        have hent : ∀ args w, (callFunc 93 args).run Tryz.prog w = .ok (.enter 93 args) w := Go.Proofs.enters_of Tryz.func93 (by kernel_rfl) rfl
        have HEnt : Hid (∀ args w, (callFunc 93 args).run Tryz.prog w = .ok (.enter 93 args) w) := hent
        clear hent
        have HOd : Hid ((wr.alloc (.cells #[.int .u8 (q : Int)] 5)).drew.ownsRow b 5 1 u5 o.length (o.map (Value.int .u8))) := HO.out.alloc _
        have HN : Hid (∀ j v, [Value.int .u8 (q : Int)][j]? = some v → (wr.alloc (.cells #[.int .u8 (q : Int)] 5)).drew.cell? ((⟨wr.heap.size, 0, none⟩ : Addr).add j) = some v) := one_new wr q
        have hW8 : b ≤ (wr.alloc (.cells #[.int .u8 (q : Int)] 5)).drew.heap.size := by simp; omega
        have HB8 : Hid (Below b w5 (wr.alloc (.cells #[.int .u8 (q : Int)] 5)).drew) := below_drewN (HB.out.alloc (by omega) _) 1
        have HW8 : Hid (b ≤ (wr.alloc (.cells #[.int .u8 (q : Int)] 5)).drew.heap.size) := hW8
        clear hW8
        have hA : o.length + 1 ≤ maxLen ∧ (o.length + 1) * 1 ≤ 140737488355328 := ⟨by unfold maxLen; omega, by omega⟩
        go_wp2_with fail
        go_region_law (first
          | (refine step_call_same rfl 93 (.tmp 60) 3 rfl HEnt.out (.int .i64 (P : Int)) (.int .u64 (OP : Int)) rfl (HOnes.out _) ?_)
          | (refine step_append_own rfl (.tmp 56) (.tmp 64) 22 rfl b 5 i0 (.int .u8 0) 1 1 Tryz.underlying22 hi hz0 hz1 hz2 rfl (by decide) u5 o.length _ rfl HOd.out ⟨wr.heap.size, 0, none⟩ 1 1 [.int .u8 (q : Int)] rfl rfl HN.out (ints_one [(q : Int)]) hA.1 hA.2 HW8.out ?_; intro v2 w7 hown hgrow))
        have HB3 : Hid (Below b w5 w7) := HB8.out.grown hgrow HW8.out (fun q hq => (HO.out.lt q hq).1)
        have HO3 : Hid (w7.ownsRow b 5 1 v2 (o ++ [(q : Int)]).length ((o ++ [(q : Int)]).map (Value.int .u8))) := by
          show World.ownsRow _ _ _ _ _ _ _
          rw [List.map_append, List.length_append]
          exact hown
        have HR3 : Hid (∀ x ∈ o ++ [(q : Int)], 0 ≤ x ∧ x ≤ 255) := by
          intro x hx
          rcases List.mem_append.1 hx with hx | hx
          · exact HR.out x hx
          · obtain rfl := List.mem_singleton.1 hx
            exact ⟨hq0, hq1⟩
        clear hown hgrow HO HB HN HR HOd HB8 HW8 hval hbyte
        obtain ⟨a', cap', rfl⟩ := shape_of_owns HO3.out
        go_wp2_with fail
        go_ret
        refine ⟨o ++ [(q : Int)], a', cap', by simp, ⟨?_, HR3.out⟩, ⟨HR3.out, P, by omega, HE2.out⟩, ?_⟩
        · exact own_lower HO3.out hbw
        · exact HB5.out.trans (HB3.out.mono (by have := HB5.out.size; omega))

end Go.Proofs.YtckpacifimpkgacGreat
