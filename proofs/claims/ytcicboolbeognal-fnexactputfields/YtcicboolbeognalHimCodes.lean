/- The program's codes, and its symbols in the order of their codes. -/
import Derived.Test.YtcicboolbeognalHimRows
namespace Go.Proofs.Ytcicboolbeognal
open Go.RowKit
set_option linter.unusedVariables false

set_option maxRecDepth 10000 in
set_option maxHeartbeats 1600000 in
theorem implCodes_any (w : World) : Calls Try.prog 76 #[.agg (tabV lensI)] w fun e w' => e = .returned (.agg (tabV codesI)) ∧ Below w.heap.size w w' := by
  have HRows : Hid (∀ w, Calls Try.prog 80 #[.agg (tabV lensI)] w fun e w' => e = .returned (.agg (tabV rowsI)) ∧ Below w.heap.size w w') := implRows_any
  obtain ⟨LV, hLV⟩ : ∃ LV, LV = tabV lensI := ⟨_, rfl⟩
  have HL : Hid (∀ k, k < 257 → LV[k]? = some (.int .i64 (lensI.getD k 0))) := by
    intro k hk
    rw [hLV, tabV_at lensI k (by rw [lens_len]; exact hk)]
  have hLs : (Try.prog.info? 99).map (·.size) = some LV.size := by rw [hLV]; exact sizeA lens_len
  obtain ⟨Z, hZ⟩ : ∃ Z : List Int, List.replicate 257 0 = Z := ⟨_, rfl⟩
  obtain ⟨Y, hY⟩ : ∃ Y : List Int, List.replicate 93 0 = Y := ⟨_, rfl⟩
  have hz : ∀ w, (zeroValue 99).run Try.prog w = .ok (.agg (tabV Z)) w := by rw [← hZ]; exact zeroA
  have hy : ∀ w, (zeroValue 113).run Try.prog w = .ok (.agg (tabV Y)) w := by rw [← hY]; exact zeroR
  have HZ : Hid (List.replicate 257 0 = Z) := hZ
  have HZl : Hid (Z.length = 257) := by show _ = _; rw [← hZ, List.length_replicate]
  have hys : (tabV Y).size = (tabV rowsI).size := by rw [tabV_size, tabV_size, ← hY, List.length_replicate, rowsI_len]
  rw [← hLV] at HRows ⊢
  clear hLV hZ hY
  have hg1 : ((w.alloc (.cells LV 99)).alloc (.cells (tabV Z) 99)).heap[w.heap.size]? = some (.cells LV 99 (0, 0)) := heap_kept (heap_alloc_last w _) _
  have ha1 := Arr.new (w.alloc (.cells LV 99)) 99 Z
  have hb1 : Below w.heap.size w ((w.alloc (.cells LV 99)).alloc (.cells (tabV Z) 99)) := ((Below.refl _ _).alloc (Nat.le_refl _) _).alloc (by simp) _
  rw [World.size_alloc] at ha1
  obtain ⟨w1, hw1⟩ : ∃ w1, (w.alloc (.cells LV 99)).alloc (.cells (tabV Z) 99) = w1 := ⟨_, rfl⟩
  have hs1 : w1.heap.size = w.heap.size + 2 := by rw [← hw1]; simp
  rw [hw1] at ha1 hb1 hg1
  go_enter Try.func76, Try.ntmps76
  go_wp2_with (refine wpList_load_row rfl 99 _ rfl _ rfl 99 LV (0, 0) _ hg1 Try.underlying99 rfl hLs ?_)
  clear hw1
  have HG1 : Hid (w1.heap[w.heap.size]? = some (.cells LV 99 (0, 0))) := hg1
  have HA1 : Hid (Arr w1 (w.heap.size + 1) 99 Z) := ha1
  have HB1 : Hid (Below w.heap.size w w1) := hb1
  clear hg1 ha1 hb1
  obtain ⟨h, hh⟩ : ∃ h, w.heap.size = h := ⟨_, rfl⟩
  rw [hh] at HG1 HA1 HB1 hs1 ⊢
  refine (HRows.out w1).mono ?_
  rintro e w2 ⟨rfl, hb2⟩
  have hs2 := hb2.size
  have hg2 : w2.heap[h]? = some (.cells LV 99 (0, 0)) := (hb2.block h (by omega)).trans HG1.out
  have HA2 : Hid (Arr w2 (h + 1) 99 Z) := HA1.out.stays hb2
  have HB2 : Hid (Below h w w2) := HB1.out.trans (hb2.mono (by omega))
  clear hb2 HG1 HA1 HB1
  have hh2 : h + 2 ≤ w2.heap.size := by omega
  clear hs1 hs2
  obtain ⟨w3, hw3⟩ : ∃ w3, (w2.alloc (.cells (tabV rowsI) 113)).alloc (.cells (tabV Z) 99) = w3 := ⟨_, rfl⟩
  have HR3 : Hid (Arr w3 w2.heap.size 113 rowsI) := by show Arr _ _ _ _; rw [← hw3]; exact (Arr.new w2 _ rowsI).alloc _
  have HC3 : Hid (Arr w3 (w2.heap.size + 1) 99 Z) := by
    show Arr _ _ _ _
    rw [← hw3]
    have := Arr.new (w2.alloc (.cells (tabV rowsI) 113)) 99 Z
    rwa [World.size_alloc] at this
  have HB3 : Hid (Below w2.heap.size w2 w3) := by show Below _ _ _; rw [← hw3]; exact ((Below.refl _ _).alloc (Nat.le_refl _) _).alloc (by simp) _
  have hg3 : w3.heap[h]? = some (.cells LV 99 (0, 0)) := (HB3.out.block h (by omega)).trans hg2
  go_wp2_with (first
    | (refine wpList_store_row rfl 113 _ _ rfl w2.heap.size (tabV rowsI) rfl rfl 113 (tabV Y) (heap_alloc_last w2 _) (sizeR rowsI_len) hys (tabV_one _) ?_; rw [World.setRow_alloc_new])
    | (refine wpList_load_row rfl 99 _ rfl h rfl 99 LV (0, 0) _ hg3 Try.underlying99 rfl hLs ?_; refine Hid.out ?_))
  refine hidden ?_
  clear hw3 hg2 hz hy hys hg3 HRows
  obtain ⟨g, hg⟩ : ∃ g, w2.heap.size = g := ⟨_, rfl⟩
  rw [hg] at HR3 HC3 HB3 hh2 ⊢
  go_wp2_with fail
  go_loopw [10] (fun i wr => ∃ (j : Nat) (s : List Int × List Int), j ≤ 257 ∧ i = .int .i64 j ∧ Hid (cmade (lensI.take j) 0 (rowsI, Z) = s) ∧ Hid (Arr wr g 113 s.1) ∧ Hid (Arr wr (g + 1) 99 s.2) ∧ Hid (Below g w2 wr)) (fun i _ => 257 - (intOf i).toNat)
  case atStart => exact ⟨0, (rowsI, Z), Nat.zero_le _, rfl, rfl, HR3, HC3, HB3⟩
  case round =>
    clear HR3 HC3 HB3
    obtain ⟨j, ⟨R, C⟩, hj, rfl, HE, HR, HC, HB⟩ := hrel
    dsimp only at HR HC
    have HRl : Hid (R.length = 93) := by
      have := (cmade_len (lensI.take j) 0 (rowsI, Z)).1
      rw [HE.out, rowsI_len] at this
      exact this
    have HCl : Hid (C.length = 257) := by
      have := (cmade_len (lensI.take j) 0 (rowsI, Z)).2
      rw [HE.out, HZl.out] at this
      exact this
    by_cases hj7 : j < 257
    · have hji : (j : Int) ≤ 256 := by omega
      obtain ⟨l, el, hl5, hl30⟩ := len_nat j hj7
      have HN : Hid (cmade (lensI.take (j + 1)) 0 (rowsI, Z) = cstep (l : Int) j (R, C)) := by
        show _ = _
        have htl : (lensI.take j).length = j := by rw [List.length_take, lens_len]; omega
        rw [take_next j (by rw [lens_len]; exact hj7), cmade_snoc, el, HE.out, Nat.zero_add, htl]
      have hidx : ∀ w, (Instr.index 99 (.agg LV) (.int .i64 (j : Int))).run Try.prog w = .ok (.int .i64 (l : Int)) w := index_arr LV j hj7 l (by rw [HL.out j hj7, el])
      have c1 := HR.out.cell (l * 3 + 1) (by rw [HRl.out]; omega)
      obtain ⟨r, hr⟩ : ∃ r, R.getD (l * 3 + 1) 0 = r := ⟨_, rfl⟩
      rw [hr] at c1
      have HRr : Hid (R.getD (l * 3 + 1) 0 = r) := hr
      have f1 := HC.out.frozen j
      have d1 := HC.out.cell j (by rw [HCl.out]; exact hj7)
      have c2 : ∀ v, (wr.setCell ⟨g + 1, j, none⟩ v).cell? ⟨g, l * 3 + 1, none⟩ = some (.int .i64 r) := fun v => by
        rw [(HR.out.set_other j v (by omega)).cell (l * 3 + 1) (by rw [HRl.out]; omega), hr]
      have f2 : ∀ v, (wr.setCell ⟨g + 1, j, none⟩ v).frozen? ⟨g, l * 3 + 1, none⟩ = false := fun v => (HR.out.set_other j v (by omega)).frozen _
      clear hr el
      have hli : (l : Int) ≤ 30 := by omega
      go_wp2_with fail
      go_roundw
      case rel =>
        refine ⟨j + 1, cstep (l : Int) j (R, C), by omega, by go_num, HN, ?_, ?_, ?_⟩
        · show Arr _ _ _ _
          rw [cstep, Int.toNat_natCast]
          dsimp only
          rw [HRr.out]
          exact (HR.out.set_other (g' := g + 1) _ _ (by omega)).set _ _
        · show Arr _ _ _ _
          rw [cstep, Int.toNat_natCast]
          dsimp only
          rw [HRr.out]
          exact (HC.out.set _ _).set_other (g' := g) _ _ (by omega)
        · exact (HB.out.setCell (p := ⟨g + 1, j, none⟩) (by simp) _).setCell (p := ⟨g, l * 3 + 1, none⟩) (Nat.le_refl _) _
      case measure => simp [intOf]; omega
    · have hj5 : j = 257 := by omega
      subst hj5
      have hc : Arr wr (g + 1) 99 codesI := by
        have h1 := HE.out
        rw [List.take_of_length_le (by rw [lens_len]; exact Nat.le_refl _), ← HZ.out] at h1
        have h2 := codes_made
        rw [h1] at h2
        have h3 := HC.out
        rw [← h2]
        exact h3
      have hz1 : Arr wr (h + 1) 99 Z := HA2.out.below HB.out (by omega)
      have hzs : (tabV Z).size = (tabV codesI).size := by rw [tabV_size, tabV_size, HZl.out, codes_len]
      have HBw : Hid (Below h w wr) := HB2.out.trans (HB.out.mono (by omega))
      clear HE HR HC HB HA2
      go_wp2_with (first
        | (refine wpList_load_row rfl 99 _ rfl (g + 1) rfl 99 (tabV codesI) (0, 0) _ hc Try.underlying99 rfl (sizeA codes_len) ?_)
        | (refine wpList_store_row rfl 99 _ _ rfl (h + 1) (tabV codesI) rfl rfl 99 (tabV Z) hz1 (sizeA codes_len) hzs (tabV_one _) ?_))
      refine bodyPost_ret (results_cell_row rfl _ _ (h + 1) 99 (tabV codesI) (0, 0) _ rfl (setRow_heap _ _ _ _ _ _ hz1) Try.underlying99 rfl (sizeA codes_len)) rfl ⟨rfl, ?_⟩
      first | exact below_setRow HBw.out (by omega) _ | (rw [hh]; exact below_setRow HBw.out (by omega) _)

set_option maxRecDepth 10000 in
set_option maxHeartbeats 1600000 in
theorem implRanks_any (w : World) : Calls Try.prog 81 #[.agg (tabV lensI)] w fun e w' => e = .returned (.agg (tabV rankI)) ∧ Below w.heap.size w w' := by
  have HRows : Hid (∀ w, Calls Try.prog 80 #[.agg (tabV lensI)] w fun e w' => e = .returned (.agg (tabV rowsI)) ∧ Below w.heap.size w w') := implRows_any
  obtain ⟨LV, hLV⟩ : ∃ LV, LV = tabV lensI := ⟨_, rfl⟩
  have HL : Hid (∀ k, k < 257 → LV[k]? = some (.int .i64 (lensI.getD k 0))) := by
    intro k hk
    rw [hLV, tabV_at lensI k (by rw [lens_len]; exact hk)]
  have hLs : (Try.prog.info? 99).map (·.size) = some LV.size := by rw [hLV]; exact sizeA lens_len
  obtain ⟨Z, hZ⟩ : ∃ Z : List Int, List.replicate 257 0 = Z := ⟨_, rfl⟩
  obtain ⟨Y, hY⟩ : ∃ Y : List Int, List.replicate 93 0 = Y := ⟨_, rfl⟩
  have hz : ∀ w, (zeroValue 99).run Try.prog w = .ok (.agg (tabV Z)) w := by rw [← hZ]; exact zeroA
  have hy : ∀ w, (zeroValue 113).run Try.prog w = .ok (.agg (tabV Y)) w := by rw [← hY]; exact zeroR
  have HZ : Hid (List.replicate 257 0 = Z) := hZ
  have HZl : Hid (Z.length = 257) := by show _ = _; rw [← hZ, List.length_replicate]
  have hys : (tabV Y).size = (tabV rowsI).size := by rw [tabV_size, tabV_size, ← hY, List.length_replicate, rowsI_len]
  rw [← hLV] at HRows ⊢
  clear hLV hZ hY
  have hg1 : ((w.alloc (.cells LV 99)).alloc (.cells (tabV Z) 99)).heap[w.heap.size]? = some (.cells LV 99 (0, 0)) := heap_kept (heap_alloc_last w _) _
  have ha1 := Arr.new (w.alloc (.cells LV 99)) 99 Z
  have hb1 : Below w.heap.size w ((w.alloc (.cells LV 99)).alloc (.cells (tabV Z) 99)) := ((Below.refl _ _).alloc (Nat.le_refl _) _).alloc (by simp) _
  rw [World.size_alloc] at ha1
  obtain ⟨w1, hw1⟩ : ∃ w1, (w.alloc (.cells LV 99)).alloc (.cells (tabV Z) 99) = w1 := ⟨_, rfl⟩
  have hs1 : w1.heap.size = w.heap.size + 2 := by rw [← hw1]; simp
  rw [hw1] at ha1 hb1 hg1
  go_enter Try.func81, Try.ntmps81
  go_wp2_with (refine wpList_load_row rfl 99 _ rfl _ rfl 99 LV (0, 0) _ hg1 Try.underlying99 rfl hLs ?_)
  clear hw1
  have HG1 : Hid (w1.heap[w.heap.size]? = some (.cells LV 99 (0, 0))) := hg1
  have HA1 : Hid (Arr w1 (w.heap.size + 1) 99 Z) := ha1
  have HB1 : Hid (Below w.heap.size w w1) := hb1
  clear hg1 ha1 hb1
  obtain ⟨h, hh⟩ : ∃ h, w.heap.size = h := ⟨_, rfl⟩
  rw [hh] at HG1 HA1 HB1 hs1 ⊢
  refine (HRows.out w1).mono ?_
  rintro e w2 ⟨rfl, hb2⟩
  have hs2 := hb2.size
  have hg2 : w2.heap[h]? = some (.cells LV 99 (0, 0)) := (hb2.block h (by omega)).trans HG1.out
  have HA2 : Hid (Arr w2 (h + 1) 99 Z) := HA1.out.stays hb2
  have HB2 : Hid (Below h w w2) := HB1.out.trans (hb2.mono (by omega))
  clear hb2 HG1 HA1 HB1
  have hh2 : h + 2 ≤ w2.heap.size := by omega
  clear hs1 hs2
  obtain ⟨w3, hw3⟩ : ∃ w3, (w2.alloc (.cells (tabV rowsI) 113)).alloc (.cells (tabV Z) 99) = w3 := ⟨_, rfl⟩
  have HR3 : Hid (Arr w3 w2.heap.size 113 rowsI) := by show Arr _ _ _ _; rw [← hw3]; exact (Arr.new w2 _ rowsI).alloc _
  have HC3 : Hid (Arr w3 (w2.heap.size + 1) 99 Z) := by
    show Arr _ _ _ _
    rw [← hw3]
    have := Arr.new (w2.alloc (.cells (tabV rowsI) 113)) 99 Z
    rwa [World.size_alloc] at this
  have HB3 : Hid (Below w2.heap.size w2 w3) := by show Below _ _ _; rw [← hw3]; exact ((Below.refl _ _).alloc (Nat.le_refl _) _).alloc (by simp) _
  have hg3 : w3.heap[h]? = some (.cells LV 99 (0, 0)) := (HB3.out.block h (by omega)).trans hg2
  go_wp2_with (first
    | (refine wpList_store_row rfl 113 _ _ rfl w2.heap.size (tabV rowsI) rfl rfl 113 (tabV Y) (heap_alloc_last w2 _) (sizeR rowsI_len) hys (tabV_one _) ?_; rw [World.setRow_alloc_new])
    | (refine wpList_load_row rfl 99 _ rfl h rfl 99 LV (0, 0) _ hg3 Try.underlying99 rfl hLs ?_; refine Hid.out ?_))
  refine hidden ?_
  clear hw3 hg2 hz hy hys hg3 HRows
  obtain ⟨g, hg⟩ : ∃ g, w2.heap.size = g := ⟨_, rfl⟩
  rw [hg] at HR3 HC3 HB3 hh2 ⊢
  go_wp2_with fail
  go_loopw [10] (fun i wr => ∃ (j : Nat) (s : List Int × List Int), j ≤ 257 ∧ i = .int .i64 j ∧ Hid (kmade (lensI.take j) 0 (rowsI, Z) = s) ∧ Hid (Arr wr g 113 s.1) ∧ Hid (Arr wr (g + 1) 99 s.2) ∧ Hid (Below g w2 wr)) (fun i _ => 257 - (intOf i).toNat)
  case atStart => exact ⟨0, (rowsI, Z), Nat.zero_le _, rfl, rfl, HR3, HC3, HB3⟩
  case round =>
    clear HR3 HC3 HB3
    obtain ⟨j, ⟨R, C⟩, hj, rfl, HE, HR, HC, HB⟩ := hrel
    dsimp only at HR HC
    have HRl : Hid (R.length = 93) := by
      have := (kmade_len (lensI.take j) 0 (rowsI, Z)).1
      rw [HE.out, rowsI_len] at this
      exact this
    have HCl : Hid (C.length = 257) := by
      have := (kmade_len (lensI.take j) 0 (rowsI, Z)).2
      rw [HE.out, HZl.out] at this
      exact this
    by_cases hj7 : j < 257
    · have hji : (j : Int) ≤ 256 := by omega
      obtain ⟨l, el, hl5, hl30⟩ := len_nat j hj7
      have HN : Hid (kmade (lensI.take (j + 1)) 0 (rowsI, Z) = kstep (l : Int) j (R, C)) := by
        show _ = _
        have htl : (lensI.take j).length = j := by rw [List.length_take, lens_len]; omega
        rw [take_next j (by rw [lens_len]; exact hj7), kmade_snoc, el, HE.out, Nat.zero_add, htl]
      have hidx : ∀ w, (Instr.index 99 (.agg LV) (.int .i64 (j : Int))).run Try.prog w = .ok (.int .i64 (l : Int)) w := index_arr LV j hj7 l (by rw [HL.out j hj7, el])
      have c1 := HR.out.cell (l * 3 + 2) (by rw [HRl.out]; omega)
      have hrin := rank_at j hj7
      rw [HZ.out, HE.out, el, Int.toNat_natCast] at hrin
      dsimp only at hrin
      obtain ⟨r, hr⟩ : ∃ r : Nat, R.getD (l * 3 + 2) 0 = (r : Int) := ⟨(R.getD (l * 3 + 2) 0).toNat, by omega⟩
      rw [hr] at hrin
      have hr7 : r < 257 := by omega
      have hri : (r : Int) ≤ 256 := by omega
      clear hrin
      rw [hr] at c1
      have HRr : Hid (R.getD (l * 3 + 2) 0 = (r : Int)) := hr
      have f1 := HC.out.frozen r
      have d1 := HC.out.cell r (by rw [HCl.out]; exact hr7)
      have c2 : ∀ v, (wr.setCell ⟨g + 1, r, none⟩ v).cell? ⟨g, l * 3 + 2, none⟩ = some (.int .i64 (r : Int)) := fun v => by
        rw [(HR.out.set_other r v (by omega)).cell (l * 3 + 2) (by rw [HRl.out]; omega), hr]
      have f2 : ∀ v, (wr.setCell ⟨g + 1, r, none⟩ v).frozen? ⟨g, l * 3 + 2, none⟩ = false := fun v => (HR.out.set_other r v (by omega)).frozen _
      clear hr el
      have hli : (l : Int) ≤ 30 := by omega
      go_wp2_with fail
      go_roundw
      case rel =>
        refine ⟨j + 1, kstep (l : Int) j (R, C), by omega, by go_num, HN, ?_, ?_, ?_⟩
        · show Arr _ _ _ _
          rw [kstep, Int.toNat_natCast]
          dsimp only
          have ew : wrap64 ((r : Int) + 1) = (r : Int) + 1 := by unfold wrap64; omega
          rw [HRr.out, ew]
          exact (HR.out.set_other (g' := g + 1) _ _ (by omega)).set _ _
        · show Arr _ _ _ _
          rw [kstep, Int.toNat_natCast]
          dsimp only
          rw [HRr.out, Int.toNat_natCast]
          exact (HC.out.set _ _).set_other (g' := g) _ _ (by omega)
        · exact (HB.out.setCell (p := ⟨g + 1, r, none⟩) (by simp) _).setCell (p := ⟨g, l * 3 + 2, none⟩) (Nat.le_refl _) _
      case measure => simp [intOf]; omega
    · have hj5 : j = 257 := by omega
      subst hj5
      have hc : Arr wr (g + 1) 99 rankI := by
        have h1 := HE.out
        rw [List.take_of_length_le (by rw [lens_len]; exact Nat.le_refl _), ← HZ.out] at h1
        have h2 := ranks_made
        rw [h1] at h2
        have h3 := HC.out
        rw [← h2]
        exact h3
      have hz1 : Arr wr (h + 1) 99 Z := HA2.out.below HB.out (by omega)
      have hzs : (tabV Z).size = (tabV rankI).size := by rw [tabV_size, tabV_size, HZl.out, rankI_len]
      have HBw : Hid (Below h w wr) := HB2.out.trans (HB.out.mono (by omega))
      clear HE HR HC HB HA2
      go_wp2_with (first
        | (refine wpList_load_row rfl 99 _ rfl (g + 1) rfl 99 (tabV rankI) (0, 0) _ hc Try.underlying99 rfl (sizeA rankI_len) ?_)
        | (refine wpList_store_row rfl 99 _ _ rfl (h + 1) (tabV rankI) rfl rfl 99 (tabV Z) hz1 (sizeA rankI_len) hzs (tabV_one _) ?_))
      refine bodyPost_ret (results_cell_row rfl _ _ (h + 1) 99 (tabV rankI) (0, 0) _ rfl (setRow_heap _ _ _ _ _ _ hz1) Try.underlying99 rfl (sizeA rankI_len)) rfl ⟨rfl, ?_⟩
      first | exact below_setRow HBw.out (by omega) _ | (rw [hh]; exact below_setRow HBw.out (by omega) _)

end Go.Proofs.Ytcicboolbeognal
