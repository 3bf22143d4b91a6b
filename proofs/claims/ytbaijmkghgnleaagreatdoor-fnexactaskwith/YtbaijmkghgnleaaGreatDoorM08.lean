/- The program's table of the lengths, an array by value; the zero values of its arrays. The program's rows of the lengths. The program's codes, in the order of the symbols. What the program's HuffLen answers. For texts of at most 2^40 bytes. Shifts of words of 64 bits, and their bits; no program in it. Two steps of a region that draws its order: a call that leaves the world as it was, an append onto a row of the call's own. No program in it. -/
import Derived.Test.YtbaijmkghgnleaaGreatDoorM05
import Derived.Test.YtbaijmkghgnleaaGreatDoorM06
import Derived.Test.YtbaijmkghgnleaaGreatDoorM07
import Derived.Test.YtbaijmkghgnleaaGreatDoorM03
import Derived.Laws.BitsAllLaws
import Derived.Deep.RegionLaw
import Derived.Laws.AppendOwn
import Derived.WalkKit
namespace Go.Proofs.YtbaijmkghgnleaaGreatDoor
open Go.RowKit
set_option linter.unusedVariables false

theorem Tryz.infoA : (Tryz.prog.info? 140).map (fun i => (i.zero, i.size)) = some (some (.agg (Array.replicate 257 (.int .i64 0))), 257) := by kernel_rfl
theorem Tryz.infoR : (Tryz.prog.info? 154).map (fun i => (i.zero, i.size)) = some (some (.agg (Array.replicate 93 (.int .i64 0))), 93) := by kernel_rfl

theorem zeroA (w : World) : (zeroValue 140).run Tryz.prog w = .ok (.agg (tabV (List.replicate 257 0))) w := by rw [tabV_rep]; exact (zero_of_info Tryz.infoA).1 w
theorem zeroR (w : World) : (zeroValue 154).run Tryz.prog w = .ok (.agg (tabV (List.replicate 93 0))) w := by rw [tabV_rep]; exact (zero_of_info Tryz.infoR).1 w
theorem sizeA {L : List Int} (h : L.length = 257) : (Tryz.prog.info? 140).map (·.size) = some (tabV L).size := by rw [tabV_size, h]; exact (zero_of_info Tryz.infoA).2
theorem sizeR {L : List Int} (h : L.length = 93) : (Tryz.prog.info? 154).map (·.size) = some (tabV L).size := by rw [tabV_size, h]; exact (zero_of_info Tryz.infoR).2

set_option maxRecDepth 100000 in
theorem lens_built : Tryz.prog.built 140 (litVals lensI) = some (tabV lensI) := by kernel_rfl

theorem implLens_any (w : World) : Calls Tryz.prog 112 #[] w fun e w' => e = .returned (.agg (tabV lensI)) ∧ w' = w.alloc (.cells (tabV lensI) 140) :=
  arr_calls Tryz.func112 140 3 257 lensI "l03_huff.go:145" "l03_huff.go:146" (tabV lensI) (tabV (List.replicate 257 0)) (by kernel_rfl) rfl rfl Tryz.underlying140 zeroA (by rw [tabV_size, tabV_size, lens_len, List.length_replicate]) (sizeA lens_len) (tabV_one _) lens_built w

theorem index_arr (A : Array Value) (j : Nat) (hj : j < 257) (v : Int) (h : A[j]? = some (.int .i64 v)) (w : World) : (Instr.index 140 (.agg A) (.int .i64 (j : Int))).run Tryz.prog w = .ok (.int .i64 v) w := by
  have h0 : (0 : Int) ≤ (j : Int) ∧ (j : Int) < ((257 : Nat) : Int) := by omega
  have hs : (sizeOf 3).run Tryz.prog w = .ok 1 w := by simp [go_sem]
  have ha : (isAgg 3).run Tryz.prog w = .ok false w := by simp [go_sem]
  simp only [Instr.index, asIntOf, Sem.run_bind, Sem.run_pure, Result.andThen_ok, run_underlying Tryz.underlying140, h0, and_self, if_true, hs, part, ha, Int.toNat_natCast, Nat.mul_one, h]
  rfl

end Go.Proofs.YtbaijmkghgnleaaGreatDoor

namespace Go.Proofs.YtbaijmkghgnleaaGreatDoor
open Go.RowKit
set_option linter.unusedVariables false

theorem len_nat (j : Nat) (hj : j < 257) : ∃ l : Nat, lensI.getD j 0 = (l : Int) ∧ 5 ≤ l ∧ l ≤ 30 := by
  have h := lens_range j hj
  exact ⟨(lensI.getD j 0).toNat, by omega, by omega, by omega⟩

set_option maxRecDepth 10000 in
set_option maxHeartbeats 1600000 in
theorem implRows_any (w : World) : Calls Tryz.prog 122 #[.agg (tabV lensI)] w fun e w' => e = .returned (.agg (tabV rowsI)) ∧ Below w.heap.size w w' := by
  obtain ⟨LV, hLV⟩ : ∃ LV, LV = tabV lensI := ⟨_, rfl⟩
  have HL : Hid (∀ k, k < 257 → LV[k]? = some (.int .i64 (lensI.getD k 0))) := by
    intro k hk
    rw [hLV, tabV_at lensI k (by rw [lens_len]; exact hk)]
  have hLs : (Tryz.prog.info? 140).map (·.size) = some LV.size := by rw [hLV]; exact sizeA lens_len
  obtain ⟨Z, hZ⟩ : ∃ Z : List Int, List.replicate 93 0 = Z := ⟨_, rfl⟩
  have hz : ∀ w, (zeroValue 154).run Tryz.prog w = .ok (.agg (tabV Z)) w := by rw [← hZ]; exact zeroR
  have HZ : Hid (List.replicate 93 0 = Z) := hZ
  have HZl : Hid (Z.length = 93) := by show _ = _; rw [← hZ, List.length_replicate]
  rw [← hLV]
  clear hLV hZ
  obtain ⟨w3, hw3⟩ : ∃ w3, w3 = ((w.alloc (.cells LV 140)).alloc (.cells (tabV Z) 154)).alloc (.cells (tabV Z) 154) := ⟨_, rfl⟩
  obtain ⟨hg3, ha1, ha2, hb3⟩ := three_new w w3 LV _ _ _ Z Z hw3
  have HA1 : Hid (Arr w3 (w.heap.size + 1) 154 Z) := ha1
  have HA2 : Hid (Arr w3 (w.heap.size + 2) 154 (rcnt (lensI.take 0) Z)) := ha2
  have HB3 : Hid (Below w.heap.size w w3) := hb3
  clear ha1 ha2 hb3
  rw [hw3] at hg3
  go_enter Tryz.func122, Tryz.ntmps122
  go_wp2_with (refine wpList_load_row rfl 140 _ rfl _ rfl 140 LV (0, 0) _ hg3 Tryz.underlying140 rfl hLs ?_; refine Hid.out ?_)
  refine hidden ?_
  rw [← hw3]
  clear hw3 hg3 hz
  obtain ⟨h, hh⟩ : ∃ h, w.heap.size = h := ⟨_, rfl⟩
  rw [hh] at HA1 HA2 HB3 ⊢
  go_wp2_with fail
  go_loopw [9] (fun i wr => ∃ j : Nat, j ≤ 257 ∧ i = .int .i64 j ∧ Hid (Arr wr (h + 2) 154 (rcnt (lensI.take j) Z)) ∧ Hid (Below (h + 2) w3 wr)) (fun i _ => 257 - (intOf i).toNat)
  case atStart => exact ⟨0, Nat.zero_le _, rfl, HA2, Below.refl _ _⟩
  case round =>
    clear HA2
    obtain ⟨j, hj, rfl, HA, HB⟩ := hrel
    by_cases hj7 : j < 257
    · have hji : (j : Int) ≤ 256 := by omega
      obtain ⟨l, el, hl5, hl30⟩ := len_nat j hj7
      have HN : Hid (rcnt (lensI.take (j + 1)) Z = rone (l : Int) (rcnt (lensI.take j) Z)) := by
        show _ = _
        rw [take_next j (by rw [lens_len]; exact hj7), rcnt_snoc, el]
      have hidx : ∀ w, (Instr.index 140 (.agg LV) (.int .i64 (j : Int))).run Tryz.prog w = .ok (.int .i64 (l : Int)) w := index_arr LV j hj7 l (by rw [HL.out j hj7, el])
      have HRl : Hid ((rcnt (lensI.take j) Z).length = 93) := by show _ = _; rw [rcnt_len, HZl.out]
      generalize rcnt (lensI.take j) Z = R at HA HN HRl
      have hcell := HA.out.cell (l * 3) (by rw [HRl.out]; omega)
      have hf := HA.out.frozen (l * 3)
      obtain ⟨r, hr⟩ : ∃ r, R.getD (l * 3) 0 = r := ⟨_, rfl⟩
      rw [hr] at hcell
      have HR : Hid (R.getD (l * 3) 0 = r) := hr
      clear hr el
      have hli : (l : Int) ≤ 30 := by omega
      go_wp2_with fail
      go_roundw
      case rel =>
        refine ⟨j + 1, by omega, by go_num, ?_, ?_⟩
        · show Arr _ _ _ _
          rw [HN.out, rone, Int.toNat_natCast, HR.out]
          exact HA.out.set _ _
        · exact HB.out.setCell (p := ⟨h + 2, l * 3, none⟩) (Nat.le_refl _) _
      case measure => simp [intOf]; omega
    · have hj5 : j = 257 := by omega
      subst hj5
      have HM0 : Hid (Arr wr (h + 2) 154 (rmade 0)) := by
        show Arr _ _ _ _
        have := HA.out
        rw [List.take_of_length_le (by rw [lens_len]; exact Nat.le_refl _), ← HZ.out] at this
        exact this
      clear HA
      obtain ⟨w4, hw4⟩ : ∃ w4, wr = w4 := ⟨_, rfl⟩
      rw [hw4] at HM0 HB ⊢
      clear hw4
      go_wp2_with fail
      go_loopw [6] (fun n wr => ∃ m : Nat, m ≤ 30 ∧ n = .int .i64 ((m : Int) + 1) ∧ Hid (Arr wr (h + 2) 154 (rmade m)) ∧ Hid (Below (h + 2) w3 wr)) (fun n _ => 31 - (intOf n).toNat)
      case atStart => exact ⟨0, Nat.zero_le _, rfl, HM0, HB⟩
      case round =>
        clear HM0 HB
        obtain ⟨m, hm, rfl, HA, HB⟩ := hrel
        by_cases hm30 : m < 30
        · have hmi : (m : Int) ≤ 29 := by omega
          have HRl : Hid ((rmade m).length = 93) := rmade_len m
          have HN : Hid (rmade (m + 1) = rstep m (rmade m)) := rfl
          generalize rmade m = R at HA HN HRl
          have c0 := HA.out.cell (m * 3) (by rw [HRl.out]; omega)
          have c1 := HA.out.cell (m * 3 + 1) (by rw [HRl.out]; omega)
          have c2 := HA.out.cell (m * 3 + 2) (by rw [HRl.out]; omega)
          obtain ⟨r0, hr0⟩ : ∃ r, R.getD (m * 3) 0 = r := ⟨_, rfl⟩
          obtain ⟨r1, hr1⟩ : ∃ r, R.getD (m * 3 + 1) 0 = r := ⟨_, rfl⟩
          obtain ⟨r2, hr2⟩ : ∃ r, R.getD (m * 3 + 2) 0 = r := ⟨_, rfl⟩
          have HR : Hid (R.getD (m * 3) 0 = r0 ∧ R.getD (m * 3 + 1) 0 = r1 ∧ R.getD (m * 3 + 2) 0 = r2) := ⟨hr0, hr1, hr2⟩
          rw [hr0] at c0
          rw [hr1] at c1
          rw [hr2] at c2
          clear hr0 hr1 hr2
          have hlt := HA.out.lt
          obtain ⟨W1, hW1⟩ : ∃ W1, wr.alloc (.cells #[.int .i64 r0, .int .i64 r1, .int .i64 r2] 153) = W1 := ⟨_, rfl⟩
          have HA1' : Hid (Arr W1 (h + 2) 154 R) := by show Arr _ _ _ _; rw [← hW1]; exact HA.out.alloc _
          have hx : W1.heap[wr.heap.size]? = some (.cells #[.int .i64 r0, .int .i64 r1, .int .i64 r2] 153 (0, 0)) := by rw [← hW1]; exact heap_alloc_last wr _
          have HB1 : Hid (Below (h + 2) w3 W1) := by show Below _ _ _; rw [← hW1]; exact HB.out.alloc (by omega) _
          have x0 : W1.cell? ⟨wr.heap.size, 0, none⟩ = some (.int .i64 r0) := by rw [cell_of_row _ _ _ _ _ _ hx]; rfl
          have x1 : W1.cell? ⟨wr.heap.size, 1, none⟩ = some (.int .i64 r1) := by rw [cell_of_row _ _ _ _ _ _ hx]; rfl
          have x2 : W1.cell? ⟨wr.heap.size, 2, none⟩ = some (.int .i64 r2) := by rw [cell_of_row _ _ _ _ _ _ hx]; rfl
          have y0 : ∀ k v, (W1.setCell ⟨h + 2, k, none⟩ v).cell? ⟨wr.heap.size, 0, none⟩ = some (.int .i64 r0) := fun k v => (World.cell?_setCell_other _ _ _ _ (fun e => by simp at e <;> omega)).trans x0
          have y2 : ∀ k v, (W1.setCell ⟨h + 2, k, none⟩ v).cell? ⟨wr.heap.size, 2, none⟩ = some (.int .i64 r2) := fun k v => (World.cell?_setCell_other _ _ _ _ (fun e => by simp at e <;> omega)).trans x2
          have f1 := HA1'.out.frozen ((m + 1) * 3 + 1)
          have d1 := HA1'.out.cell ((m + 1) * 3 + 1) (by rw [HRl.out]; omega)
          have f2 : ∀ v, (W1.setCell ⟨h + 2, (m + 1) * 3 + 1, none⟩ (.int .i64 v)).frozen? ⟨h + 2, (m + 1) * 3 + 2, none⟩ = false := fun v => (HA1'.out.set _ _).frozen _
          have d2 : ∀ v, (W1.setCell ⟨h + 2, (m + 1) * 3 + 1, none⟩ (.int .i64 v)).cell? ⟨h + 2, (m + 1) * 3 + 2, none⟩ = some (.int .i64 ((R.set ((m + 1) * 3 + 1) v).getD ((m + 1) * 3 + 2) 0)) := fun v => (HA1'.out.set _ _).cell _ (by rw [List.length_set, HRl.out]; omega)
          go_wp2_with fail
          go_roundw
          case rel =>
            refine ⟨m + 1, by omega, by go_num, ?_, ?_⟩
            · show Arr _ _ _ _
              rw [HN.out, rstep, HR.out.1, HR.out.2.1, HR.out.2.2]
              exact (HA1'.out.set _ _).set _ _
            · exact (HB1.out.setCell (p := ⟨h + 2, (m + 1) * 3 + 1, none⟩) (Nat.le_refl _) _).setCell (p := ⟨h + 2, (m + 1) * 3 + 2, none⟩) (Nat.le_refl _) _
          case measure => simp [intOf]; omega
        · have hm3 : m = 30 := by omega
          subst hm3
          have hr30 : Arr wr (h + 2) 154 rowsI := by
            have := HA.out
            rw [rows_all] at this
            exact this
          have hz1 : Arr wr (h + 1) 154 Z := HA1.out.below HB.out (by omega)
          have hzs : (tabV Z).size = (tabV rowsI).size := by rw [tabV_size, tabV_size, HZl.out, rowsI_len]
          have HBw : Hid (Below h w wr) := HB3.out.trans (HB.out.mono (by omega))
          clear HA HB HA1
          go_wp2_with (first
            | (refine wpList_load_row rfl 154 _ rfl (h + 2) rfl 154 (tabV rowsI) (0, 0) _ hr30 Tryz.underlying154 rfl (sizeR rowsI_len) ?_)
            | (refine wpList_store_row rfl 154 _ _ rfl (h + 1) (tabV rowsI) rfl rfl 154 (tabV Z) hz1 (sizeR rowsI_len) hzs (tabV_one _) ?_))
          refine bodyPost_ret (results_cell_row rfl _ _ (h + 1) 154 (tabV rowsI) (0, 0) _ rfl (setRow_heap _ _ _ _ _ _ hz1) Tryz.underlying154 rfl (sizeR rowsI_len)) rfl ⟨rfl, ?_⟩
          first | exact below_setRow HBw.out (by omega) _ | (rw [hh]; exact below_setRow HBw.out (by omega) _)

end Go.Proofs.YtbaijmkghgnleaaGreatDoor

namespace Go.Proofs.YtbaijmkghgnleaaGreatDoor
open Go.RowKit
set_option linter.unusedVariables false

set_option maxRecDepth 10000 in
set_option maxHeartbeats 1600000 in
theorem implCodes_any (w : World) : Calls Tryz.prog 113 #[.agg (tabV lensI)] w fun e w' => e = .returned (.agg (tabV codesI)) ∧ Below w.heap.size w w' := by
  have HRows : Hid (∀ w, Calls Tryz.prog 122 #[.agg (tabV lensI)] w fun e w' => e = .returned (.agg (tabV rowsI)) ∧ Below w.heap.size w w') := implRows_any
  obtain ⟨LV, hLV⟩ : ∃ LV, LV = tabV lensI := ⟨_, rfl⟩
  have HL : Hid (∀ k, k < 257 → LV[k]? = some (.int .i64 (lensI.getD k 0))) := by
    intro k hk
    rw [hLV, tabV_at lensI k (by rw [lens_len]; exact hk)]
  have hLs : (Tryz.prog.info? 140).map (·.size) = some LV.size := by rw [hLV]; exact sizeA lens_len
  obtain ⟨Z, hZ⟩ : ∃ Z : List Int, List.replicate 257 0 = Z := ⟨_, rfl⟩
  obtain ⟨Y, hY⟩ : ∃ Y : List Int, List.replicate 93 0 = Y := ⟨_, rfl⟩
  have hz : ∀ w, (zeroValue 140).run Tryz.prog w = .ok (.agg (tabV Z)) w := by rw [← hZ]; exact zeroA
  have hy : ∀ w, (zeroValue 154).run Tryz.prog w = .ok (.agg (tabV Y)) w := by rw [← hY]; exact zeroR
  have HZ : Hid (List.replicate 257 0 = Z) := hZ
  have HZl : Hid (Z.length = 257) := by show _ = _; rw [← hZ, List.length_replicate]
  have hys : (tabV Y).size = (tabV rowsI).size := by rw [tabV_size, tabV_size, ← hY, List.length_replicate, rowsI_len]
  rw [← hLV] at HRows ⊢
  clear hLV hZ hY
  have hg1 : ((w.alloc (.cells LV 140)).alloc (.cells (tabV Z) 140)).heap[w.heap.size]? = some (.cells LV 140 (0, 0)) := heap_kept (heap_alloc_last w _) _
  have ha1 := Arr.new (w.alloc (.cells LV 140)) 140 Z
  have hb1 : Below w.heap.size w ((w.alloc (.cells LV 140)).alloc (.cells (tabV Z) 140)) := ((Below.refl _ _).alloc (Nat.le_refl _) _).alloc (by simp) _
  rw [World.size_alloc] at ha1
  obtain ⟨w1, hw1⟩ : ∃ w1, (w.alloc (.cells LV 140)).alloc (.cells (tabV Z) 140) = w1 := ⟨_, rfl⟩
  have hs1 : w1.heap.size = w.heap.size + 2 := by rw [← hw1]; simp
  rw [hw1] at ha1 hb1 hg1
  go_enter Tryz.func113, Tryz.ntmps113
  go_wp2_with (refine wpList_load_row rfl 140 _ rfl _ rfl 140 LV (0, 0) _ hg1 Tryz.underlying140 rfl hLs ?_)
  clear hw1
  have HG1 : Hid (w1.heap[w.heap.size]? = some (.cells LV 140 (0, 0))) := hg1
  have HA1 : Hid (Arr w1 (w.heap.size + 1) 140 Z) := ha1
  have HB1 : Hid (Below w.heap.size w w1) := hb1
  clear hg1 ha1 hb1
  obtain ⟨h, hh⟩ : ∃ h, w.heap.size = h := ⟨_, rfl⟩
  rw [hh] at HG1 HA1 HB1 hs1 ⊢
  refine (HRows.out w1).mono ?_
  rintro e w2 ⟨rfl, hb2⟩
  have hs2 := hb2.size
  have hg2 : w2.heap[h]? = some (.cells LV 140 (0, 0)) := (hb2.block h (by omega)).trans HG1.out
  have HA2 : Hid (Arr w2 (h + 1) 140 Z) := HA1.out.stays hb2
  have HB2 : Hid (Below h w w2) := HB1.out.trans (hb2.mono (by omega))
  clear hb2 HG1 HA1 HB1
  have hh2 : h + 2 ≤ w2.heap.size := by omega
  clear hs1 hs2
  obtain ⟨w3, hw3⟩ : ∃ w3, (w2.alloc (.cells (tabV rowsI) 154)).alloc (.cells (tabV Z) 140) = w3 := ⟨_, rfl⟩
  have HR3 : Hid (Arr w3 w2.heap.size 154 rowsI) := by show Arr _ _ _ _; rw [← hw3]; exact (Arr.new w2 _ rowsI).alloc _
  have HC3 : Hid (Arr w3 (w2.heap.size + 1) 140 Z) := by
    show Arr _ _ _ _
    rw [← hw3]
    have := Arr.new (w2.alloc (.cells (tabV rowsI) 154)) 140 Z
    rwa [World.size_alloc] at this
  have HB3 : Hid (Below w2.heap.size w2 w3) := by show Below _ _ _; rw [← hw3]; exact ((Below.refl _ _).alloc (Nat.le_refl _) _).alloc (by simp) _
  have hg3 : w3.heap[h]? = some (.cells LV 140 (0, 0)) := (HB3.out.block h (by omega)).trans hg2
  go_wp2_with (first
    | (refine wpList_store_row rfl 154 _ _ rfl w2.heap.size (tabV rowsI) rfl rfl 154 (tabV Y) (heap_alloc_last w2 _) (sizeR rowsI_len) hys (tabV_one _) ?_; rw [World.setRow_alloc_new])
    | (refine wpList_load_row rfl 140 _ rfl h rfl 140 LV (0, 0) _ hg3 Tryz.underlying140 rfl hLs ?_; refine Hid.out ?_))
  refine hidden ?_
  clear hw3 hg2 hz hy hys hg3 HRows
  obtain ⟨g, hg⟩ : ∃ g, w2.heap.size = g := ⟨_, rfl⟩
  rw [hg] at HR3 HC3 HB3 hh2 ⊢
  go_wp2_with fail
  go_loopw [10] (fun i wr => ∃ (j : Nat) (s : List Int × List Int), j ≤ 257 ∧ i = .int .i64 j ∧ Hid (cmade (lensI.take j) 0 (rowsI, Z) = s) ∧ Hid (Arr wr g 154 s.1) ∧ Hid (Arr wr (g + 1) 140 s.2) ∧ Hid (Below g w2 wr)) (fun i _ => 257 - (intOf i).toNat)
  case atStart => exact ⟨0, (rowsI, Z), Nat.zero_le _, rfl, rfl, HR3, HC3, HB3⟩
  case round =>
    clear HR3 HC3 HB3
    obtain ⟨j, ⟨R, C⟩, hj, rfl, HE, HR, HC, HB⟩ := hrel
    dsimp only at HR HC
    have HRl : Hid (R.length = 93) := by
      have := (cmade_len (lensI.take j) 0 (rowsI, Z)).1
      rw [HE.out, rowsI_len] at this
      exact this
    have HCl : Hid (C.length = 257) := by
      have := (cmade_len (lensI.take j) 0 (rowsI, Z)).2
      rw [HE.out, HZl.out] at this
      exact this
    by_cases hj7 : j < 257
    · have hji : (j : Int) ≤ 256 := by omega
      obtain ⟨l, el, hl5, hl30⟩ := len_nat j hj7
      have HN : Hid (cmade (lensI.take (j + 1)) 0 (rowsI, Z) = cstep (l : Int) j (R, C)) := by
        show _ = _
        have htl : (lensI.take j).length = j := by rw [List.length_take, lens_len]; omega
        rw [take_next j (by rw [lens_len]; exact hj7), cmade_snoc, el, HE.out, Nat.zero_add, htl]
      have hidx : ∀ w, (Instr.index 140 (.agg LV) (.int .i64 (j : Int))).run Tryz.prog w = .ok (.int .i64 (l : Int)) w := index_arr LV j hj7 l (by rw [HL.out j hj7, el])
      have c1 := HR.out.cell (l * 3 + 1) (by rw [HRl.out]; omega)
      obtain ⟨r, hr⟩ : ∃ r, R.getD (l * 3 + 1) 0 = r := ⟨_, rfl⟩
      rw [hr] at c1
      have HRr : Hid (R.getD (l * 3 + 1) 0 = r) := hr
      have f1 := HC.out.frozen j
      have d1 := HC.out.cell j (by rw [HCl.out]; exact hj7)
      have c2 : ∀ v, (wr.setCell ⟨g + 1, j, none⟩ v).cell? ⟨g, l * 3 + 1, none⟩ = some (.int .i64 r) := fun v => by
        rw [(HR.out.set_other j v (by omega)).cell (l * 3 + 1) (by rw [HRl.out]; omega), hr]
      have f2 : ∀ v, (wr.setCell ⟨g + 1, j, none⟩ v).frozen? ⟨g, l * 3 + 1, none⟩ = false := fun v => (HR.out.set_other j v (by omega)).frozen _
      clear hr el
      have hli : (l : Int) ≤ 30 := by omega
      go_wp2_with fail
      go_roundw
      case rel =>
        refine ⟨j + 1, cstep (l : Int) j (R, C), by omega, by go_num, HN, ?_, ?_, ?_⟩
        · show Arr _ _ _ _
          rw [cstep, Int.toNat_natCast]
          dsimp only
          rw [HRr.out]
          exact (HR.out.set_other (g' := g + 1) _ _ (by omega)).set _ _
        · show Arr _ _ _ _
          rw [cstep, Int.toNat_natCast]
          dsimp only
          rw [HRr.out]
          exact (HC.out.set _ _).set_other (g' := g) _ _ (by omega)
        · exact (HB.out.setCell (p := ⟨g + 1, j, none⟩) (by simp) _).setCell (p := ⟨g, l * 3 + 1, none⟩) (Nat.le_refl _) _
      case measure => simp [intOf]; omega
    · have hj5 : j = 257 := by omega
      subst hj5
      have hc : Arr wr (g + 1) 140 codesI := by
        have h1 := HE.out
        rw [List.take_of_length_le (by rw [lens_len]; exact Nat.le_refl _), ← HZ.out] at h1
        have h2 := codes_made
        rw [h1] at h2
        have h3 := HC.out
        rw [← h2]
        exact h3
      have hz1 : Arr wr (h + 1) 140 Z := HA2.out.below HB.out (by omega)
      have hzs : (tabV Z).size = (tabV codesI).size := by rw [tabV_size, tabV_size, HZl.out, codes_len]
      have HBw : Hid (Below h w wr) := HB2.out.trans (HB.out.mono (by omega))
      clear HE HR HC HB HA2
      go_wp2_with (first
        | (refine wpList_load_row rfl 140 _ rfl (g + 1) rfl 140 (tabV codesI) (0, 0) _ hc Tryz.underlying140 rfl (sizeA codes_len) ?_)
        | (refine wpList_store_row rfl 140 _ _ rfl (h + 1) (tabV codesI) rfl rfl 140 (tabV Z) hz1 (sizeA codes_len) hzs (tabV_one _) ?_))
      refine bodyPost_ret (results_cell_row rfl _ _ (h + 1) 140 (tabV codesI) (0, 0) _ rfl (setRow_heap _ _ _ _ _ _ hz1) Tryz.underlying140 rfl (sizeA codes_len)) rfl ⟨rfl, ?_⟩
      first | exact below_setRow HBw.out (by omega) _ | (rw [hh]; exact below_setRow HBw.out (by omega) _)

end Go.Proofs.YtbaijmkghgnleaaGreatDoor

namespace Go.Proofs.YtbaijmkghgnleaaGreatDoor
open Go.RowKit
set_option linter.unusedVariables false

set_option maxRecDepth 10000 in
set_option maxHeartbeats 800000 in
theorem implHLen_any (s : ByteArray) (w : World) (hs : s.size ≤ 1099511627776) : Calls Tryz.prog 99 #[.string s] w fun e w' => e = .returned (.int .i64 (((bitLen s.data.toList + 7) / 8 : Nat) : Int)) ∧ Below w.heap.size w w' := by
  obtain ⟨Z, hZ⟩ : ∃ Z : List Int, List.replicate 257 0 = Z := ⟨_, rfl⟩
  have hz : ∀ w, (zeroValue 140).run Tryz.prog w = .ok (.agg (tabV Z)) w := by rw [← hZ]; exact zeroA
  have hzs : (tabV Z).size = (tabV lensI).size := by rw [tabV_size, tabV_size, ← hZ, List.length_replicate, lens_len]
  clear hZ
  go_enter Tryz.func99, Tryz.ntmps99
  go_wp2_with fail
  refine (implLens_any w).mono ?_
  rintro e w1 ⟨rfl, hw1⟩
  have hb1 : Below w.heap.size w w1 := by
    rw [hw1]
    exact (Below.refl _ _).alloc (Nat.le_refl _) _
  have hs1 : w.heap.size ≤ w1.heap.size := hb1.size
  clear hw1
  go_wp2_with (refine wpList_store_row rfl 140 _ _ rfl w1.heap.size (tabV lensI) rfl rfl 140 (tabV Z) (heap_alloc_last w1 _) (sizeA lens_len) hzs (tabV_one _) ?_; rw [World.setRow_alloc_new]; refine Hid.out ?_)
  refine hidden ?_
  obtain ⟨w2, hw2⟩ : ∃ w2, w1.alloc (.cells (tabV lensI) 140) = w2 := ⟨_, rfl⟩
  have HT : Hid (Arr w2 w1.heap.size 140 lensI) := by show Arr _ _ _ _; rw [← hw2]; exact Arr.new w1 _ _
  have HB1 : Hid (Below w.heap.size w w2) := by show Below _ _ _; rw [← hw2]; exact hb1.alloc (by omega) _
  rw [hw2]
  clear hw2 hb1 hs1 hz hzs
  have hsi : (s.size : Int) ≤ 1099511627776 := by omega
  obtain ⟨h, hh⟩ : ∃ h, w1.heap.size = h := ⟨_, rfl⟩
  rw [hh] at HT ⊢
  go_wp2_with fail
  go_loopw [4, 9] (fun n i wr => ∃ k : Nat, k ≤ s.size ∧ i = .int .i64 k ∧ n = .int .i64 (bitLen (s.data.toList.take k)) ∧ wr = w2) (fun _ i _ => s.size - (intOf i).toNat)
  case atStart => exact ⟨0, Nat.zero_le _, rfl, rfl, rfl⟩
  case round =>
    obtain ⟨k, hk, rfl, rfl, rfl⟩ := hrel
    have hlen : bitLen (s.data.toList.take k) ≤ 30 * k := by
      have h1 := bitLen_le (s.data.toList.take k)
      have h2 : (s.data.toList.take k).length ≤ k := by rw [List.length_take]; omega
      omega
    by_cases hlt : k < s.size
    · have hti : (k : Int) < (s.size : Int) := by omega
      have hstr := str_take_snoc s k hlt
      obtain ⟨c, hc⟩ : ∃ c, s[k] = c := ⟨_, rfl⟩
      rw [hc] at hstr
      have hcn : c.toNat < 256 := c.toNat_lt
      have hlc : wr.cell? ⟨h, c.toNat, none⟩ = some (.int .i64 (lenOf c)) := by
        rw [← lens_at]
        exact HT.out.cell c.toNat (by rw [lens_len]; omega)
      have hL := lenOf_range c
      have HN : Hid (bitLen (s.data.toList.take (k + 1)) = bitLen (s.data.toList.take k) + lenOf c) := by
        show _ = _
        rw [hstr, bitLen_snoc]
      clear hstr
      generalize bitLen (s.data.toList.take k) = n at *
      have hci : ((c.toNat : Nat) : Int) < 257 := by omega
      have hsum : (n : Int) + (lenOf c : Int) ≤ 32985348833310 := by omega
      go_wp2_with fail
      go_roundw
      case rel => exact ⟨k + 1, by omega, by go_num, by rw [HN.out]; go_num, trivial⟩
      case measure => simp [intOf]; omega
    · have hks : k = s.size := by omega
      subst hks
      rw [List.take_of_length_le (by rw [str_len]; exact Nat.le_refl _)] at hlen ⊢
      obtain ⟨n, hn⟩ : ∃ n, bitLen s.data.toList = n := ⟨_, rfl⟩
      have HNN : Hid (bitLen s.data.toList = n) := hn
      rw [hn] at hlen ⊢
      clear hn
      have hn7 : (n : Int) + 8 ≤ 32985348833310 := by omega
      go_wp2_with fail
      go_ret
      exact ⟨ret_int (by rw [HNN.out]; omega), HB1.out⟩

end Go.Proofs.YtbaijmkghgnleaaGreatDoor

namespace Go.Proofs.YtbaijmkghgnleaaGreatDoor
open Go.RowKit
set_option linter.unusedVariables false

theorem bitsN_mod (m x : Nat) : bitsN m (x % 2 ^ m) = bitsN m x := by
  have hp : 0 < 2 ^ m := Nat.pow_pos (by decide)
  have h := bitsN_join 0 m (x / 2 ^ m) (x % 2 ^ m) (Nat.mod_lt _ hp)
  have e : x / 2 ^ m * 2 ^ m + x % 2 ^ m = x := by rw [Nat.mul_comm]; exact Nat.div_add_mod _ _
  rw [e, Nat.zero_add] at h
  rw [h]
  rfl

theorem bitsN_same (m x y : Nat) (h : x % 2 ^ m = y % 2 ^ m) : bitsN m x = bitsN m y := by rw [← bitsN_mod m x, h, bitsN_mod]

theorem shl_bits (N L H c : Nat) (hN : N + L ≤ 64) (hc : c < 2 ^ L) : bitsN (N + L) (H * 2 ^ L % 18446744073709551616 + c) = bitsN N H ++ bitsN L c := by
  rw [← bitsN_join N L H c hc]
  refine bitsN_same _ _ _ ?_
  have hd : 2 ^ (N + L) ∣ 18446744073709551616 := Nat.pow_dvd_pow (n := 64) 2 hN
  rw [Nat.add_mod, Nat.mod_mod_of_dvd _ hd, ← Nat.add_mod]

theorem shr_bits (M H : Nat) : bitsN (M + 8) H = bitsN 8 (H / 2 ^ M % 256) ++ bitsN M H := by
  have hp : 0 < 2 ^ M := Nat.pow_pos (by decide)
  have h := bitsN_join 8 M (H / 2 ^ M) (H % 2 ^ M) (Nat.mod_lt _ hp)
  have e : H / 2 ^ M * 2 ^ M + H % 2 ^ M = H := by rw [Nat.mul_comm]; exact Nat.div_add_mod _ _
  rw [e, bitsN_mod, Nat.add_comm 8 M] at h
  rw [h]
  congr 1
  exact (bitsN_mod 8 _).symm

theorem shl_mult (H L : Nat) (hL : L ≤ 64) : H * 2 ^ L % 18446744073709551616 = (H % 2 ^ (64 - L)) * 2 ^ L := by
  have e : 18446744073709551616 = 2 ^ L * 2 ^ (64 - L) := by
    rw [← Nat.pow_add, show L + (64 - L) = 64 by omega]
  rw [e, Nat.mul_comm H, Nat.mul_mod_mul_left, Nat.mul_comm]

theorem shl_room (H L c : Nat) (hL : L ≤ 64) (hc : c < 2 ^ L) : H * 2 ^ L % 18446744073709551616 + c < 18446744073709551616 := by
  rw [shl_mult H L hL]
  have hp : 0 < 2 ^ (64 - L) := Nat.pow_pos (by decide)
  have h1 : H % 2 ^ (64 - L) + 1 ≤ 2 ^ (64 - L) := Nat.mod_lt _ hp
  have h2 := Nat.mul_le_mul_right (2 ^ L) h1
  rw [← Nat.pow_add, show 64 - L + L = 64 by omega, Nat.add_mul, Nat.one_mul] at h2
  omega

theorem or_shl (H L c : Nat) (hL : L ≤ 64) (hc : c < 2 ^ L) : bits .or .u64 ((H * 2 ^ L % 18446744073709551616 : Nat) : Int) (c : Int) = ((H * 2 ^ L % 18446744073709551616 + c : Nat) : Int) := by
  have hr := shl_room H L c hL hc
  rw [u64_or_nat _ _ (Nat.mod_lt _ (by decide)) (by omega), shl_mult H L hL]
  have := Nat.shiftLeft_add_eq_or_of_lt (b := c) (i := L) hc (H % 2 ^ (64 - L))
  rw [Nat.shiftLeft_eq] at this
  rw [← this]

theorem last_byte (N P H : Nat) (h : N + P = 8) : bitsN 8 ((H * 2 ^ P % 18446744073709551616 + (2 ^ P - 1)) % 256) = bitsN N H ++ List.replicate P true := by
  have hp : 0 < 2 ^ P := Nat.pow_pos (by decide)
  have h1 := bitsN_mod 8 (H * 2 ^ P % 18446744073709551616 + (2 ^ P - 1))
  have h2 := shl_bits N P H (2 ^ P - 1) (by omega) (by omega)
  rw [h, bitsN_ones] at h2
  rw [← h2]
  exact h1

end Go.Proofs.YtbaijmkghgnleaaGreatDoor

namespace Go.Proofs.YtbaijmkghgnleaaGreatDoor
open Go.RowKit
set_option linter.unusedVariables false

theorem step_append_own {P : Program} {ops : Array Oper} {o : Oper} {a : Act} {w : World} {K : Act → World → Prop} {Q : Exit → Act → World → Prop} {E : Prop}
    (hg : o.guard = none) (s x : Operand) (t : TypeId) (ho : o.op = .call { callee := .builtin .append, args := #[s, x], argTypes := #[t, t] })
    (base : Nat) (e : TypeId) (i : TypeInfo) (z : Value) (size bytes : Nat) (ht : P.underlying t = some (.slice e)) (hi : P.info? e = some i) (hz : i.zero = some z)
    (hsize : i.size = size) (hby : i.bytes = bytes) (hzs : z.cells.size = size) (hsz : 0 < size)
    (v : Value) (n : Nat) (xs : List Value) (hs : a.eval s = v) (hown : w.ownsRow base e size v n xs)
    (ad : Addr) (m c : Nat) (news : List Value) (hx : a.eval x = .slice (some ad) m c) (hl : news.length = m * size) (hnews : ∀ j u, news[j]? = some u → w.cell? (ad.add j) = some u) (h1 : ∀ u ∈ news, u.oneCell' = true)
    (h63 : n + m ≤ maxLen) (hbytes : (n + m) * bytes ≤ 140737488355328) (hbase : base ≤ w.heap.size)
    (h : ∀ v' w', w'.ownsRow base e size v' (n + m) (xs ++ news) → w.grownBy w' v.ownBlock → K (a.put o.dst v') w') :
    if Region.wanted o (yielded ops a.tmps) = true then Oper.wp P o a w K Q else E := by
  have hw : Region.wanted o (yielded ops a.tmps) = true := by simp [Region.wanted, hg]
  rw [if_pos hw]
  exact wp_append_own w s x t ho base e i z size bytes ht hi hz hsize hby hzs hsz v n xs hs hown ad m c news hx hl hnews h1 h63 hbytes hbase fun v' w' h2 h3 _ => h v' w' h2 h3

theorem step_call_same {P : Program} {ops : Array Oper} {o : Oper} {a : Act} {w : World} {K : Act → World → Prop} {Q : Exit → Act → World → Prop} {E : Prop}
    (hg : o.guard = none) (f : FuncId) (x : Operand) (t : TypeId) (ho : o.op = .call { callee := .value (.func f), args := #[x], argTypes := #[t] })
    (hent : ∀ args w, (callFunc f args).run P w = .ok (.enter f args) w) (u v : Value) (hx : a.eval x = u)
    (hc : Calls P f #[u] w fun e w' => e = .returned v ∧ w' = w) (h : K (a.put o.dst v) w) :
    if Region.wanted o (yielded ops a.tmps) = true then Oper.wp P o a w K Q else E := by
  have hw : Region.wanted o (yielded ops a.tmps) = true := by simp [Region.wanted, hg]
  rw [if_pos hw]
  have hf : a.eval (.func f) = .func (.func f) #[] #[] := rfl
  unfold Oper.wp
  simp [execOp, ho, resolve, invoke, Deferred.ofValue, hent, hf, hx, Oper.upon_enter]
  refine hc.mono ?_
  rintro e w' ⟨rfl, rfl⟩
  exact h

end Go.Proofs.YtbaijmkghgnleaaGreatDoor
