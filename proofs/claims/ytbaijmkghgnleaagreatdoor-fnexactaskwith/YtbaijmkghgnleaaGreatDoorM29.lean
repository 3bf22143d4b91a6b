/- The specification's tables of Huffman's code: the lengths, and the codes. The specification's codes: a table in memory of its own. What the specification's Huff answers: the one list of bytes that is the code of the text, in memory of its own. For texts of at most 2^40 bytes. What the specification's PutString answers. For lists of at most 2^40 bytes and texts of at most 2^24. The specification's SizeOf. -/
import Derived.Test.YtbaijmkghgnleaaGreatDoorM05
import Derived.Test.YtbaijmkghgnleaaGreatDoorM02
import Derived.Test.YtbaijmkghgnleaaGreatDoorM05
import Derived.Test.YtbaijmkghgnleaaGreatDoorM03
import Derived.Test.YtbaijmkghgnleaaGreatDoorM04
import Derived.Test.YtbaijmkghgnleaaGreatDoorM28
import Derived.Test.YtbaijmkghgnleaaGreatDoorM09
namespace Go.Proofs.YtbaijmkghgnleaaGreatDoor
open Go.RowKit
set_option linter.unusedVariables false

/-- A table of whole numbers in a block of its own. -/
def Tab (w : World) (g : Nat) (L : List Int) : Prop := w.heap[g]? = some (.cells (L.map (Value.int .i64)).toArray 3 (0, 0))

theorem Tab.cell {w : World} {g : Nat} {L : List Int} (h : Tab w g L) (k : Nat) (hk : k < L.length) : w.cell? ⟨g, k, none⟩ = some (.int .i64 (L.getD k 0)) := by
  rw [cell_of_row w g k _ 3 (0, 0) h]
  simp [List.getD_eq_getElem?_getD, hk]
theorem Tab.lt {w : World} {g : Nat} {L : List Int} (h : Tab w g L) : g < w.heap.size := (Array.getElem?_eq_some_iff.1 h).1
theorem Tab.below {w w' : World} {g B : Nat} {L : List Int} (h : Tab w g L) (hb : Below B w w') (hg : g < B) : Tab w' g L := (hb.block g hg).trans h

theorem Tryz.info3 : (Tryz.prog.info? 3).map (fun i => (i.zero, i.size, i.bytes)) = some (some (.int .i64 0), 1, 8) := by kernel_rfl

theorem lens_fill : Instr.fill (fun i => some (i * 1, 1)) ((Array.range (lensI.length * 1)).map ((Value.int .i64 0).cells[· % (Value.int .i64 0).cells.size]!)) (litVals lensI) = some (lensI.map (Value.int .i64)).toArray := by kernel_rfl

theorem specLens_any (w : World) : Calls Tryz.prog 90 #[] w fun e w' => e = .returned (.slice (some ⟨w.heap.size, 0, none⟩) 257 257) ∧ w' = w.alloc (.cells (lensI.map (Value.int .i64)).toArray 3) := by
  obtain ⟨i0, hi, hz0, hz1, hz2⟩ := info_parts Tryz.info3
  have h := lit_calls Tryz.func90 114 lensI "l03_huff.go:4" "l03_huff.go:5" _ i0 (by kernel_rfl) rfl rfl Tryz.underlying114 hi hz1 hz0 (by rw [lens_len]; omega) (by rw [lens_len]; omega) lens_fill w
  rw [lens_len] at h
  exact h

end Go.Proofs.YtbaijmkghgnleaaGreatDoor

namespace Go.Proofs.YtbaijmkghgnleaaGreatDoor
open Go.RowKit
set_option linter.unusedVariables false

/-- A table of whole numbers that stands in block g. -/
def Nums (w : World) (g : Nat) (L : List Int) : Prop := g < w.heap.size ∧ ∀ k, k < L.length → w.cell? ⟨g, k, none⟩ = some (.int .i64 (L.getD k 0))

theorem Tab.nums {w : World} {g : Nat} {L : List Int} (h : Tab w g L) : Nums w g L := ⟨h.lt, fun k hk => h.cell k hk⟩
theorem Nums.below {w w' : World} {g B : Nat} {L : List Int} (h : Nums w g L) (hb : Below B w w') (hg : g < B) : Nums w' g L := ⟨Nat.lt_of_lt_of_le h.1 hb.size, fun k hk => (hb.cell (p := ⟨g, k, none⟩) hg).trans (h.2 k hk)⟩
theorem Nums.stays {w w' : World} {g : Nat} {L : List Int} (h : Nums w g L) (hb : Below w.heap.size w w') : Nums w' g L := h.below hb h.1

theorem map_set (L : List Int) (k : Nat) (x : Int) : (L.map (Value.int .i64)).set k (.int .i64 x) = (L.set k x).map (Value.int .i64) := by rw [List.map_set]

set_option maxRecDepth 10000 in
set_option maxHeartbeats 800000 in
theorem specCodes_any (w : World) : Calls Tryz.prog 91 #[] w fun e w' => ∃ g, e = .returned (.slice (some ⟨g, 0, none⟩) 257 257) ∧ Nums w' g codesI ∧ w.heap.size ≤ g ∧ Below w.heap.size w w' := by
  obtain ⟨i0, hi, hz0, hz1, hz2⟩ := info_parts Tryz.info3
  go_enter Tryz.func91, Tryz.ntmps91
  go_wp2_with fail
  refine (specLens_any w).mono ?_
  rintro e w1 ⟨rfl, hw1⟩
  have HT : Hid (Nums w1 w.heap.size lensI) := by
    show Nums _ _ _
    rw [hw1]
    exact Tab.nums (heap_alloc_new w _)
  have HB1 : Hid (Below w.heap.size w w1) := by
    show Below _ _ _
    rw [hw1]
    exact (Below.refl _ _).alloc (Nat.le_refl _) _
  have hs1 : w1.heap.size = w.heap.size + 1 := by rw [hw1]; simp
  clear hw1
  go_wp2_with (at_make; refine wpList_make_full _ rfl _ _ 114 rfl w1.heap.size 3 i0 (.int .i64 0) 1 Tryz.underlying114 hi hz0 hz1 .i64 .i64 257 257 257 rfl rfl rfl rfl (by rw [hz2]; omega) (by unfold maxLen; omega) (Nat.le_refl _) ?_; intro w2 hown2 hgrow2; refine Hid.out ?_)
  refine hidden ?_
  obtain ⟨h, hh⟩ : ∃ h, w.heap.size = h := ⟨_, rfl⟩
  rw [hh] at hs1
  have hmc : (madeCells (Value.int .i64 0).cells (257 * 1)).toList = (List.replicate 257 (0 : Int)).map (Value.int .i64) := by
    rw [show (Value.int .i64 0).cells = #[Value.int .i64 0] from rfl, toList_madeCells_one, List.map_replicate]
  rw [hmc, hs1] at hown2
  have HO2 : Hid (w2.ownsRow (h + 1) 3 1 (.slice (some ⟨h + 1, 0, none⟩) 257 257) 257 ((cout 0).2.2.map (Value.int .i64))) := hown2
  have HB2 : Hid (Below (h + 1) w1 w2) := by
    show Below _ _ _
    exact ((Below.refl (h + 1) w1).grown hgrow2 (by omega) (fun _ e => by cases e))
  have HT2 : Hid (Nums w2 h lensI) := by
    show Nums _ _ _
    rw [hh] at HT
    exact HT.out.below HB2.out (by omega)
  have HB0 : Hid (Below h w w2) := by
    show Below _ _ _
    rw [hh] at HB1
    exact HB1.out.trans (HB2.out.mono (by omega))
  clear hown2 hgrow2 hmc HT HB1 HB2
  rw [hh]
  go_wp2_with fail
  go_loopw [3, 4, 5] (fun c l n wr => ∃ m : Nat, m ≤ 30 ∧ n = .int .i64 ((m : Int) + 1) ∧ c = .int .i64 (cout m).1 ∧ l = .int .i64 (cout m).2.1 ∧ 0 ≤ (cout m).2.1 ∧ (cout m).2.1 ≤ (m : Int) ∧ Hid (wr.ownsRow (h + 1) 3 1 (.slice (some ⟨h + 1, 0, none⟩) 257 257) 257 ((cout m).2.2.map (Value.int .i64))) ∧ Hid (Below (h + 1) w2 wr)) (fun _ _ n _ => 31 - (intOf n).toNat)
  case atStart => exact ⟨0, Nat.zero_le _, rfl, rfl, rfl, Int.le_refl _, Int.le_refl _, HO2, Below.refl _ _⟩
  case round =>
    clear HO2
    obtain ⟨m, hm, rfl, rfl, rfl, hl0, hl1, HO, HB⟩ := hrel
    by_cases hm30 : m < 30
    · have hmi : (m : Int) + 1 ≤ 30 := by omega
      obtain ⟨s0, hs0⟩ : ∃ s0, cout m = s0 := ⟨_, rfl⟩
      rw [hs0] at hl0 hl1 HO ⊢
      have HS0 : Hid (cout m = s0) := hs0
      clear hs0
      go_wp2_with fail
      go_loopw [3, 4, 6] (fun c l k wi => ∃ (j : Nat) (s : Int × Int × List Int), j ≤ 257 ∧ k = .int .i64 j ∧ c = .int .i64 s.1 ∧ l = .int .i64 s.2.1 ∧ 0 ≤ s.2.1 ∧ s.2.1 ≤ (m : Int) + 1 ∧ Hid (cin ((m : Int) + 1) (lensI.take j) 0 s0 = s) ∧ Hid (wi.ownsRow (h + 1) 3 1 (.slice (some ⟨h + 1, 0, none⟩) 257 257) 257 (s.2.2.map (Value.int .i64))) ∧ Hid (Below (h + 1) w2 wi)) (fun _ _ k _ => 257 - (intOf k).toNat)
      case atStart => exact ⟨0, s0, Nat.zero_le _, rfl, rfl, rfl, hl0, by omega, rfl, HO, HB⟩
      case round =>
        clear HO HB hl0 hl1
        obtain ⟨j, ⟨c, l, L⟩, hj, rfl, rfl, rfl, hl0, hl1, HC, HO, HB⟩ := hrel
        dsimp only at hl0 hl1 HO ⊢
        by_cases hj7 : j < 257
        · have hcell := (HT2.out.below HB.out (Nat.lt_succ_self h)).2 j (by rw [lens_len]; exact hj7)
          have HCN : Hid (cin ((m : Int) + 1) (lensI.take (j + 1)) 0 s0 = cone ((m : Int) + 1) (lensI.getD j 0) j (c, l, L)) := by
            show _ = _
            have htl : (lensI.take j).length = j := by rw [List.length_take, lens_len]; omega
            rw [take_next j (by rw [lens_len]; exact hj7), cin_snoc, HC.out, Nat.zero_add, htl]
          generalize lensI.getD j 0 = le at hcell HCN
          have hji : (j : Int) ≤ 256 := by omega
          by_cases hne : le = (m : Int) + 1
          · rw [hne] at hcell HCN
            clear hne
            have hf : wr.frozen? ⟨h + 1, j, none⟩ = false := HO.out.frozenAt j
            obtain ⟨u, hu⟩ : ∃ u, wr.cell? ⟨h + 1, j, none⟩ = some u := by
              rw [HO.out.cellAt j hj7]
              exact ⟨_, List.getElem?_eq_getElem (by have := HO.out.1; omega)⟩
            by_cases hp : 0 < l
            · go_wp2_with fail
              go_roundw
              case rel =>
                refine ⟨j + 1, (wrap64 (wrap64 (c + 1) * 2 ^ ((m : Int) + 1 - l).toNat), (m : Int) + 1, L.set j (wrap64 (wrap64 (c + 1) * 2 ^ ((m : Int) + 1 - l).toNat))), by omega, by go_num, rfl, rfl, by dsimp only; omega, by dsimp only; omega, ?_, ?_, ?_⟩
                · show _ = _
                  rw [HCN.out, cone, if_pos rfl, if_pos hp]
                · show World.ownsRow _ _ _ _ _ _ _
                  have := (HO.out.stored j (.int .i64 (wrap64 (wrap64 (c + 1) * 2 ^ ((m : Int) + 1 - l).toNat)))).1
                  rw [map_set] at this
                  simpa using this
                · exact HB.out.setCell (p := ⟨h + 1, j, none⟩) (Nat.le_refl _) _
              case measure => simp [intOf]; omega
            · go_wp2_with fail
              go_roundw
              case rel =>
                refine ⟨j + 1, (c, (m : Int) + 1, L.set j c), by omega, by go_num, rfl, rfl, by dsimp only; omega, by dsimp only; omega, ?_, ?_, ?_⟩
                · show _ = _
                  rw [HCN.out, cone, if_pos rfl, if_neg hp]
                · show World.ownsRow _ _ _ _ _ _ _
                  have := (HO.out.stored j (.int .i64 c)).1
                  rw [map_set] at this
                  simpa using this
                · exact HB.out.setCell (p := ⟨h + 1, j, none⟩) (Nat.le_refl _) _
              case measure => simp [intOf]; omega
          · have hbn : (le != (m : Int) + 1) = true := by simp [hne]
            go_wp2_with fail
            go_roundw
            case rel =>
              refine ⟨j + 1, (c, l, L), by omega, by go_num, rfl, rfl, hl0, hl1, ?_, HO, HB⟩
              show _ = _
              rw [HCN.out, cone, if_neg hne]
            case measure => simp [intOf]; omega
        · have hj5 : j = 257 := by omega
          subst hj5
          have hce : cout (m + 1) = (c, l, L) := by
            have hc := HC.out
            rw [List.take_of_length_le (by rw [lens_len]; exact Nat.le_refl _)] at hc
            rw [cout, HS0.out, Int.natCast_add]
            exact hc
          go_wp2_with fail
          go_roundw
          case rel =>
            refine ⟨m + 1, by omega, by go_num, by rw [hce], by rw [hce], by rw [hce]; exact hl0, by rw [hce]; simpa using hl1, ?_, HB⟩
            rw [hce]
            exact HO
          case measure => simp [intOf]; omega
    · have hm3 : m = 30 := by omega
      subst hm3
      go_wp2_with fail
      go_ret
      have hc := codes_all
      refine ⟨h + 1, rfl, ⟨(HO.out.lt _ rfl).2, fun k hk => ?_⟩, by omega, ?_⟩
      · rw [codes_len] at hk
        rw [HO.out.cellAt k hk, hc]
        simp [List.getD_eq_getElem?_getD, codes_len, hk]
      · rw [hh]
        exact HB0.out.trans (HB.out.mono (by omega))

end Go.Proofs.YtbaijmkghgnleaaGreatDoor

namespace Go.Proofs.YtbaijmkghgnleaaGreatDoor
open Go.RowKit
set_option linter.unusedVariables false

set_option maxRecDepth 10000 in
set_option maxHeartbeats 1600000 in
theorem specHuff_any (s : ByteArray) (w : World) (hs : s.size ≤ 1099511627776) : Calls Tryz.prog 81 #[.string s] w fun e w' => ∃ (o : List Int) (a : Option Addr) (cap : Nat), e = .returned (.slice a o.length cap) ∧ Owns w' w.heap.size a o.length cap o ∧ HuffOf s.data.toList o ∧ Below w.heap.size w w' := by
  obtain ⟨i0, hi, hz0, hz1, hz2⟩ := info_parts Tryz.info5
  go_enter Tryz.func81, Tryz.ntmps81
  go_wp2_with fail
  refine (specLens_any w).mono ?_
  rintro e w1 ⟨rfl, hw1⟩
  have HT : Hid (Nums w1 w.heap.size lensI) := by
    show Nums _ _ _
    rw [hw1]
    exact Tab.nums (heap_alloc_new w _)
  have HB1 : Hid (Below w.heap.size w w1) := by
    show Below _ _ _
    rw [hw1]
    exact (Below.refl _ _).alloc (Nat.le_refl _) _
  have hs1 : w1.heap.size = w.heap.size + 1 := by rw [hw1]; simp
  clear hw1
  go_wp2_with fail
  refine (specCodes_any w1).mono ?_
  rintro e w2 ⟨g, rfl, hn2, hg, hb2⟩
  have HC2 : Hid (Nums w2 g codesI) := hn2
  have HT2 : Hid (Nums w2 w.heap.size lensI) := HT.out.stays hb2
  have HB2 : Hid (Below w.heap.size w w2) := HB1.out.trans (hb2.mono (by omega))
  clear hn2 hb2 HT HB1
  obtain ⟨h, hh⟩ : ∃ h, w.heap.size = h := ⟨_, rfl⟩
  rw [hh] at HT2 HB2 ⊢
  have HO0 : Hid ((w2.alloc (.cells #[] 5)).ownsRow w2.heap.size 5 1 (.slice (some ⟨w2.heap.size, 0, none⟩) 0 0) 0 (([] : List Int).map (Value.int .u8))) := World.ownsRow_lit w2 #[] 0 (Nat.le_refl _) (Nat.zero_le _) rfl
  have HBA : Hid (Below w2.heap.size w2 (w2.alloc (.cells #[] 5))) := (Below.refl _ _).alloc (Nat.le_refl _) _
  have hsi : (s.size : Int) ≤ 1099511627776 := by omega
  go_wp2_with fail
  go_loopw [5, 6, 7, 8] (fun v acc n i wr => ∃ (k N A : Nat) (o : List Int), k ≤ s.size ∧ i = .int .i64 k ∧ n = .int .i64 N ∧ acc = .int .i64 A ∧ N < 8 ∧ Hid (A < 2 ^ N) ∧ Hid (byteBits o ++ bitsN N A = textBits (s.data.toList.take k)) ∧ Hid (∀ x ∈ o, 0 ≤ x ∧ x ≤ 255) ∧ Hid (wr.ownsRow w2.heap.size 5 1 v o.length (o.map (Value.int .u8))) ∧ Hid (Below w2.heap.size w2 wr)) (fun _ _ _ i _ => s.size - (intOf i).toNat)
  case atStart => exact ⟨0, 0, 0, [], Nat.zero_le _, rfl, rfl, rfl, by omega, by show 0 < 2 ^ 0; decide, rfl, by intro x hx; simp at hx, HO0, HBA⟩
  case round =>
    clear HO0 HBA
    obtain ⟨k, N, A, o, hk, rfl, rfl, rfl, hN, HA, HE, HR, HO, HB⟩ := hrel
    by_cases hlt : k < s.size
    · have hti : (k : Int) < (s.size : Int) := by omega
      have hstr := str_take_snoc s k hlt
      obtain ⟨c, hc⟩ : ∃ c, s[k] = c := ⟨_, rfl⟩
      rw [hc] at hstr
      have hcn : c.toNat < 256 := c.toNat_lt
      have hlc : wr.cell? ⟨h, c.toNat, none⟩ = some (.int .i64 (lenOf c)) := by
        rw [← lens_at]
        exact (HT2.out.stays HB.out).2 c.toNat (by rw [lens_len]; omega)
      have hcc : wr.cell? ⟨g, c.toNat, none⟩ = some (.int .i64 (codeOfB c)) := by
        rw [← codes_at]
        exact (HC2.out.stays HB.out).2 c.toNat (by rw [codes_len]; omega)
      have hL := lenOf_range c
      have HCL : Hid (codeOfB c < 2 ^ lenOf c) := codeOf_lt c
      have HE2 : Hid (byteBits o ++ bitsN (N + lenOf c) (A * 2 ^ lenOf c + codeOfB c) = textBits (s.data.toList.take (k + 1))) := by
        show _ = _
        rw [bitsN_join _ _ _ _ HCL.out, ← List.append_assoc, HE.out, hstr, textBits_snoc]
        rfl
      have HA2 : Hid (A * 2 ^ lenOf c + codeOfB c < 2 ^ (N + lenOf c)) := by
        show _ < _
        rw [Nat.pow_add]
        have h1 : (A + 1) * 2 ^ lenOf c ≤ 2 ^ N * 2 ^ lenOf c := Nat.mul_le_mul_right _ HA.out
        rw [Nat.add_mul, Nat.one_mul] at h1
        have := HCL.out
        omega
      have hbig : A * 2 ^ lenOf c < 137438953472 := by
        have h1 : 2 ^ (N + lenOf c) ≤ 2 ^ 37 := Nat.pow_le_pow_right (by decide) (by omega)
        have := HA2.out
        omega
      have hor := or_joinH A (lenOf c) (codeOfB c) HCL.out (by omega) (by omega)
      clear hstr
      have hci : ((c.toNat : Nat) : Int) < 257 := by omega
      have hLi : (lenOf c : Int) ≤ 30 := by omega
      have hLi5 : (5 : Int) ≤ (lenOf c : Int) := by omega
      go_wp2_with fail
      go_quiet (fail)
      have hval : bits .or .i64 (wrap64 ((A : Int) * 2 ^ lenOf c)) (codeOfB c : Int) = ((A * 2 ^ lenOf c + codeOfB c : Nat) : Int) := by
        have e1 : (A : Int) * 2 ^ lenOf c = ((A * 2 ^ lenOf c : Nat) : Int) := by simp
        have e2 : wrap64 ((A * 2 ^ lenOf c : Nat) : Int) = ((A * 2 ^ lenOf c : Nat) : Int) := wrap64_small _ (by omega)
        rw [e1, e2]
        exact hor
      rw [hval]
      have HOd : Hid ((wr.drewN nq).ownsRow w2.heap.size 5 1 u5 o.length (o.map (Value.int .u8))) := HO.out
      have HBd : Hid (Below w2.heap.size w2 (wr.drewN nq)) := below_drewN HB.out nq
      have hlcd : (wr.drewN nq).cell? ⟨h, c.toNat, none⟩ = some (.int .i64 (lenOf c)) := hlc
      generalize wr.drewN nq = wd at *
      clear hval hor hlc hcc HO HB HE HA HCL
      generalize A * 2 ^ lenOf c + codeOfB c = A2 at *
      have hNL : (N : Int) + (lenOf c : Int) ≤ 37 := by omega
      generalize hTT : textBits (s.data.toList.take (k + 1)) = TT at *
      have HTT : Hid (textBits (s.data.toList.take (k + 1)) = TT) := hTT
      have HTL : Hid (TT.length ≤ 30 * (k + 1)) := by
        show _ ≤ _
        rw [← hTT]
        have := bitLen_le (s.data.toList.take (k + 1))
        unfold bitLen at this
        have h2 : (s.data.toList.take (k + 1)).length ≤ k + 1 := by rw [List.length_take]; omega
        omega
      clear hTT
      go_wp2_with fail
      generalize wrap64 ((A : Int) * 2 ^ lenOf c) = dead
      go_loopw [5, 6, 7] (fun v acc n wi => ∃ (M B : Nat) (u : List Int), acc = .int .i64 B ∧ n = .int .i64 M ∧ M ≤ 37 ∧ Hid (B < 2 ^ M) ∧ Hid (byteBits u ++ bitsN M B = TT) ∧ Hid (∀ x ∈ u, 0 ≤ x ∧ x ≤ 255) ∧ Hid (wi.ownsRow w2.heap.size 5 1 v u.length (u.map (Value.int .u8))) ∧ Hid (Below w2.heap.size w2 wi)) (fun _ _ n _ => (intOf n).toNat)
      case atStart => exact ⟨N + lenOf c, A2, o, rfl, by go_num, by omega, HA2, HE2, HR, HOd, HBd⟩
      case round =>
        clear HOd HBd HA2 HE2 HR hlcd hbig
        obtain ⟨M, B, u, rfl, rfl, hM, HA, HE, HR, HO, HB⟩ := hrel
        have hlen : 8 * u.length + M ≤ 30 * (k + 1) := by
          have h1 := HTL.out
          rw [← HE.out, List.length_append, byteBits_len, bitsN_len] at h1
          exact h1
        by_cases h8 : 8 ≤ M
        · obtain ⟨M8, rfl⟩ : ∃ M8, M = M8 + 8 := ⟨M - 8, by omega⟩
          have hp : 0 < 2 ^ M8 := Nat.pow_pos (by decide)
          have HQ : Hid (B = B / 2 ^ M8 * 2 ^ M8 + B % 2 ^ M8) := by show _ = _; rw [Nat.mul_comm]; exact (Nat.div_add_mod _ _).symm
          have hq : B / 2 ^ M8 < 256 := by
            have := HA.out
            rw [Nat.pow_add] at this
            rw [Nat.div_lt_iff_lt_mul hp, Nat.mul_comm]
            exact this
          have HA2 : Hid (B % 2 ^ M8 < 2 ^ M8) := Nat.mod_lt _ hp
          have HE2 : Hid (byteBits (u ++ [((B / 2 ^ M8 : Nat) : Int)]) ++ bitsN M8 (B % 2 ^ M8) = TT) := by
            show _ = _
            rw [byteBits_snoc, List.append_assoc, Int.toNat_natCast, ← HE.out]
            have hj := bitsN_join 8 M8 (B / 2 ^ M8) (B % 2 ^ M8) (Nat.mod_lt _ hp)
            rw [← HQ.out, Nat.add_comm 8 M8] at hj
            rw [hj]
          have hdiv : (B : Int) / 2 ^ M8 = ((B / 2 ^ M8 : Nat) : Int) := by simp
          have hmask := mask_big M8 (by omega)
          have hBs : B < 9223372036854775808 := by
            have h1 : 2 ^ (M8 + 8) ≤ 2 ^ 37 := Nat.pow_le_pow_right (by decide) hM
            have := HA.out
            omega
          have hand : bits .and .i64 (B : Int) ((2 ^ M8 - 1 : Nat) : Int) = ((B % 2 ^ M8 : Nat) : Int) := by
            have h2 : 2 ^ M8 ≤ 2 ^ 29 := Nat.pow_le_pow_right (by decide) (by omega)
            rw [i64_and_nat B _ hBs (by omega), Nat.and_two_pow_sub_one_eq_mod]
          generalize B / 2 ^ M8 = q at *
          generalize B % 2 ^ M8 = r at *
          have hq0 : (0 : Int) ≤ (q : Int) := by omega
          have hq1 : (q : Int) ≤ 255 := by omega
          have hM8 : (M8 : Int) ≤ 29 := by omega
          have hsz := HB.out.size
          have HN : Hid (∀ j v, [Value.int .u8 (q : Int)][j]? = some v → (wr.alloc (.cells #[.int .u8 (q : Int)] 5)).cell? ((⟨wr.heap.size, 0, none⟩ : Addr).add j) = some v) := one_new wr q
          have HMask : Hid (wrap64 (wrap64 ((2 : Int) ^ M8) - 1) = ((2 ^ M8 - 1 : Nat) : Int)) := hmask
          clear hmask HQ
          go_wp2_with (at_builtin; refine wpList_append_own _ rfl _ _ 27 rfl w2.heap.size 5 i0 (.int .u8 0) 1 1 Tryz.underlying27 hi hz0 hz1 hz2 rfl (by decide) u5 u.length _ rfl (HO.out.alloc _) ⟨wr.heap.size, 0, none⟩ 1 1 [.int .u8 (q : Int)] rfl rfl HN.out (ints_one [(q : Int)]) (by unfold maxLen; omega) (by omega) (by simp; omega) ?_; intro v2 w3 hown hgrow _; refine Hid.out ?_)
          refine hidden ?_
          have HB3 : Hid (Below w2.heap.size w2 w3) := (HB.out.alloc (by omega) _).grown hgrow (by simp; omega) (fun q hq => (HO.out.lt q hq).1)
          have HO3 : Hid (w3.ownsRow w2.heap.size 5 1 v2 (u ++ [(q : Int)]).length ((u ++ [(q : Int)]).map (Value.int .u8))) := by
            show World.ownsRow _ _ _ _ _ _ _
            rw [List.map_append, List.length_append]
            exact hown
          have HR3 : Hid (∀ x ∈ u ++ [(q : Int)], 0 ≤ x ∧ x ≤ 255) := by
            intro x hx
            rcases List.mem_append.1 hx with hx | hx
            · exact HR.out x hx
            · obtain rfl := List.mem_singleton.1 hx
              exact ⟨hq0, hq1⟩
          clear hown hgrow HO HB HN HR hdiv
          have hmask := HMask.out
          go_wp2_with fail
          go_roundw
          case rel => exact ⟨M8, r, u ++ [(q : Int)], rfl, by go_num, by omega, HA2, HE2, HR3, HO3, HB3⟩
          case measure => simp [intOf]; omega
        · have hM8i : ¬ (8 : Int) ≤ (M : Int) := by omega
          go_wp2_with fail
          go_roundw
          case rel => exact ⟨k + 1, M, B, u, by omega, by go_num, rfl, rfl, by omega, HA, by show _ = _; rw [HE.out, HTT.out], HR, HO, HB⟩
          case measure => simp [intOf]; omega
    · have hks : k = s.size := by omega
      subst hks
      have HE' : Hid (byteBits o ++ bitsN N A = textBits s.data.toList) := by
        show _ = _
        rw [HE.out, List.take_of_length_le (by rw [str_len]; exact Nat.le_refl _)]
      clear HE
      have hlen : 8 * o.length + N ≤ 30 * s.size := by
        have h1 := bitLen_le s.data.toList
        unfold bitLen at h1
        rw [← HE'.out, List.length_append, byteBits_len, bitsN_len, str_len] at h1
        exact h1
      have hsz := HB.out.size
      have HBw : Hid (Below h w wr) := HB2.out.trans (HB.out.mono (by have := HB2.out.size; omega))
      by_cases hN0 : N = 0
      · subst hN0
        obtain ⟨a', cap', rfl⟩ := shape_of_owns HO.out
        go_wp2_with fail
        go_ret
        refine ⟨o, a', cap', rfl, ⟨?_, HR.out⟩, ⟨HR.out, 0, by omega, ?_⟩, ?_⟩
        · rw [hh]
          exact own_lower HO.out (by have := HB2.out.size; omega)
        · have := HE'.out
          simpa [bitsN] using this
        · rw [hh]; exact HBw.out
      · obtain ⟨P, hP⟩ : ∃ P, 8 - N = P := ⟨_, rfl⟩
        have hPi : (8 : Int) - (N : Int) = (P : Int) := by omega
        have hP8 : 1 ≤ P ∧ P ≤ 7 := by omega
        have hp : 0 < 2 ^ P := Nat.pow_pos (by decide)
        have hAP : A * 2 ^ P + (2 ^ P - 1) < 256 := by
          have h1 : (A + 1) * 2 ^ P ≤ 2 ^ N * 2 ^ P := Nat.mul_le_mul_right _ HA.out
          rw [← Nat.pow_add, show N + P = 8 by omega, Nat.add_mul, Nat.one_mul] at h1
          omega
        have HE2 : Hid (byteBits (o ++ [((A * 2 ^ P + (2 ^ P - 1) : Nat) : Int)]) = textBits s.data.toList ++ List.replicate P true) := by
          show _ = _
          have hj := bitsN_join N P A (2 ^ P - 1) (by omega)
          rw [show N + P = 8 by omega] at hj
          rw [byteBits_snoc, Int.toNat_natCast, hj, ← List.append_assoc, HE'.out, bitsN_ones]
        have hor := or_joinH A P (2 ^ P - 1) (by omega) (by omega) (by omega)
        have HShl : Hid (wrap64 ((A : Int) * 2 ^ P) = ((A * 2 ^ P : Nat) : Int)) := by
          show wrap64 _ = _
          have e1 : (A : Int) * 2 ^ P = ((A * 2 ^ P : Nat) : Int) := by simp
          rw [e1]
          exact wrap64_small _ (by omega)
        have HMask : Hid (wrap64 (wrap64 ((2 : Int) ^ P) - 1) = ((2 ^ P - 1 : Nat) : Int)) := mask_big P (by omega)
        generalize hX : A * 2 ^ P + (2 ^ P - 1) = X at *
        have hx0 : (0 : Int) ≤ (X : Int) := by omega
        have hx1 : (X : Int) ≤ 255 := by omega
        clear hX
        generalize A * 2 ^ P = AP at *
        generalize 2 ^ P - 1 = OP at *
        have HN : Hid (∀ j v, [Value.int .u8 (X : Int)][j]? = some v → (wr.alloc (.cells #[.int .u8 (X : Int)] 5)).cell? ((⟨wr.heap.size, 0, none⟩ : Addr).add j) = some v) := one_new wr X
        have hNp : (0 : Int) < (N : Int) := by omega
        have hPi7 : (P : Int) ≤ 7 := by omega
        clear HA
        have hA : o.length + 1 ≤ maxLen ∧ (o.length + 1) * 1 ≤ 140737488355328 := ⟨by unfold maxLen; omega, by omega⟩
        have hBs : w2.heap.size ≤ (wr.alloc (.cells #[.int .u8 (X : Int)] 5)).heap.size := by simp; omega
        have hdN : decide ((0 : Int) < (N : Int)) = true := by simp; omega
        have hdNp : ((0 : Int) < (N : Int)) = True := by simp; omega
        clear hNp hlen hN0 hAP
        have hshl := HShl.out
        have hmask := HMask.out
        go_wp2_with (at_builtin; refine wpList_append_own _ rfl _ _ 27 rfl w2.heap.size 5 i0 (.int .u8 0) 1 1 Tryz.underlying27 hi hz0 hz1 hz2 rfl (by decide) u5 o.length _ rfl (HO.out.alloc _) ⟨wr.heap.size, 0, none⟩ 1 1 [.int .u8 (X : Int)] rfl rfl HN.out (ints_one [(X : Int)]) hA.1 hA.2 hBs ?_; intro v2 w3 hown hgrow _; refine Hid.out ?_)
        refine hidden ?_
        clear hshl hmask HShl HMask
        have HB3 : Hid (Below w2.heap.size w2 w3) := (HB.out.alloc (by omega) _).grown hgrow (by simp; omega) (fun q hq => (HO.out.lt q hq).1)
        have HO3 : Hid (w3.ownsRow w2.heap.size 5 1 v2 (o ++ [(X : Int)]).length ((o ++ [(X : Int)]).map (Value.int .u8))) := by
          show World.ownsRow _ _ _ _ _ _ _
          rw [List.map_append, List.length_append]
          exact hown
        have HR3 : Hid (∀ x ∈ o ++ [(X : Int)], 0 ≤ x ∧ x ≤ 255) := by
          intro x hx
          rcases List.mem_append.1 hx with hx | hx
          · exact HR.out x hx
          · obtain rfl := List.mem_singleton.1 hx
            exact ⟨hx0, hx1⟩
        clear hown hgrow HO HB HN HR
        obtain ⟨a', cap', rfl⟩ := shape_of_owns HO3.out
        go_wp2_with fail
        go_ret
        refine ⟨o ++ [(X : Int)], a', cap', by simp, ⟨?_, HR3.out⟩, ⟨HR3.out, P, by omega, HE2.out⟩, ?_⟩
        · rw [hh]
          exact own_lower HO3.out (by have := HB2.out.size; omega)
        · rw [hh]; exact HB2.out.trans (HB3.out.mono (by have := HB2.out.size; omega))

end Go.Proofs.YtbaijmkghgnleaaGreatDoor

namespace Go.Proofs.YtbaijmkghgnleaaGreatDoor
open Go.RowKit
set_option linter.unusedVariables false

set_option maxRecDepth 10000 in
set_option maxHeartbeats 800000 in
theorem specPutS_any (b off len cap : Nat) (s : ByteArray) (zs : List Int) (w : World) (hs : Seg w (some ⟨b, off, none⟩) len zs) (hl : len ≤ 1099511627776) (hsl : s.size ≤ 16777216) :
    Calls Tryz.prog 69 #[.slice (some ⟨b, off, none⟩) len cap, .string s] w fun e w' => ∃ (q : List Int) (a' : Option Addr) (cap' : Nat), StrOf s q ∧ e = .returned (.slice a' (zs ++ q).length cap') ∧ Owns w' w.heap.size a' (zs ++ q).length cap' (zs ++ q) ∧ Below w.heap.size w w' := by
  obtain ⟨i0, hi, hz0, hz1, hz2⟩ := info_parts Tryz.info5
  have HS : Hid (Seg w (some ⟨b, off, none⟩) len zs) := hs
  have hzl : zs.length = len := hs.1
  clear hs
  go_enter Tryz.func69, Tryz.ntmps69
  go_wp2_with fail
  refine (specHuff_any s _ (by omega)).mono ?_
  rintro e w1 ⟨o, a1, c1, rfl, ow1, hf1, hb1⟩
  have HB1 : Hid (Below w.heap.size w w1) := hb1
  obtain ⟨n, hn⟩ : ∃ n : Nat, (bitLen s.data.toList + 7) / 8 = n := ⟨_, rfl⟩
  have HE : Hid ((bitLen s.data.toList + 7) / 8 = n) := hn
  have hol : o.length = n := by rw [hf1.len, hn]
  have HOL : Hid (o.length = n) := hol
  have HF : Hid (HuffOf s.data.toList o) := hf1
  have HH1 : Hid (Owns w1 w.heap.size a1 n c1 o) := by rw [← hol]; exact ow1
  rw [hol]
  clear hb1 hn hol hf1 ow1
  by_cases hlt : n < s.size
  · have hd : decide ((n : Int) < (s.size : Int)) = true := by simp; omega
    have hdp : ((n : Int) < (s.size : Int)) = True := by simp; omega
    go_wp2_with fail
    refine (specPfx_any b off len cap 7 128 (n : Int) zs _ (HS.out.below HB1.out) hl).mono ?_
    rintro e w2 ⟨a2, c2, rfl, ow2, hb2⟩
    have hmin : putPfx zs 7 128 (n : Int) = zs ++ pfx 7 128 n := by
      rw [putPfx, if_pos (by decide)]
      congr 2
      omega
    rw [hmin] at ow2 ⊢
    clear hmin
    have HH2 : Hid (Owns w2 w.heap.size a1 n c1 o) := HH1.out.below hb2
    have hpl : 0 < (pfx 7 128 n).length := by unfold pfx; split <;> simp
    have hpl6 := pfx_len 7 128 n
    obtain ⟨g, rfl, hg1, hg2⟩ := ow2.some (by rw [List.length_append]; omega)
    have HO2 : Hid (Owns w2 w1.heap.size (some ⟨g, 0, none⟩) (zs ++ pfx 7 128 n).length c2 (zs ++ pfx 7 128 n)) := ow2
    have HB2 : Hid (Below w.heap.size w w2) := HB1.out.trans (hb2.mono HB1.out.size)
    have HZ1 : Hid (w.heap.size ≤ w1.heap.size) := HB1.out.size
    clear ow2 hb2 HB1
    have hll : (zs ++ pfx 7 128 n).length = len + (pfx 7 128 n).length := by rw [List.length_append, hzl]
    have HR : Hid (∀ x ∈ zs ++ pfx 7 128 n, 0 ≤ x ∧ x ≤ 255) := HO2.out.2
    generalize hP : zs ++ pfx 7 128 n = P at *
    have HP : Hid (zs ++ pfx 7 128 n = P) := hP
    clear hP
    generalize hpn : P.length = pn at *
    have hpb : pn ≤ len + 6 := by omega
    have HPn : Hid (P.length = pn) := hpn
    clear hpn hll hpl hpl6
    have HSrc : Hid (Src Tryz.prog 1 27 (.slice a1 n c1) n (o.map (Value.int .u8)) w2) := Src.ofSeg Tryz.underlying27 HH2.out.seg HH2.out.none
    have HBs : Hid (w1.heap.size ≤ w2.heap.size) := by have h1 := (HO2.out.lt g rfl); show _ ≤ _; omega
    have hA : pn + n ≤ maxLen := by unfold maxLen; omega
    have hA2 : (pn + n) * 1 ≤ 140737488355328 := by omega
    go_wp2_with (at_builtin; refine wpList_append_any rfl _ _ 27 27 rfl w1.heap.size 5 i0 (.int .u8 0) 1 1 Tryz.underlying27 hi hz0 hz1 hz2 rfl (by decide) g pn c2 (P.map (Value.int .u8)) rfl HO2.out.1 (.slice a1 n c1) n (o.map (Value.int .u8)) rfl HSrc.out hA hA2 HBs.out ?_; intro v4 w4 hown hgrow; refine Hid.out ?_)
    refine hidden ?_
    obtain ⟨a4, c4, rfl⟩ := shape_of_owns hown
    have HB4 : Hid (Below w.heap.size w w4) := HB2.out.grown hgrow (by have := HB2.out.size; omega) (fun k hk => by injection hk with hk; have := HZ1.out; omega)
    have HO4 : Hid (w4.ownsRow w1.heap.size 5 1 (.slice a4 (pn + n) c4) (pn + n) (P.map (Value.int .u8) ++ o.map (Value.int .u8))) := hown
    clear hown hgrow HO2 HSrc HB2
    go_wp2_with fail
    go_ret
    refine ⟨pfx 7 128 n ++ o, a4, c4, by rw [StrOf, HE.out]; exact .inl ⟨hlt, o, HF.out, by rw [HOL.out]⟩, ?_, ⟨?_, ?_⟩, HB4.out⟩
    · rw [← List.append_assoc, HP.out, List.length_append, HPn.out, HOL.out]
      rfl
    · rw [← List.append_assoc, HP.out, List.length_append, HPn.out, HOL.out, List.map_append]
      exact own_lower HO4.out HZ1.out
    · intro x hx
      rw [← List.append_assoc, HP.out] at hx
      rcases List.mem_append.1 hx with hx | hx
      · exact HR.out x hx
      · exact HF.out.1 x hx
  · have hd : decide ((n : Int) < (s.size : Int)) = false := by simp; omega
    have hdp : ((n : Int) < (s.size : Int)) = False := by simp; omega
    go_wp2_with fail
    refine (specPfx_any b off len cap 7 0 (s.size : Int) zs _ (HS.out.below HB1.out) hl).mono ?_
    rintro e w2 ⟨a2, c2, rfl, ow2, hb2⟩
    have hmin : putPfx zs 7 0 (s.size : Int) = zs ++ pfx 7 0 s.size := by
      rw [putPfx, if_pos (by decide)]
      congr 2
      omega
    rw [hmin] at ow2 ⊢
    clear hmin
    have hpl : 0 < (pfx 7 0 s.size).length := by unfold pfx; split <;> simp
    have hpl6 := pfx_len 7 0 s.size
    obtain ⟨g, rfl, hg1, hg2⟩ := ow2.some (by rw [List.length_append]; omega)
    have HO2 : Hid (Owns w2 w1.heap.size (some ⟨g, 0, none⟩) (zs ++ pfx 7 0 s.size).length c2 (zs ++ pfx 7 0 s.size)) := ow2
    have HB2 : Hid (Below w.heap.size w w2) := HB1.out.trans (hb2.mono HB1.out.size)
    have HZ1 : Hid (w.heap.size ≤ w1.heap.size) := HB1.out.size
    clear ow2 hb2 HB1
    have hll : (zs ++ pfx 7 0 s.size).length = len + (pfx 7 0 s.size).length := by rw [List.length_append, hzl]
    have HR : Hid (∀ x ∈ zs ++ pfx 7 0 s.size, 0 ≤ x ∧ x ≤ 255) := HO2.out.2
    have HBs : Hid (w1.heap.size ≤ w2.heap.size) := by have h1 := (HO2.out.lt g rfl); show _ ≤ _; omega
    generalize hP : zs ++ pfx 7 0 s.size = P at *
    have HP : Hid (zs ++ pfx 7 0 s.size = P) := hP
    clear hP
    generalize hpn : P.length = pn at *
    have hpb : pn ≤ len + 6 := by omega
    have HPn : Hid (P.length = pn) := hpn
    clear hpn hll hpl hpl6
    have HSrc : Hid (Src Tryz.prog 1 9 (.string s) s.size (byteCells s) w2) := Src.ofString w2 Tryz.underlying9 s
    have hA : pn + s.size ≤ maxLen := by unfold maxLen; omega
    have hA2 : (pn + s.size) * 1 ≤ 140737488355328 := by omega
    go_wp2_with (at_builtin; refine wpList_append_any rfl _ _ 27 9 rfl w1.heap.size 5 i0 (.int .u8 0) 1 1 Tryz.underlying27 hi hz0 hz1 hz2 rfl (by decide) g pn c2 (P.map (Value.int .u8)) rfl HO2.out.1 (.string s) s.size (byteCells s) rfl HSrc.out hA hA2 HBs.out ?_; intro v4 w4 hown hgrow; refine Hid.out ?_)
    refine hidden ?_
    obtain ⟨a4, c4, rfl⟩ := shape_of_owns hown
    have HB4 : Hid (Below w.heap.size w w4) := HB2.out.grown hgrow (by have := HB2.out.size; omega) (fun k hk => by injection hk with hk; have := HZ1.out; omega)
    have HO4 : Hid (w4.ownsRow w1.heap.size 5 1 (.slice a4 (pn + s.size) c4) (pn + s.size) (P.map (Value.int .u8) ++ byteCells s)) := hown
    clear hown hgrow HO2 HSrc HB2
    go_wp2_with fail
    go_ret
    refine ⟨pfx 7 0 s.size ++ asInts s.data.toList, a4, c4, by rw [StrOf, HE.out]; exact .inr ⟨hlt, rfl⟩, ?_, ⟨?_, ?_⟩, HB4.out⟩
    · rw [← List.append_assoc, HP.out, List.length_append, HPn.out, asInts_len, str_len]
      rfl
    · rw [← List.append_assoc, HP.out, List.length_append, HPn.out, asInts_len, str_len, List.map_append, ← byteCells_ints]
      exact own_lower HO4.out HZ1.out
    · intro x hx
      rw [← List.append_assoc, HP.out] at hx
      rcases List.mem_append.1 hx with hx | hx
      · exact HR.out x hx
      · exact asInts_range _ x hx

end Go.Proofs.YtbaijmkghgnleaaGreatDoor

namespace Go.Proofs.YtbaijmkghgnleaaGreatDoor
open Go.RowKit
set_option linter.unusedVariables false

set_option maxHeartbeats 400000 in
theorem specOf4_any (x y : ByteArray) (w : World) (hx : x.size + y.size ≤ 2097152) : Calls Tryz.prog 65 #[.agg #[.string x, .string y]] w fun e w' => e = .returned (.int .i64 (x.size + y.size + 32)) ∧ Below w.heap.size w w' := by
  go_enter Tryz.func65, Tryz.ntmps65
  go_wp2
  go_ret
  exact ⟨rfl, (Below.refl _ _).alloc (Nat.le_refl _) _⟩

set_option maxHeartbeats 400000 in
theorem specSize_any (m : Int) (a : Option Addr) (len ca : Nat) (xs : List Fld) (w : World) (hx : Flds w a len xs) (hl : len + fldBytes xs ≤ 2097152) :
    Calls Tryz.prog 42 #[.agg #[.int .i64 m, .slice a len ca]] w fun e w' => e = .returned (.int .i64 (32 * len + fldBytes xs)) ∧ Below w.heap.size w w' := by
  have HX : Hid (Flds w a len xs) := hx
  clear hx
  go_enter Tryz.func42, Tryz.ntmps42
  go_wp2
  generalize hw1 : w.alloc (Obj.cells #[Value.int IntKind.i64 m, Value.slice a len ca] 32) = w1
  have hb1 : Below w.heap.size w w1 := by rw [← hw1]; exact (Below.refl _ _).alloc (Nat.le_refl _) _
  have hs1 : w1.heap.size = w.heap.size + 1 := by rw [← hw1]; simp
  have HC0 : Hid (w1.cell? ⟨w.heap.size, 0, none⟩ = some (.int .i64 m)) := by show _ = _; rw [← hw1]; simp [go_sem]
  have HC1 : Hid (w1.cell? ⟨w.heap.size, 1, none⟩ = some (.slice a len ca)) := by show _ = _; rw [← hw1]; simp [go_sem]
  have HB1 : Hid (Below w.heap.size w w1) := hb1
  have HS1 : Hid (w1.heap.size = w.heap.size + 1) := hs1
  clear hw1 hb1 hs1
  go_loopw [3, 4] (fun v i wr => ∃ (k : Nat) (u : Int), k ≤ len ∧ i = .int .i64 k ∧ v = .int .i64 u ∧ 0 ≤ u ∧ u ≤ 80000000 ∧ Hid (u = 32 * k + fldBytes (xs.take k)) ∧ Hid (Below w1.heap.size w1 wr)) (fun _ i _ => len - (intOf i).toNat)
  case atStart => exact ⟨0, 0, Nat.zero_le _, rfl, rfl, by omega, by omega, by show _ = _; simp [fldBytes], Below.refl _ _⟩
  case round =>
    obtain ⟨k, u, hk, rfl, rfl, hu0, hu1, HU, HW⟩ := hrel
    have g1 : wr.cell? ⟨w.heap.size, 1, none⟩ = some (.slice a len ca) := (HW.out.cell (p := ⟨_, _, none⟩) (by have := HS1.out; dsimp only; omega)).trans HC1.out
    by_cases hlt : k < len
    · obtain ⟨ba, oa, x, y, rfl, hba, hfa, ha0, ha1⟩ := HX.out.at hlt
      have hbw : Below w.heap.size w wr := HB1.out.trans (HW.out.mono HB1.out.size)
      have ga0 : wr.cell? ⟨ba, oa + k * 2, none⟩ = some (.string x) := (hbw.cell (p := ⟨ba, _, none⟩) hba).trans ha0
      have ga1 : wr.cell? ⟨ba, oa + k * 2 + 1, none⟩ = some (.string y) := (hbw.cell (p := ⟨ba, _, none⟩) hba).trans ha1
      have hst := fldBytes_step xs k x y hfa
      have hle := fldBytes_take xs (k + 1)
      have hxy : x.size + y.size ≤ 2097152 := by omega
      have HF : Hid (fldBytes (xs.take (k + 1)) = fldBytes (xs.take k) + (x.size + y.size) ∧ fldBytes (xs.take (k + 1)) ≤ fldBytes xs) := ⟨hst, hle⟩
      clear hfa ha0 ha1 hst hle hbw
      have hki : (k : Int) < (len : Int) := by omega
      have hk0 : (0 : Int) ≤ (k : Int) := by omega
      go_wp2_with fail
      refine (specOf4_any x y _ hxy).mono ?_
      rintro e x3 ⟨rfl, hb3⟩
      have HB3 : Hid (Below w1.heap.size w1 x3) := HW.out.trans (hb3.mono HW.out.size)
      clear hb3
      go_wp2
      go_roundw
      case rel =>
        have h1 := HU.out
        have h2 := HF.out
        exact ⟨k + 1, _, by omega, by go_num, rfl, by omega, by omega, by show _ = _; omega, HB3⟩
      case measure => simp [intOf]; omega
    · go_wp2
      go_ret
      have hkl : k = len := by omega
      have h3 := HU.out
      have h4 := HX.out.1
      rw [List.take_of_length_le (by omega)] at h3
      exact ⟨ret_int (by omega), HB1.out.trans (HW.out.mono HB1.out.size)⟩

end Go.Proofs.YtbaijmkghgnleaaGreatDoor
