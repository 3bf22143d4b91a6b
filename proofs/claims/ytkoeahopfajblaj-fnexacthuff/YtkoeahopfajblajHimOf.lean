/- What the program's CodeLen, CodeOf and HuffLen answer. -/
import Derived.Test.YtkoeahopfajblajHimCodes
import Derived.Test.YtkoeahopfajblajHufHuff
import Derived.Test.YtkoeahopfajblajHufOf
import Derived.Test.YtkoeahopfajblajHufLen
namespace Go.Proofs.Ytkoeahopfajblaj
open Go.RowKit
set_option linter.unusedVariables false

set_option maxHeartbeats 400000 in
theorem symOk_yes (x : Int) (w : World) (h1 : 0 ≤ x) (h2 : x ≤ 256) : Calls Try.prog 24 #[.int .i64 x] w fun e w' => e = .returned (.bool true) ∧ w' = w := by
  go_enter Try.func24, Try.ntmps24
  go_wp2
  go_ret
  exact ⟨ret_bool (by simp; omega), rfl⟩

set_option maxHeartbeats 400000 in
theorem symOk_no (x : Int) (w : World) (h : x < 0 ∨ 256 < x) : Calls Try.prog 24 #[.int .i64 x] w fun e w' => e = .returned (.bool false) ∧ w' = w := by
  by_cases h1 : x < 0
  · clear h
    go_enter Try.func24, Try.ntmps24
    go_wp2
    go_ret
    exact ⟨rfl, rfl⟩
  · have h2 : 256 < x := by omega
    clear h
    go_enter Try.func24, Try.ntmps24
    go_wp2
    go_ret
    exact ⟨ret_bool (by simp; omega), rfl⟩

set_option maxHeartbeats 400000 in
theorem implLen_any (x : Int) (w : World) : Calls Try.prog 9 #[.int .i64 x] w fun e w' => e = .returned (.int .i64 (lenAns x)) ∧ Below w.heap.size w w' := by
  by_cases h : 0 ≤ x ∧ x ≤ 256
  · have e : lenAns x = lensI.getD x.toNat 0 := by rw [lenAns, if_pos h]
    rw [e]
    obtain ⟨h1, h2⟩ := h
    obtain ⟨X, rfl⟩ := Int.eq_ofNat_of_zero_le h1
    rw [Int.toNat_natCast]
    clear e
    have hidx : ∀ w, (Instr.index 37 (.agg (tabV lensI)) (.int .i64 (X : Int))).run Try.prog w = .ok (.int .i64 (lensI.getD X 0)) w := index_arr _ X (by omega) _ (tabV_at lensI X (by rw [lens_len]; omega))
    generalize lensI.getD X 0 = v at *
    go_enter Try.func9, Try.ntmps9
    go_wp2_with fail
    refine (symOk_yes _ _ h1 h2).mono ?_
    rintro e w1 ⟨rfl, rfl⟩
    go_wp2_with fail
    refine (implLens_any _).mono ?_
    rintro e w2 ⟨rfl, hw2⟩
    have hb : Below w1.heap.size w1 w2 := by
      rw [hw2]
      exact (Below.refl _ _).alloc (Nat.le_refl _) _
    clear hw2
    go_wp2_with fail
    go_ret
    exact ⟨rfl, hb⟩
  · have e : lenAns x = 0 := by rw [lenAns, if_neg h]
    rw [e]
    have HF : Hid (x < 0 ∨ 256 < x) := by show _ ∨ _; omega
    clear h e
    go_enter Try.func9, Try.ntmps9
    go_wp2_with fail
    refine (symOk_no _ _ HF.out).mono ?_
    rintro e w1 ⟨rfl, rfl⟩
    go_wp2_with fail
    go_ret
    exact ⟨rfl, Below.refl _ _⟩

set_option maxHeartbeats 400000 in
theorem implOf_any (x : Int) (w : World) : Calls Try.prog 11 #[.int .i64 x] w fun e w' => e = .returned (.int .i64 (codeAns x)) ∧ Below w.heap.size w w' := by
  by_cases h : 0 ≤ x ∧ x ≤ 256
  · have e : codeAns x = codesI.getD x.toNat 0 := by rw [codeAns, if_pos h]
    rw [e]
    obtain ⟨h1, h2⟩ := h
    obtain ⟨X, rfl⟩ := Int.eq_ofNat_of_zero_le h1
    rw [Int.toNat_natCast]
    clear e
    have hidx : ∀ w, (Instr.index 37 (.agg (tabV codesI)) (.int .i64 (X : Int))).run Try.prog w = .ok (.int .i64 (codesI.getD X 0)) w := index_arr _ X (by omega) _ (tabV_at codesI X (by rw [codes_len]; omega))
    generalize codesI.getD X 0 = v at *
    go_enter Try.func11, Try.ntmps11
    go_wp2_with fail
    refine (symOk_yes _ _ h1 h2).mono ?_
    rintro e w1 ⟨rfl, rfl⟩
    go_wp2_with fail
    refine (implLens_any _).mono ?_
    rintro e w2 ⟨rfl, hw2⟩
    have hb : Below w1.heap.size w1 w2 := by
      rw [hw2]
      exact (Below.refl _ _).alloc (Nat.le_refl _) _
    clear hw2
    go_wp2_with fail
    refine (implCodes_any _).mono ?_
    rintro e w3 ⟨rfl, hb3⟩
    have hb13 : Below w1.heap.size w1 w3 := hb.trans (hb3.mono hb.size)
    clear hb hb3
    go_wp2_with fail
    go_ret
    exact ⟨rfl, hb13⟩
  · have e : codeAns x = 0 := by rw [codeAns, if_neg h]
    rw [e]
    have HF : Hid (x < 0 ∨ 256 < x) := by show _ ∨ _; omega
    clear h e
    go_enter Try.func11, Try.ntmps11
    go_wp2_with fail
    refine (symOk_no _ _ HF.out).mono ?_
    rintro e w1 ⟨rfl, rfl⟩
    go_wp2_with fail
    go_ret
    exact ⟨rfl, Below.refl _ _⟩

set_option maxRecDepth 10000 in
set_option maxHeartbeats 800000 in
theorem implHLen_any (s : ByteArray) (w : World) (hs : s.size ≤ 1099511627776) : Calls Try.prog 13 #[.string s] w fun e w' => e = .returned (.int .i64 (((bitLen s.data.toList + 7) / 8 : Nat) : Int)) ∧ Below w.heap.size w w' := by
  obtain ⟨Z, hZ⟩ : ∃ Z : List Int, List.replicate 257 0 = Z := ⟨_, rfl⟩
  have hz : ∀ w, (zeroValue 37).run Try.prog w = .ok (.agg (tabV Z)) w := by rw [← hZ]; exact zeroA
  have hzs : (tabV Z).size = (tabV lensI).size := by rw [tabV_size, tabV_size, ← hZ, List.length_replicate, lens_len]
  clear hZ
  go_enter Try.func13, Try.ntmps13
  go_wp2_with fail
  refine (implLens_any w).mono ?_
  rintro e w1 ⟨rfl, hw1⟩
  have hb1 : Below w.heap.size w w1 := by
    rw [hw1]
    exact (Below.refl _ _).alloc (Nat.le_refl _) _
  have hs1 : w.heap.size ≤ w1.heap.size := hb1.size
  clear hw1
  go_wp2_with (refine wpList_store_row rfl 37 _ _ rfl w1.heap.size (tabV lensI) rfl rfl 37 (tabV Z) (heap_alloc_last w1 _) (sizeA lens_len) hzs (tabV_one _) ?_; rw [World.setRow_alloc_new]; refine Hid.out ?_)
  refine hidden ?_
  obtain ⟨w2, hw2⟩ : ∃ w2, w1.alloc (.cells (tabV lensI) 37) = w2 := ⟨_, rfl⟩
  have HT : Hid (Arr w2 w1.heap.size 37 lensI) := by show Arr _ _ _ _; rw [← hw2]; exact Arr.new w1 _ _
  have HB1 : Hid (Below w.heap.size w w2) := by show Below _ _ _; rw [← hw2]; exact hb1.alloc (by omega) _
  rw [hw2]
  clear hw2 hb1 hs1 hz hzs
  have hsi : (s.size : Int) ≤ 1099511627776 := by omega
  obtain ⟨h, hh⟩ : ∃ h, w1.heap.size = h := ⟨_, rfl⟩
  rw [hh] at HT ⊢
  go_wp2_with fail
  go_loopw [4, 9] (fun n i wr => ∃ k : Nat, k ≤ s.size ∧ i = .int .i64 k ∧ n = .int .i64 (bitLen (s.data.toList.take k)) ∧ wr = w2) (fun _ i _ => s.size - (intOf i).toNat)
  case atStart => exact ⟨0, Nat.zero_le _, rfl, rfl, rfl⟩
  case round =>
    obtain ⟨k, hk, rfl, rfl, rfl⟩ := hrel
    have hlen : bitLen (s.data.toList.take k) ≤ 30 * k := by
      have h1 := bitLen_le (s.data.toList.take k)
      have h2 : (s.data.toList.take k).length ≤ k := by rw [List.length_take]; omega
      omega
    by_cases hlt : k < s.size
    · have hti : (k : Int) < (s.size : Int) := by omega
      have hstr := str_take_snoc s k hlt
      obtain ⟨c, hc⟩ : ∃ c, s[k] = c := ⟨_, rfl⟩
      rw [hc] at hstr
      have hcn : c.toNat < 256 := c.toNat_lt
      have hlc : wr.cell? ⟨h, c.toNat, none⟩ = some (.int .i64 (lenOf c)) := by
        rw [← lens_at]
        exact HT.out.cell c.toNat (by rw [lens_len]; omega)
      have hL := lenOf_range c
      have HN : Hid (bitLen (s.data.toList.take (k + 1)) = bitLen (s.data.toList.take k) + lenOf c) := by
        show _ = _
        rw [hstr, bitLen_snoc]
      clear hstr
      generalize bitLen (s.data.toList.take k) = n at *
      have hci : ((c.toNat : Nat) : Int) < 257 := by omega
      have hsum : (n : Int) + (lenOf c : Int) ≤ 32985348833310 := by omega
      go_wp2_with fail
      go_roundw
      case rel => exact ⟨k + 1, by omega, by go_num, by rw [HN.out]; go_num, trivial⟩
      case measure => simp [intOf]; omega
    · have hks : k = s.size := by omega
      subst hks
      rw [List.take_of_length_le (by rw [str_len]; exact Nat.le_refl _)] at hlen ⊢
      obtain ⟨n, hn⟩ : ∃ n, bitLen s.data.toList = n := ⟨_, rfl⟩
      have HNN : Hid (bitLen s.data.toList = n) := hn
      rw [hn] at hlen ⊢
      clear hn
      have hn7 : (n : Int) + 8 ≤ 32985348833310 := by omega
      go_wp2_with fail
      go_ret
      exact ⟨ret_int (by rw [HNN.out]; omega), HB1.out⟩

end Go.Proofs.Ytkoeahopfajblaj
