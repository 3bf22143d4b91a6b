/- What the program's HuffLen answers. For texts of at most 2^40 bytes. -/
import Derived.Test.YtcicboolbeognalHimCodes
import Derived.Test.YtcicboolbeognalHufNums
namespace Go.Proofs.Ytcicboolbeognal
open Go.RowKit
set_option linter.unusedVariables false

set_option maxRecDepth 10000 in
set_option maxHeartbeats 800000 in
theorem implHLen_any (s : ByteArray) (w : World) (hs : s.size ≤ 1099511627776) : Calls Try.prog 42 #[.string s] w fun e w' => e = .returned (.int .i64 (((bitLen s.data.toList + 7) / 8 : Nat) : Int)) ∧ Below w.heap.size w w' := by
  obtain ⟨Z, hZ⟩ : ∃ Z : List Int, List.replicate 257 0 = Z := ⟨_, rfl⟩
  have hz : ∀ w, (zeroValue 99).run Try.prog w = .ok (.agg (tabV Z)) w := by rw [← hZ]; exact zeroA
  have hzs : (tabV Z).size = (tabV lensI).size := by rw [tabV_size, tabV_size, ← hZ, List.length_replicate, lens_len]
  clear hZ
  go_enter Try.func42, Try.ntmps42
  go_wp2_with fail
  refine (implLens_any w).mono ?_
  rintro e w1 ⟨rfl, hw1⟩
  have hb1 : Below w.heap.size w w1 := by
    rw [hw1]
    exact (Below.refl _ _).alloc (Nat.le_refl _) _
  have hs1 : w.heap.size ≤ w1.heap.size := hb1.size
  clear hw1
  go_wp2_with (refine wpList_store_row rfl 99 _ _ rfl w1.heap.size (tabV lensI) rfl rfl 99 (tabV Z) (heap_alloc_last w1 _) (sizeA lens_len) hzs (tabV_one _) ?_; rw [World.setRow_alloc_new]; refine Hid.out ?_)
  refine hidden ?_
  obtain ⟨w2, hw2⟩ : ∃ w2, w1.alloc (.cells (tabV lensI) 99) = w2 := ⟨_, rfl⟩
  have HT : Hid (Arr w2 w1.heap.size 99 lensI) := by show Arr _ _ _ _; rw [← hw2]; exact Arr.new w1 _ _
  have HB1 : Hid (Below w.heap.size w w2) := by show Below _ _ _; rw [← hw2]; exact hb1.alloc (by omega) _
  rw [hw2]
  clear hw2 hb1 hs1 hz hzs
  have hsi : (s.size : Int) ≤ 1099511627776 := by omega
  obtain ⟨h, hh⟩ : ∃ h, w1.heap.size = h := ⟨_, rfl⟩
  rw [hh] at HT ⊢
  go_wp2_with fail
  go_loopw [4, 9] (fun n i wr => ∃ k : Nat, k ≤ s.size ∧ i = .int .i64 k ∧ n = .int .i64 (bitLen (s.data.toList.take k)) ∧ wr = w2) (fun _ i _ => s.size - (intOf i).toNat)
  case atStart => exact ⟨0, Nat.zero_le _, rfl, rfl, rfl⟩
  case round =>
    obtain ⟨k, hk, rfl, rfl, rfl⟩ := hrel
    have hlen : bitLen (s.data.toList.take k) ≤ 30 * k := by
      have h1 := bitLen_le (s.data.toList.take k)
      have h2 : (s.data.toList.take k).length ≤ k := by rw [List.length_take]; omega
      omega
    by_cases hlt : k < s.size
    · have hti : (k : Int) < (s.size : Int) := by omega
      have hstr := str_take_snoc s k hlt
      obtain ⟨c, hc⟩ : ∃ c, s[k] = c := ⟨_, rfl⟩
      rw [hc] at hstr
      have hcn : c.toNat < 256 := c.toNat_lt
      have hlc : wr.cell? ⟨h, c.toNat, none⟩ = some (.int .i64 (lenOf c)) := by
        rw [← lens_at]
        exact HT.out.cell c.toNat (by rw [lens_len]; omega)
      have hL := lenOf_range c
      have HN : Hid (bitLen (s.data.toList.take (k + 1)) = bitLen (s.data.toList.take k) + lenOf c) := by
        show _ = _
        rw [hstr, bitLen_snoc]
      clear hstr
      generalize bitLen (s.data.toList.take k) = n at *
      have hci : ((c.toNat : Nat) : Int) < 257 := by omega
      have hsum : (n : Int) + (lenOf c : Int) ≤ 32985348833310 := by omega
      go_wp2_with fail
      go_roundw
      case rel => exact ⟨k + 1, by omega, by go_num, by rw [HN.out]; go_num, trivial⟩
      case measure => simp [intOf]; omega
    · have hks : k = s.size := by omega
      subst hks
      rw [List.take_of_length_le (by rw [str_len]; exact Nat.le_refl _)] at hlen ⊢
      obtain ⟨n, hn⟩ : ∃ n, bitLen s.data.toList = n := ⟨_, rfl⟩
      have HNN : Hid (bitLen s.data.toList = n) := hn
      rw [hn] at hlen ⊢
      clear hn
      have hn7 : (n : Int) + 8 ≤ 32985348833310 := by omega
      go_wp2_with fail
      go_ret
      exact ⟨ret_int (by rw [HNN.out]; omega), HB1.out⟩

end Go.Proofs.Ytcicboolbeognal
