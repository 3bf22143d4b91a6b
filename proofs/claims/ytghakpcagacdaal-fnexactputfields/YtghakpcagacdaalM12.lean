/- What the program's Huff answers: the one list of bytes that is the code of the text, in memory of its own. For texts of at most 2^40 bytes. -/
import Derived.Test.YtghakpcagacdaalM11
import Derived.Test.YtghakpcagacdaalM11
import Derived.Test.YtghakpcagacdaalM11
import Derived.Shelf.Abstract
namespace Go.Proofs.Ytghakpcagacdaal
open Go.RowKit
set_option linter.unusedVariables false

theorem word_nat (x : Nat) : IntKind.u64.wrap (x : Int) = ((x % 18446744073709551616 : Nat) : Int) := by
  simp [IntKind.wrap, IntKind.bits, IntKind.signed]

theorem byte_nat (x : Nat) : IntKind.u8.wrap (x : Int) = ((x % 256 : Nat) : Int) := by
  simp [IntKind.wrap, IntKind.bits, IntKind.signed]

set_option maxRecDepth 10000 in
theorem ones_word (P : Nat) (h : P ≤ 30) : IntKind.u64.wrap (IntKind.u64.wrap ((2 : Int) ^ P) - 1) = ((2 ^ P - 1 : Nat) : Int) := by
  have : ∀ P : Nat, P < 31 → IntKind.u64.wrap (IntKind.u64.wrap ((2 : Int) ^ P) - 1) = ((2 ^ P - 1 : Nat) : Int) := by decide +kernel
  exact this P (by omega)

set_option maxHeartbeats 400000 in
theorem onesOf_any (P : Nat) (hP : P ≤ 30) (w : World) : Calls Try.prog 77 #[.int .i64 (P : Int)] w fun e w' => e = .returned (.int .u64 ((2 ^ P - 1 : Nat) : Int)) ∧ w' = w := by
  have hPi : (P : Int) ≤ 30 := by omega
  have HM : Hid (IntKind.u64.wrap (IntKind.u64.wrap ((2 : Int) ^ P) - 1) = ((2 ^ P - 1 : Nat) : Int)) := ones_word P hP
  go_enter Try.func77, Try.ntmps77
  go_wp2
  go_ret
  exact ⟨ret_int HM.out, rfl⟩

set_option maxRecDepth 200000 in
set_option maxHeartbeats 1600000 in
theorem implHuff_any (s : ByteArray) (w : World) (hs : s.size ≤ 1099511627776) : Calls Try.prog 44 #[.string s] w fun e w' => ∃ (o : List Int) (a : Option Addr) (cap : Nat), e = .returned (.slice a o.length cap) ∧ Owns w' w.heap.size a o.length cap o ∧ HuffOf s.data.toList o ∧ Below w.heap.size w w' := by
  obtain ⟨i0, hi, hz0, hz1, hz2⟩ := info_parts Try.info5
  obtain ⟨Z, hZ⟩ : ∃ Z : List Int, List.replicate 257 0 = Z := ⟨_, rfl⟩
  have hz : ∀ w, (zeroValue 99).run Try.prog w = .ok (.agg (tabV Z)) w := by rw [← hZ]; exact zeroA
  have hzs : (tabV Z).size = (tabV lensI).size := by rw [tabV_size, tabV_size, ← hZ, List.length_replicate, lens_len]
  have hzc : (tabV Z).size = (tabV codesI).size := by rw [tabV_size, tabV_size, ← hZ, List.length_replicate, codes_len]
  clear hZ
  have HNl : Hid ((bitLen s.data.toList + 7) / 8 ≤ 4123168604160) := by
    show _ ≤ _
    have := bitLen_le s.data.toList
    rw [str_len] at this
    omega
  go_enter Try.func44, Try.ntmps44
  go_wp2_with fail
  refine (implLens_any w).mono ?_
  rintro e w1 ⟨rfl, hw1⟩
  have HB1 : Hid (Below w.heap.size w w1) := by
    show Below _ _ _
    rw [hw1]
    exact (Below.refl _ _).alloc (Nat.le_refl _) _
  clear hw1
  have hg2 := heap_alloc_last w1 (.cells (tabV lensI) 99)
  go_wp2_with (first
    | (refine wpList_store_row rfl 99 _ _ rfl w1.heap.size (tabV lensI) rfl rfl 99 (tabV Z) (heap_alloc_last w1 _) (sizeA lens_len) hzs (tabV_one _) ?_; rw [World.setRow_alloc_new])
    | (refine wpList_load_row rfl 99 _ rfl w1.heap.size rfl 99 (tabV lensI) (0, 0) _ hg2 Try.underlying99 rfl (sizeA lens_len) ?_))
  obtain ⟨w2, hw2⟩ : ∃ w2, w1.alloc (.cells (tabV lensI) 99) = w2 := ⟨_, rfl⟩
  have HT2 : Hid (Arr w2 w1.heap.size 99 lensI) := by show Arr _ _ _ _; rw [← hw2]; exact Arr.new w1 _ _
  have HB2 : Hid (Below w.heap.size w w2) := by show Below _ _ _; rw [← hw2]; exact HB1.out.alloc HB1.out.size _
  rw [hw2]
  clear hw2 hg2 hzs HB1
  obtain ⟨h, hh⟩ : ∃ h, w1.heap.size = h := ⟨_, rfl⟩
  rw [hh] at HT2 ⊢
  clear hh
  refine (implCodes_any w2).mono ?_
  rintro e w3 ⟨rfl, hb3⟩
  have HT3 : Hid (Arr w3 h 99 lensI) := HT2.out.stays hb3
  have HB3 : Hid (Below w.heap.size w w3) := HB2.out.trans (hb3.mono HB2.out.size)
  clear hb3 HT2 HB2
  go_wp2_with (refine wpList_store_row rfl 99 _ _ rfl w3.heap.size (tabV codesI) rfl rfl 99 (tabV Z) (heap_alloc_last w3 _) (sizeA codes_len) hzc (tabV_one _) ?_; rw [World.setRow_alloc_new])
  obtain ⟨w4, hw4⟩ : ∃ w4, w3.alloc (.cells (tabV codesI) 99) = w4 := ⟨_, rfl⟩
  have HC4 : Hid (Arr w4 w3.heap.size 99 codesI) := by show Arr _ _ _ _; rw [← hw4]; exact Arr.new w3 _ _
  have HT4 : Hid (Arr w4 h 99 lensI) := by show Arr _ _ _ _; rw [← hw4]; exact HT3.out.alloc _
  have HB4 : Hid (Below w.heap.size w w4) := by show Below _ _ _; rw [← hw4]; exact HB3.out.alloc HB3.out.size _
  rw [hw4]
  clear hw4 hzc hz HT3 HB3
  obtain ⟨g, hg⟩ : ∃ g, w3.heap.size = g := ⟨_, rfl⟩
  rw [hg] at HC4 ⊢
  clear hg
  refine (implHLen_any s w4 hs).mono ?_
  rintro e w5 ⟨rfl, hb5⟩
  have HC5 : Hid (Arr w5 g 99 codesI) := HC4.out.stays hb5
  have HT5 : Hid (Arr w5 h 99 lensI) := HT4.out.stays hb5
  have HB5 : Hid (Below w.heap.size w w5) := HB4.out.trans (hb5.mono HB4.out.size)
  clear hb5 HC4 HT4 HB4
  generalize (bitLen s.data.toList + 7) / 8 = n at *
  go_wp2_with (at_make; refine wpList_make_own _ rfl _ _ 22 rfl w5.heap.size 5 i0 (.int .u8 0) 1 Try.underlying22 hi hz0 hz1 .i64 .i64 (n : Int) n rfl rfl rfl (by rw [hz2]; have := HNl.out; omega) (by have := HNl.out; unfold maxLen; omega) (Nat.le_refl _) ?_; intro w6 hown6 hgrow6; refine Hid.out ?_)
  refine hidden ?_
  have HO6 : Hid (w6.ownsRow w5.heap.size 5 1 (.slice (some ⟨w5.heap.size, 0, none⟩) 0 n) 0 (([] : List Int).map (Value.int .u8))) := hown6
  have HB6 : Hid (Below w5.heap.size w5 w6) := (Below.refl _ _).grown hgrow6 (Nat.le_refl _) (fun _ e => by cases e)
  clear hown6 hgrow6 HNl
  obtain ⟨b, hb⟩ : ∃ b, w5.heap.size = b := ⟨_, rfl⟩
  rw [hb] at HO6 HB6 ⊢
  have hsi : (s.size : Int) ≤ 1099511627776 := by omega
  go_wp2_with fail
  go_loopw [5, 6, 7, 19] (fun v acc n i wr => ∃ (k N H : Nat) (o : List Int), k ≤ s.size ∧ i = .int .i64 k ∧ n = .int .i64 N ∧ acc = .int .u64 H ∧ N < 8 ∧ H < 18446744073709551616 ∧ Hid (byteBits o ++ bitsN N H = textBits (s.data.toList.take k)) ∧ Hid (∀ x ∈ o, 0 ≤ x ∧ x ≤ 255) ∧ Hid (wr.ownsRow b 5 1 v o.length (o.map (Value.int .u8))) ∧ Hid (Below b w5 wr)) (fun _ _ _ i _ => s.size - (intOf i).toNat)
  case atStart => exact ⟨0, 0, 0, [], Nat.zero_le _, rfl, rfl, rfl, by omega, by omega, rfl, by intro x hx; simp at hx, HO6, HB6⟩
  case round =>
    clear HO6 HB6
    obtain ⟨k, N, H, o, hk, rfl, rfl, rfl, hN, hH, HE, HR, HO, HB⟩ := hrel
    by_cases hlt : k < s.size
    · have hti : (k : Int) < (s.size : Int) := by omega
      have hstr := str_take_snoc s k hlt
      obtain ⟨c, hc⟩ : ∃ c, s[k] = c := ⟨_, rfl⟩
      rw [hc] at hstr
      have hcn : c.toNat < 256 := c.toNat_lt
      have hlc : wr.cell? ⟨h, c.toNat, none⟩ = some (.int .i64 (lenOf c)) := by
        rw [← lens_at]
        exact (HT5.out.stays (hb ▸ HB.out)).cell c.toNat (by rw [lens_len]; omega)
      have hcc : wr.cell? ⟨g, c.toNat, none⟩ = some (.int .i64 (codeOfB c)) := by
        rw [← codes_at]
        exact (HC5.out.stays (hb ▸ HB.out)).cell c.toNat (by rw [codes_len]; omega)
      have hL := lenOf_range c
      have hCL := codeOf_lt c
      have HE2 : Hid (byteBits o ++ bitsN (N + lenOf c) (H * 2 ^ lenOf c % 18446744073709551616 + codeOfB c) = textBits (s.data.toList.take (k + 1))) := by
        show _ = _
        rw [shl_bits _ _ _ _ (by omega) hCL, ← List.append_assoc, HE.out, hstr, textBits_snoc]
        rfl
      have hroom := shl_room H (lenOf c) (codeOfB c) (by omega) hCL
      have HVal : Hid (bits .or .u64 ((H * 2 ^ lenOf c % 18446744073709551616 : Nat) : Int) (codeOfB c : Int) = ((H * 2 ^ lenOf c % 18446744073709551616 + codeOfB c : Nat) : Int)) := or_shl H (lenOf c) (codeOfB c) (by omega) hCL
      have hCs : (codeOfB c : Int) < 1073741824 := by
        have h1 : 2 ^ lenOf c ≤ 2 ^ 30 := Nat.pow_le_pow_right (by decide) hL.2
        omega
      clear hstr hCL
      have hci : ((c.toNat : Nat) : Int) < 257 := by omega
      have hLi : (lenOf c : Int) ≤ 30 := by omega
      have hLi5 : (5 : Int) ≤ (lenOf c : Int) := by omega
      have HRoom : Hid (H * 2 ^ lenOf c % 18446744073709551616 + codeOfB c < 18446744073709551616) := hroom
      clear hroom
      go_wp2_with fail
      go_quiet (fail)
      have hval : bits .or .u64 (IntKind.u64.wrap ((H : Int) * 2 ^ lenOf c)) (codeOfB c : Int) = ((H * 2 ^ lenOf c % 18446744073709551616 + codeOfB c : Nat) : Int) := by
        have e1 : (H : Int) * 2 ^ lenOf c = ((H * 2 ^ lenOf c : Nat) : Int) := by simp
        rw [e1, word_nat]
        exact HVal.out
      rw [hval]
      have HOd : Hid ((wr.drewN nq).ownsRow b 5 1 u5 o.length (o.map (Value.int .u8))) := HO.out
      have HBd : Hid (Below b w5 (wr.drewN nq)) := below_drewN HB.out nq
      have hlcd : (wr.drewN nq).cell? ⟨h, c.toNat, none⟩ = some (.int .i64 (lenOf c)) := hlc
      generalize wr.drewN nq = wd at *
      clear hval HVal hlc hcc HO HB HE
      generalize H * 2 ^ lenOf c % 18446744073709551616 + codeOfB c = H2 at *
      generalize IntKind.u64.wrap ((H : Int) * 2 ^ lenOf c) = dead
      have HH2 : Hid (H2 < 18446744073709551616) := HRoom.out
      have hNL : (N : Int) + (lenOf c : Int) ≤ 37 := by omega
      generalize hTT : textBits (s.data.toList.take (k + 1)) = TT at *
      have HTT : Hid (textBits (s.data.toList.take (k + 1)) = TT) := hTT
      have HTL : Hid (TT.length ≤ 30 * (k + 1)) := by
        show _ ≤ _
        rw [← hTT]
        have := bitLen_le (s.data.toList.take (k + 1))
        unfold bitLen at this
        have h2 : (s.data.toList.take (k + 1)).length ≤ k + 1 := by rw [List.length_take]; omega
        omega
      clear hTT HRoom hH
      go_wp2_with fail
      go_loopw [5, 7] (fun v n wi => ∃ (M : Nat) (u : List Int), n = .int .i64 M ∧ M ≤ 37 ∧ Hid (byteBits u ++ bitsN M H2 = TT) ∧ Hid (∀ x ∈ u, 0 ≤ x ∧ x ≤ 255) ∧ Hid (wi.ownsRow b 5 1 v u.length (u.map (Value.int .u8))) ∧ Hid (Below b w5 wi)) (fun _ n _ => (intOf n).toNat)
      case atStart => exact ⟨N + lenOf c, o, by go_num, by omega, HE2, HR, HOd, HBd⟩
      case round =>
        clear HOd HBd HE2 HR hlcd
        obtain ⟨M, u, rfl, hM, HE, HR, HO, HB⟩ := hrel
        have hlen : 8 * u.length + M ≤ 30 * (k + 1) := by
          have h1 := HTL.out
          rw [← HE.out, List.length_append, byteBits_len, bitsN_len] at h1
          exact h1
        by_cases h8 : 8 ≤ M
        · obtain ⟨M8, hMe⟩ : ∃ M8, M = M8 + 8 := ⟨M - 8, by omega⟩
          have h8i : (8 : Int) ≤ (M : Int) := by omega
          have hsub : (M : Int) - 8 = (M8 : Int) := by omega
          have HE2 : Hid (byteBits (u ++ [((H2 / 2 ^ M8 % 256 : Nat) : Int)]) ++ bitsN M8 H2 = TT) := by
            show _ = _
            rw [byteBits_snoc, List.append_assoc, Int.toNat_natCast, ← shr_bits, ← hMe]
            exact HE.out
          have hq : H2 / 2 ^ M8 % 256 < 256 := Nat.mod_lt _ (by decide)
          have hdiv : (H2 : Int) / 2 ^ M8 = ((H2 / 2 ^ M8 : Nat) : Int) := by simp
          have hbyte : IntKind.u8.wrap ((H2 / 2 ^ M8 : Nat) : Int) = ((H2 / 2 ^ M8 % 256 : Nat) : Int) := byte_nat _
          generalize H2 / 2 ^ M8 = Q at *
          generalize Q % 256 = q at *
          have hq0 : (0 : Int) ≤ (q : Int) := by omega
          have hq1 : (q : Int) ≤ 255 := by omega
          have hM8 : (M8 : Int) ≤ 29 := by omega
          have HMe : Hid (M = M8 + 8) := hMe
          have hA : u.length + 1 ≤ maxLen ∧ (u.length + 1) * 1 ≤ 140737488355328 := ⟨by unfold maxLen; omega, by omega⟩
          clear hMe h8
          have hsz := HB.out.size
          have HN : Hid (∀ j v, [Value.int .u8 (q : Int)][j]? = some v → (wr.alloc (.cells #[.int .u8 (q : Int)] 5)).cell? ((⟨wr.heap.size, 0, none⟩ : Addr).add j) = some v) := one_new wr q
          have hbs : b ≤ wr.heap.size := by omega
          go_wp2_with (at_builtin; refine wpList_append_own _ rfl _ _ 22 rfl b 5 i0 (.int .u8 0) 1 1 Try.underlying22 hi hz0 hz1 hz2 rfl (by decide) u5 u.length _ rfl (HO.out.alloc _) ⟨wr.heap.size, 0, none⟩ 1 1 [.int .u8 (q : Int)] rfl rfl HN.out (ints_one [(q : Int)]) hA.1 hA.2 (by simp; omega) ?_; intro v2 w7 hown hgrow _; refine Hid.out ?_)
          refine hidden ?_
          have HB3 : Hid (Below b w5 w7) := (HB.out.alloc hbs _).grown hgrow (by simp; omega) (fun q hq => (HO.out.lt q hq).1)
          have HO3 : Hid (w7.ownsRow b 5 1 v2 (u ++ [(q : Int)]).length ((u ++ [(q : Int)]).map (Value.int .u8))) := by
            show World.ownsRow _ _ _ _ _ _ _
            rw [List.map_append, List.length_append]
            exact hown
          have HR3 : Hid (∀ x ∈ u ++ [(q : Int)], 0 ≤ x ∧ x ≤ 255) := by
            intro x hx
            rcases List.mem_append.1 hx with hx | hx
            · exact HR.out x hx
            · obtain rfl := List.mem_singleton.1 hx
              exact ⟨hq0, hq1⟩
          clear hown hgrow HO HB HN HR hbyte hdiv
          go_wp2_with fail
          go_roundw
          case rel => exact ⟨M8, u ++ [(q : Int)], by go_num, by omega, HE2, HR3, HO3, HB3⟩
          case measure =>
            have := HMe.out
            simp [intOf]
            omega
        · have hM8i : ¬ (8 : Int) ≤ (M : Int) := by omega
          go_wp2_with fail
          go_roundw
          case rel => exact ⟨k + 1, M, H2, u, by omega, by go_num, rfl, rfl, by omega, HH2.out, by show _ = _; rw [HE.out, HTT.out], HR, HO, HB⟩
          case measure => simp [intOf]; omega
    · have hks : k = s.size := by omega
      subst hks
      have HE' : Hid (byteBits o ++ bitsN N H = textBits s.data.toList) := by
        show _ = _
        rw [HE.out, List.take_of_length_le (by rw [str_len]; exact Nat.le_refl _)]
      clear HE
      have hlen : 8 * o.length + N ≤ 30 * s.size := by
        have h1 := bitLen_le s.data.toList
        unfold bitLen at h1
        rw [← HE'.out, List.length_append, byteBits_len, bitsN_len, str_len] at h1
        exact h1
      have hsz := HB.out.size
      have HBw : Hid (Below w.heap.size w wr) := HB5.out.trans (HB.out.mono (by have := HB5.out.size; omega))
      have hbw : w.heap.size ≤ b := by rw [← hb]; exact HB5.out.size
      clear hH
      by_cases hN0 : N = 0
      · subst hN0
        obtain ⟨a', cap', rfl⟩ := shape_of_owns HO.out
        go_wp2_with fail
        go_ret
        refine ⟨o, a', cap', rfl, ⟨?_, HR.out⟩, ⟨HR.out, 0, by omega, ?_⟩, HBw.out⟩
        · exact own_lower HO.out hbw
        · have := HE'.out
          simpa [bitsN] using this
      · obtain ⟨P, hP⟩ : ∃ P, 8 - N = P := ⟨_, rfl⟩
        have hPi : (8 : Int) - (N : Int) = (P : Int) := by omega
        have hP8 : 1 ≤ P ∧ P ≤ 7 := by omega
        have hp : 0 < 2 ^ P := Nat.pow_pos (by decide)
        have HE2 : Hid (byteBits (o ++ [(((H * 2 ^ P % 18446744073709551616 + (2 ^ P - 1)) % 256 : Nat) : Int)]) = textBits s.data.toList ++ List.replicate P true) := by
          show _ = _
          rw [byteBits_snoc, Int.toNat_natCast, last_byte N P H (by omega), ← List.append_assoc, HE'.out]
        have HVal : Hid (bits .or .u64 (IntKind.u64.wrap ((H : Int) * 2 ^ P)) ((2 ^ P - 1 : Nat) : Int) = ((H * 2 ^ P % 18446744073709551616 + (2 ^ P - 1) : Nat) : Int)) := by
          show bits _ _ _ _ = _
          have e1 : (H : Int) * 2 ^ P = ((H * 2 ^ P : Nat) : Int) := by simp
          rw [e1, word_nat]
          exact or_shl H P (2 ^ P - 1) (by omega) (by omega)
        have HOnes : Hid (∀ w, Calls Try.prog 77 #[.int .i64 (P : Int)] w fun e w' => e = .returned (.int .u64 ((2 ^ P - 1 : Nat) : Int)) ∧ w' = w) := fun w => onesOf_any P (by omega) w
        generalize 2 ^ P - 1 = OP at *
        generalize H * 2 ^ P % 18446744073709551616 + OP = X at *
        have hNp : (0 : Int) < (N : Int) := by omega
        have hPi7 : (P : Int) ≤ 7 := by omega
        clear hp
        have hval := HVal.out
        have hbyte : IntKind.u8.wrap (X : Int) = ((X % 256 : Nat) : Int) := byte_nat X
        have hXb : X % 256 < 256 := Nat.mod_lt _ (by decide)
        generalize X % 256 = q at *
        have hq0 : (0 : Int) ≤ (q : Int) := by omega
        have hq1 : (q : Int) ≤ 255 := by omega
        have hent : ∀ args w, (callFunc 77 args).run Try.prog w = .ok (.enter 77 args) w := Go.Proofs.enters_of Try.func77 (by kernel_rfl) rfl
        have HEnt : Hid (∀ args w, (callFunc 77 args).run Try.prog w = .ok (.enter 77 args) w) := hent
        clear hent
        have HOd : Hid ((wr.alloc (.cells #[.int .u8 (q : Int)] 5)).drew.ownsRow b 5 1 u5 o.length (o.map (Value.int .u8))) := HO.out.alloc _
        have HN : Hid (∀ j v, [Value.int .u8 (q : Int)][j]? = some v → (wr.alloc (.cells #[.int .u8 (q : Int)] 5)).drew.cell? ((⟨wr.heap.size, 0, none⟩ : Addr).add j) = some v) := one_new wr q
        have hW8 : b ≤ (wr.alloc (.cells #[.int .u8 (q : Int)] 5)).drew.heap.size := by simp; omega
        have HB8 : Hid (Below b w5 (wr.alloc (.cells #[.int .u8 (q : Int)] 5)).drew) := below_drewN (HB.out.alloc (by omega) _) 1
        have HW8 : Hid (b ≤ (wr.alloc (.cells #[.int .u8 (q : Int)] 5)).drew.heap.size) := hW8
        clear hW8
        have hA : o.length + 1 ≤ maxLen ∧ (o.length + 1) * 1 ≤ 140737488355328 := ⟨by unfold maxLen; omega, by omega⟩
        go_wp2_with fail
        go_region_law (first
          | (refine step_call_same rfl 77 (.tmp 60) 3 rfl HEnt.out (.int .i64 (P : Int)) (.int .u64 (OP : Int)) rfl (HOnes.out _) ?_)
          | (refine step_append_own rfl (.tmp 56) (.tmp 64) 22 rfl b 5 i0 (.int .u8 0) 1 1 Try.underlying22 hi hz0 hz1 hz2 rfl (by decide) u5 o.length _ rfl HOd.out ⟨wr.heap.size, 0, none⟩ 1 1 [.int .u8 (q : Int)] rfl rfl HN.out (ints_one [(q : Int)]) hA.1 hA.2 HW8.out ?_; intro v2 w7 hown hgrow))
        have HB3 : Hid (Below b w5 w7) := HB8.out.grown hgrow HW8.out (fun q hq => (HO.out.lt q hq).1)
        have HO3 : Hid (w7.ownsRow b 5 1 v2 (o ++ [(q : Int)]).length ((o ++ [(q : Int)]).map (Value.int .u8))) := by
          show World.ownsRow _ _ _ _ _ _ _
          rw [List.map_append, List.length_append]
          exact hown
        have HR3 : Hid (∀ x ∈ o ++ [(q : Int)], 0 ≤ x ∧ x ≤ 255) := by
          intro x hx
          rcases List.mem_append.1 hx with hx | hx
          · exact HR.out x hx
          · obtain rfl := List.mem_singleton.1 hx
            exact ⟨hq0, hq1⟩
        clear hown hgrow HO HB HN HR HOd HB8 HW8 hval hbyte
        obtain ⟨a', cap', rfl⟩ := shape_of_owns HO3.out
        go_wp2_with fail
        go_ret
        refine ⟨o ++ [(q : Int)], a', cap', by simp, ⟨?_, HR3.out⟩, ⟨HR3.out, P, by omega, HE2.out⟩, ?_⟩
        · exact own_lower HO3.out hbw
        · exact HB5.out.trans (HB3.out.mono (by have := HB5.out.size; omega))

end Go.Proofs.Ytghakpcagacdaal
