/- What the program's Huff answers: the one list of bytes that is the code of the text, in memory of its own. For texts of at most 2^40 bytes. What the program's PutString answers. For lists of at most 2^40 bytes and texts of at most 2^24. Fields: a name and a value; rows of fields in memory; the first fields. No program in it. Rows of fields that are made and filled. The newest fields of a table, as many as fit: there is just one such number; no program in it. -/
import Derived.Test.YtbaijmkghgnleaaGreatDoorM08
import Derived.Test.YtbaijmkghgnleaaGreatDoorM08
import Derived.Test.YtbaijmkghgnleaaGreatDoorM08
import Derived.Shelf.Abstract
import Derived.Test.YtbaijmkghgnleaaGreatDoorM04
import Derived.Test.YtbaijmkghgnleaaGreatDoorM05
import Derived.Test.YtbaijmkghgnleaaGreatDoorM01
import Derived.Deep.QuietTactic
namespace Go.Proofs.YtbaijmkghgnleaaGreatDoor
open Go.RowKit
set_option linter.unusedVariables false

theorem word_nat (x : Nat) : IntKind.u64.wrap (x : Int) = ((x % 18446744073709551616 : Nat) : Int) := by
  simp [IntKind.wrap, IntKind.bits, IntKind.signed]

theorem byte_nat (x : Nat) : IntKind.u8.wrap (x : Int) = ((x % 256 : Nat) : Int) := by
  simp [IntKind.wrap, IntKind.bits, IntKind.signed]

set_option maxRecDepth 10000 in
theorem ones_word (P : Nat) (h : P ≤ 30) : IntKind.u64.wrap (IntKind.u64.wrap ((2 : Int) ^ P) - 1) = ((2 ^ P - 1 : Nat) : Int) := by
  have : ∀ P : Nat, P < 31 → IntKind.u64.wrap (IntKind.u64.wrap ((2 : Int) ^ P) - 1) = ((2 ^ P - 1 : Nat) : Int) := by decide +kernel
  exact this P (by omega)

set_option maxHeartbeats 400000 in
theorem onesOf_any (P : Nat) (hP : P ≤ 30) (w : World) : Calls Tryz.prog 114 #[.int .i64 (P : Int)] w fun e w' => e = .returned (.int .u64 ((2 ^ P - 1 : Nat) : Int)) ∧ w' = w := by
  have hPi : (P : Int) ≤ 30 := by omega
  have HM : Hid (IntKind.u64.wrap (IntKind.u64.wrap ((2 : Int) ^ P) - 1) = ((2 ^ P - 1 : Nat) : Int)) := ones_word P hP
  go_enter Tryz.func114, Tryz.ntmps114
  go_wp2
  go_ret
  exact ⟨ret_int HM.out, rfl⟩

set_option maxRecDepth 200000 in
set_option maxHeartbeats 1600000 in
theorem implHuff_any (s : ByteArray) (w : World) (hs : s.size ≤ 1099511627776) : Calls Tryz.prog 100 #[.string s] w fun e w' => ∃ (o : List Int) (a : Option Addr) (cap : Nat), e = .returned (.slice a o.length cap) ∧ Owns w' w.heap.size a o.length cap o ∧ HuffOf s.data.toList o ∧ Below w.heap.size w w' := by
  obtain ⟨i0, hi, hz0, hz1, hz2⟩ := info_parts Tryz.info5
  obtain ⟨Z, hZ⟩ : ∃ Z : List Int, List.replicate 257 0 = Z := ⟨_, rfl⟩
  have hz : ∀ w, (zeroValue 140).run Tryz.prog w = .ok (.agg (tabV Z)) w := by rw [← hZ]; exact zeroA
  have hzs : (tabV Z).size = (tabV lensI).size := by rw [tabV_size, tabV_size, ← hZ, List.length_replicate, lens_len]
  have hzc : (tabV Z).size = (tabV codesI).size := by rw [tabV_size, tabV_size, ← hZ, List.length_replicate, codes_len]
  clear hZ
  have HNl : Hid ((bitLen s.data.toList + 7) / 8 ≤ 4123168604160) := by
    show _ ≤ _
    have := bitLen_le s.data.toList
    rw [str_len] at this
    omega
  go_enter Tryz.func100, Tryz.ntmps100
  go_wp2_with fail
  refine (implLens_any w).mono ?_
  rintro e w1 ⟨rfl, hw1⟩
  have HB1 : Hid (Below w.heap.size w w1) := by
    show Below _ _ _
    rw [hw1]
    exact (Below.refl _ _).alloc (Nat.le_refl _) _
  clear hw1
  have hg2 := heap_alloc_last w1 (.cells (tabV lensI) 140)
  go_wp2_with (first
    | (refine wpList_store_row rfl 140 _ _ rfl w1.heap.size (tabV lensI) rfl rfl 140 (tabV Z) (heap_alloc_last w1 _) (sizeA lens_len) hzs (tabV_one _) ?_; rw [World.setRow_alloc_new])
    | (refine wpList_load_row rfl 140 _ rfl w1.heap.size rfl 140 (tabV lensI) (0, 0) _ hg2 Tryz.underlying140 rfl (sizeA lens_len) ?_))
  obtain ⟨w2, hw2⟩ : ∃ w2, w1.alloc (.cells (tabV lensI) 140) = w2 := ⟨_, rfl⟩
  have HT2 : Hid (Arr w2 w1.heap.size 140 lensI) := by show Arr _ _ _ _; rw [← hw2]; exact Arr.new w1 _ _
  have HB2 : Hid (Below w.heap.size w w2) := by show Below _ _ _; rw [← hw2]; exact HB1.out.alloc HB1.out.size _
  rw [hw2]
  clear hw2 hg2 hzs HB1
  obtain ⟨h, hh⟩ : ∃ h, w1.heap.size = h := ⟨_, rfl⟩
  rw [hh] at HT2 ⊢
  clear hh
  refine (implCodes_any w2).mono ?_
  rintro e w3 ⟨rfl, hb3⟩
  have HT3 : Hid (Arr w3 h 140 lensI) := HT2.out.stays hb3
  have HB3 : Hid (Below w.heap.size w w3) := HB2.out.trans (hb3.mono HB2.out.size)
  clear hb3 HT2 HB2
  go_wp2_with (refine wpList_store_row rfl 140 _ _ rfl w3.heap.size (tabV codesI) rfl rfl 140 (tabV Z) (heap_alloc_last w3 _) (sizeA codes_len) hzc (tabV_one _) ?_; rw [World.setRow_alloc_new])
  obtain ⟨w4, hw4⟩ : ∃ w4, w3.alloc (.cells (tabV codesI) 140) = w4 := ⟨_, rfl⟩
  have HC4 : Hid (Arr w4 w3.heap.size 140 codesI) := by show Arr _ _ _ _; rw [← hw4]; exact Arr.new w3 _ _
  have HT4 : Hid (Arr w4 h 140 lensI) := by show Arr _ _ _ _; rw [← hw4]; exact HT3.out.alloc _
  have HB4 : Hid (Below w.heap.size w w4) := by show Below _ _ _; rw [← hw4]; exact HB3.out.alloc HB3.out.size _
  rw [hw4]
  clear hw4 hzc hz HT3 HB3
  obtain ⟨g, hg⟩ : ∃ g, w3.heap.size = g := ⟨_, rfl⟩
  rw [hg] at HC4 ⊢
  clear hg
  refine (implHLen_any s w4 hs).mono ?_
  rintro e w5 ⟨rfl, hb5⟩
  have HC5 : Hid (Arr w5 g 140 codesI) := HC4.out.stays hb5
  have HT5 : Hid (Arr w5 h 140 lensI) := HT4.out.stays hb5
  have HB5 : Hid (Below w.heap.size w w5) := HB4.out.trans (hb5.mono HB4.out.size)
  clear hb5 HC4 HT4 HB4
  generalize (bitLen s.data.toList + 7) / 8 = n at *
  go_wp2_with (at_make; refine wpList_make_own _ rfl _ _ 27 rfl w5.heap.size 5 i0 (.int .u8 0) 1 Tryz.underlying27 hi hz0 hz1 .i64 .i64 (n : Int) n rfl rfl rfl (by rw [hz2]; have := HNl.out; omega) (by have := HNl.out; unfold maxLen; omega) (Nat.le_refl _) ?_; intro w6 hown6 hgrow6; refine Hid.out ?_)
  refine hidden ?_
  have HO6 : Hid (w6.ownsRow w5.heap.size 5 1 (.slice (some ⟨w5.heap.size, 0, none⟩) 0 n) 0 (([] : List Int).map (Value.int .u8))) := hown6
  have HB6 : Hid (Below w5.heap.size w5 w6) := (Below.refl _ _).grown hgrow6 (Nat.le_refl _) (fun _ e => by cases e)
  clear hown6 hgrow6 HNl
  obtain ⟨b, hb⟩ : ∃ b, w5.heap.size = b := ⟨_, rfl⟩
  rw [hb] at HO6 HB6 ⊢
  have hsi : (s.size : Int) ≤ 1099511627776 := by omega
  go_wp2_with fail
  go_loopw [5, 6, 7, 19] (fun v acc n i wr => ∃ (k N H : Nat) (o : List Int), k ≤ s.size ∧ i = .int .i64 k ∧ n = .int .i64 N ∧ acc = .int .u64 H ∧ N < 8 ∧ H < 18446744073709551616 ∧ Hid (byteBits o ++ bitsN N H = textBits (s.data.toList.take k)) ∧ Hid (∀ x ∈ o, 0 ≤ x ∧ x ≤ 255) ∧ Hid (wr.ownsRow b 5 1 v o.length (o.map (Value.int .u8))) ∧ Hid (Below b w5 wr)) (fun _ _ _ i _ => s.size - (intOf i).toNat)
  case atStart => exact ⟨0, 0, 0, [], Nat.zero_le _, rfl, rfl, rfl, by omega, by omega, rfl, by intro x hx; simp at hx, HO6, HB6⟩
  case round =>
    clear HO6 HB6
    obtain ⟨k, N, H, o, hk, rfl, rfl, rfl, hN, hH, HE, HR, HO, HB⟩ := hrel
    by_cases hlt : k < s.size
    · have hti : (k : Int) < (s.size : Int) := by omega
      have hstr := str_take_snoc s k hlt
      obtain ⟨c, hc⟩ : ∃ c, s[k] = c := ⟨_, rfl⟩
      rw [hc] at hstr
      have hcn : c.toNat < 256 := c.toNat_lt
      have hlc : wr.cell? ⟨h, c.toNat, none⟩ = some (.int .i64 (lenOf c)) := by
        rw [← lens_at]
        exact (HT5.out.stays (hb ▸ HB.out)).cell c.toNat (by rw [lens_len]; omega)
      have hcc : wr.cell? ⟨g, c.toNat, none⟩ = some (.int .i64 (codeOfB c)) := by
        rw [← codes_at]
        exact (HC5.out.stays (hb ▸ HB.out)).cell c.toNat (by rw [codes_len]; omega)
      have hL := lenOf_range c
      have hCL := codeOf_lt c
      have HE2 : Hid (byteBits o ++ bitsN (N + lenOf c) (H * 2 ^ lenOf c % 18446744073709551616 + codeOfB c) = textBits (s.data.toList.take (k + 1))) := by
        show _ = _
        rw [shl_bits _ _ _ _ (by omega) hCL, ← List.append_assoc, HE.out, hstr, textBits_snoc]
        rfl
      have hroom := shl_room H (lenOf c) (codeOfB c) (by omega) hCL
      have HVal : Hid (bits .or .u64 ((H * 2 ^ lenOf c % 18446744073709551616 : Nat) : Int) (codeOfB c : Int) = ((H * 2 ^ lenOf c % 18446744073709551616 + codeOfB c : Nat) : Int)) := or_shl H (lenOf c) (codeOfB c) (by omega) hCL
      have hCs : (codeOfB c : Int) < 1073741824 := by
        have h1 : 2 ^ lenOf c ≤ 2 ^ 30 := Nat.pow_le_pow_right (by decide) hL.2
        omega
      clear hstr hCL
      have hci : ((c.toNat : Nat) : Int) < 257 := by omega
      have hLi : (lenOf c : Int) ≤ 30 := by omega
      have hLi5 : (5 : Int) ≤ (lenOf c : Int) := by omega
      have HRoom : Hid (H * 2 ^ lenOf c % 18446744073709551616 + codeOfB c < 18446744073709551616) := hroom
      clear hroom
      go_wp2_with fail
      go_quiet (fail)
      have hval : bits .or .u64 (IntKind.u64.wrap ((H : Int) * 2 ^ lenOf c)) (codeOfB c : Int) = ((H * 2 ^ lenOf c % 18446744073709551616 + codeOfB c : Nat) : Int) := by
        have e1 : (H : Int) * 2 ^ lenOf c = ((H * 2 ^ lenOf c : Nat) : Int) := by simp
        rw [e1, word_nat]
        exact HVal.out
      rw [hval]
      have HOd : Hid ((wr.drewN nq).ownsRow b 5 1 u5 o.length (o.map (Value.int .u8))) := HO.out
      have HBd : Hid (Below b w5 (wr.drewN nq)) := below_drewN HB.out nq
      have hlcd : (wr.drewN nq).cell? ⟨h, c.toNat, none⟩ = some (.int .i64 (lenOf c)) := hlc
      generalize wr.drewN nq = wd at *
      clear hval HVal hlc hcc HO HB HE
      generalize H * 2 ^ lenOf c % 18446744073709551616 + codeOfB c = H2 at *
      generalize IntKind.u64.wrap ((H : Int) * 2 ^ lenOf c) = dead
      have HH2 : Hid (H2 < 18446744073709551616) := HRoom.out
      have hNL : (N : Int) + (lenOf c : Int) ≤ 37 := by omega
      generalize hTT : textBits (s.data.toList.take (k + 1)) = TT at *
      have HTT : Hid (textBits (s.data.toList.take (k + 1)) = TT) := hTT
      have HTL : Hid (TT.length ≤ 30 * (k + 1)) := by
        show _ ≤ _
        rw [← hTT]
        have := bitLen_le (s.data.toList.take (k + 1))
        unfold bitLen at this
        have h2 : (s.data.toList.take (k + 1)).length ≤ k + 1 := by rw [List.length_take]; omega
        omega
      clear hTT HRoom hH
      go_wp2_with fail
      go_loopw [5, 7] (fun v n wi => ∃ (M : Nat) (u : List Int), n = .int .i64 M ∧ M ≤ 37 ∧ Hid (byteBits u ++ bitsN M H2 = TT) ∧ Hid (∀ x ∈ u, 0 ≤ x ∧ x ≤ 255) ∧ Hid (wi.ownsRow b 5 1 v u.length (u.map (Value.int .u8))) ∧ Hid (Below b w5 wi)) (fun _ n _ => (intOf n).toNat)
      case atStart => exact ⟨N + lenOf c, o, by go_num, by omega, HE2, HR, HOd, HBd⟩
      case round =>
        clear HOd HBd HE2 HR hlcd
        obtain ⟨M, u, rfl, hM, HE, HR, HO, HB⟩ := hrel
        have hlen : 8 * u.length + M ≤ 30 * (k + 1) := by
          have h1 := HTL.out
          rw [← HE.out, List.length_append, byteBits_len, bitsN_len] at h1
          exact h1
        by_cases h8 : 8 ≤ M
        · obtain ⟨M8, hMe⟩ : ∃ M8, M = M8 + 8 := ⟨M - 8, by omega⟩
          have h8i : (8 : Int) ≤ (M : Int) := by omega
          have hsub : (M : Int) - 8 = (M8 : Int) := by omega
          have HE2 : Hid (byteBits (u ++ [((H2 / 2 ^ M8 % 256 : Nat) : Int)]) ++ bitsN M8 H2 = TT) := by
            show _ = _
            rw [byteBits_snoc, List.append_assoc, Int.toNat_natCast, ← shr_bits, ← hMe]
            exact HE.out
          have hq : H2 / 2 ^ M8 % 256 < 256 := Nat.mod_lt _ (by decide)
          have hdiv : (H2 : Int) / 2 ^ M8 = ((H2 / 2 ^ M8 : Nat) : Int) := by simp
          have hbyte : IntKind.u8.wrap ((H2 / 2 ^ M8 : Nat) : Int) = ((H2 / 2 ^ M8 % 256 : Nat) : Int) := byte_nat _
          generalize H2 / 2 ^ M8 = Q at *
          generalize Q % 256 = q at *
          have hq0 : (0 : Int) ≤ (q : Int) := by omega
          have hq1 : (q : Int) ≤ 255 := by omega
          have hM8 : (M8 : Int) ≤ 29 := by omega
          have HMe : Hid (M = M8 + 8) := hMe
          have hA : u.length + 1 ≤ maxLen ∧ (u.length + 1) * 1 ≤ 140737488355328 := ⟨by unfold maxLen; omega, by omega⟩
          clear hMe h8
          have hsz := HB.out.size
          have HN : Hid (∀ j v, [Value.int .u8 (q : Int)][j]? = some v → (wr.alloc (.cells #[.int .u8 (q : Int)] 5)).cell? ((⟨wr.heap.size, 0, none⟩ : Addr).add j) = some v) := one_new wr q
          have hbs : b ≤ wr.heap.size := by omega
          go_wp2_with (at_builtin; refine wpList_append_own _ rfl _ _ 27 rfl b 5 i0 (.int .u8 0) 1 1 Tryz.underlying27 hi hz0 hz1 hz2 rfl (by decide) u5 u.length _ rfl (HO.out.alloc _) ⟨wr.heap.size, 0, none⟩ 1 1 [.int .u8 (q : Int)] rfl rfl HN.out (ints_one [(q : Int)]) hA.1 hA.2 (by simp; omega) ?_; intro v2 w7 hown hgrow _; refine Hid.out ?_)
          refine hidden ?_
          have HB3 : Hid (Below b w5 w7) := (HB.out.alloc hbs _).grown hgrow (by simp; omega) (fun q hq => (HO.out.lt q hq).1)
          have HO3 : Hid (w7.ownsRow b 5 1 v2 (u ++ [(q : Int)]).length ((u ++ [(q : Int)]).map (Value.int .u8))) := by
            show World.ownsRow _ _ _ _ _ _ _
            rw [List.map_append, List.length_append]
            exact hown
          have HR3 : Hid (∀ x ∈ u ++ [(q : Int)], 0 ≤ x ∧ x ≤ 255) := by
            intro x hx
            rcases List.mem_append.1 hx with hx | hx
            · exact HR.out x hx
            · obtain rfl := List.mem_singleton.1 hx
              exact ⟨hq0, hq1⟩
          clear hown hgrow HO HB HN HR hbyte hdiv
          go_wp2_with fail
          go_roundw
          case rel => exact ⟨M8, u ++ [(q : Int)], by go_num, by omega, HE2, HR3, HO3, HB3⟩
          case measure =>
            have := HMe.out
            simp [intOf]
            omega
        · have hM8i : ¬ (8 : Int) ≤ (M : Int) := by omega
          go_wp2_with fail
          go_roundw
          case rel => exact ⟨k + 1, M, H2, u, by omega, by go_num, rfl, rfl, by omega, HH2.out, by show _ = _; rw [HE.out, HTT.out], HR, HO, HB⟩
          case measure => simp [intOf]; omega
    · have hks : k = s.size := by omega
      subst hks
      have HE' : Hid (byteBits o ++ bitsN N H = textBits s.data.toList) := by
        show _ = _
        rw [HE.out, List.take_of_length_le (by rw [str_len]; exact Nat.le_refl _)]
      clear HE
      have hlen : 8 * o.length + N ≤ 30 * s.size := by
        have h1 := bitLen_le s.data.toList
        unfold bitLen at h1
        rw [← HE'.out, List.length_append, byteBits_len, bitsN_len, str_len] at h1
        exact h1
      have hsz := HB.out.size
      have HBw : Hid (Below w.heap.size w wr) := HB5.out.trans (HB.out.mono (by have := HB5.out.size; omega))
      have hbw : w.heap.size ≤ b := by rw [← hb]; exact HB5.out.size
      clear hH
      by_cases hN0 : N = 0
      · subst hN0
        obtain ⟨a', cap', rfl⟩ := shape_of_owns HO.out
        go_wp2_with fail
        go_ret
        refine ⟨o, a', cap', rfl, ⟨?_, HR.out⟩, ⟨HR.out, 0, by omega, ?_⟩, HBw.out⟩
        · exact own_lower HO.out hbw
        · have := HE'.out
          simpa [bitsN] using this
      · obtain ⟨P, hP⟩ : ∃ P, 8 - N = P := ⟨_, rfl⟩
        have hPi : (8 : Int) - (N : Int) = (P : Int) := by omega
        have hP8 : 1 ≤ P ∧ P ≤ 7 := by omega
        have hp : 0 < 2 ^ P := Nat.pow_pos (by decide)
        have HE2 : Hid (byteBits (o ++ [(((H * 2 ^ P % 18446744073709551616 + (2 ^ P - 1)) % 256 : Nat) : Int)]) = textBits s.data.toList ++ List.replicate P true) := by
          show _ = _
          rw [byteBits_snoc, Int.toNat_natCast, last_byte N P H (by omega), ← List.append_assoc, HE'.out]
        have HVal : Hid (bits .or .u64 (IntKind.u64.wrap ((H : Int) * 2 ^ P)) ((2 ^ P - 1 : Nat) : Int) = ((H * 2 ^ P % 18446744073709551616 + (2 ^ P - 1) : Nat) : Int)) := by
          show bits _ _ _ _ = _
          have e1 : (H : Int) * 2 ^ P = ((H * 2 ^ P : Nat) : Int) := by simp
          rw [e1, word_nat]
          exact or_shl H P (2 ^ P - 1) (by omega) (by omega)
        have HOnes : Hid (∀ w, Calls Tryz.prog 114 #[.int .i64 (P : Int)] w fun e w' => e = .returned (.int .u64 ((2 ^ P - 1 : Nat) : Int)) ∧ w' = w) := fun w => onesOf_any P (by omega) w
        generalize 2 ^ P - 1 = OP at *
        generalize H * 2 ^ P % 18446744073709551616 + OP = X at *
        have hNp : (0 : Int) < (N : Int) := by omega
        have hPi7 : (P : Int) ≤ 7 := by omega
        clear hp
        have hval := HVal.out
        have hbyte : IntKind.u8.wrap (X : Int) = ((X % 256 : Nat) : Int) := byte_nat X
        have hXb : X % 256 < 256 := Nat.mod_lt _ (by decide)
        generalize X % 256 = q at *
        have hq0 : (0 : Int) ≤ (q : Int) := by omega
        have hq1 : (q : Int) ≤ 255 := by omega
        have hent : ∀ args w, (callFunc 114 args).run Tryz.prog w = .ok (.enter 114 args) w := Go.Proofs.enters_of Tryz.func114 (by kernel_rfl) rfl
        have HEnt : Hid (∀ args w, (callFunc 114 args).run Tryz.prog w = .ok (.enter 114 args) w) := hent
        clear hent
        have HOd : Hid ((wr.alloc (.cells #[.int .u8 (q : Int)] 5)).drew.ownsRow b 5 1 u5 o.length (o.map (Value.int .u8))) := HO.out.alloc _
        have HN : Hid (∀ j v, [Value.int .u8 (q : Int)][j]? = some v → (wr.alloc (.cells #[.int .u8 (q : Int)] 5)).drew.cell? ((⟨wr.heap.size, 0, none⟩ : Addr).add j) = some v) := one_new wr q
        have hW8 : b ≤ (wr.alloc (.cells #[.int .u8 (q : Int)] 5)).drew.heap.size := by simp; omega
        have HB8 : Hid (Below b w5 (wr.alloc (.cells #[.int .u8 (q : Int)] 5)).drew) := below_drewN (HB.out.alloc (by omega) _) 1
        have HW8 : Hid (b ≤ (wr.alloc (.cells #[.int .u8 (q : Int)] 5)).drew.heap.size) := hW8
        clear hW8
        have hA : o.length + 1 ≤ maxLen ∧ (o.length + 1) * 1 ≤ 140737488355328 := ⟨by unfold maxLen; omega, by omega⟩
        go_wp2_with fail
        go_region_law (first
          | (refine step_call_same rfl 114 (.tmp 60) 3 rfl HEnt.out (.int .i64 (P : Int)) (.int .u64 (OP : Int)) rfl (HOnes.out _) ?_)
          | (refine step_append_own rfl (.tmp 56) (.tmp 64) 27 rfl b 5 i0 (.int .u8 0) 1 1 Tryz.underlying27 hi hz0 hz1 hz2 rfl (by decide) u5 o.length _ rfl HOd.out ⟨wr.heap.size, 0, none⟩ 1 1 [.int .u8 (q : Int)] rfl rfl HN.out (ints_one [(q : Int)]) hA.1 hA.2 HW8.out ?_; intro v2 w7 hown hgrow))
        have HB3 : Hid (Below b w5 w7) := HB8.out.grown hgrow HW8.out (fun q hq => (HO.out.lt q hq).1)
        have HO3 : Hid (w7.ownsRow b 5 1 v2 (o ++ [(q : Int)]).length ((o ++ [(q : Int)]).map (Value.int .u8))) := by
          show World.ownsRow _ _ _ _ _ _ _
          rw [List.map_append, List.length_append]
          exact hown
        have HR3 : Hid (∀ x ∈ o ++ [(q : Int)], 0 ≤ x ∧ x ≤ 255) := by
          intro x hx
          rcases List.mem_append.1 hx with hx | hx
          · exact HR.out x hx
          · obtain rfl := List.mem_singleton.1 hx
            exact ⟨hq0, hq1⟩
        clear hown hgrow HO HB HN HR HOd HB8 HW8 hval hbyte
        obtain ⟨a', cap', rfl⟩ := shape_of_owns HO3.out
        go_wp2_with fail
        go_ret
        refine ⟨o ++ [(q : Int)], a', cap', by simp, ⟨?_, HR3.out⟩, ⟨HR3.out, P, by omega, HE2.out⟩, ?_⟩
        · exact own_lower HO3.out hbw
        · exact HB5.out.trans (HB3.out.mono (by have := HB5.out.size; omega))

end Go.Proofs.YtbaijmkghgnleaaGreatDoor

namespace Go.Proofs.YtbaijmkghgnleaaGreatDoor
open Go.RowKit
set_option linter.unusedVariables false

set_option maxRecDepth 10000 in
set_option maxHeartbeats 800000 in
theorem implPutS_any (sa : Option Addr) (len cap : Nat) (s : ByteArray) (zs : List Int) (w : World) (hs : Seg w sa len zs) (hl : len ≤ 1099511627776) (hsl : s.size ≤ 16777216) :
    Calls Tryz.prog 85 #[.slice sa len cap, .string s] w fun e w' => ∃ (q : List Int) (a' : Option Addr) (cap' : Nat), StrOf s q ∧ e = .returned (.slice a' (zs ++ q).length cap') ∧ Owns w' w.heap.size a' (zs ++ q).length cap' (zs ++ q) ∧ Below w.heap.size w w' := by
  obtain ⟨i0, hi, hz0, hz1, hz2⟩ := info_parts Tryz.info5
  have HS : Hid (Seg w sa len zs) := hs
  have hzl : zs.length = len := hs.1
  clear hs
  go_enter Tryz.func85, Tryz.ntmps85
  go_wp2_with fail
  refine (implHLen_any s _ (by omega)).mono ?_
  rintro e w1 ⟨rfl, hb1⟩
  have HB1 : Hid (Below w.heap.size w w1) := hb1
  clear hb1
  obtain ⟨n, hn⟩ : ∃ n : Nat, (bitLen s.data.toList + 7) / 8 = n := ⟨_, rfl⟩
  rw [hn]
  have HN : Hid (∀ o, HuffOf s.data.toList o → o.length = n) := fun o h => by rw [h.len, hn]
  have HE : Hid ((bitLen s.data.toList + 7) / 8 = n) := hn
  clear hn
  by_cases hlt : n < s.size
  · have hd : decide ((n : Int) < (s.size : Int)) = true := by simp; omega
    have hdp : ((n : Int) < (s.size : Int)) = True := by simp; omega
    go_wp2_with fail
    refine (implPfx_good sa len cap 7 128 (n : Int) zs _ (HS.out.below HB1.out) hl (by decide) (by decide) (by decide)).mono ?_
    rintro e w2 ⟨a2, c2, rfl, ow2, hb2⟩
    have hmin : (min (n : Int) 16777216).toNat = n := by omega
    rw [hmin] at ow2 ⊢
    clear hmin
    have hpl : 0 < (pfx 7 128 n).length := by unfold pfx; split <;> simp
    have hpl6 := pfx_len 7 128 n
    obtain ⟨g, rfl, hg1, hg2⟩ := ow2.some (by rw [List.length_append]; omega)
    have HO2 : Hid (Owns w2 w1.heap.size (some ⟨g, 0, none⟩) (zs ++ pfx 7 128 n).length c2 (zs ++ pfx 7 128 n)) := ow2
    have HB2 : Hid (Below w.heap.size w w2) := HB1.out.trans (hb2.mono HB1.out.size)
    have HZ1 : Hid (w.heap.size ≤ w1.heap.size) := HB1.out.size
    clear ow2 hb2 HB1
    have hll : (zs ++ pfx 7 128 n).length = len + (pfx 7 128 n).length := by rw [List.length_append, hzl]
    have HR : Hid (∀ x ∈ zs ++ pfx 7 128 n, 0 ≤ x ∧ x ≤ 255) := HO2.out.2
    generalize hP : zs ++ pfx 7 128 n = P at *
    have HP : Hid (zs ++ pfx 7 128 n = P) := hP
    clear hP
    generalize hpn : P.length = pn at *
    have hpb : pn ≤ len + 6 := by omega
    have HPn : Hid (P.length = pn) := hpn
    clear hpn hll hpl hpl6
    go_wp2_with fail
    refine (implHuff_any s _ (by omega)).mono ?_
    rintro e w3 ⟨o, a3, c3, rfl, ow3, hf3, hb3⟩
    have hol := HN.out o hf3
    have HO3 : Hid (Owns w3 w1.heap.size (some ⟨g, 0, none⟩) pn c2 P) := HO2.out.below hb3
    have HH3 : Hid (Owns w3 w2.heap.size a3 n c3 o) := by rw [← hol]; exact ow3
    have HB3 : Hid (Below w.heap.size w w3) := HB2.out.trans (hb3.mono HB2.out.size)
    have HSrc : Hid (Src Tryz.prog 1 27 (.slice a3 n c3) n (o.map (Value.int .u8)) w3) := Src.ofSeg Tryz.underlying27 HH3.out.seg HH3.out.none
    have HBs : Hid (w1.heap.size ≤ w3.heap.size) := by have h1 := (HO2.out.lt g rfl); have h2 := hb3.size; show _ ≤ _; omega
    rw [hol]
    clear ow3 hb3 HO2 HB2
    have HF : Hid (HuffOf s.data.toList o) := hf3
    have HOL : Hid (o.length = n) := hol
    clear hf3 hol
    have hA : pn + n ≤ maxLen := by unfold maxLen; omega
    have hA2 : (pn + n) * 1 ≤ 140737488355328 := by omega
    go_wp2_with (at_builtin; refine wpList_append_any rfl _ _ 27 27 rfl w1.heap.size 5 i0 (.int .u8 0) 1 1 Tryz.underlying27 hi hz0 hz1 hz2 rfl (by decide) g pn c2 (P.map (Value.int .u8)) rfl HO3.out.1 (.slice a3 n c3) n (o.map (Value.int .u8)) rfl HSrc.out hA hA2 HBs.out ?_; intro v4 w4 hown hgrow; refine Hid.out ?_)
    refine hidden ?_
    obtain ⟨a4, c4, rfl⟩ := shape_of_owns hown
    have HB4 : Hid (Below w.heap.size w w4) := HB3.out.grown hgrow (by have := HB3.out.size; omega) (fun k hk => by injection hk with hk; have := HZ1.out; omega)
    have HO4 : Hid (w4.ownsRow w1.heap.size 5 1 (.slice a4 (pn + n) c4) (pn + n) (P.map (Value.int .u8) ++ o.map (Value.int .u8))) := hown
    clear hown hgrow HO3 HSrc HB3
    go_wp2_with fail
    go_ret
    refine ⟨pfx 7 128 n ++ o, a4, c4, by rw [StrOf, HE.out]; exact .inl ⟨hlt, o, HF.out, by rw [HOL.out]⟩, ?_, ⟨?_, ?_⟩, HB4.out⟩
    · rw [← List.append_assoc, HP.out, List.length_append, HPn.out, HOL.out]
      rfl
    · rw [← List.append_assoc, HP.out, List.length_append, HPn.out, HOL.out, List.map_append]
      exact own_lower HO4.out HZ1.out
    · intro x hx
      rw [← List.append_assoc, HP.out] at hx
      rcases List.mem_append.1 hx with hx | hx
      · exact HR.out x hx
      · exact HF.out.1 x hx
  · have hd : decide ((n : Int) < (s.size : Int)) = false := by simp; omega
    have hdp : ((n : Int) < (s.size : Int)) = False := by simp; omega
    go_wp2_with fail
    refine (implPfx_good sa len cap 7 0 (s.size : Int) zs _ (HS.out.below HB1.out) hl (by decide) (by decide) (by decide)).mono ?_
    rintro e w2 ⟨a2, c2, rfl, ow2, hb2⟩
    have hmin : (min (s.size : Int) 16777216).toNat = s.size := by omega
    rw [hmin] at ow2 ⊢
    clear hmin
    have hpl : 0 < (pfx 7 0 s.size).length := by unfold pfx; split <;> simp
    have hpl6 := pfx_len 7 0 s.size
    obtain ⟨g, rfl, hg1, hg2⟩ := ow2.some (by rw [List.length_append]; omega)
    have HO2 : Hid (Owns w2 w1.heap.size (some ⟨g, 0, none⟩) (zs ++ pfx 7 0 s.size).length c2 (zs ++ pfx 7 0 s.size)) := ow2
    have HB2 : Hid (Below w.heap.size w w2) := HB1.out.trans (hb2.mono HB1.out.size)
    have HZ1 : Hid (w.heap.size ≤ w1.heap.size) := HB1.out.size
    clear ow2 hb2 HB1
    have hll : (zs ++ pfx 7 0 s.size).length = len + (pfx 7 0 s.size).length := by rw [List.length_append, hzl]
    have HR : Hid (∀ x ∈ zs ++ pfx 7 0 s.size, 0 ≤ x ∧ x ≤ 255) := HO2.out.2
    have HBs : Hid (w1.heap.size ≤ w2.heap.size) := by have h1 := (HO2.out.lt g rfl); show _ ≤ _; omega
    generalize hP : zs ++ pfx 7 0 s.size = P at *
    have HP : Hid (zs ++ pfx 7 0 s.size = P) := hP
    clear hP
    generalize hpn : P.length = pn at *
    have hpb : pn ≤ len + 6 := by omega
    have HPn : Hid (P.length = pn) := hpn
    clear hpn hll hpl hpl6
    have HSrc : Hid (Src Tryz.prog 1 9 (.string s) s.size (byteCells s) w2) := Src.ofString w2 Tryz.underlying9 s
    have hA : pn + s.size ≤ maxLen := by unfold maxLen; omega
    have hA2 : (pn + s.size) * 1 ≤ 140737488355328 := by omega
    go_wp2_with (at_builtin; refine wpList_append_any rfl _ _ 27 9 rfl w1.heap.size 5 i0 (.int .u8 0) 1 1 Tryz.underlying27 hi hz0 hz1 hz2 rfl (by decide) g pn c2 (P.map (Value.int .u8)) rfl HO2.out.1 (.string s) s.size (byteCells s) rfl HSrc.out hA hA2 HBs.out ?_; intro v4 w4 hown hgrow; refine Hid.out ?_)
    refine hidden ?_
    obtain ⟨a4, c4, rfl⟩ := shape_of_owns hown
    have HB4 : Hid (Below w.heap.size w w4) := HB2.out.grown hgrow (by have := HB2.out.size; omega) (fun k hk => by injection hk with hk; have := HZ1.out; omega)
    have HO4 : Hid (w4.ownsRow w1.heap.size 5 1 (.slice a4 (pn + s.size) c4) (pn + s.size) (P.map (Value.int .u8) ++ byteCells s)) := hown
    clear hown hgrow HO2 HSrc HB2
    go_wp2_with fail
    go_ret
    refine ⟨pfx 7 0 s.size ++ asInts s.data.toList, a4, c4, by rw [StrOf, HE.out]; exact .inr ⟨hlt, rfl⟩, ?_, ⟨?_, ?_⟩, HB4.out⟩
    · rw [← List.append_assoc, HP.out, List.length_append, HPn.out, asInts_len, str_len]
      rfl
    · rw [← List.append_assoc, HP.out, List.length_append, HPn.out, asInts_len, str_len, List.map_append, ← byteCells_ints]
      exact own_lower HO4.out HZ1.out
    · intro x hx
      rw [← List.append_assoc, HP.out] at hx
      rcases List.mem_append.1 hx with hx | hx
      · exact HR.out x hx
      · exact asInts_range _ x hx

end Go.Proofs.YtbaijmkghgnleaaGreatDoor

namespace Go.Proofs.YtbaijmkghgnleaaGreatDoor
open Go.RowKit
set_option linter.unusedVariables false

abbrev Fld := ByteArray × ByteArray

/-- The cells of a row of fields. -/
def fieldCells (fs : List Fld) : List Value := fs.flatMap fun f => [.string f.1, .string f.2]

theorem fieldCells_len (fs : List Fld) : (fieldCells fs).length = 2 * fs.length := by
  induction fs with
  | nil => rfl
  | cons f fs ih => simp only [fieldCells, List.flatMap_cons, List.length_append, List.length_cons, List.length_nil] at ih ⊢; omega

theorem fieldCells_at (fs : List Fld) : ∀ i (hi : i < fs.length), (fieldCells fs)[2 * i]? = some (.string (fs[i]).1) ∧ (fieldCells fs)[2 * i + 1]? = some (.string (fs[i]).2) := by
  induction fs with
  | nil => intro i hi; simp at hi
  | cons f fs ih =>
    intro i hi
    have e : fieldCells (f :: fs) = .string f.1 :: .string f.2 :: fieldCells fs := rfl
    rw [e]
    cases i with
    | zero => simp
    | succ i =>
      have h2 : 2 * (i + 1) = 2 * i + 1 + 1 := by omega
      have := ih i (by simpa using hi)
      rw [h2]
      simpa using this

/-- The slice (a, n) holds the fields fs in the world w. -/
def Flds (w : World) (a : Option Addr) (n : Nat) (fs : List Fld) : Prop :=
  fs.length = n ∧ (∀ f ∈ fs, f.1.size ≤ maxLen ∧ f.2.size ≤ maxLen) ∧
  (n = 0 ∨ ∃ b off, a = some ⟨b, off, none⟩ ∧ b < w.heap.size ∧ ∀ i (hi : i < fs.length), w.cell? ⟨b, off + i * 2, none⟩ = some (.string (fs[i]).1) ∧ w.cell? ⟨b, off + i * 2 + 1, none⟩ = some (.string (fs[i]).2))

theorem Flds.below {w w' : World} {a : Option Addr} {n : Nat} {fs : List Fld} (h : Flds w a n fs) (hb : Below w.heap.size w w') : Flds w' a n fs := by
  obtain ⟨h1, h2, h3⟩ := h
  refine ⟨h1, h2, ?_⟩
  rcases h3 with h0 | ⟨b, off, ha, hlt, hc⟩
  · exact .inl h0
  · exact .inr ⟨b, off, ha, Nat.lt_of_lt_of_le hlt hb.size, fun i hi => ⟨(hb.cell (p := ⟨b, off + i * 2, none⟩) hlt).trans (hc i hi).1, (hb.cell (p := ⟨b, off + i * 2 + 1, none⟩) hlt).trans (hc i hi).2⟩⟩

/-- A row of fields from its block. -/
theorem Flds.ofRow {w : World} {g : Nat} {t : TypeId} {fs : List Fld} (h : w.heap[g]? = some (.cells (fieldCells fs).toArray t (0, 0))) (hs : ∀ f ∈ fs, f.1.size ≤ maxLen ∧ f.2.size ≤ maxLen) : Flds w (some ⟨g, 0, none⟩) fs.length fs := by
  refine ⟨rfl, hs, .inr ⟨g, 0, rfl, (Array.getElem?_eq_some_iff.1 h).1, fun i hi => ?_⟩⟩
  have := fieldCells_at fs i hi
  rw [Nat.mul_comm 2 i] at this
  rw [cell_of_row w g _ _ t (0, 0) h, cell_of_row w g _ _ t (0, 0) h, Nat.zero_add]
  simpa using this

/-- The cells at one index. -/
theorem Flds.at {w : World} {a : Option Addr} {n : Nat} {fs : List Fld} (h : Flds w a n fs) {k : Nat} (hk : k < n) : ∃ b off x y, a = some ⟨b, off, none⟩ ∧ b < w.heap.size ∧ fs[k]? = some (x, y) ∧ w.cell? ⟨b, off + k * 2, none⟩ = some (.string x) ∧ w.cell? ⟨b, off + k * 2 + 1, none⟩ = some (.string y) := by
  obtain ⟨h1, h2, h3⟩ := h
  rcases h3 with h0 | ⟨b, off, ha, hlt, hc⟩
  · omega
  · have hk' : k < fs.length := by omega
    exact ⟨b, off, (fs[k]).1, (fs[k]).2, ha, hlt, List.getElem?_eq_getElem hk', (hc k hk').1, (hc k hk').2⟩

/-- The first fields. -/
def firstL : List Fld := [
  (⟨#[58, 97, 117, 116, 104, 111, 114, 105, 116, 121]⟩, ⟨#[]⟩),
  (⟨#[58, 109, 101, 116, 104, 111, 100]⟩, ⟨#[71, 69, 84]⟩),
  (⟨#[58, 109, 101, 116, 104, 111, 100]⟩, ⟨#[80, 79, 83, 84]⟩),
  (⟨#[58, 112, 97, 116, 104]⟩, ⟨#[47]⟩),
  (⟨#[58, 112, 97, 116, 104]⟩, ⟨#[47, 105, 110, 100, 101, 120, 46, 104, 116, 109, 108]⟩),
  (⟨#[58, 115, 99, 104, 101, 109, 101]⟩, ⟨#[104, 116, 116, 112]⟩),
  (⟨#[58, 115, 99, 104, 101, 109, 101]⟩, ⟨#[104, 116, 116, 112, 115]⟩),
  (⟨#[58, 115, 116, 97, 116, 117, 115]⟩, ⟨#[50, 48, 48]⟩),
  (⟨#[58, 115, 116, 97, 116, 117, 115]⟩, ⟨#[50, 48, 52]⟩),
  (⟨#[58, 115, 116, 97, 116, 117, 115]⟩, ⟨#[50, 48, 54]⟩),
  (⟨#[58, 115, 116, 97, 116, 117, 115]⟩, ⟨#[51, 48, 52]⟩),
  (⟨#[58, 115, 116, 97, 116, 117, 115]⟩, ⟨#[52, 48, 48]⟩),
  (⟨#[58, 115, 116, 97, 116, 117, 115]⟩, ⟨#[52, 48, 52]⟩),
  (⟨#[58, 115, 116, 97, 116, 117, 115]⟩, ⟨#[53, 48, 48]⟩),
  (⟨#[97, 99, 99, 101, 112, 116, 45, 99, 104, 97, 114, 115, 101, 116]⟩, ⟨#[]⟩),
  (⟨#[97, 99, 99, 101, 112, 116, 45, 101, 110, 99, 111, 100, 105, 110, 103]⟩, ⟨#[103, 122, 105, 112, 44, 32, 100, 101, 102, 108, 97, 116, 101]⟩),
  (⟨#[97, 99, 99, 101, 112, 116, 45, 108, 97, 110, 103, 117, 97, 103, 101]⟩, ⟨#[]⟩),
  (⟨#[97, 99, 99, 101, 112, 116, 45, 114, 97, 110, 103, 101, 115]⟩, ⟨#[]⟩),
  (⟨#[97, 99, 99, 101, 112, 116]⟩, ⟨#[]⟩),
  (⟨#[97, 99, 99, 101, 115, 115, 45, 99, 111, 110, 116, 114, 111, 108, 45, 97, 108, 108, 111, 119, 45, 111, 114, 105, 103, 105, 110]⟩, ⟨#[]⟩),
  (⟨#[97, 103, 101]⟩, ⟨#[]⟩),
  (⟨#[97, 108, 108, 111, 119]⟩, ⟨#[]⟩),
  (⟨#[97, 117, 116, 104, 111, 114, 105, 122, 97, 116, 105, 111, 110]⟩, ⟨#[]⟩),
  (⟨#[99, 97, 99, 104, 101, 45, 99, 111, 110, 116, 114, 111, 108]⟩, ⟨#[]⟩),
  (⟨#[99, 111, 110, 116, 101, 110, 116, 45, 100, 105, 115, 112, 111, 115, 105, 116, 105, 111, 110]⟩, ⟨#[]⟩),
  (⟨#[99, 111, 110, 116, 101, 110, 116, 45, 101, 110, 99, 111, 100, 105, 110, 103]⟩, ⟨#[]⟩),
  (⟨#[99, 111, 110, 116, 101, 110, 116, 45, 108, 97, 110, 103, 117, 97, 103, 101]⟩, ⟨#[]⟩),
  (⟨#[99, 111, 110, 116, 101, 110, 116, 45, 108, 101, 110, 103, 116, 104]⟩, ⟨#[]⟩),
  (⟨#[99, 111, 110, 116, 101, 110, 116, 45, 108, 111, 99, 97, 116, 105, 111, 110]⟩, ⟨#[]⟩),
  (⟨#[99, 111, 110, 116, 101, 110, 116, 45, 114, 97, 110, 103, 101]⟩, ⟨#[]⟩),
  (⟨#[99, 111, 110, 116, 101, 110, 116, 45, 116, 121, 112, 101]⟩, ⟨#[]⟩),
  (⟨#[99, 111, 111, 107, 105, 101]⟩, ⟨#[]⟩),
  (⟨#[100, 97, 116, 101]⟩, ⟨#[]⟩),
  (⟨#[101, 116, 97, 103]⟩, ⟨#[]⟩),
  (⟨#[101, 120, 112, 101, 99, 116]⟩, ⟨#[]⟩),
  (⟨#[101, 120, 112, 105, 114, 101, 115]⟩, ⟨#[]⟩),
  (⟨#[102, 114, 111, 109]⟩, ⟨#[]⟩),
  (⟨#[104, 111, 115, 116]⟩, ⟨#[]⟩),
  (⟨#[105, 102, 45, 109, 97, 116, 99, 104]⟩, ⟨#[]⟩),
  (⟨#[105, 102, 45, 109, 111, 100, 105, 102, 105, 101, 100, 45, 115, 105, 110, 99, 101]⟩, ⟨#[]⟩),
  (⟨#[105, 102, 45, 110, 111, 110, 101, 45, 109, 97, 116, 99, 104]⟩, ⟨#[]⟩),
  (⟨#[105, 102, 45, 114, 97, 110, 103, 101]⟩, ⟨#[]⟩),
  (⟨#[105, 102, 45, 117, 110, 109, 111, 100, 105, 102, 105, 101, 100, 45, 115, 105, 110, 99, 101]⟩, ⟨#[]⟩),
  (⟨#[108, 97, 115, 116, 45, 109, 111, 100, 105, 102, 105, 101, 100]⟩, ⟨#[]⟩),
  (⟨#[108, 105, 110, 107]⟩, ⟨#[]⟩),
  (⟨#[108, 111, 99, 97, 116, 105, 111, 110]⟩, ⟨#[]⟩),
  (⟨#[109, 97, 120, 45, 102, 111, 114, 119, 97, 114, 100, 115]⟩, ⟨#[]⟩),
  (⟨#[112, 114, 111, 120, 121, 45, 97, 117, 116, 104, 101, 110, 116, 105, 99, 97, 116, 101]⟩, ⟨#[]⟩),
  (⟨#[112, 114, 111, 120, 121, 45, 97, 117, 116, 104, 111, 114, 105, 122, 97, 116, 105, 111, 110]⟩, ⟨#[]⟩),
  (⟨#[114, 97, 110, 103, 101]⟩, ⟨#[]⟩),
  (⟨#[114, 101, 102, 101, 114, 101, 114]⟩, ⟨#[]⟩),
  (⟨#[114, 101, 102, 114, 101, 115, 104]⟩, ⟨#[]⟩),
  (⟨#[114, 101, 116, 114, 121, 45, 97, 102, 116, 101, 114]⟩, ⟨#[]⟩),
  (⟨#[115, 101, 114, 118, 101, 114]⟩, ⟨#[]⟩),
  (⟨#[115, 101, 116, 45, 99, 111, 111, 107, 105, 101]⟩, ⟨#[]⟩),
  (⟨#[115, 116, 114, 105, 99, 116, 45, 116, 114, 97, 110, 115, 112, 111, 114, 116, 45, 115, 101, 99, 117, 114, 105, 116, 121]⟩, ⟨#[]⟩),
  (⟨#[116, 114, 97, 110, 115, 102, 101, 114, 45, 101, 110, 99, 111, 100, 105, 110, 103]⟩, ⟨#[]⟩),
  (⟨#[117, 115, 101, 114, 45, 97, 103, 101, 110, 116]⟩, ⟨#[]⟩),
  (⟨#[118, 97, 114, 121]⟩, ⟨#[]⟩),
  (⟨#[118, 105, 97]⟩, ⟨#[]⟩),
  (⟨#[119, 119, 119, 45, 97, 117, 116, 104, 101, 110, 116, 105, 99, 97, 116, 101]⟩, ⟨#[]⟩)]

theorem firstL_len : firstL.length = 61 := by decide +kernel
set_option maxRecDepth 100000 in
theorem firstL_size : ∀ f ∈ firstL, f.1.size ≤ maxLen ∧ f.2.size ≤ maxLen := by decide +kernel

end Go.Proofs.YtbaijmkghgnleaaGreatDoor

namespace Go.Proofs.YtbaijmkghgnleaaGreatDoor
open Go.RowKit
set_option linter.unusedVariables false

theorem made_two (v : Value) (n : Nat) : (madeCells #[v, v] n).toList = List.replicate n v := by
  apply List.ext_getElem?
  intro j
  by_cases hj : j < n
  · have : j % 2 = 0 ∨ j % 2 = 1 := by omega
    rcases this with h | h <;> simp [madeCells, hj, h]
  · simp [madeCells, hj]

abbrev fnil : Fld := (⟨#[]⟩, ⟨#[]⟩)

theorem fieldCells_nil (n : Nat) : fieldCells (List.replicate n fnil) = List.replicate (n * 2) (.string ⟨#[]⟩) := by
  induction n with
  | zero => rfl
  | succ n ih =>
    rw [show (n + 1) * 2 = n * 2 + 1 + 1 by omega, List.replicate_succ, List.replicate_succ, List.replicate_succ, ← ih]
    rfl

theorem fieldCells_set (fs : List Fld) (x y : ByteArray) : ∀ k, k < fs.length → ((fieldCells fs).set (k * 2) (.string x)).set (k * 2 + 1) (.string y) = fieldCells (fs.set k (x, y)) := by
  induction fs with
  | nil => intro k hk; simp at hk
  | cons f fs ih =>
    intro k hk
    have e : fieldCells (f :: fs) = .string f.1 :: .string f.2 :: fieldCells fs := rfl
    rw [e]
    cases k with
    | zero => rfl
    | succ k =>
      rw [show (k + 1) * 2 = k * 2 + 1 + 1 by omega]
      have := ih k (by simpa using hk)
      simp only [List.set_cons_succ]
      rw [this]
      rfl

/-- A row that is copied up to k. -/
def rowTo (xs : List Fld) (len k : Nat) : List Fld := xs.take k ++ List.replicate (len - k) fnil

theorem rowTo_step (xs : List Fld) (len k : Nat) (x y : ByteArray) (h : xs[k]? = some (x, y)) (hk : k < len) : (rowTo xs len k).set k (x, y) = rowTo xs len (k + 1) := by
  have hl : k < xs.length := (List.getElem?_eq_some_iff.1 h).1
  have ht : (xs.take k).length = k := by simp; omega
  rw [rowTo, rowTo, List.set_append_right k _ (by omega), ht, Nat.sub_self, List.take_add_one, h, show len - k = (len - (k + 1)) + 1 by omega, List.replicate_succ]
  simp

theorem rowTo_len (xs : List Fld) (len k : Nat) (h : xs.length = len) (hk : k ≤ len) : (rowTo xs len k).length = len := by
  simp [rowTo]; omega

theorem info_field : (Tryz.prog.info? 69).map (fun i => (i.zero, i.size, i.bytes)) = some (some (.agg #[.string ⟨#[]⟩, .string ⟨#[]⟩]), 2, 32) := by kernel_rfl

theorem Flds.other {w : World} {g n : Nat} {fs : List Fld} (h : Flds w (some ⟨g, 0, none⟩) n fs) {p : Addr} (hp : g ≠ p.block) (v : Value) : Flds (w.setCell p v) (some ⟨g, 0, none⟩) n fs := by
  obtain ⟨h1, h2, h3⟩ := h
  refine ⟨h1, h2, ?_⟩
  rcases h3 with h0 | ⟨b, off, ha, hlt, hc⟩
  · exact .inl h0
  · have hb : b = g := by simp at ha; omega
    subst hb
    have hs : (w.setCell p v).heap[b]? = w.heap[b]? := Below.heap_setCell w p v b hp
    exact .inr ⟨b, off, ha, Nat.lt_of_lt_of_le hlt ((Below.refl 0 w).setCell (Nat.zero_le _) v).size, fun i hi => ⟨(World.cell?_of_block (w := w) (a := ⟨b, _, none⟩) hs).trans (hc i hi).1, (World.cell?_of_block (w := w) (a := ⟨b, _, none⟩) hs).trans (hc i hi).2⟩⟩

end Go.Proofs.YtbaijmkghgnleaaGreatDoor

namespace Go.Proofs.YtbaijmkghgnleaaGreatDoor
open Go.RowKit
set_option linter.unusedVariables false

/-- The bytes of fields. -/
def fldBytes (fs : List Fld) : Nat := (fs.map fun f => f.1.size + f.2.size).sum

theorem fldBytes_step (fs : List Fld) (k : Nat) (x y : ByteArray) (h : fs[k]? = some (x, y)) : fldBytes (fs.take (k + 1)) = fldBytes (fs.take k) + (x.size + y.size) := by
  rw [List.take_add_one, h]
  simp [fldBytes]

theorem fldBytes_take (xs : List Fld) (k : Nat) : fldBytes (xs.take k) ≤ fldBytes xs := by
  have : fldBytes (xs.take k) + fldBytes (xs.drop k) = fldBytes xs := by
    rw [fldBytes, fldBytes, fldBytes, ← List.sum_append, ← List.map_append, List.take_append_drop]
  omega

/-- What fields count for: their bytes, and 32 each. -/
def szL (xs : List Fld) : Nat := 32 * xs.length + fldBytes xs

theorem szL_nil : szL [] = 0 := rfl
theorem szL_cons (f : Fld) (xs : List Fld) : szL (f :: xs) = 32 + f.1.size + f.2.size + szL xs := by
  simp [szL, fldBytes]
  omega

theorem szL_take_step (xs : List Fld) (k : Nat) (hk : k < xs.length) : szL (xs.take (k + 1)) = szL (xs.take k) + (32 + (xs[k]).1.size + (xs[k]).2.size) := by
  have h := fldBytes_step xs k (xs[k]).1 (xs[k]).2 (by rw [List.getElem?_eq_getElem hk])
  simp only [szL, List.length_take]
  rw [h]
  omega

theorem szL_take_mono (xs : List Fld) (j k : Nat) (hjk : j ≤ k) : szL (xs.take j) ≤ szL (xs.take k) := by
  induction k with
  | zero => obtain rfl : j = 0 := by omega
            exact Nat.le_refl _
  | succ k ih =>
    by_cases h : j = k + 1
    · rw [h]; exact Nat.le_refl _
    · have h1 := ih (by omega)
      by_cases hk : k < xs.length
      · have := szL_take_step xs k hk
        omega
      · rw [List.take_of_length_le (by omega : xs.length ≤ k)] at h1
        rw [List.take_of_length_le (by omega : xs.length ≤ k + 1)]
        exact h1

theorem szL_take_le (xs : List Fld) (k : Nat) : szL (xs.take k) ≤ szL xs := by
  by_cases h : k ≤ xs.length
  · have := szL_take_mono xs k xs.length h
    rwa [List.take_length] at this
  · rw [List.take_of_length_le (by omega)]
    exact Nat.le_refl _

/-- Just k of the fields fit into m. -/
def FitN (m : Nat) (xs : List Fld) (k : Nat) : Prop := k ≤ xs.length ∧ szL (xs.take k) ≤ m ∧ (k = xs.length ∨ m < szL (xs.take (k + 1)))

theorem FitN.one {m : Nat} {xs : List Fld} {j k : Nat} (h : FitN m xs j) (g : FitN m xs k) : j = k := by
  obtain ⟨h1, h2, h3⟩ := h
  obtain ⟨g1, g2, g3⟩ := g
  rcases Nat.lt_trichotomy j k with hl | he | hg
  · exfalso
    rcases h3 with h3 | h3
    · omega
    · have := szL_take_mono xs (j + 1) k (by omega)
      omega
  · exact he
  · exfalso
    rcases g3 with g3 | g3
    · omega
    · have := szL_take_mono xs (k + 1) j (by omega)
      omega

/-- A table that is right. -/
def okT (m : Int) (xs : List Fld) : Bool := decide (0 ≤ m ∧ m ≤ 4096 ∧ (szL xs : Int) ≤ m)

/-- What FirstField answers. -/
def firstAns (i : Int) : Fld × Bool := if 1 ≤ i ∧ i ≤ 61 then (firstL.getD (i - 1).toNat (⟨#[]⟩, ⟨#[]⟩), true) else ((⟨#[]⟩, ⟨#[]⟩), false)

end Go.Proofs.YtbaijmkghgnleaaGreatDoor
