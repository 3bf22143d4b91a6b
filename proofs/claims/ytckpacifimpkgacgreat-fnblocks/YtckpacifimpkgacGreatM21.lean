/- What the specification's Huff answers: the one list of bytes that is the code of the text, in memory of its own. For texts of at most 2^40 bytes. The specification's l3Find: the byte whose code this is, or none. What the specification's UnHuff answers: the one text whose code these bytes are, and true; else nothing, and false. For lists of at most 2^40 bytes. What the specification's GetString answers over at most 4000 bytes: the text and the place behind it, or nothing. The specification's first fields: a row in memory of its own. -/
import Derived.Test.YtckpacifimpkgacGreatM20
import Derived.Test.YtckpacifimpkgacGreatM03
import Derived.Test.YtckpacifimpkgacGreatM02
import Derived.Test.YtckpacifimpkgacGreatM16
import Derived.Test.YtckpacifimpkgacGreatM04
import Derived.Test.YtckpacifimpkgacGreatM07
namespace Go.Proofs.YtckpacifimpkgacGreat
open Go.RowKit
set_option linter.unusedVariables false

set_option maxRecDepth 10000 in
set_option maxHeartbeats 1600000 in
theorem specHuff_any (s : ByteArray) (w : World) (hs : s.size ≤ 1099511627776) : Calls Tryz.prog 86 #[.string s] w fun e w' => ∃ (o : List Int) (a : Option Addr) (cap : Nat), e = .returned (.slice a o.length cap) ∧ Owns w' w.heap.size a o.length cap o ∧ HuffOf s.data.toList o ∧ Below w.heap.size w w' := by
  obtain ⟨i0, hi, hz0, hz1, hz2⟩ := info_parts Tryz.info5
  go_enter Tryz.func86, Tryz.ntmps86
  go_wp2_with fail
  refine (specLens_any w).mono ?_
  rintro e w1 ⟨rfl, hw1⟩
  have HT : Hid (Nums w1 w.heap.size lensI) := by
    show Nums _ _ _
    rw [hw1]
    exact Tab.nums (heap_alloc_new w _)
  have HB1 : Hid (Below w.heap.size w w1) := by
    show Below _ _ _
    rw [hw1]
    exact (Below.refl _ _).alloc (Nat.le_refl _) _
  have hs1 : w1.heap.size = w.heap.size + 1 := by rw [hw1]; simp
  clear hw1
  go_wp2_with fail
  refine (specCodes_any w1).mono ?_
  rintro e w2 ⟨g, rfl, hn2, hg, hb2⟩
  have HC2 : Hid (Nums w2 g codesI) := hn2
  have HT2 : Hid (Nums w2 w.heap.size lensI) := HT.out.stays hb2
  have HB2 : Hid (Below w.heap.size w w2) := HB1.out.trans (hb2.mono (by omega))
  clear hn2 hb2 HT HB1
  obtain ⟨h, hh⟩ : ∃ h, w.heap.size = h := ⟨_, rfl⟩
  rw [hh] at HT2 HB2 ⊢
  have HO0 : Hid ((w2.alloc (.cells #[] 5)).ownsRow w2.heap.size 5 1 (.slice (some ⟨w2.heap.size, 0, none⟩) 0 0) 0 (([] : List Int).map (Value.int .u8))) := World.ownsRow_lit w2 #[] 0 (Nat.le_refl _) (Nat.zero_le _) rfl
  have HBA : Hid (Below w2.heap.size w2 (w2.alloc (.cells #[] 5))) := (Below.refl _ _).alloc (Nat.le_refl _) _
  have hsi : (s.size : Int) ≤ 1099511627776 := by omega
  go_wp2_with fail
  go_loopw [5, 6, 7, 8] (fun v acc n i wr => ∃ (k N A : Nat) (o : List Int), k ≤ s.size ∧ i = .int .i64 k ∧ n = .int .i64 N ∧ acc = .int .i64 A ∧ N < 8 ∧ Hid (A < 2 ^ N) ∧ Hid (byteBits o ++ bitsN N A = textBits (s.data.toList.take k)) ∧ Hid (∀ x ∈ o, 0 ≤ x ∧ x ≤ 255) ∧ Hid (wr.ownsRow w2.heap.size 5 1 v o.length (o.map (Value.int .u8))) ∧ Hid (Below w2.heap.size w2 wr)) (fun _ _ _ i _ => s.size - (intOf i).toNat)
  case atStart => exact ⟨0, 0, 0, [], Nat.zero_le _, rfl, rfl, rfl, by omega, by show 0 < 2 ^ 0; decide, rfl, by intro x hx; simp at hx, HO0, HBA⟩
  case round =>
    clear HO0 HBA
    obtain ⟨k, N, A, o, hk, rfl, rfl, rfl, hN, HA, HE, HR, HO, HB⟩ := hrel
    by_cases hlt : k < s.size
    · have hti : (k : Int) < (s.size : Int) := by omega
      have hstr := str_take_snoc s k hlt
      obtain ⟨c, hc⟩ : ∃ c, s[k] = c := ⟨_, rfl⟩
      rw [hc] at hstr
      have hcn : c.toNat < 256 := c.toNat_lt
      have hlc : wr.cell? ⟨h, c.toNat, none⟩ = some (.int .i64 (lenOf c)) := by
        rw [← lens_at]
        exact (HT2.out.stays HB.out).2 c.toNat (by rw [lens_len]; omega)
      have hcc : wr.cell? ⟨g, c.toNat, none⟩ = some (.int .i64 (codeOfB c)) := by
        rw [← codes_at]
        exact (HC2.out.stays HB.out).2 c.toNat (by rw [codes_len]; omega)
      have hL := lenOf_range c
      have HCL : Hid (codeOfB c < 2 ^ lenOf c) := codeOf_lt c
      have HE2 : Hid (byteBits o ++ bitsN (N + lenOf c) (A * 2 ^ lenOf c + codeOfB c) = textBits (s.data.toList.take (k + 1))) := by
        show _ = _
        rw [bitsN_join _ _ _ _ HCL.out, ← List.append_assoc, HE.out, hstr, textBits_snoc]
        rfl
      have HA2 : Hid (A * 2 ^ lenOf c + codeOfB c < 2 ^ (N + lenOf c)) := by
        show _ < _
        rw [Nat.pow_add]
        have h1 : (A + 1) * 2 ^ lenOf c ≤ 2 ^ N * 2 ^ lenOf c := Nat.mul_le_mul_right _ HA.out
        rw [Nat.add_mul, Nat.one_mul] at h1
        have := HCL.out
        omega
      have hbig : A * 2 ^ lenOf c < 137438953472 := by
        have h1 : 2 ^ (N + lenOf c) ≤ 2 ^ 37 := Nat.pow_le_pow_right (by decide) (by omega)
        have := HA2.out
        omega
      have hor := or_joinH A (lenOf c) (codeOfB c) HCL.out (by omega) (by omega)
      clear hstr
      have hci : ((c.toNat : Nat) : Int) < 257 := by omega
      have hLi : (lenOf c : Int) ≤ 30 := by omega
      have hLi5 : (5 : Int) ≤ (lenOf c : Int) := by omega
      go_wp2_with fail
      go_quiet (fail)
      have hval : bits .or .i64 (wrap64 ((A : Int) * 2 ^ lenOf c)) (codeOfB c : Int) = ((A * 2 ^ lenOf c + codeOfB c : Nat) : Int) := by
        have e1 : (A : Int) * 2 ^ lenOf c = ((A * 2 ^ lenOf c : Nat) : Int) := by simp
        have e2 : wrap64 ((A * 2 ^ lenOf c : Nat) : Int) = ((A * 2 ^ lenOf c : Nat) : Int) := wrap64_small _ (by omega)
        rw [e1, e2]
        exact hor
      rw [hval]
      have HOd : Hid ((wr.drewN nq).ownsRow w2.heap.size 5 1 u5 o.length (o.map (Value.int .u8))) := HO.out
      have HBd : Hid (Below w2.heap.size w2 (wr.drewN nq)) := below_drewN HB.out nq
      have hlcd : (wr.drewN nq).cell? ⟨h, c.toNat, none⟩ = some (.int .i64 (lenOf c)) := hlc
      generalize wr.drewN nq = wd at *
      clear hval hor hlc hcc HO HB HE HA HCL
      generalize A * 2 ^ lenOf c + codeOfB c = A2 at *
      have hNL : (N : Int) + (lenOf c : Int) ≤ 37 := by omega
      generalize hTT : textBits (s.data.toList.take (k + 1)) = TT at *
      have HTT : Hid (textBits (s.data.toList.take (k + 1)) = TT) := hTT
      have HTL : Hid (TT.length ≤ 30 * (k + 1)) := by
        show _ ≤ _
        rw [← hTT]
        have := bitLen_le (s.data.toList.take (k + 1))
        unfold bitLen at this
        have h2 : (s.data.toList.take (k + 1)).length ≤ k + 1 := by rw [List.length_take]; omega
        omega
      clear hTT
      go_wp2_with fail
      generalize wrap64 ((A : Int) * 2 ^ lenOf c) = dead
      go_loopw [5, 6, 7] (fun v acc n wi => ∃ (M B : Nat) (u : List Int), acc = .int .i64 B ∧ n = .int .i64 M ∧ M ≤ 37 ∧ Hid (B < 2 ^ M) ∧ Hid (byteBits u ++ bitsN M B = TT) ∧ Hid (∀ x ∈ u, 0 ≤ x ∧ x ≤ 255) ∧ Hid (wi.ownsRow w2.heap.size 5 1 v u.length (u.map (Value.int .u8))) ∧ Hid (Below w2.heap.size w2 wi)) (fun _ _ n _ => (intOf n).toNat)
      case atStart => exact ⟨N + lenOf c, A2, o, rfl, by go_num, by omega, HA2, HE2, HR, HOd, HBd⟩
      case round =>
        clear HOd HBd HA2 HE2 HR hlcd hbig
        obtain ⟨M, B, u, rfl, rfl, hM, HA, HE, HR, HO, HB⟩ := hrel
        have hlen : 8 * u.length + M ≤ 30 * (k + 1) := by
          have h1 := HTL.out
          rw [← HE.out, List.length_append, byteBits_len, bitsN_len] at h1
          exact h1
        by_cases h8 : 8 ≤ M
        · obtain ⟨M8, rfl⟩ : ∃ M8, M = M8 + 8 := ⟨M - 8, by omega⟩
          have hp : 0 < 2 ^ M8 := Nat.pow_pos (by decide)
          have HQ : Hid (B = B / 2 ^ M8 * 2 ^ M8 + B % 2 ^ M8) := by show _ = _; rw [Nat.mul_comm]; exact (Nat.div_add_mod _ _).symm
          have hq : B / 2 ^ M8 < 256 := by
            have := HA.out
            rw [Nat.pow_add] at this
            rw [Nat.div_lt_iff_lt_mul hp, Nat.mul_comm]
            exact this
          have HA2 : Hid (B % 2 ^ M8 < 2 ^ M8) := Nat.mod_lt _ hp
          have HE2 : Hid (byteBits (u ++ [((B / 2 ^ M8 : Nat) : Int)]) ++ bitsN M8 (B % 2 ^ M8) = TT) := by
            show _ = _
            rw [byteBits_snoc, List.append_assoc, Int.toNat_natCast, ← HE.out]
            have hj := bitsN_join 8 M8 (B / 2 ^ M8) (B % 2 ^ M8) (Nat.mod_lt _ hp)
            rw [← HQ.out, Nat.add_comm 8 M8] at hj
            rw [hj]
          have hdiv : (B : Int) / 2 ^ M8 = ((B / 2 ^ M8 : Nat) : Int) := by simp
          have hmask := mask_big M8 (by omega)
          have hBs : B < 9223372036854775808 := by
            have h1 : 2 ^ (M8 + 8) ≤ 2 ^ 37 := Nat.pow_le_pow_right (by decide) hM
            have := HA.out
            omega
          have hand : bits .and .i64 (B : Int) ((2 ^ M8 - 1 : Nat) : Int) = ((B % 2 ^ M8 : Nat) : Int) := by
            have h2 : 2 ^ M8 ≤ 2 ^ 29 := Nat.pow_le_pow_right (by decide) (by omega)
            rw [i64_and_nat B _ hBs (by omega), Nat.and_two_pow_sub_one_eq_mod]
          generalize B / 2 ^ M8 = q at *
          generalize B % 2 ^ M8 = r at *
          have hq0 : (0 : Int) ≤ (q : Int) := by omega
          have hq1 : (q : Int) ≤ 255 := by omega
          have hM8 : (M8 : Int) ≤ 29 := by omega
          have hsz := HB.out.size
          have HN : Hid (∀ j v, [Value.int .u8 (q : Int)][j]? = some v → (wr.alloc (.cells #[.int .u8 (q : Int)] 5)).cell? ((⟨wr.heap.size, 0, none⟩ : Addr).add j) = some v) := one_new wr q
          have HMask : Hid (wrap64 (wrap64 ((2 : Int) ^ M8) - 1) = ((2 ^ M8 - 1 : Nat) : Int)) := hmask
          clear hmask HQ
          go_wp2_with (at_builtin; refine wpList_append_own _ rfl _ _ 22 rfl w2.heap.size 5 i0 (.int .u8 0) 1 1 Tryz.underlying22 hi hz0 hz1 hz2 rfl (by decide) u5 u.length _ rfl (HO.out.alloc _) ⟨wr.heap.size, 0, none⟩ 1 1 [.int .u8 (q : Int)] rfl rfl HN.out (ints_one [(q : Int)]) (by unfold maxLen; omega) (by omega) (by simp; omega) ?_; intro v2 w3 hown hgrow _; refine Hid.out ?_)
          refine hidden ?_
          have HB3 : Hid (Below w2.heap.size w2 w3) := (HB.out.alloc (by omega) _).grown hgrow (by simp; omega) (fun q hq => (HO.out.lt q hq).1)
          have HO3 : Hid (w3.ownsRow w2.heap.size 5 1 v2 (u ++ [(q : Int)]).length ((u ++ [(q : Int)]).map (Value.int .u8))) := by
            show World.ownsRow _ _ _ _ _ _ _
            rw [List.map_append, List.length_append]
            exact hown
          have HR3 : Hid (∀ x ∈ u ++ [(q : Int)], 0 ≤ x ∧ x ≤ 255) := by
            intro x hx
            rcases List.mem_append.1 hx with hx | hx
            · exact HR.out x hx
            · obtain rfl := List.mem_singleton.1 hx
              exact ⟨hq0, hq1⟩
          clear hown hgrow HO HB HN HR hdiv
          have hmask := HMask.out
          go_wp2_with fail
          go_roundw
          case rel => exact ⟨M8, r, u ++ [(q : Int)], rfl, by go_num, by omega, HA2, HE2, HR3, HO3, HB3⟩
          case measure => simp [intOf]; omega
        · have hM8i : ¬ (8 : Int) ≤ (M : Int) := by omega
          go_wp2_with fail
          go_roundw
          case rel => exact ⟨k + 1, M, B, u, by omega, by go_num, rfl, rfl, by omega, HA, by show _ = _; rw [HE.out, HTT.out], HR, HO, HB⟩
          case measure => simp [intOf]; omega
    · have hks : k = s.size := by omega
      subst hks
      have HE' : Hid (byteBits o ++ bitsN N A = textBits s.data.toList) := by
        show _ = _
        rw [HE.out, List.take_of_length_le (by rw [str_len]; exact Nat.le_refl _)]
      clear HE
      have hlen : 8 * o.length + N ≤ 30 * s.size := by
        have h1 := bitLen_le s.data.toList
        unfold bitLen at h1
        rw [← HE'.out, List.length_append, byteBits_len, bitsN_len, str_len] at h1
        exact h1
      have hsz := HB.out.size
      have HBw : Hid (Below h w wr) := HB2.out.trans (HB.out.mono (by have := HB2.out.size; omega))
      by_cases hN0 : N = 0
      · subst hN0
        obtain ⟨a', cap', rfl⟩ := shape_of_owns HO.out
        go_wp2_with fail
        go_ret
        refine ⟨o, a', cap', rfl, ⟨?_, HR.out⟩, ⟨HR.out, 0, by omega, ?_⟩, ?_⟩
        · rw [hh]
          exact own_lower HO.out (by have := HB2.out.size; omega)
        · have := HE'.out
          simpa [bitsN] using this
        · rw [hh]; exact HBw.out
      · obtain ⟨P, hP⟩ : ∃ P, 8 - N = P := ⟨_, rfl⟩
        have hPi : (8 : Int) - (N : Int) = (P : Int) := by omega
        have hP8 : 1 ≤ P ∧ P ≤ 7 := by omega
        have hp : 0 < 2 ^ P := Nat.pow_pos (by decide)
        have hAP : A * 2 ^ P + (2 ^ P - 1) < 256 := by
          have h1 : (A + 1) * 2 ^ P ≤ 2 ^ N * 2 ^ P := Nat.mul_le_mul_right _ HA.out
          rw [← Nat.pow_add, show N + P = 8 by omega, Nat.add_mul, Nat.one_mul] at h1
          omega
        have HE2 : Hid (byteBits (o ++ [((A * 2 ^ P + (2 ^ P - 1) : Nat) : Int)]) = textBits s.data.toList ++ List.replicate P true) := by
          show _ = _
          have hj := bitsN_join N P A (2 ^ P - 1) (by omega)
          rw [show N + P = 8 by omega] at hj
          rw [byteBits_snoc, Int.toNat_natCast, hj, ← List.append_assoc, HE'.out, bitsN_ones]
        have hor := or_joinH A P (2 ^ P - 1) (by omega) (by omega) (by omega)
        have HShl : Hid (wrap64 ((A : Int) * 2 ^ P) = ((A * 2 ^ P : Nat) : Int)) := by
          show wrap64 _ = _
          have e1 : (A : Int) * 2 ^ P = ((A * 2 ^ P : Nat) : Int) := by simp
          rw [e1]
          exact wrap64_small _ (by omega)
        have HMask : Hid (wrap64 (wrap64 ((2 : Int) ^ P) - 1) = ((2 ^ P - 1 : Nat) : Int)) := mask_big P (by omega)
        generalize hX : A * 2 ^ P + (2 ^ P - 1) = X at *
        have hx0 : (0 : Int) ≤ (X : Int) := by omega
        have hx1 : (X : Int) ≤ 255 := by omega
        clear hX
        generalize A * 2 ^ P = AP at *
        generalize 2 ^ P - 1 = OP at *
        have HN : Hid (∀ j v, [Value.int .u8 (X : Int)][j]? = some v → (wr.alloc (.cells #[.int .u8 (X : Int)] 5)).cell? ((⟨wr.heap.size, 0, none⟩ : Addr).add j) = some v) := one_new wr X
        have hNp : (0 : Int) < (N : Int) := by omega
        have hPi7 : (P : Int) ≤ 7 := by omega
        clear HA
        have hA : o.length + 1 ≤ maxLen ∧ (o.length + 1) * 1 ≤ 140737488355328 := ⟨by unfold maxLen; omega, by omega⟩
        have hBs : w2.heap.size ≤ (wr.alloc (.cells #[.int .u8 (X : Int)] 5)).heap.size := by simp; omega
        have hdN : decide ((0 : Int) < (N : Int)) = true := by simp; omega
        have hdNp : ((0 : Int) < (N : Int)) = True := by simp; omega
        clear hNp hlen hN0 hAP
        have hshl := HShl.out
        have hmask := HMask.out
        go_wp2_with (at_builtin; refine wpList_append_own _ rfl _ _ 22 rfl w2.heap.size 5 i0 (.int .u8 0) 1 1 Tryz.underlying22 hi hz0 hz1 hz2 rfl (by decide) u5 o.length _ rfl (HO.out.alloc _) ⟨wr.heap.size, 0, none⟩ 1 1 [.int .u8 (X : Int)] rfl rfl HN.out (ints_one [(X : Int)]) hA.1 hA.2 hBs ?_; intro v2 w3 hown hgrow _; refine Hid.out ?_)
        refine hidden ?_
        clear hshl hmask HShl HMask
        have HB3 : Hid (Below w2.heap.size w2 w3) := (HB.out.alloc (by omega) _).grown hgrow (by simp; omega) (fun q hq => (HO.out.lt q hq).1)
        have HO3 : Hid (w3.ownsRow w2.heap.size 5 1 v2 (o ++ [(X : Int)]).length ((o ++ [(X : Int)]).map (Value.int .u8))) := by
          show World.ownsRow _ _ _ _ _ _ _
          rw [List.map_append, List.length_append]
          exact hown
        have HR3 : Hid (∀ x ∈ o ++ [(X : Int)], 0 ≤ x ∧ x ≤ 255) := by
          intro x hx
          rcases List.mem_append.1 hx with hx | hx
          · exact HR.out x hx
          · obtain rfl := List.mem_singleton.1 hx
            exact ⟨hx0, hx1⟩
        clear hown hgrow HO HB HN HR
        obtain ⟨a', cap', rfl⟩ := shape_of_owns HO3.out
        go_wp2_with fail
        go_ret
        refine ⟨o ++ [(X : Int)], a', cap', by simp, ⟨?_, HR3.out⟩, ⟨HR3.out, P, by omega, HE2.out⟩, ?_⟩
        · rw [hh]
          exact own_lower HO3.out (by have := HB2.out.size; omega)
        · rw [hh]; exact HB2.out.trans (HB3.out.mono (by have := HB2.out.size; omega))

end Go.Proofs.YtckpacifimpkgacGreat

namespace Go.Proofs.YtckpacifimpkgacGreat
open Go.RowKit
set_option linter.unusedVariables false

set_option maxRecDepth 10000 in
set_option maxHeartbeats 800000 in
theorem specFind3_any (h g n A : Nat) (w : World) (hL : Nums w h lensI) (hC : Nums w g codesI) :
    Calls Tryz.prog 100 #[.slice (some ⟨h, 0, none⟩) 257 257, .slice (some ⟨g, 0, none⟩) 257 257, .int .i64 n, .int .i64 A] w fun e w' =>
      ((∃ c : UInt8, e = .returned (.int .i64 (c.toNat : Int)) ∧ lenOf c = n ∧ codeOfB c = A) ∨ (e = .returned (.int .i64 (-1)) ∧ ∀ c : UInt8, ¬ (lenOf c = n ∧ codeOfB c = A))) ∧ w' = w := by
  have HL : Hid (Nums w h lensI) := hL
  have HC : Hid (Nums w g codesI) := hC
  clear hL hC
  go_enter Tryz.func100, Tryz.ntmps100
  go_wp2_with fail
  go_loopw [9] (fun i wr => ∃ j : Nat, j ≤ 256 ∧ i = .int .i64 j ∧ Hid (∀ c : UInt8, c.toNat < j → ¬ (lenOf c = n ∧ codeOfB c = A)) ∧ wr = w) (fun i _ => 256 - (intOf i).toNat)
  case atStart => exact ⟨0, Nat.zero_le _, rfl, by intro c hc; omega, rfl⟩
  case round =>
    obtain ⟨j, hj, rfl, HF, rfl⟩ := hrel
    by_cases hlt : j < 256
    · obtain ⟨c, hc⟩ : ∃ c : UInt8, c.toNat = j := ⟨UInt8.ofNat j, by simp [hlt]⟩
      subst hc
      have h1 : wr.cell? ⟨h, c.toNat, none⟩ = some (.int .i64 (lenOf c)) := by
        rw [← lens_at]
        exact HL.out.2 c.toNat (by rw [lens_len]; omega)
      have h2 : wr.cell? ⟨g, c.toNat, none⟩ = some (.int .i64 (codeOfB c)) := by
        rw [← codes_at]
        exact HC.out.2 c.toNat (by rw [codes_len]; omega)
      have hji : (c.toNat : Int) ≤ 255 := by omega
      have next : ¬ (lenOf c = n ∧ codeOfB c = A) → ∀ d : UInt8, d.toNat < c.toNat + 1 → ¬ (lenOf d = n ∧ codeOfB d = A) := by
        intro hno d hd
        by_cases hdc : d = c
        · rw [hdc]; exact hno
        · exact HF.out d (by have : d.toNat ≠ c.toNat := fun e => hdc (UInt8.toNat_inj.1 e); omega)
      have HX : Hid (¬ (lenOf c = n ∧ codeOfB c = A) → ∀ d : UInt8, d.toNat < c.toNat + 1 → ¬ (lenOf d = n ∧ codeOfB d = A)) := next
      clear next
      by_cases e1 : lenOf c = n
      · have d1 : ((lenOf c : Int) == (n : Int)) = true := by simp [e1]
        by_cases e2 : codeOfB c = A
        · have d2 : ((codeOfB c : Int) == (A : Int)) = true := by simp [e2]
          have E : Hid (lenOf c = n ∧ codeOfB c = A) := ⟨e1, e2⟩
          clear e1 e2
          go_wp2_with fail
          go_ret
          exact ⟨.inl ⟨c, rfl, E.out.1, E.out.2⟩, rfl⟩
        · have d2 : ((codeOfB c : Int) == (A : Int)) = false := by simp; omega
          have E : Hid (¬ codeOfB c = A) := e2
          clear e1 e2
          go_wp2_with fail
          go_roundw
          case rel => exact ⟨c.toNat + 1, by omega, by go_num, HX.out (fun h => E.out h.2), trivial⟩
          case measure => simp [intOf]; omega
      · have d1 : ((lenOf c : Int) == (n : Int)) = false := by simp; omega
        have E : Hid (¬ lenOf c = n) := e1
        clear e1
        go_wp2_with fail
        go_roundw
        case rel => exact ⟨c.toNat + 1, by omega, by go_num, HX.out (fun h => E.out h.1), trivial⟩
        case measure => simp [intOf]; omega
    · have hj5 : ¬ (j : Int) ≤ 255 := by omega
      go_wp2_with fail
      go_ret
      exact ⟨.inr ⟨rfl, fun c h1 h2 => HF.out c (by have : c.toNat < 256 := c.toNat_lt; omega) ⟨h1, h2⟩⟩, rfl⟩

end Go.Proofs.YtckpacifimpkgacGreat

namespace Go.Proofs.YtckpacifimpkgacGreat
open Go.RowKit
set_option linter.unusedVariables false

set_option maxRecDepth 10000 in
set_option maxHeartbeats 1600000 in
theorem specUn_any (a : Option Addr) (len cap : Nat) (zs : List Int) (w : World) (hs : Seg w a len zs) (hl : len ≤ 1099511627776) :
    Calls Tryz.prog 87 #[.slice a len cap] w fun e w' =>
      ((∃ t : ByteArray, e = .returned (.tuple #[.string t, .bool true]) ∧ HuffOf t.data.toList zs) ∨ (e = .returned (.tuple #[.string ⟨#[]⟩, .bool false]) ∧ ∀ l, ¬ HuffOf l zs)) ∧ Below w.heap.size w w' := by
  obtain ⟨i0, hi, hz0, hz1, hz2⟩ := info_parts Tryz.info5
  have HS : Hid (Seg w a len zs) := hs
  have hzl : zs.length = len := hs.1
  clear hs
  go_enter Tryz.func87, Tryz.ntmps87
  go_wp2_with fail
  refine (specLens_any w).mono ?_
  rintro e w1 ⟨rfl, hw1⟩
  have HT : Hid (Nums w1 w.heap.size lensI) := by
    show Nums _ _ _
    rw [hw1]
    exact Tab.nums (heap_alloc_new w _)
  have HB1 : Hid (Below w.heap.size w w1) := by
    show Below _ _ _
    rw [hw1]
    exact (Below.refl _ _).alloc (Nat.le_refl _) _
  have hs1 : w1.heap.size = w.heap.size + 1 := by rw [hw1]; simp
  clear hw1
  go_wp2_with fail
  refine (specCodes_any w1).mono ?_
  rintro e w2 ⟨g, rfl, hn2, hg, hb2⟩
  have HC2 : Hid (Nums w2 g codesI) := hn2
  have HT2 : Hid (Nums w2 w.heap.size lensI) := HT.out.stays hb2
  have HB2 : Hid (Below w.heap.size w w2) := HB1.out.trans (hb2.mono (by omega))
  have HS2 : Hid (Seg w2 a len zs) := HS.out.below HB2.out
  clear hn2 hb2 HT HB1
  obtain ⟨h, hh⟩ : ∃ h, w.heap.size = h := ⟨_, rfl⟩
  rw [hh] at HT2 HB2 ⊢
  have HO0 : Hid ((w2.alloc (.cells #[] 5)).ownsRow w2.heap.size 5 1 (.slice (some ⟨w2.heap.size, 0, none⟩) 0 0) 0 ((asInts []).map (Value.int .u8))) := World.ownsRow_lit w2 #[] 0 (Nat.le_refl _) (Nat.zero_le _) rfl
  have HBA : Hid (Below w2.heap.size w2 (w2.alloc (.cells #[] 5))) := (Below.refl _ _).alloc (Nat.le_refl _) _
  have hli : (len : Int) ≤ 1099511627776 := by omega
  go_wp2_with fail
  go_loopw [6, 7, 8, 9] (fun v acc n i wr => ∃ (k N A : Nat) (u : List UInt8), k ≤ 8 * len ∧ i = .int .i64 k ∧ n = .int .i64 N ∧ acc = .int .i64 A ∧ N ≤ 30 ∧ Hid (A < 2 ^ N) ∧ Hid ((byteBits zs).take k = textBits u ++ bitsN N A) ∧ Hid (Free (bitsN N A)) ∧ Hid (wr.ownsRow w2.heap.size 5 1 v u.length ((asInts u).map (Value.int .u8))) ∧ Hid (Below w2.heap.size w2 wr)) (fun _ _ _ i _ => 8 * len - (intOf i).toNat)
  case atStart => exact ⟨0, 0, 0, [], Nat.zero_le _, rfl, rfl, rfl, by omega, by show 0 < 2 ^ 0; decide, rfl, free_nil, HO0, HBA⟩
  case round =>
    clear HO0 HBA
    obtain ⟨k, N, A, u, hk, rfl, rfl, rfl, hN, HA, HE, HF, HO, HB⟩ := hrel
    by_cases hlt : k < 8 * len
    · obtain ⟨b, off, rfl, hb, hcell⟩ : ∃ b off, a = some ⟨b, off, none⟩ ∧ b < wr.heap.size ∧ wr.cell? ⟨b, off + k / 8, none⟩ = some (.int .u8 (zs.getD (k / 8) 0)) := by
        rcases (HS2.out.below HB.out).2.2 with h0 | ⟨b, off, e, hb, hc⟩
        · omega
        · exact ⟨b, off, e, hb, hc (k / 8) (by omega)⟩
      have hrg := HS.out.range (k / 8)
      obtain ⟨X, hX⟩ := Int.eq_ofNat_of_zero_le hrg.1
      rw [hX] at hcell hrg
      have hx1 : (X : Int) ≤ 255 := hrg.2
      have hbit : bitAt zs k = X / 2 ^ (7 - k % 8) % 2 := by unfold bitAt; rw [hX, Int.toNat_natCast]
      have HE2 : Hid ((byteBits zs).take (k + 1) = textBits u ++ bitsN (N + 1) (A * 2 + bitAt zs k)) := by
        show _ = _
        rw [take_bit zs k (by omega), HE.out, push_bit N A _ (bitAt_le zs k), List.append_assoc]
      have hb1 := bitAt_le zs k
      have HA2 : Hid (A * 2 + bitAt zs k < 2 ^ (N + 1)) := by
        show _ < _
        have := HA.out
        rw [Nat.pow_succ]
        omega
      have hki : (k : Int) < 8 * (len : Int) := by omega
      have hAs : A < 1073741824 := by
        have h1 : 2 ^ N ≤ 2 ^ 30 := Nat.pow_le_pow_right (by decide) hN
        have := HA.out
        omega
      have hand : bits .and .i64 ((X : Int) / 2 ^ (7 - k % 8)) 1 = (bitAt zs k : Int) := by
        have e1 : (X : Int) / 2 ^ (7 - k % 8) = ((X / 2 ^ (7 - k % 8) : Nat) : Int) := by simp
        have h2 : X / 2 ^ (7 - k % 8) ≤ X := Nat.div_le_self _ _
        rw [e1, hbit]
        have := i64_and_nat (X / 2 ^ (7 - k % 8)) 1 (by omega) (by omega)
        rw [Nat.and_one_is_mod] at this
        exact this
      have hor : bits .or .i64 ((A : Int) * 2) (bitAt zs k : Int) = ((A * 2 + bitAt zs k : Nat) : Int) := by
        have := or_joinH A 1 (bitAt zs k) (by omega) (by omega) (by omega)
        simpa using this
      clear hrg hX hbit
      by_cases hN30 : N = 30
      · subst hN30
        have HNo : Hid (∀ l, ¬ HuffOf l zs) := by
          have hfr := free_long 30 A (bitAt zs k) (Nat.le_refl _) hb1 HF.out ((byteBits zs).drop (k + 1))
          refine no_text zs u _ hfr ?_ ?_
          · rw [← List.append_assoc, ← HE2.out, List.take_append_drop]
          · intro p hp he
            have := congrArg List.length he
            rw [List.length_append, bitsN_len, List.length_replicate] at this
            omega
        have HBw : Hid (Below h w wr) := HB2.out.trans (HB.out.mono (by have := HB2.out.size; omega))
        go_wp2_with fail
        go_ret2
        refine ⟨.inr ⟨rfl, HNo.out⟩, ?_⟩
        rw [hh]
        exact HBw.out
      · have hNi : ¬ (30 : Int) < (N : Int) + 1 := by omega
        have hNd : decide ((30 : Int) < (N : Int) + 1) = false := by simp; omega
        have hfind := specFind3_any h g (N + 1) (A * 2 + bitAt zs k) wr (HT2.out.stays HB.out) (HC2.out.stays HB.out)
        have eN : ((N + 1 : Nat) : Int) = (N : Int) + 1 := by omega
        rw [eN] at hfind
        have HFi : Hid (Calls Tryz.prog 100 #[.slice (some ⟨h, 0, none⟩) 257 257, .slice (some ⟨g, 0, none⟩) 257 257, .int .i64 ((N : Int) + 1), .int .i64 ((A * 2 + bitAt zs k : Nat) : Int)] wr fun e w' =>
          ((∃ c : UInt8, e = .returned (.int .i64 (c.toNat : Int)) ∧ lenOf c = N + 1 ∧ codeOfB c = A * 2 + bitAt zs k) ∨ (e = .returned (.int .i64 (-1)) ∧ ∀ c : UInt8, ¬ (lenOf c = N + 1 ∧ codeOfB c = A * 2 + bitAt zs k))) ∧ w' = wr) := hfind
        have HFP : Hid ((∀ c : UInt8, ¬ (lenOf c = N + 1 ∧ codeOfB c = A * 2 + bitAt zs k)) → Free (bitsN (N + 1) (A * 2 + bitAt zs k))) := fun hno => free_push N A (bitAt zs k) HA2.out hb1 HF.out hno
        have HFo : Hid (∀ c : UInt8, lenOf c = N + 1 → codeOfB c = A * 2 + bitAt zs k → bitsN (N + 1) (A * 2 + bitAt zs k) = codeBits c) := fun c h1 h2 => found N A _ c h1 h2
        clear hfind eN HA HF HE
        generalize A * 2 + bitAt zs k = A2 at *
        go_wp2_with fail
        refine HFi.out.mono ?_
        rintro e w3 ⟨hres, rfl⟩
        clear HFi hand hor hcell
        rcases hres with ⟨c, rfl, hc1, hc2⟩ | ⟨rfl, hno⟩
        · have hcn : (c.toNat : Int) ≤ 255 := by have : c.toNat < 256 := c.toNat_lt; omega
          have hc0 : (0 : Int) ≤ (c.toNat : Int) := by omega
          have hsz := HB.out.size
          have hul : u.length ≤ 8 * len := by
            have h1 := congrArg List.length HE2.out
            rw [List.length_append, List.length_take, byteBits_len] at h1
            have h2 : u.length ≤ (textBits u).length := text_long u
            omega
          have HE3 : Hid ((byteBits zs).take (k + 1) = textBits (u ++ [c]) ++ bitsN 0 0) := by
            show _ = _
            rw [HE2.out, HFo.out c hc1 hc2, textBits_snoc]
            simp [bitsN]
          have HN : Hid (∀ j v, [Value.int .u8 (c.toNat : Int)][j]? = some v → (w3.alloc (.cells #[.int .u8 (c.toNat : Int)] 5)).cell? ((⟨w3.heap.size, 0, none⟩ : Addr).add j) = some v) := one_new w3 _
          clear HFP HFo HE2 HA2
          go_wp2_with (at_builtin; refine wpList_append_own _ rfl _ _ 22 rfl w2.heap.size 5 i0 (.int .u8 0) 1 1 Tryz.underlying22 hi hz0 hz1 hz2 rfl (by decide) u6 u.length _ rfl (HO.out.alloc _) ⟨w3.heap.size, 0, none⟩ 1 1 [.int .u8 (c.toNat : Int)] rfl rfl HN.out (ints_one [(c.toNat : Int)]) (by unfold maxLen; omega) (by omega) (by simp; omega) ?_; intro v2 w4 hown hgrow _; refine Hid.out ?_)
          refine hidden ?_
          have HB4 : Hid (Below w2.heap.size w2 w4) := (HB.out.alloc (by omega) _).grown hgrow (by simp; omega) (fun q hq => (HO.out.lt q hq).1)
          have HO4 : Hid (w4.ownsRow w2.heap.size 5 1 v2 (u ++ [c]).length ((asInts (u ++ [c])).map (Value.int .u8))) := by
            show World.ownsRow _ _ _ _ _ _ _
            rw [asInts_snoc, List.map_append, List.length_append]
            exact hown
          clear hown hgrow HO HB HN
          go_wp2_with fail
          go_roundw
          case rel => exact ⟨k + 1, 0, 0, u ++ [c], by omega, by go_num, rfl, rfl, by omega, by show 0 < 2 ^ 0; decide, HE3, free_nil, HO4, HB4⟩
          case measure => simp [intOf]; omega
        · have HF2 : Hid (Free (bitsN (N + 1) A2)) := HFP.out hno
          clear hno HFP HFo
          go_wp2_with fail
          go_roundw
          case rel => exact ⟨k + 1, N + 1, A2, u, by omega, by go_num, by go_num, rfl, by omega, HA2, HE2, HF2, HO, HB⟩
          case measure => simp [intOf]; omega
    · have hk8 : k = 8 * len := by omega
      subst hk8
      have HEE : Hid (byteBits zs = textBits u ++ bitsN N A) := by
        show _ = _
        rw [← HE.out, List.take_of_length_le (by rw [byteBits_len, hzl]; exact Nat.le_refl _)]
      clear HE
      have HBw : Hid (Below h w wr) := HB2.out.trans (HB.out.mono (by have := HB2.out.size; omega))
      by_cases hN7 : 7 < N
      · have HNo : Hid (∀ l, ¬ HuffOf l zs) := no_text zs u _ HF.out HEE.out (fun p hp he => by
          have := congrArg List.length he
          rw [bitsN_len, List.length_replicate] at this
          omega)
        have hN7i : (7 : Int) < (N : Int) := by omega
        go_wp2_with fail
        go_ret2
        refine ⟨.inr ⟨rfl, HNo.out⟩, ?_⟩
        rw [hh]
        exact HBw.out
      · have hN7i : ¬ (7 : Int) < (N : Int) := by omega
        have hN7d : decide ((7 : Int) < (N : Int)) = false := by simp; omega
        have HMask : Hid (wrap64 (wrap64 ((2 : Int) ^ N) - 1) = ((2 ^ N - 1 : Nat) : Int)) := mask_big N (by omega)
        have hNu : (N : Int) ≤ 7 := by omega
        by_cases hones : A = 2 ^ N - 1
        · have HT : Hid (HuffOf u zs) := by
            refine ⟨fun x hx => HS.out.2.1 x hx, N, by omega, ?_⟩
            rw [HEE.out, hones, bitsN_ones]
          have heq : ((A : Int) != ((2 ^ N - 1 : Nat) : Int)) = false := by rw [hones]; simp
          have hconv : (convert 22 9 u6).run Tryz.prog wr = .ok (.string ⟨u.toArray⟩) wr := by
            rcases HO.out.2 with ⟨rfl, h0⟩ | ⟨g', cap', cur, rfl, _⟩
            · obtain rfl : u = [] := List.length_eq_zero_iff.1 h0
              exact run_convert_bytes_nil (w := wr) 22 5 Tryz.underlying22 Tryz.underlying5 0 0 9 Tryz.underlying9
            · refine run_convert_bytes_back wr 22 9 5 ⟨g', 0, none⟩ cap' u Tryz.underlying22 Tryz.underlying5 Tryz.underlying9 (fun j hj => ?_)
              have := HO.out.cellAt j (by omega)
              have ea : (⟨g', 0, none⟩ : Addr).add j = ⟨g', j, none⟩ := by simp [Addr.add]; exact fun h => h.symm
              rw [ea, this]
              simp [asInts, hj]
          clear hones
          have hmask := HMask.out
          go_wp2_with fail
          go_ret2
          refine ⟨.inl ⟨⟨u.toArray⟩, rfl, by simpa using HT.out⟩, ?_⟩
          first | exact HBw.out | (rw [hh]; exact HBw.out)
        · have HNo : Hid (∀ l, ¬ HuffOf l zs) := no_text zs u _ HF.out HEE.out (fun p hp he => by
            have := congrArg List.length he
            rw [bitsN_len, List.length_replicate] at this
            subst this
            exact hones (ones_of N A HA.out he))
          have heq : ((A : Int) != ((2 ^ N - 1 : Nat) : Int)) = true := by simp only [bne_iff_ne, ne_eq]; omega
          clear hones
          have hmask := HMask.out
          go_wp2_with fail
          go_ret2
          refine ⟨.inr ⟨rfl, HNo.out⟩, ?_⟩
          first | exact HBw.out | (rw [hh]; exact HBw.out)

end Go.Proofs.YtckpacifimpkgacGreat

namespace Go.Proofs.YtckpacifimpkgacGreat
open Go.RowKit
set_option linter.unusedVariables false

set_option maxRecDepth 10000 in
set_option maxHeartbeats 1600000 in
theorem specGetS_any (b off len cap : Nat) (at_ : Int) (zs : List Int) (w : World) (hs : Seg w (some ⟨b, off, none⟩) len zs) (hcap : len ≤ cap) (hl4 : len ≤ 4000) :
    Calls Tryz.prog 70 #[.slice (some ⟨b, off, none⟩) len cap, .int .i64 at_] w fun e w' => ∃ (t : ByteArray) (p : Int) (ok : Bool), e = .returned (.tuple #[.string t, .int .i64 p, .bool ok]) ∧ GetS zs at_ t p ok ∧ Below w.heap.size w w' := by
  have HS : Hid (Seg w (some ⟨b, off, none⟩) len zs) := hs
  have hzl : zs.length = len := hs.1
  have hl : len ≤ 1099511627776 := by omega
  clear hs
  go_enter Tryz.func70, Tryz.ntmps70
  go_wp2_with fail
  refine (specGpx_any _ len cap at_ 7 zs w HS.out hl).mono ?_
  rintro e w1 ⟨rfl, hw1⟩
  have hb1 : Below w.heap.size w w1 := by rw [hw1]; exact Below.refl _ _
  clear hw1
  have HB1 : Hid (Below w.heap.size w w1) := hb1
  have HS1 : Hid (Seg w1 (some ⟨b, off, none⟩) len zs) := HS.out.below hb1
  clear hb1
  obtain ⟨⟨n, q, ok⟩, hg⟩ : ∃ x, getPfx zs at_ 7 = x := ⟨_, rfl⟩
  have HG : Hid (getPfx zs at_ 7 = (n, q, ok)) := hg
  rw [hg]
  clear hg
  dsimp only
  cases ok with
  | false =>
    go_wp2_with fail
    go_ret3
    refine ⟨⟨#[]⟩, 0, false, rfl, .inr ⟨rfl, rfl, rfl, ?_⟩, HB1.out⟩
    rintro s r ⟨n', q', h1, _⟩
    rw [HG.out] at h1
    simp at h1
  | true =>
    obtain ⟨hn0, hn1, ha0, haq, hql⟩ := getPfx_bound zs at_ 7 n q HS.out.2.1 HG.out
    obtain ⟨N, rfl⟩ := Int.eq_ofNat_of_zero_le hn0
    obtain ⟨Q, rfl⟩ := Int.eq_ofNat_of_zero_le (show 0 ≤ q by omega)
    obtain ⟨K, rfl⟩ := Int.eq_ofNat_of_zero_le ha0
    have hQl : Q ≤ len := by omega
    have hKl : K < len := by omega
    clear hn0 ha0 haq hql
    by_cases hbig : len < Q + N
    · have hd : decide ((len : Int) - (Q : Int) < (N : Int)) = true := by simp; omega
      have hdp : ((len : Int) - (Q : Int) < (N : Int)) = True := by simp; omega
      by_cases hts : 4000 < N
      · have hd4 : decide ((4000 : Int) < (N : Int)) = true := by simp; omega
        have hd5 : ((4000 : Int) < (N : Int)) = True := by simp; omega
        go_wp2_with fail
        go_ret3
        refine ⟨⟨#[]⟩, 0, false, rfl, .inr ⟨rfl, rfl, rfl, ?_⟩, HB1.out⟩
        rintro s r ⟨n', q', h1, h2, _⟩
        rw [HG.out] at h1
        injection h1 with e1 e2
        injection e2 with e2 _
        omega
      · have hd4 : decide ((4000 : Int) < (N : Int)) = false := by simp; omega
        have hd5 : ((4000 : Int) < (N : Int)) = False := by simp; omega
        go_wp2_with fail
        go_ret3
        refine ⟨⟨#[]⟩, 0, false, rfl, .inr ⟨rfl, rfl, rfl, ?_⟩, HB1.out⟩
        rintro s r ⟨n', q', h1, h2, _⟩
        rw [HG.out] at h1
        injection h1 with e1 e2
        injection e2 with e2 _
        omega
    · have hd : decide ((len : Int) - (Q : Int) < (N : Int)) = false := by simp; omega
      have hdp : ((len : Int) - (Q : Int) < (N : Int)) = False := by simp; omega
      have hQN : Q + N ≤ len := by omega
      have hd8 : decide ((4000 : Int) < (N : Int)) = false := by simp; omega
      have hd9 : ((4000 : Int) < (N : Int)) = False := by simp; omega
      have hcell : w1.cell? ⟨b, off + K, none⟩ = some (.int .u8 (zs.getD K 0)) := by
        rcases HS1.out.2.2 with h | ⟨b', off', e, _, h⟩
        · omega
        · cases e
          exact h K hKl
      obtain ⟨hx0, hx1⟩ := HS1.out.range K
      obtain ⟨X, hX⟩ := Int.eq_ofNat_of_zero_le hx0
      have HX : Hid (zs.getD K 0 = (X : Int)) := hX
      rw [hX] at hcell hx1
      clear hx0 hX
      have hXb : X < 256 := by omega
      obtain ⟨u, hu⟩ := text_of ((zs.drop Q).take N) (fun x hx => HS1.out.2.1 x (List.mem_of_mem_drop (List.mem_of_mem_take hx)))
      have hul : u.length = N := by
        have := congrArg List.length hu
        rw [asInts_len, List.length_take, List.length_drop] at this
        omega
      obtain ⟨sa, hsa⟩ : ∃ sa : Option Addr, (if cap = Q then some ⟨b, off, none⟩ else some ⟨b, off + Q, none⟩) = sa := ⟨_, rfl⟩
      have HP : Hid (Seg w1 sa N ((zs.drop Q).take N)) := by
        rw [← hsa]
        by_cases hc : cap = Q
        · obtain rfl : N = 0 := by omega
          rw [if_pos hc]
          exact Seg.empty
        · rw [if_neg hc]
          exact HS1.out.piece Q N hQN
      have HU : Hid (asInts u = (zs.drop Q).take N) := hu
      have hconv : ∀ c : Nat, (convert 22 9 (.slice sa N c)).run Tryz.prog w1 = .ok (.string ⟨u.toArray⟩) w1 := fun c => run_text_any (by rw [hu]; exact HP.out)
      have hus : (⟨u.toArray⟩ : ByteArray).size = N := hul
      clear hu
      have hends : (Q : Int) + (N : Int) ≤ 1099511627776 := by omega
      have hcQ : (Q : Int) + (N : Int) ≤ (cap : Int) := by omega
      have hKi : (K : Int) < (len : Int) := by omega
      have hKeq : ∀ n q : Nat, getPfx zs (K : Int) 7 = ((n : Int), (q : Int), true) → n = N ∧ q = Q := by
        intro n' q' h1
        rw [HG.out] at h1
        injection h1 with e1 e2
        injection e2 with e2 _
        omega
      have HKeq : Hid (∀ n q : Nat, getPfx zs (K : Int) 7 = ((n : Int), (q : Int), true) → n = N ∧ q = Q) := hKeq
      clear hKeq
      by_cases hhi : 128 ≤ X
      · have hbit : decide ((X : Int) < 128) = false := by simp; omega
        have hbit2 : ((X : Int) < 128) = False := by simp; omega
        have hpart : (cap = Q ∧ sa = some ⟨b, off, none⟩) ∨ (¬ cap = Q ∧ sa = some ⟨b, off + Q, none⟩) := by
          by_cases hc : cap = Q
          · rw [if_pos hc] at hsa
            exact .inl ⟨hc, hsa.symm⟩
          · rw [if_neg hc] at hsa
            exact .inr ⟨hc, hsa.symm⟩
        clear hsa
        rcases hpart with ⟨hc, rfl⟩ | ⟨hc, rfl⟩
        all_goals
          go_wp2_with fail
          refine (specUn_any _ N _ ((zs.drop Q).take N) _ HP.out (by omega)).mono ?_
          rintro e w2 ⟨hres, hb2⟩
          have HB2 : Hid (Below w.heap.size w w2) := HB1.out.trans (hb2.mono HB1.out.size)
          clear hb2 hconv hcell hc HP
          rcases hres with ⟨t, rfl, hf⟩ | ⟨rfl, hno⟩
          · have HF : Hid (HuffOf t.data.toList ((zs.drop Q).take N)) := hf
            clear hf
            by_cases hts : 4000 < t.size
            · have hd4 : decide ((4000 : Int) < (t.size : Int)) = true := by simp; omega
              have hd5 : ((4000 : Int) < (t.size : Int)) = True := by simp; omega
              go_wp2_with fail
              go_ret3
              refine ⟨⟨#[]⟩, 0, false, rfl, .inr ⟨rfl, rfl, rfl, ?_⟩, HB2.out⟩
              rintro s r ⟨n', q', h1, h2, h3, h4, h5⟩
              obtain ⟨rfl, rfl⟩ := HKeq.out _ _ h1
              rw [Int.toNat_natCast, HX.out] at h5
              rcases h5 with ⟨h5, _⟩ | ⟨_, h6⟩
              · omega
              · have := text_eq (h6.text HF.out)
                subst this
                omega
            · have hd4 : decide ((4000 : Int) < (t.size : Int)) = false := by simp; omega
              have hd5 : ((4000 : Int) < (t.size : Int)) = False := by simp; omega
              go_wp2_with fail
              go_ret3
              refine ⟨t, ((Q + N : Nat) : Int), true, ret_str rfl (by simp) rfl, .inl ⟨rfl, N, Q, HG.out, by omega, rfl, by omega, ?_⟩, HB2.out⟩
              rw [Int.toNat_natCast, HX.out]
              exact .inr ⟨by omega, HF.out⟩
          · have HNo : Hid (∀ l, ¬ HuffOf l ((zs.drop Q).take N)) := hno
            clear hno
            go_wp2_with fail
            go_ret3
            refine ⟨⟨#[]⟩, 0, false, rfl, .inr ⟨rfl, rfl, rfl, ?_⟩, HB2.out⟩
            rintro s r ⟨n', q', h1, h2, h3, h4, h5⟩
            obtain ⟨rfl, rfl⟩ := HKeq.out _ _ h1
            rw [Int.toNat_natCast, HX.out] at h5
            rcases h5 with ⟨h5, _⟩ | ⟨_, h6⟩
            · omega
            · exact HNo.out _ h6
      · have hbit : decide ((X : Int) < 128) = true := by simp; omega
        have hbit2 : ((X : Int) < 128) = True := by simp; omega
        have hpart : (cap = Q ∧ sa = some ⟨b, off, none⟩) ∨ (¬ cap = Q ∧ sa = some ⟨b, off + Q, none⟩) := by
          by_cases hc : cap = Q
          · rw [if_pos hc] at hsa
            exact .inl ⟨hc, hsa.symm⟩
          · rw [if_neg hc] at hsa
            exact .inr ⟨hc, hsa.symm⟩
        clear hsa
        rcases hpart with ⟨hc, rfl⟩ | ⟨hc, rfl⟩
        all_goals
          go_wp2_with fail
          go_ret3
          refine ⟨⟨u.toArray⟩, ((Q + N : Nat) : Int), true, ret_str rfl (by simp) rfl, .inl ⟨rfl, N, Q, HG.out, by omega, rfl, by omega, ?_⟩, HB1.out⟩
          rw [Int.toNat_natCast, HX.out]
          exact .inl ⟨by omega, HU.out⟩

end Go.Proofs.YtckpacifimpkgacGreat

namespace Go.Proofs.YtckpacifimpkgacGreat
open Go.RowKit
set_option linter.unusedVariables false

set_option maxRecDepth 100000 in
set_option maxHeartbeats 4000000 in
theorem specFirst_cells (w : World) : Calls Tryz.prog 85 #[] w fun e w' => e = .returned (.slice (some ⟨w.heap.size, 0, none⟩) 61 61) ∧ w' = w.alloc (.cells (fieldCells firstL).toArray 43) := by
  go_enter Tryz.func85, Tryz.ntmps85
  go_wp2
  go_ret
  refine ⟨rfl, ?_⟩
  kernel_rfl

theorem specFirst_any (w : World) : Calls Tryz.prog 85 #[] w fun e w' => e = .returned (.slice (some ⟨w.heap.size, 0, none⟩) 61 61) ∧ Flds w' (some ⟨w.heap.size, 0, none⟩) 61 firstL ∧ Below w.heap.size w w' := by
  refine (specFirst_cells w).mono ?_
  rintro e w' ⟨rfl, rfl⟩
  refine ⟨rfl, ?_, (Below.refl _ _).alloc (Nat.le_refl _) _⟩
  have := Flds.ofRow (t := 43) (fs := firstL) (heap_alloc_new w (.cells (fieldCells firstL).toArray 43)) firstL_size
  rw [firstL_len] at this
  exact this

end Go.Proofs.YtckpacifimpkgacGreat
