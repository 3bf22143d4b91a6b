/- What the specification's UnHuff answers: the one text whose code these bytes are, and true; else nothing, and false. For lists of at most 2^40 bytes. -/
import Derived.Test.YtkoeahopfajblabHufFind
import Derived.Test.YtkoeahopfajblabHufRead
namespace Go.Proofs.Ytkoeahopfajblab
open Go.RowKit
set_option linter.unusedVariables false

set_option maxRecDepth 10000 in
set_option maxHeartbeats 1600000 in
theorem specUn_any (a : Option Addr) (len cap : Nat) (zs : List Int) (w : World) (hs : Seg w a len zs) (hl : len ≤ 1099511627776) :
    Calls Try.prog 12 #[.slice a len cap] w fun e w' =>
      ((∃ t : ByteArray, e = .returned (.tuple #[.string t, .bool true]) ∧ HuffOf t.data.toList zs) ∨ (e = .returned (.tuple #[.string ⟨#[]⟩, .bool false]) ∧ ∀ l, ¬ HuffOf l zs)) ∧ Below w.heap.size w w' := by
  obtain ⟨i0, hi, hz0, hz1, hz2⟩ := info_parts Try.info5
  have HS : Hid (Seg w a len zs) := hs
  have hzl : zs.length = len := hs.1
  clear hs
  go_enter Try.func12, Try.ntmps12
  go_wp2_with fail
  refine (specLens_any w).mono ?_
  rintro e w1 ⟨rfl, hw1⟩
  have HT : Hid (Nums w1 w.heap.size lensI) := by
    show Nums _ _ _
    rw [hw1]
    exact Tab.nums (heap_alloc_new w _)
  have HB1 : Hid (Below w.heap.size w w1) := by
    show Below _ _ _
    rw [hw1]
    exact (Below.refl _ _).alloc (Nat.le_refl _) _
  have hs1 : w1.heap.size = w.heap.size + 1 := by rw [hw1]; simp
  clear hw1
  go_wp2_with fail
  refine (specCodes_any w1).mono ?_
  rintro e w2 ⟨g, rfl, hn2, hg, hb2⟩
  have HC2 : Hid (Nums w2 g codesI) := hn2
  have HT2 : Hid (Nums w2 w.heap.size lensI) := HT.out.stays hb2
  have HB2 : Hid (Below w.heap.size w w2) := HB1.out.trans (hb2.mono (by omega))
  have HS2 : Hid (Seg w2 a len zs) := HS.out.below HB2.out
  clear hn2 hb2 HT HB1
  obtain ⟨h, hh⟩ : ∃ h, w.heap.size = h := ⟨_, rfl⟩
  rw [hh] at HT2 HB2 ⊢
  have HO0 : Hid ((w2.alloc (.cells #[] 5)).ownsRow w2.heap.size 5 1 (.slice (some ⟨w2.heap.size, 0, none⟩) 0 0) 0 ((asInts []).map (Value.int .u8))) := World.ownsRow_lit w2 #[] 0 (Nat.le_refl _) (Nat.zero_le _) rfl
  have HBA : Hid (Below w2.heap.size w2 (w2.alloc (.cells #[] 5))) := (Below.refl _ _).alloc (Nat.le_refl _) _
  have hli : (len : Int) ≤ 1099511627776 := by omega
  go_wp2_with fail
  go_loopw [6, 7, 8, 9] (fun v acc n i wr => ∃ (k N A : Nat) (u : List UInt8), k ≤ 8 * len ∧ i = .int .i64 k ∧ n = .int .i64 N ∧ acc = .int .i64 A ∧ N ≤ 30 ∧ Hid (A < 2 ^ N) ∧ Hid ((byteBits zs).take k = textBits u ++ bitsN N A) ∧ Hid (Free (bitsN N A)) ∧ Hid (wr.ownsRow w2.heap.size 5 1 v u.length ((asInts u).map (Value.int .u8))) ∧ Hid (Below w2.heap.size w2 wr)) (fun _ _ _ i _ => 8 * len - (intOf i).toNat)
  case atStart => exact ⟨0, 0, 0, [], Nat.zero_le _, rfl, rfl, rfl, by omega, by show 0 < 2 ^ 0; decide, rfl, free_nil, HO0, HBA⟩
  case round =>
    clear HO0 HBA
    obtain ⟨k, N, A, u, hk, rfl, rfl, rfl, hN, HA, HE, HF, HO, HB⟩ := hrel
    by_cases hlt : k < 8 * len
    · obtain ⟨b, off, rfl, hb, hcell⟩ : ∃ b off, a = some ⟨b, off, none⟩ ∧ b < wr.heap.size ∧ wr.cell? ⟨b, off + k / 8, none⟩ = some (.int .u8 (zs.getD (k / 8) 0)) := by
        rcases (HS2.out.below HB.out).2.2 with h0 | ⟨b, off, e, hb, hc⟩
        · omega
        · exact ⟨b, off, e, hb, hc (k / 8) (by omega)⟩
      have hrg := HS.out.range (k / 8)
      obtain ⟨X, hX⟩ := Int.eq_ofNat_of_zero_le hrg.1
      rw [hX] at hcell hrg
      have hx1 : (X : Int) ≤ 255 := hrg.2
      have hbit : bitAt zs k = X / 2 ^ (7 - k % 8) % 2 := by unfold bitAt; rw [hX, Int.toNat_natCast]
      have HE2 : Hid ((byteBits zs).take (k + 1) = textBits u ++ bitsN (N + 1) (A * 2 + bitAt zs k)) := by
        show _ = _
        rw [take_bit zs k (by omega), HE.out, push_bit N A _ (bitAt_le zs k), List.append_assoc]
      have hb1 := bitAt_le zs k
      have HA2 : Hid (A * 2 + bitAt zs k < 2 ^ (N + 1)) := by
        show _ < _
        have := HA.out
        rw [Nat.pow_succ]
        omega
      have hki : (k : Int) < 8 * (len : Int) := by omega
      have hAs : A < 1073741824 := by
        have h1 : 2 ^ N ≤ 2 ^ 30 := Nat.pow_le_pow_right (by decide) hN
        have := HA.out
        omega
      have hand : bits .and .i64 ((X : Int) / 2 ^ (7 - k % 8)) 1 = (bitAt zs k : Int) := by
        have e1 : (X : Int) / 2 ^ (7 - k % 8) = ((X / 2 ^ (7 - k % 8) : Nat) : Int) := by simp
        have h2 : X / 2 ^ (7 - k % 8) ≤ X := Nat.div_le_self _ _
        rw [e1, hbit]
        have := i64_and_nat (X / 2 ^ (7 - k % 8)) 1 (by omega) (by omega)
        rw [Nat.and_one_is_mod] at this
        exact this
      have hor : bits .or .i64 ((A : Int) * 2) (bitAt zs k : Int) = ((A * 2 + bitAt zs k : Nat) : Int) := by
        have := or_join A 1 (bitAt zs k) (by omega) (by omega) (by omega)
        simpa using this
      clear hrg hX hbit
      by_cases hN30 : N = 30
      · subst hN30
        have HNo : Hid (∀ l, ¬ HuffOf l zs) := by
          have hfr := free_long 30 A (bitAt zs k) (Nat.le_refl _) hb1 HF.out ((byteBits zs).drop (k + 1))
          refine no_text zs u _ hfr ?_ ?_
          · rw [← List.append_assoc, ← HE2.out, List.take_append_drop]
          · intro p hp he
            have := congrArg List.length he
            rw [List.length_append, bitsN_len, List.length_replicate] at this
            omega
        have HBw : Hid (Below h w wr) := HB2.out.trans (HB.out.mono (by have := HB2.out.size; omega))
        go_wp2_with fail
        go_ret2
        refine ⟨.inr ⟨rfl, HNo.out⟩, ?_⟩
        rw [hh]
        exact HBw.out
      · have hNi : ¬ (30 : Int) < (N : Int) + 1 := by omega
        have hNd : decide ((30 : Int) < (N : Int) + 1) = false := by simp; omega
        have hfind := specFind_any h g (N + 1) (A * 2 + bitAt zs k) wr (HT2.out.stays HB.out) (HC2.out.stays HB.out)
        have eN : ((N + 1 : Nat) : Int) = (N : Int) + 1 := by omega
        rw [eN] at hfind
        have HFi : Hid (Calls Try.prog 30 #[.slice (some ⟨h, 0, none⟩) 257 257, .slice (some ⟨g, 0, none⟩) 257 257, .int .i64 ((N : Int) + 1), .int .i64 ((A * 2 + bitAt zs k : Nat) : Int)] wr fun e w' =>
          ((∃ c : UInt8, e = .returned (.int .i64 (c.toNat : Int)) ∧ lenOf c = N + 1 ∧ codeOfB c = A * 2 + bitAt zs k) ∨ (e = .returned (.int .i64 (-1)) ∧ ∀ c : UInt8, ¬ (lenOf c = N + 1 ∧ codeOfB c = A * 2 + bitAt zs k))) ∧ w' = wr) := hfind
        have HFP : Hid ((∀ c : UInt8, ¬ (lenOf c = N + 1 ∧ codeOfB c = A * 2 + bitAt zs k)) → Free (bitsN (N + 1) (A * 2 + bitAt zs k))) := fun hno => free_push N A (bitAt zs k) HA2.out hb1 HF.out hno
        have HFo : Hid (∀ c : UInt8, lenOf c = N + 1 → codeOfB c = A * 2 + bitAt zs k → bitsN (N + 1) (A * 2 + bitAt zs k) = codeBits c) := fun c h1 h2 => found N A _ c h1 h2
        clear hfind eN HA HF HE
        generalize A * 2 + bitAt zs k = A2 at *
        go_wp2_with fail
        refine HFi.out.mono ?_
        rintro e w3 ⟨hres, rfl⟩
        clear HFi hand hor hcell
        rcases hres with ⟨c, rfl, hc1, hc2⟩ | ⟨rfl, hno⟩
        · have hcn : (c.toNat : Int) ≤ 255 := by have : c.toNat < 256 := c.toNat_lt; omega
          have hc0 : (0 : Int) ≤ (c.toNat : Int) := by omega
          have hsz := HB.out.size
          have hul : u.length ≤ 8 * len := by
            have h1 := congrArg List.length HE2.out
            rw [List.length_append, List.length_take, byteBits_len] at h1
            have h2 : u.length ≤ (textBits u).length := text_long u
            omega
          have HE3 : Hid ((byteBits zs).take (k + 1) = textBits (u ++ [c]) ++ bitsN 0 0) := by
            show _ = _
            rw [HE2.out, HFo.out c hc1 hc2, textBits_snoc]
            simp [bitsN]
          have HN : Hid (∀ j v, [Value.int .u8 (c.toNat : Int)][j]? = some v → (w3.alloc (.cells #[.int .u8 (c.toNat : Int)] 5)).cell? ((⟨w3.heap.size, 0, none⟩ : Addr).add j) = some v) := one_new w3 _
          clear HFP HFo HE2 HA2
          go_wp2_with (at_builtin; refine wpList_append_own _ rfl _ _ 22 rfl w2.heap.size 5 i0 (.int .u8 0) 1 1 Try.underlying22 hi hz0 hz1 hz2 rfl (by decide) u6 u.length _ rfl (HO.out.alloc _) ⟨w3.heap.size, 0, none⟩ 1 1 [.int .u8 (c.toNat : Int)] rfl rfl HN.out (ints_one [(c.toNat : Int)]) (by unfold maxLen; omega) (by omega) (by simp; omega) ?_; intro v2 w4 hown hgrow _; refine Hid.out ?_)
          refine hidden ?_
          have HB4 : Hid (Below w2.heap.size w2 w4) := (HB.out.alloc (by omega) _).grown hgrow (by simp; omega) (fun q hq => (HO.out.lt q hq).1)
          have HO4 : Hid (w4.ownsRow w2.heap.size 5 1 v2 (u ++ [c]).length ((asInts (u ++ [c])).map (Value.int .u8))) := by
            show World.ownsRow _ _ _ _ _ _ _
            rw [asInts_snoc, List.map_append, List.length_append]
            exact hown
          clear hown hgrow HO HB HN
          go_wp2_with fail
          go_roundw
          case rel => exact ⟨k + 1, 0, 0, u ++ [c], by omega, by go_num, rfl, rfl, by omega, by show 0 < 2 ^ 0; decide, HE3, free_nil, HO4, HB4⟩
          case measure => simp [intOf]; omega
        · have HF2 : Hid (Free (bitsN (N + 1) A2)) := HFP.out hno
          clear hno HFP HFo
          go_wp2_with fail
          go_roundw
          case rel => exact ⟨k + 1, N + 1, A2, u, by omega, by go_num, by go_num, rfl, by omega, HA2, HE2, HF2, HO, HB⟩
          case measure => simp [intOf]; omega
    · have hk8 : k = 8 * len := by omega
      subst hk8
      have HEE : Hid (byteBits zs = textBits u ++ bitsN N A) := by
        show _ = _
        rw [← HE.out, List.take_of_length_le (by rw [byteBits_len, hzl]; exact Nat.le_refl _)]
      clear HE
      have HBw : Hid (Below h w wr) := HB2.out.trans (HB.out.mono (by have := HB2.out.size; omega))
      by_cases hN7 : 7 < N
      · have HNo : Hid (∀ l, ¬ HuffOf l zs) := no_text zs u _ HF.out HEE.out (fun p hp he => by
          have := congrArg List.length he
          rw [bitsN_len, List.length_replicate] at this
          omega)
        have hN7i : (7 : Int) < (N : Int) := by omega
        go_wp2_with fail
        go_ret2
        refine ⟨.inr ⟨rfl, HNo.out⟩, ?_⟩
        rw [hh]
        exact HBw.out
      · have hN7i : ¬ (7 : Int) < (N : Int) := by omega
        have hN7d : decide ((7 : Int) < (N : Int)) = false := by simp; omega
        have HMask : Hid (wrap64 (wrap64 ((2 : Int) ^ N) - 1) = ((2 ^ N - 1 : Nat) : Int)) := mask_big N (by omega)
        have hNu : (N : Int) ≤ 7 := by omega
        by_cases hones : A = 2 ^ N - 1
        · have HT : Hid (HuffOf u zs) := by
            refine ⟨fun x hx => HS.out.2.1 x hx, N, by omega, ?_⟩
            rw [HEE.out, hones, bitsN_ones]
          have heq : ((A : Int) != ((2 ^ N - 1 : Nat) : Int)) = false := by rw [hones]; simp
          have hconv : (convert 22 9 u6).run Try.prog wr = .ok (.string ⟨u.toArray⟩) wr := by
            rcases HO.out.2 with ⟨rfl, h0⟩ | ⟨g', cap', cur, rfl, _⟩
            · obtain rfl : u = [] := List.length_eq_zero_iff.1 h0
              exact run_convert_bytes_nil (w := wr) 22 5 Try.underlying22 Try.underlying5 0 0 9 Try.underlying9
            · refine run_convert_bytes_back wr 22 9 5 ⟨g', 0, none⟩ cap' u Try.underlying22 Try.underlying5 Try.underlying9 (fun j hj => ?_)
              have := HO.out.cellAt j (by omega)
              have ea : (⟨g', 0, none⟩ : Addr).add j = ⟨g', j, none⟩ := by simp [Addr.add]; exact fun h => h.symm
              rw [ea, this]
              simp [asInts, hj]
          clear hones
          have hmask := HMask.out
          go_wp2_with fail
          go_ret2
          refine ⟨.inl ⟨⟨u.toArray⟩, rfl, by simpa using HT.out⟩, ?_⟩
          first | exact HBw.out | (rw [hh]; exact HBw.out)
        · have HNo : Hid (∀ l, ¬ HuffOf l zs) := no_text zs u _ HF.out HEE.out (fun p hp he => by
            have := congrArg List.length he
            rw [bitsN_len, List.length_replicate] at this
            subst this
            exact hones (ones_of N A HA.out he))
          have heq : ((A : Int) != ((2 ^ N - 1 : Nat) : Int)) = true := by simp only [bne_iff_ne, ne_eq]; omega
          clear hones
          have hmask := HMask.out
          go_wp2_with fail
          go_ret2
          refine ⟨.inr ⟨rfl, HNo.out⟩, ?_⟩
          first | exact HBw.out | (rw [hh]; exact HBw.out)

end Go.Proofs.Ytkoeahopfajblab
