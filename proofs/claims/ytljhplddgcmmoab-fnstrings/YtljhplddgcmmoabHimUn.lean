/- What the program's UnHuff answers: the one text whose code these bytes are, or nothing where there is none. For lists of at most 2^40 bytes. -/
import Derived.Test.YtljhplddgcmmoabHimNext
namespace Go.Proofs.Ytljhplddgcmmoab
open Go.RowKit
set_option linter.unusedVariables false

set_option maxRecDepth 10000 in
set_option maxHeartbeats 3200000 in
theorem implUn_any (a : Option Addr) (len cap : Nat) (zs : List Int) (w : World) (hs : Seg w a len zs) (hl : len ≤ 1099511627776) :
    Calls Try.prog 15 #[.slice a len cap] w fun e w' =>
      ((∃ t : ByteArray, e = .returned (.tuple #[.string t, .bool true]) ∧ HuffOf t.data.toList zs) ∨ (e = .returned (.tuple #[.string ⟨#[]⟩, .bool false]) ∧ ∀ l, ¬ HuffOf l zs)) ∧ Below w.heap.size w w' := by
  obtain ⟨i0, hi, hz0, hz1, hz2⟩ := info_parts Try.info5
  have HS : Hid (Seg w a len zs) := hs
  have hzl : zs.length = len := hs.1
  clear hs
  obtain ⟨Z, hZ⟩ : ∃ Z : List Int, List.replicate 257 0 = Z := ⟨_, rfl⟩
  obtain ⟨Y, hY⟩ : ∃ Y : List Int, List.replicate 93 0 = Y := ⟨_, rfl⟩
  have hz : ∀ w, (zeroValue 57).run Try.prog w = .ok (.agg (tabV Z)) w := by rw [← hZ]; exact zeroA
  have hy : ∀ w, (zeroValue 70).run Try.prog w = .ok (.agg (tabV Y)) w := by rw [← hY]; exact zeroR
  have hzs : (tabV Z).size = (tabV lensI).size := by rw [tabV_size, tabV_size, ← hZ, List.length_replicate, lens_len]
  have hzr : (tabV Z).size = (tabV rankI).size := by rw [tabV_size, tabV_size, ← hZ, List.length_replicate, rankI_len]
  have hys : (tabV Y).size = (tabV rowsI).size := by rw [tabV_size, tabV_size, ← hY, List.length_replicate, rowsI_len]
  clear hZ hY
  go_enter Try.func15, Try.ntmps15
  go_wp2_with fail
  refine (implLens_any w).mono ?_
  rintro e w1 ⟨rfl, hw1⟩
  have HB1 : Hid (Below w.heap.size w w1) := by
    show Below _ _ _
    rw [hw1]
    exact (Below.refl _ _).alloc (Nat.le_refl _) _
  clear hw1
  have hg2 := heap_alloc_last w1 (.cells (tabV lensI) 57)
  go_wp2_with (first
    | (refine wpList_store_row rfl 57 _ _ rfl w1.heap.size (tabV lensI) rfl rfl 57 (tabV Z) (heap_alloc_last w1 _) (sizeA lens_len) hzs (tabV_one _) ?_; rw [World.setRow_alloc_new])
    | (refine wpList_load_row rfl 57 _ rfl w1.heap.size rfl 57 (tabV lensI) (0, 0) _ hg2 Try.underlying57 rfl (sizeA lens_len) ?_))
  obtain ⟨w2, hw2⟩ : ∃ w2, w1.alloc (.cells (tabV lensI) 57) = w2 := ⟨_, rfl⟩
  have HT2 : Hid (Arr w2 w1.heap.size 57 lensI) := by show Arr _ _ _ _; rw [← hw2]; exact Arr.new w1 _ _
  have HB2 : Hid (Below w.heap.size w w2) := by show Below _ _ _; rw [← hw2]; exact HB1.out.alloc HB1.out.size _
  rw [hw2]
  clear hw2 hg2 hzs HB1
  obtain ⟨h, hh⟩ : ∃ h, w1.heap.size = h := ⟨_, rfl⟩
  rw [hh] at HT2 ⊢
  clear hh
  refine (implRows_any w2).mono ?_
  rintro e w3 ⟨rfl, hb3⟩
  have hg3 : (w3.alloc (.cells (tabV rowsI) 70)).heap[h]? = some (.cells (tabV lensI) 57 (0, 0)) := (HT2.out.stays hb3).alloc _
  have HB3 : Hid (Below w.heap.size w w3) := HB2.out.trans (hb3.mono HB2.out.size)
  clear hb3 HT2 HB2
  go_wp2_with (first
    | (refine wpList_store_row rfl 70 _ _ rfl w3.heap.size (tabV rowsI) rfl rfl 70 (tabV Y) (heap_alloc_last w3 _) (sizeR rowsI_len) hys (tabV_one _) ?_; rw [World.setRow_alloc_new])
    | (refine wpList_load_row rfl 57 _ rfl h rfl 57 (tabV lensI) (0, 0) _ hg3 Try.underlying57 rfl (sizeA lens_len) ?_))
  obtain ⟨w4, hw4⟩ : ∃ w4, w3.alloc (.cells (tabV rowsI) 70) = w4 := ⟨_, rfl⟩
  have HR4 : Hid (Arr w4 w3.heap.size 70 rowsI) := by show Arr _ _ _ _; rw [← hw4]; exact Arr.new w3 _ _
  have HB4 : Hid (Below w.heap.size w w4) := by show Below _ _ _; rw [← hw4]; exact HB3.out.alloc HB3.out.size _
  rw [hw4]
  clear hw4 hg3 hys hy HB3
  obtain ⟨r, hr⟩ : ∃ r, w3.heap.size = r := ⟨_, rfl⟩
  rw [hr] at HR4 ⊢
  clear hr
  refine (implRanks_any w4).mono ?_
  rintro e w5 ⟨rfl, hb5⟩
  have HR5 : Hid (Arr w5 r 70 rowsI) := HR4.out.stays hb5
  have HB5 : Hid (Below w.heap.size w w5) := HB4.out.trans (hb5.mono HB4.out.size)
  clear hb5 HR4 HB4
  go_wp2_with (refine wpList_store_row rfl 57 _ _ rfl w5.heap.size (tabV rankI) rfl rfl 57 (tabV Z) (heap_alloc_last w5 _) (sizeA rankI_len) hzr (tabV_one _) ?_; rw [World.setRow_alloc_new]; refine Hid.out ?_)
  refine hidden ?_
  obtain ⟨w6, hw6⟩ : ∃ w6, w5.alloc (.cells (tabV rankI) 57) = w6 := ⟨_, rfl⟩
  have HK6 : Hid (Arr w6 w5.heap.size 57 rankI) := by show Arr _ _ _ _; rw [← hw6]; exact Arr.new w5 _ _
  have HR6 : Hid (Arr w6 r 70 rowsI) := by show Arr _ _ _ _; rw [← hw6]; exact HR5.out.alloc _
  have HB6 : Hid (Below w.heap.size w w6) := by show Below _ _ _; rw [← hw6]; exact HB5.out.alloc HB5.out.size _
  rw [hw6]
  clear hw6 hzr hz HR5 HB5
  obtain ⟨g, hg⟩ : ∃ g, w5.heap.size = g := ⟨_, rfl⟩
  rw [hg] at HK6 ⊢
  clear hg
  have HS6 : Hid (Seg w6 a len zs) := HS.out.below HB6.out
  go_wp2_with fail
  refine (bitsOf_any a len cap (w6.alloc (.cells #[] 5))).mono ?_
  rintro e w8 ⟨rfl, hw8⟩
  have HRd : Hid (Reads w6 (w6.heap.size + 2) (w6.heap.size + 1) a len cap w8 (.slice (some ⟨w6.heap.size, 0, none⟩) 0 0) [] 0) := by
    have h1 : (w6.alloc (.cells #[] 5)).ownsRow w6.heap.size 5 1 (.slice (some ⟨w6.heap.size, 0, none⟩) 0 0) 0 ((asInts []).map (Value.int .u8)) := World.ownsRow_lit w6 #[] 0 (Nat.le_refl _) (Nat.zero_le _) rfl
    refine ⟨?_, ?_, ?_, ?_, by omega, by omega⟩
    · rw [hw8]
      exact (h1.alloc _).alloc _
    · rw [hw8]
      exact (((Below.refl _ _).alloc (Nat.le_refl _) _).alloc (by simp) _).alloc (by simp; omega) _
    · have := heap_alloc_last ((w6.alloc (.cells #[] 5)).alloc (.cells #[.slice a len cap] 22)) (.cells #[.int .i64 0] 3)
      rw [World.size_alloc, World.size_alloc] at this
      rw [hw8]
      exact this
    · have := heap_kept (heap_alloc_last (w6.alloc (.cells #[] 5)) (.cells #[.slice a len cap] 22)) (.cells #[.int .i64 0] 3)
      rw [World.size_alloc] at this
      rw [hw8]
      exact this
  clear hw8
  rw [World.size_alloc]
  obtain ⟨p, hp⟩ : ∃ p, w6.heap.size + 2 = p := ⟨_, rfl⟩
  obtain ⟨q, hq⟩ : ∃ q, w6.heap.size + 1 = q := ⟨_, rfl⟩
  have hp' : w6.heap.size + 1 + 1 = p := hp
  rw [hp, hq] at HRd
  rw [hp', hq]
  clear hp hp' hq
  go_wp2_with fail
  refine (next_any zs HRd.out HS6.out hl (by omega)).mono ?_
  rintro e w9 ⟨B, O, k', rfl, hgot, hrd⟩
  have HG9 : Hid (Got zs len 0 B O k') := hgot
  have HR9 : Hid (Reads w6 p q a len cap w9 (.slice (some ⟨w6.heap.size, 0, none⟩) 0 0) [] k') := hrd
  clear hgot hrd HRd
  have hli : (len : Int) ≤ 1099511627776 := by omega
  go_wp2_with fail
  go_loopw [7, 8, 9, 11, 12] (fun v c l bit ok wr => ∃ (k k' N A : Nat) (u : List UInt8) (B : Int) (O : Bool), Hid (Got zs len k B O k') ∧ bit = .int .i64 B ∧ ok = .bool O ∧ l = .int .i64 N ∧ c = .int .i64 A ∧ N ≤ 29 ∧ Hid (A < 2 ^ N) ∧ Hid (firstN N + countN N ≤ A) ∧ Hid ((byteBits zs).take k = textBits u ++ bitsN N A) ∧ Hid (Free (bitsN N A)) ∧ Hid (Reads w6 p q a len cap wr v u k')) (fun _ _ _ _ ok wr => 2 * (8 * len - numIn p wr) + okIn ok)
  case atStart => exact ⟨0, k', 0, 0, [], B, O, HG9, rfl, rfl, rfl, rfl, by omega, by show 0 < 2 ^ 0; decide, by show _ ≤ _; rw [first_start]; exact Nat.le_refl _, rfl, free_nil, HR9⟩
  case round =>
    clear HG9 HR9
    obtain ⟨k, k1, N, A, u, B, O, HG, rfl, rfl, rfl, rfl, hN, HA, HF, HE, HFr, HRd⟩ := hrel
    rcases HG.out with ⟨hlt, rfl, rfl, rfl⟩ | ⟨hk8, rfl, rfl, rfl⟩
    · have HE2 : Hid ((byteBits zs).take (k + 1) = textBits u ++ bitsN (N + 1) (A * 2 + bitAt zs k)) := by
        show _ = _
        rw [take_bit zs k (by omega), HE.out, push_bit N A _ (bitAt_le zs k), List.append_assoc]
      have hb1 := bitAt_le zs k
      have hA2 : A * 2 + bitAt zs k < 2 ^ (N + 1) := by
        have := HA.out
        rw [Nat.pow_succ]
        omega
      have HA2 : Hid (A * 2 + bitAt zs k < 2 ^ (N + 1)) := hA2
      have hAs : A < 536870912 := by
        have h1 : 2 ^ N ≤ 2 ^ 29 := Nat.pow_le_pow_right (by decide) hN
        have := HA.out
        omega
      have hor : bits .or .i64 ((A : Int) * 2) (bitAt zs k : Int) = ((A * 2 + bitAt zs k : Nat) : Int) := by
        have := or_joinH A 1 (bitAt zs k) (by omega) (by omega) (by omega)
        simpa using this
      have hfirst : firstN (N + 1) ≤ A * 2 + bitAt zs k := by
        rw [first_next N (by omega)]
        have := HF.out
        omega
      have HFP : Hid ((∀ c : UInt8, ¬ (lenOf c = N + 1 ∧ codeOfB c = A * 2 + bitAt zs k)) → Free (bitsN (N + 1) (A * 2 + bitAt zs k))) := fun hno => free_push N A (bitAt zs k) hA2 hb1 HFr.out hno
      have HFo : Hid (∀ c : UInt8, lenOf c = N + 1 → codeOfB c = A * 2 + bitAt zs k → bitsN (N + 1) (A * 2 + bitAt zs k) = codeBits c) := fun c h1 h2 => found N A _ c h1 h2
      have hB1 : (bitAt zs k : Int) ≤ 1 := by omega
      have hA3 : A * 2 + bitAt zs k < 1073741824 := by omega
      clear HA HF HE HFr HG hA2
      obtain ⟨e0, e1, e2⟩ := rows_at (N + 1) (by omega)
      obtain ⟨s0, s1, s2⟩ := rows_small (N + 1) (by omega)
      have hR := HR6.out.below HRd.out.below HR6.out.lt
      have c0 := hR.cell ((N + 1) * 3) (by rw [rowsI_len]; omega)
      have c1 := hR.cell ((N + 1) * 3 + 1) (by rw [rowsI_len]; omega)
      have c2 := hR.cell ((N + 1) * 3 + 2) (by rw [rowsI_len]; omega)
      rw [e0] at c0
      rw [e1] at c1
      rw [e2] at c2
      clear e0 e1 e2 hR
      have HFS : Hid (A * 2 + bitAt zs k < firstN (N + 1) + countN (N + 1) → ∃ s : Nat, s < 257 ∧ shortN (N + 1) + (A * 2 + bitAt zs k) - firstN (N + 1) < 257 ∧ rankI.getD (shortN (N + 1) + (A * 2 + bitAt zs k) - firstN (N + 1)) 0 = (s : Int) ∧ ((s = 256 ∧ N + 1 = 30 ∧ A * 2 + bitAt zs k = 1073741823) ∨ ∃ c : UInt8, s = c.toNat ∧ lenOf c = N + 1 ∧ codeOfB c = A * 2 + bitAt zs k)) := fun h2 => found_sym (N + 1) (A * 2 + bitAt zs k) (by omega) hfirst h2
      have HNo : Hid (firstN (N + 1) + countN (N + 1) ≤ A * 2 + bitAt zs k → N + 1 ≤ 29 ∧ Free (bitsN (N + 1) (A * 2 + bitAt zs k))) := by
        intro h2
        refine ⟨?_, HFP.out (no_code _ _ h2)⟩
        rcases Nat.lt_or_ge N 29 with h | h
        · omega
        · exfalso
          obtain rfl : N = 29 := by omega
          have h30 : firstN (29 + 1) + countN (29 + 1) = 1073741824 := first_all
          omega
      generalize hAA : A * 2 + bitAt zs k = A2 at *
      generalize hf : firstN (N + 1) = fi at *
      generalize hc : countN (N + 1) = co at *
      generalize hsh : shortN (N + 1) = sh at *
      have HFe : Hid (fi + co ≤ A2 → firstN (N + 1) + countN (N + 1) ≤ A2) := fun h => by rw [hf, hc]; exact h
      clear hAA hf hc hsh
      obtain ⟨W1, hW1⟩ : ∃ W1, wr.alloc (.cells #[.int .i64 (co : Int), .int .i64 (fi : Int), .int .i64 (sh : Int)] 69) = W1 := ⟨_, rfl⟩
      have HRd1 : Hid (Reads w6 p q a len cap W1 u7 u (k + 1)) := by show Reads _ _ _ _ _ _ _ _ _ _; rw [← hW1]; exact HRd.out.alloc _
      have hx : W1.heap[wr.heap.size]? = some (.cells #[.int .i64 (co : Int), .int .i64 (fi : Int), .int .i64 (sh : Int)] 69 (0, 0)) := by rw [← hW1]; exact heap_alloc_last wr _
      have x0 : W1.cell? ⟨wr.heap.size, 0, none⟩ = some (.int .i64 (co : Int)) := by rw [cell_of_row _ _ _ _ _ _ hx]; rfl
      have x1 : W1.cell? ⟨wr.heap.size, 1, none⟩ = some (.int .i64 (fi : Int)) := by rw [cell_of_row _ _ _ _ _ _ hx]; rfl
      have x2 : W1.cell? ⟨wr.heap.size, 2, none⟩ = some (.int .i64 (sh : Int)) := by rw [cell_of_row _ _ _ _ _ _ hx]; rfl
      have hli29 : (N : Int) ≤ 29 := by omega
      clear hx HFP
      by_cases hge : fi + co ≤ A2
      · have hgei : (fi : Int) + (co : Int) ≤ (A2 : Int) := by omega
        obtain ⟨hN1, hFr⟩ := HNo.out hge
        have HFr2 : Hid (Free (bitsN (N + 1) A2)) := hFr
        have HF2 : Hid (firstN (N + 1) + countN (N + 1) ≤ A2) := HFe.out hge
        have hN1' : N + 1 ≤ 29 := hN1
        clear hFr HNo HFS HFo HFe hge hN1
        go_wp2_with fail
        refine (next_any zs HRd1.out HS6.out hl (by omega)).mono ?_
        rintro e w10 ⟨B2, O2, k2, rfl, hgot, hrd⟩
        have HG2 : Hid (Got zs len (k + 1) B2 O2 k2) := hgot
        have HR2 : Hid (Reads w6 p q a len cap w10 u7 u k2) := hrd
        clear hgot hrd
        go_wp2_with fail
        go_roundw
        case rel => exact ⟨k + 1, k2, N + 1, A2, u, B2, O2, HG2, rfl, rfl, by go_num, rfl, hN1', HA2, HF2, HE2, HFr2, HR2⟩
        case measure => exact got_less zs w10 u7 u B2 O2 k2 HRd.out HG2.out HR2.out hlt
      · obtain ⟨s, hs7, hI7, hrank, hsym⟩ := HFS.out (by omega)
        have hI0 : fi ≤ sh + A2 := by
          have := hfirst
          omega
        obtain ⟨I, hI⟩ : ∃ I, sh + A2 - fi = I := ⟨_, rfl⟩
        rw [hI] at hI7 hrank
        have hIi : (sh : Int) + (A2 : Int) - (fi : Int) = (I : Int) := by omega
        have hI6 : (I : Int) ≤ 256 := by omega
        have hgei : ¬ (fi : Int) + (co : Int) ≤ (A2 : Int) := by omega
        have hgd : decide ((fi : Int) + (co : Int) ≤ (A2 : Int)) = false := by simp; omega
        have ck : W1.cell? ⟨g, I, none⟩ = some (.int .i64 (s : Int)) := by
          rw [← hrank]
          exact (HK6.out.below HRd1.out.below HK6.out.lt).cell I (by rw [rankI_len]; exact hI7)
        have HSym : Hid ((s = 256 ∧ N + 1 = 30 ∧ A2 = 1073741823) ∨ ∃ c : UInt8, s = c.toNat ∧ lenOf c = N + 1 ∧ codeOfB c = A2) := hsym
        clear hsym hrank hI hI0 HNo HFS HFe hge
        by_cases h6 : s = 256
        · subst h6
          have HNone : Hid (∀ l, ¬ HuffOf l zs) := by
            rcases HSym.out with ⟨_, h30, hA⟩ | ⟨c, h1, _⟩
            · refine end_none zs u ((byteBits zs).drop (k + 1)) ?_
              have := HE2.out
              rw [h30, hA] at this
              rw [← List.append_assoc, ← this, List.take_append_drop]
            · have := c.toNat_lt
              omega
          have HBw : Hid (Below w.heap.size w W1) := HB6.out.trans (HRd1.out.below.mono HB6.out.size)
          go_wp2_with fail
          go_ret2
          exact ⟨.inr ⟨rfl, HNone.out⟩, HBw.out⟩
        · obtain ⟨c, rfl, hc1, hc2⟩ : ∃ c : UInt8, s = c.toNat ∧ lenOf c = N + 1 ∧ codeOfB c = A2 := by
            rcases HSym.out with ⟨h, _⟩ | h
            · exact absurd h h6
            · exact h
          have HE3 : Hid ((byteBits zs).take (k + 1) = textBits (u ++ [c]) ++ bitsN 0 0) := by
            show _ = _
            rw [HE2.out, HFo.out c hc1 hc2, textBits_snoc]
            simp [bitsN]
          have hcn : (c.toNat : Int) ≤ 255 := by have : c.toNat < 256 := c.toNat_lt; omega
          have hc0 : (0 : Int) ≤ (c.toNat : Int) := by omega
          have hc6 : ((c.toNat : Int) == 256) = false := by simp; omega
          have hul : u.length ≤ 8 * len := by
            have h1 := congrArg List.length HE2.out
            rw [List.length_append, List.length_take, byteBits_len] at h1
            have h2 : u.length ≤ (textBits u).length := text_long u
            omega
          have hA : u.length + 1 ≤ maxLen ∧ (u.length + 1) * 1 ≤ 140737488355328 := ⟨by unfold maxLen; omega, by omega⟩
          have HN : Hid (∀ j v, [Value.int .u8 (c.toNat : Int)][j]? = some v → (W1.alloc (.cells #[.int .u8 (c.toNat : Int)] 5)).cell? ((⟨W1.heap.size, 0, none⟩ : Addr).add j) = some v) := one_new W1 _
          have HBs : Hid (w6.heap.size ≤ (W1.alloc (.cells #[.int .u8 (c.toNat : Int)] 5)).heap.size) := by show _ ≤ _; have := HRd1.out.below.size; simp; omega
          clear HFo HE2 HA2 HSym hc1 hc2 hul h6 hs7
          go_wp2_with (at_builtin; refine wpList_append_own _ rfl _ _ 22 rfl w6.heap.size 5 i0 (.int .u8 0) 1 1 Try.underlying22 hi hz0 hz1 hz2 rfl (by decide) u7 u.length _ rfl (HRd1.out.own.alloc _) ⟨W1.heap.size, 0, none⟩ 1 1 [.int .u8 (c.toNat : Int)] rfl rfl HN.out (ints_one [(c.toNat : Int)]) hA.1 hA.2 HBs.out ?_; intro v2 w10 hown hgrow _; refine Hid.out ?_)
          refine hidden ?_
          have HRd2 : Hid (Reads w6 p q a len cap w10 v2 (u ++ [c]) (k + 1)) := (HRd1.out.alloc _).grown hown hgrow
          clear hown hgrow HN HBs
          go_wp2_with fail
          refine (next_any zs HRd2.out HS6.out hl (by omega)).mono ?_
          rintro e w11 ⟨B2, O2, k2, rfl, hgot, hrd⟩
          have HG2 : Hid (Got zs len (k + 1) B2 O2 k2) := hgot
          have HR2 : Hid (Reads w6 p q a len cap w11 v2 (u ++ [c]) k2) := hrd
          clear hgot hrd
          go_wp2_with fail
          go_roundw
          case rel => exact ⟨k + 1, k2, 0, 0, u ++ [c], B2, O2, HG2, rfl, rfl, rfl, rfl, by omega, by show 0 < 2 ^ 0; decide, by show _ ≤ _; rw [first_start]; exact Nat.le_refl _, HE3, free_nil, HR2⟩
          case measure => exact got_less zs w11 v2 (u ++ [c]) B2 O2 k2 HRd.out HG2.out HR2.out hlt
    · have HEE : Hid (byteBits zs = textBits u ++ bitsN N A) := by
        show _ = _
        rw [← HE.out, List.take_of_length_le (by rw [byteBits_len, hzl, hk8]; exact Nat.le_refl _)]
      clear HE HG
      have HBw : Hid (Below w.heap.size w wr) := HB6.out.trans (HRd.out.below.mono HB6.out.size)
      by_cases hN7 : 7 < N
      · have HNone : Hid (∀ l, ¬ HuffOf l zs) := no_text zs u _ HFr.out HEE.out (fun p hp he => by
          have := congrArg List.length he
          rw [bitsN_len, List.length_replicate] at this
          omega)
        have hN7i : (8 : Int) ≤ (N : Int) := by omega
        go_wp2_with fail
        go_ret2
        exact ⟨.inr ⟨rfl, HNone.out⟩, HBw.out⟩
      · have hN7i : ¬ (8 : Int) ≤ (N : Int) := by omega
        have hN7d : decide ((8 : Int) ≤ (N : Int)) = false := by simp; omega
        have hNu : (N : Int) ≤ 7 := by omega
        have HOnes : Hid (∀ w, Calls Try.prog 48 #[.int .i64 (N : Int)] w fun e w' => e = .returned (.int .u64 ((2 ^ N - 1 : Nat) : Int)) ∧ w' = w) := fun w => onesOf_any N (by omega) w
        have hAs : (A : Int) < 128 := by
          have h1 : 2 ^ N ≤ 2 ^ 7 := Nat.pow_le_pow_right (by decide) (by omega)
          have := HA.out
          omega
        by_cases hones : A = 2 ^ N - 1
        · have HT : Hid (HuffOf u zs) := by
            refine ⟨fun x hx => HS.out.2.1 x hx, N, by omega, ?_⟩
            rw [HEE.out, hones, bitsN_ones]
          have heq : ((A : Int) != ((2 ^ N - 1 : Nat) : Int)) = false := by rw [hones]; simp
          have hconv : (convert 22 9 u7).run Try.prog wr = .ok (.string ⟨u.toArray⟩) wr := by
            have HO := HRd.out.own
            rcases HO.2 with ⟨rfl, h0⟩ | ⟨g', cap', cur, rfl, _⟩
            · obtain rfl : u = [] := List.length_eq_zero_iff.1 h0
              exact run_convert_bytes_nil (w := wr) 22 5 Try.underlying22 Try.underlying5 0 0 9 Try.underlying9
            · refine run_convert_bytes_back wr 22 9 5 ⟨g', 0, none⟩ cap' u Try.underlying22 Try.underlying5 Try.underlying9 (fun j hj => ?_)
              have := HO.cellAt j (by omega)
              have ea : (⟨g', 0, none⟩ : Addr).add j = ⟨g', j, none⟩ := by simp [Addr.add]; exact fun h => h.symm
              rw [ea, this]
              simp [asInts, hj]
          generalize 2 ^ N - 1 = OP at *
          clear hones
          go_wp2_with fail
          refine (HOnes.out wr).mono ?_
          rintro e w12 ⟨rfl, hw12⟩
          rw [hw12]
          clear hw12
          go_wp2_with fail
          go_ret2
          exact ⟨.inl ⟨⟨u.toArray⟩, rfl, by simpa using HT.out⟩, HBw.out⟩
        · have HNone : Hid (∀ l, ¬ HuffOf l zs) := no_text zs u _ HFr.out HEE.out (fun p hp he => by
            have := congrArg List.length he
            rw [bitsN_len, List.length_replicate] at this
            subst this
            exact hones (ones_of N A HA.out he))
          have heq : ((A : Int) != ((2 ^ N - 1 : Nat) : Int)) = true := by simp only [bne_iff_ne, ne_eq]; omega
          generalize 2 ^ N - 1 = OP at *
          clear hones
          go_wp2_with fail
          refine (HOnes.out wr).mono ?_
          rintro e w12 ⟨rfl, hw12⟩
          rw [hw12]
          clear hw12
          go_wp2_with fail
          go_ret2
          exact ⟨.inr ⟨rfl, HNone.out⟩, HBw.out⟩

end Go.Proofs.Ytljhplddgcmmoab
