/- What the specification's l13Put answers. What the specification's l11Id answers. What the specification's RecOk answers. What GetRec answers of a text; no program in it. What is answered for a number of bytes that may not be there. No program in it. -/
import Derived.Test.YtpjldfpipchmjavGreatDoorM11
import Derived.Test.YtpjldfpipchmjavGreatDoorM03
import Derived.Test.YtpjldfpipchmjavGreatDoorM16
import Derived.Test.YtpjldfpipchmjavGreatDoorM16
import Derived.Deep.CutBlock
import Derived.Deep.RegionHeld3
import Derived.Test.YtpjldfpipchmjavGreatDoorM10
import Derived.Test.YtpjldfpipchmjavGreatDoorM10
import Derived.Deep.QuietTactic
import Derived.Test.YtpjldfpipchmjavGreatDoorM01
namespace Go.Proofs.YtpjldfpipchmjavGreatDoor
open Go.RowKit
set_option linter.unusedVariables false

set_option maxRecDepth 10000 in
set_option maxHeartbeats 1600000 in
theorem specPut13_any (e q k : Nat) (id : ByteArray) (n : Nat) (a : Option Addr) (d ca : Nat) (zs : List Int) (w : World) (hs : Seg w a d zs) (hi : id.size ≤ 255) (hd : d ≤ 255) (he : e ≤ 1000000000) (hq : q ≤ 1000000000) (hk : k ≤ 1000000000) (hn : n ≤ 1000000000) :
    Calls Tryz.prog 115 #[.agg #[.int .i64 e, .int .i64 q, .int .i64 k, .string id, .int .i64 n, .slice a d ca]] w fun r w' => r = .returned (.string (txU (sumB (recB e q k id n zs)))) ∧ Below w.heap.size w w' := by
  obtain ⟨w0, hw0⟩ : ∃ w0, w.alloc (.cells #[.int .i64 e, .int .i64 q, .int .i64 k, .string id, .int .i64 n, .slice a d ca] 106) = w0 := ⟨_, rfl⟩
  have HE : Hid (w.alloc (.cells #[.int .i64 e, .int .i64 q, .int .i64 k, .string id, .int .i64 n, .slice a d ca] 106) = w0) := hw0
  have q0 : BoxN w0 w.heap.size 106 [.int .i64 e, .int .i64 q, .int .i64 k, .string id, .int .i64 n, .slice a d ca] := by rw [← hw0]; exact BoxN.new _ _ _
  have HB : Hid (Below w.heap.size w w0) := by show Below _ _ _; rw [← hw0]; exact (Below.refl _ _).alloc (Nat.le_refl _) _
  clear hw0
  go_enter Tryz.func115, Tryz.ntmps115
  go_upto_region 1 with fail
  rw [HE.out]
  clear HE
  have c0 := q0.cell 0 rfl
  have c1 := q0.cell 1 rfl
  have c2 := q0.cell 2 rfl
  have c3 := q0.cell 3 rfl
  have c4 := q0.cell 4 rfl
  have c5 := q0.cell 5 rfl
  have HQ : Hid (∀ W, Below w0.heap.size w0 W → BoxN W w.heap.size 106 [.int .i64 e, .int .i64 q, .int .i64 k, .string id, .int .i64 n, .slice a d ca]) := fun W h => q0.stays h
  have HS : Hid (∀ W, Below w0.heap.size w0 W → Seg W a d zs) := fun W h => hs.below (HB.out.trans (h.mono HB.out.size))
  have HLd : Hid (zs.length = d) := hs.1
  have HBa : Hid (Below w0.heap.size w0 (w0.alloc (.cells #[] 5)).drew) := ((Below.refl _ _).alloc (Nat.le_refl _) _).drew
  have HZa : Hid (w0.heap.size < (w0.alloc (.cells #[] 5)).drew.heap.size) := by show _ < (w0.alloc (.cells #[] 5)).heap.size; simp
  have HSn : Hid (∀ (W : World) (x : Option Addr), Seg W x 0 []) := fun W x => ⟨rfl, by simp, .inl rfl⟩
  clear q0 hs
  go_cut [3] from 4 (fun v W => ∃ g c, v = .slice (some ⟨g, 0, none⟩) 6 c ∧ Hid (Owns W w0.heap.size (some ⟨g, 0, none⟩) 6 c (pbl e 3 3 ++ pbl q 2 2 ++ pbl k 1 1)) ∧ Hid (Below w0.heap.size w0 W))
  case first =>
    go_region_held3 (fun W => W.cell? ⟨w.heap.size, 0, none⟩ = some (.int .i64 e) ∧ W.cell? ⟨w.heap.size, 1, none⟩ = some (.int .i64 q) ∧ W.cell? ⟨w.heap.size, 2, none⟩ = some (.int .i64 k)) (first | (refine ⟨?_, ?_, ?_⟩ <;> assumption) | go_keep) (first
      | (go_at_call 149; refine (specPutL g2 5 cc2 k 1 6 1 rfl (pbl e 3 3 ++ pbl q 2 2) (pbl e 3 3 ++ pbl q 2 2 ++ pbl k 1 1) _ own2.seg hl2 (by omega) (by omega) (by omega) (by omega) rfl rfl).mono ?_; rintro r y3 ⟨⟨g3, cc3, rfl, own3⟩, hb3⟩
         have hB3 : Below w0.heap.size w0 y3 := hB2.trans (hb3.mono hB2.size)
         have m0 := (HQ.out _ hB3).cell 0 rfl
         have m1 := (HQ.out _ hB3).cell 1 rfl
         have m2 := (HQ.out _ hB3).cell 2 rfl)
      | (go_at_call 149; refine (specPutL g1 3 cc1 q 2 5 2 rfl (pbl e 3 3) (pbl e 3 3 ++ pbl q 2 2) _ own1.seg hl1 (by omega) (by omega) (by omega) (by omega) rfl rfl).mono ?_; rintro r y2 ⟨⟨g2, cc2, rfl, own2⟩, hb2⟩
         have hB2 : Below w0.heap.size w0 y2 := hB1.trans (hb2.mono hB1.size)
         have hl2 := (own2.lt g2 rfl).2
         have p0 := (HQ.out _ hB2).cell 0 rfl
         have p1 := (HQ.out _ hB2).cell 1 rfl
         have p2 := (HQ.out _ hB2).cell 2 rfl)
      | (go_at_call 149; refine (specPutL w0.heap.size 0 0 e 3 3 3 rfl [] (pbl e 3 3) _ (HSn.out _ _) HZa.out (by omega) (by omega) (by omega) (by omega) rfl rfl).mono ?_; rintro r y1 ⟨⟨g1, cc1, rfl, own1⟩, hb1⟩
         have hB1 : Below w0.heap.size w0 y1 := HBa.out.trans (hb1.mono HBa.out.size)
         have hl1 := (own1.lt g1 rfl).2
         have s0 := (HQ.out _ hB1).cell 0 rfl
         have s1 := (HQ.out _ hB1).cell 1 rfl
         have s2 := (HQ.out _ hB1).cell 2 rfl)
      | fail)
    all_goals
      have HO3 : Hid (Owns y3 w0.heap.size (some ⟨g3, 0, none⟩) 6 cc3 (pbl e 3 3 ++ pbl q 2 2 ++ pbl k 1 1)) := owns_low own3 hB2.size
      have HB3 : Hid (Below w0.heap.size w0 y3) := hB3
      clear own1 own2 own3 hb1 hb2 hb3 hB1 hB2 hB3 hl1 hl2
      go_wp2_with fail
      go_meet
      exact ⟨g3, cc3, rfl, HO3, HB3⟩
  case rest =>
  clear c0 c1 c2 c3 c4 c5 HBa HZa HSn
  obtain ⟨g3, cc3, rfl, HO3, HB3⟩ := hcut
  obtain ⟨y3, hy3⟩ : ∃ y3, wc = y3 := ⟨_, rfl⟩
  rw [hy3] at HO3 HB3 ⊢
  clear hy3
  obtain ⟨i0, ji, jz0, jz1, jz2⟩ := info_parts Tryz.info5
  have HBd : Hid (Below w0.heap.size w0 y3.drew) := HB3.out.drew
  have HOd : Hid (Owns y3.drew w0.heap.size (some ⟨g3, 0, none⟩) 6 cc3 (pbl e 3 3 ++ pbl q 2 2 ++ pbl k 1 1)) := HO3.out.below (Below.refl _ _).drew
  have hl3 : g3 < y3.drew.heap.size := (HOd.out.lt g3 rfl).2
  have c3 := (HQ.out _ HB3.out).cell 3 rfl
  go_upto_region 2 with fail
  go_cut [3] from 4 (fun v W => ∃ g c, v = .slice (some ⟨g, 0, none⟩) (7 + id.size) c ∧ Hid (Owns W w0.heap.size (some ⟨g, 0, none⟩) (7 + id.size) c (headR e q k id)) ∧ Hid (Below w0.heap.size w0 W))
  case first =>
    go_region_held3 (fun W => W.cell? ⟨w.heap.size, 3, none⟩ = some (.string id)) (first | assumption | go_keep) (first
      | (refine step_append_app rfl (.tmp 18) (.tmp 20) 45 9 rfl y3.drew.heap.size 5 i0 (.int .u8 0) 1 1 Tryz.underlying45 ji jz0 jz1 jz2 rfl (by decide) g4 7 cc4 _ rfl own4.1 _ id.size (byteCells id) rfl (Src.ofString _ Tryz.underlying9 id) (by unfold maxLen; omega) (by omega) hb4.size (7 + id.size) rfl (by omega) ((headR e q k id).map (Value.int .u8)) (by rw [byteCells_txI, ← List.map_append]; rfl) ?_; intro g5 cc5 y5 hown5 hg5
         have hB5 : Below w0.heap.size w0 y5 := hB4.grown hg5 hB4.size (fun q e => by injection e with e; have := (own4.lt g4 rfl).1; have := HBd.out.size; omega)
         have q3 := (HQ.out _ hB5).cell 3 rfl)
      | (go_at_call 149; refine (specPutL g3 6 cc3 id.size 1 7 1 rfl (pbl e 3 3 ++ pbl q 2 2 ++ pbl k 1 1) (pbl e 3 3 ++ pbl q 2 2 ++ pbl k 1 1 ++ pbl id.size 1 1) _ HOd.out.seg hl3 (by omega) (by omega) (by omega) (by omega) rfl rfl).mono ?_; rintro r y4 ⟨⟨g4, cc4, rfl, own4⟩, hb4⟩
         have hB4 : Below w0.heap.size w0 y4 := HBd.out.trans (hb4.mono HBd.out.size)
         have p3 := (HQ.out _ hB4).cell 3 rfl)
      | fail)
    all_goals
      have HO5 : Hid (Owns y5 w0.heap.size (some ⟨g5, 0, none⟩) (7 + id.size) cc5 (headR e q k id)) := ⟨own_low hown5 HBd.out.size, headR_range _ _ _ _⟩
      have HB5 : Hid (Below w0.heap.size w0 y5) := hB5
      clear own4 hb4 hB4 hown5 hg5 hB5 p3 q3
      go_wp2_with fail
      go_meet
      exact ⟨g5, cc5, rfl, HO5, HB5⟩
  case rest =>
  clear c3 HBd HOd hl3 HO3 HB3
  obtain ⟨g5, cc5, rfl, HO5, HB5⟩ := hcut
  obtain ⟨y5, hy5⟩ : ∃ y5, wc = y5 := ⟨_, rfl⟩
  rw [hy5] at HO5 HB5 ⊢
  clear hy5
  have HBd : Hid (Below w0.heap.size w0 y5.drew) := HB5.out.drew
  have HOd : Hid (Owns y5.drew w0.heap.size (some ⟨g5, 0, none⟩) (7 + id.size) cc5 (headR e q k id)) := HO5.out.below (Below.refl _ _).drew
  have hl5 : g5 < y5.drew.heap.size := (HOd.out.lt g5 rfl).2
  have c4 := (HQ.out _ HB5.out).cell 4 rfl
  have c5 := (HQ.out _ HB5.out).cell 5 rfl
  have hzd := HLd.out
  go_upto_region 3 with fail
  go_cut [3] from 4 (fun v W => ∃ g c, v = .slice (some ⟨g, 0, none⟩) (12 + id.size + d) c ∧ Hid (Owns W w0.heap.size (some ⟨g, 0, none⟩) (12 + id.size + d) c (recB e q k id n zs)) ∧ Hid (Below w0.heap.size w0 W))
  case first =>
    go_region_held3 (fun W => W.cell? ⟨w.heap.size, 4, none⟩ = some (.int .i64 n) ∧ W.cell? ⟨w.heap.size, 5, none⟩ = some (.slice a d ca)) (first | (refine ⟨?_, ?_⟩ <;> assumption) | go_keep) (first
      | (refine step_append_app rfl (.tmp 29) (.tmp 31) 45 45 rfl y6.heap.size 5 i0 (.int .u8 0) 1 1 Tryz.underlying45 ji jz0 jz1 jz2 rfl (by decide) g7 (12 + id.size) cc7 _ rfl own7.1 _ d (zs.map (Value.int .u8)) rfl (HS.out _ hB7).src (by unfold maxLen; omega) (by omega) hb7.size (12 + id.size + d) rfl (by omega) ((recB e q k id n zs).map (Value.int .u8)) (by rw [← List.map_append]; rfl) ?_; intro g8 cc8 y8 hown8 hg8
         have hB8 : Below w0.heap.size w0 y8 := hB7.grown hg8 hB7.size (fun q e => by injection e with e; have := (own7.lt g7 rfl).1; have := hB6.size; omega)
         have s4 := (HQ.out _ hB8).cell 4 rfl
         have s5 := (HQ.out _ hB8).cell 5 rfl)
      | (go_at_call 149; refine (specPutL g6 (11 + id.size) cc6 d 1 (12 + id.size) 1 rfl (headR e q k id ++ pbl n 4 4) (headR e q k id ++ pbl n 4 4 ++ pbl zs.length 1 1) _ own6.seg hl6 (by omega) (by omega) (by omega) (by omega) (by omega) (by rw [hzd])).mono ?_; rintro r y7 ⟨⟨g7, cc7, rfl, own7⟩, hb7⟩
         have hB7 : Below w0.heap.size w0 y7 := hB6.trans (hb7.mono hB6.size)
         have q4 := (HQ.out _ hB7).cell 4 rfl
         have q5 := (HQ.out _ hB7).cell 5 rfl)
      | (go_at_call 149; refine (specPutL g5 (7 + id.size) cc5 n 4 (11 + id.size) 4 rfl (headR e q k id) (headR e q k id ++ pbl n 4 4) _ HOd.out.seg hl5 (by omega) (by omega) (by omega) (by omega) (by omega) rfl).mono ?_; rintro r y6 ⟨⟨g6, cc6, rfl, own6⟩, hb6⟩
         have hB6 : Below w0.heap.size w0 y6 := HBd.out.trans (hb6.mono HBd.out.size)
         have hl6 := (own6.lt g6 rfl).2
         have p4 := (HQ.out _ hB6).cell 4 rfl
         have p5 := (HQ.out _ hB6).cell 5 rfl)
      | fail)
    all_goals
      have HO8 : Hid (Owns y8 w0.heap.size (some ⟨g8, 0, none⟩) (12 + id.size + d) cc8 (recB e q k id n zs)) := ⟨own_low hown8 hB6.size, recB_range _ _ _ _ _ _ (HS.out _ hB7).2.1⟩
      have HB8 : Hid (Below w0.heap.size w0 y8) := hB8
      clear own6 own7 hb6 hb7 hB6 hB7 hl6 hown8 hg8 hB8 p4 p5 q4 q5 s4 s5
      go_wp2_with fail
      go_meet
      exact ⟨g8, cc8, rfl, HO8, HB8⟩
  case rest =>
  clear c4 c5 HBd HOd hl5 HO5 HB5
  obtain ⟨g8, cc8, rfl, HO8, HB8⟩ := hcut
  obtain ⟨y8, hy8⟩ : ∃ y8, wc = y8 := ⟨_, rfl⟩
  rw [hy8] at HO8 HB8 ⊢
  clear hy8
  generalize hL : recB e q k id n zs = L at *
  have HL : Hid (recB e q k id n zs = L) := hL
  clear hL
  have hl8 : g8 < y8.heap.size := (HO8.out.lt g8 rfl).2
  go_wp2_with fail
  refine (specCrc_any _ _ cc8 L y8 HO8.out.seg (by omega)).mono ?_
  rintro r y9 ⟨rfl, rfl⟩
  have hcr : crcL L ^^^ 4294967295 < 4294967296 := xor_lt32 _ _ (crcL_lt L HO8.out.2) (by omega)
  go_wp2_with fail
  refine (specPutL g8 (12 + id.size + d) cc8 (crcL L ^^^ 4294967295) 4 (16 + id.size + d) 4 rfl L (sumB L) _ HO8.out.seg hl8 (by omega) (by omega) (by omega) (by omega) (by omega) rfl).mono ?_
  rintro r y10 ⟨⟨g10, cc10, rfl, own10⟩, hb10⟩
  have hcv := conv_txt (c := cc10) own10.seg
  have HB10 : Hid (Below w.heap.size w y10) := HB.out.trans ((HB8.out.trans (hb10.mono HB8.out.size)).mono HB.out.size)
  generalize hZ : sumB L = Z at *
  have HZ : Hid (sumB L = Z) := hZ
  clear own10 hb10 hZ
  go_wp2_with fail
  go_ret
  exact ⟨by rw [HL.out, HZ.out]; rfl, HB10.out⟩

end Go.Proofs.YtpjldfpipchmjavGreatDoor

namespace Go.Proofs.YtpjldfpipchmjavGreatDoor
open Go.RowKit
set_option linter.unusedVariables false

theorem str_at (s : ByteArray) (k : Nat) (h : k < s.size) : s.data.toList[k]'(by rw [Array.length_toList]; exact h) = s[k] := by
  rw [Array.getElem_toList]
  rfl

set_option maxRecDepth 10000 in
set_option maxHeartbeats 800000 in
theorem specId_any (s : ByteArray) (w : World) (hm : s.size ≤ 9223372036854775807) :
    Calls Tryz.prog 82 #[.string s] w fun e w' => e = .returned (.bool (idB s.data.toList)) ∧ w' = w := by
  have HL : Hid (s.data.toList.length = s.size) := Array.length_toList
  go_enter Tryz.func82, Tryz.ntmps82
  go_wp2_with fail
  go_loop [3] (fun v => ∃ k : Nat, k ≤ s.size ∧ v = .int .i64 k ∧ Hid (∀ j (hj : j < s.data.toList.length), j < k → idC s.data.toList[j] = true)) (fun v => s.size - (intOf v).toNat)
  case atStart => exact ⟨0, Nat.zero_le _, rfl, fun j _ hj => absurd hj (Nat.not_lt_zero _)⟩
  case round =>
    obtain ⟨k, hk, rfl, HN⟩ := hrel
    by_cases hlt : k < s.size
    · have hki : (k : Int) < (s.size : Int) := by omega
      have hc0 : (0 : Int) ≤ (s[k].toNat : Int) := by omega
      have hc1 : (s[k].toNat : Int) ≤ 255 := by have := s[k].toNat_lt; omega
      have HA : Hid (idC (s.data.toList[k]'(by rw [Array.length_toList]; exact hlt)) = ((decide (97 ≤ s[k].toNat) && decide (s[k].toNat ≤ 122)) || (decide (48 ≤ s[k].toNat) && decide (s[k].toNat ≤ 57)))) := by show _ = _; rw [str_at s k hlt, idC]
      have HG : Hid (idC (s.data.toList[k]'(by rw [Array.length_toList]; exact hlt)) = true → ∀ j (hj : j < s.data.toList.length), j < k + 1 → idC s.data.toList[j] = true) := fun h j hj hjk => by
        by_cases e : j = k
        · subst e; exact h
        · exact HN.out j hj (by omega)
      have HBd : Hid (idC (s.data.toList[k]'(by rw [Array.length_toList]; exact hlt)) = false → idB s.data.toList = false) := fun h => idB_bad (by rw [Array.length_toList]; exact hlt) h
      by_cases h1 : 97 ≤ s[k].toNat ∧ s[k].toNat ≤ 122
      · have HT : Hid (∀ j (hj : j < s.data.toList.length), j < k + 1 → idC s.data.toList[j] = true) := HG.out (by rw [HA.out, decide_eq_true h1.1, decide_eq_true h1.2]; rfl)
        have HI : Hid (∀ W : World, Calls Tryz.prog 62 #[.int .i64 (s[k].toNat : Int), .int .i64 97, .int .i64 122] W fun e w' => e = .returned (.bool true) ∧ w' = W) := fun W => l1In_yes _ _ _ W (by omega) (by omega)
        clear h1 HA HG HBd HN
        go_wp2_with (go_at_call 62; refine (HI.out _).mono ?_; rintro e w' ⟨rfl, rfl⟩)
        go_round
        case rel => exact ⟨k + 1, by omega, by go_num, HT⟩
        case measure => simp [intOf]; omega
      have HI : Hid (∀ W : World, Calls Tryz.prog 62 #[.int .i64 (s[k].toNat : Int), .int .i64 97, .int .i64 122] W fun e w' => e = .returned (.bool false) ∧ w' = W) := fun W => l1In_no _ _ _ W (by omega)
      by_cases h2 : 48 ≤ s[k].toNat ∧ s[k].toNat ≤ 57
      · have HT : Hid (∀ j (hj : j < s.data.toList.length), j < k + 1 → idC s.data.toList[j] = true) := HG.out (by rw [HA.out, decide_eq_true h2.1, decide_eq_true h2.2]; simp)
        have HI2 : Hid (∀ W : World, Calls Tryz.prog 62 #[.int .i64 (s[k].toNat : Int), .int .i64 48, .int .i64 57] W fun e w' => e = .returned (.bool true) ∧ w' = W) := fun W => l1In_yes _ _ _ W (by omega) (by omega)
        clear h1 h2 HA HG HBd HN
        go_wp2_with (go_at_call 62; first | (with_reducible refine (HI.out _).mono ?_; rintro e w' ⟨rfl, rfl⟩) | (with_reducible refine (HI2.out _).mono ?_; rintro e w' ⟨rfl, rfl⟩))
        go_round
        case rel => exact ⟨k + 1, by omega, by go_num, HT⟩
        case measure => simp [intOf]; omega
      · have HF : Hid (idB s.data.toList = false) := HBd.out (by rw [HA.out, Bool.or_eq_false_iff, Bool.and_eq_false_iff, Bool.and_eq_false_iff]; simp only [decide_eq_false_iff_not]; omega)
        have HI2 : Hid (∀ W : World, Calls Tryz.prog 62 #[.int .i64 (s[k].toNat : Int), .int .i64 48, .int .i64 57] W fun e w' => e = .returned (.bool false) ∧ w' = W) := fun W => l1In_no _ _ _ W (by omega)
        clear h1 h2 HA HG HBd HN
        go_wp2_with (go_at_call 62; first | (with_reducible refine (HI.out _).mono ?_; rintro e w' ⟨rfl, rfl⟩) | (with_reducible refine (HI2.out _).mono ?_; rintro e w' ⟨rfl, rfl⟩))
        go_ret
        exact ⟨ret_bool HF.out.symm, rfl⟩
    · have hkl : k = s.size := by omega
      subst hkl
      have HE : Hid (idB s.data.toList = (decide ((1 : Int) ≤ (s.size : Int)) && decide ((s.size : Int) ≤ 8))) := by
        show _ = _
        rw [idB_good fun j hj => HN.out j hj (by rw [HL.out] at hj; exact hj), HL.out, Bool.eq_iff_iff]
        simp only [decide_eq_true_eq, Bool.and_eq_true]
        omega
      clear HN
      go_wp2_with fail
      refine (l1In_any (s.size : Int) 1 8 w).mono ?_
      rintro e w1 ⟨rfl, hw1⟩
      subst hw1
      go_wp2_with fail
      go_ret
      exact ⟨ret_bool HE.out.symm, rfl⟩

end Go.Proofs.YtpjldfpipchmjavGreatDoor

namespace Go.Proofs.YtpjldfpipchmjavGreatDoor
open Go.RowKit
set_option linter.unusedVariables false

set_option maxRecDepth 10000 in
set_option maxHeartbeats 1600000 in
theorem specRok_any (e q k : Int) (id : ByteArray) (n : Int) (a : Option Addr) (d ca : Nat) (w : World) (hi : id.size ≤ maxLen) (hd : d ≤ 1099511627776) :
    Calls Tryz.prog 114 #[.agg #[.int .i64 e, .int .i64 q, .int .i64 k, .string id, .int .i64 n, .slice a d ca]] w fun r w' => r = .returned (.bool (okRec e q k id n d)) ∧ Below w.heap.size w w' := by
  have hmm : maxLen < 9223372036854775808 := by decide
  obtain ⟨w0, hw0⟩ : ∃ w0, w.alloc (.cells #[.int .i64 e, .int .i64 q, .int .i64 k, .string id, .int .i64 n, .slice a d ca] 106) = w0 := ⟨_, rfl⟩
  have HE : Hid (w.alloc (.cells #[.int .i64 e, .int .i64 q, .int .i64 k, .string id, .int .i64 n, .slice a d ca] 106) = w0) := hw0
  have q0 : BoxN w0 w.heap.size 106 [.int .i64 e, .int .i64 q, .int .i64 k, .string id, .int .i64 n, .slice a d ca] := by rw [← hw0]; exact BoxN.new _ _ _
  have HB : Hid (Below w.heap.size w w0) := by show Below _ _ _; rw [← hw0]; exact (Below.refl _ _).alloc (Nat.le_refl _) _
  have c0 := q0.cell 0 rfl
  have c1 := q0.cell 1 rfl
  have c2 := q0.cell 2 rfl
  have c3 := q0.cell 3 rfl
  have c4 := q0.cell 4 rfl
  have c5 := q0.cell 5 rfl
  clear hw0 q0
  go_enter Tryz.func114, Tryz.ntmps114
  go_upto_region 1 with fail
  rw [HE.out]
  clear HE
  go_wp2_with fail
  refine (l1In_any e 0 10000 _).mono ?_
  rintro r w1 ⟨rfl, rfl⟩
  by_cases h1 : 0 ≤ e ∧ e ≤ 10000
  case neg =>
    rw [decide_eq_false h1]
    have HF : Hid (okRec e q k id n d = false) := by show _ = _; rw [okRec, decide_eq_false h1]; rfl
    go_wp2_with fail
    go_ret
    exact ⟨ret_bool HF.out.symm, HB.out⟩
  rw [decide_eq_true h1]
  go_wp2_with fail
  refine (l1In_any q 0 199 _).mono ?_
  rintro r w1 ⟨rfl, rfl⟩
  by_cases h2 : 0 ≤ q ∧ q ≤ 199
  case neg =>
    rw [decide_eq_false h2]
    have HF : Hid (okRec e q k id n d = false) := by show _ = _; rw [okRec, decide_eq_false h2, Bool.and_false]; rfl
    go_wp2_with fail
    go_ret
    exact ⟨ret_bool HF.out.symm, HB.out⟩
  rw [decide_eq_true h2]
  go_wp2_with fail
  refine (specId_any id _ (by omega)).mono ?_
  rintro r w1 ⟨rfl, rfl⟩
  cases h3 : idB id.data.toList
  · have HF : Hid (okRec e q k id n d = false) := by show _ = _; rw [okRec, h3, Bool.and_false]; rfl
    clear h3
    go_wp2_with fail
    go_ret
    exact ⟨ret_bool HF.out.symm, HB.out⟩
  have HK : Hid (okRec e q k id n d = kindB k n d) := by show _ = _; rw [okRec, decide_eq_true h1, decide_eq_true h2, h3]; rfl
  clear h1 h2 h3
  by_cases k1 : k = 1
  · subst k1
    have HK1 : Hid (okRec e q 1 id n d = (decide (0 ≤ n ∧ n ≤ 1000000000) && decide (d = 0))) := HK.out
    clear HK
    go_wp2_with fail
    refine (l1In_any n 0 1000000000 _).mono ?_
    rintro r w1 ⟨rfl, rfl⟩
    by_cases h4 : 0 ≤ n ∧ n ≤ 1000000000
    · rw [decide_eq_true h4] at HK1 ⊢
      by_cases h5 : d = 0
      · subst h5
        go_wp2_with fail
        go_ret
        exact ⟨by rw [HK1.out]; rfl, HB.out⟩
      · have HF : Hid (okRec e q 1 id n d = false) := by show _ = _; rw [HK1.out, decide_eq_false h5]; rfl
        have h5b : ((d : Int) == 0) = false := by rw [beq_eq_false_iff_ne]; omega
        clear HK1
        go_wp2_with fail
        go_ret
        exact ⟨by rw [HF.out]; rfl, HB.out⟩
    · have HF : Hid (okRec e q 1 id n d = false) := by show _ = _; rw [HK1.out, decide_eq_false h4]; rfl
      rw [decide_eq_false h4]
      clear HK1
      go_wp2_with fail
      go_ret
      exact ⟨by rw [HF.out]; rfl, HB.out⟩
  have k1b : (k == 1) = false := by rw [beq_eq_false_iff_ne]; exact k1
  by_cases k2 : k = 2
  · subst k2
    have HK1 : Hid (okRec e q 2 id n d = (decide (0 ≤ n ∧ n ≤ 1000000000) && decide (1 ≤ d ∧ d ≤ 24))) := HK.out
    clear HK k1
    go_wp2_with fail
    refine (l1In_any n 0 1000000000 _).mono ?_
    rintro r w1 ⟨rfl, rfl⟩
    by_cases h4 : 0 ≤ n ∧ n ≤ 1000000000
    · rw [decide_eq_true h4] at HK1 ⊢
      have HF : Hid (okRec e q 2 id n d = decide ((1 : Int) ≤ (d : Int) ∧ (d : Int) ≤ 24)) := by
        show _ = _
        rw [HK1.out, Bool.true_and, decide_eq_decide]
        omega
      clear HK1
      go_wp2_with fail
      refine (l1In_any (d : Int) 1 24 _).mono ?_
      rintro r w1 ⟨rfl, rfl⟩
      by_cases h5 : (1 : Int) ≤ (d : Int) ∧ (d : Int) ≤ 24
      · rw [decide_eq_true h5] at HF ⊢
        go_wp2_with fail
        go_ret
        exact ⟨by rw [HF.out]; rfl, HB.out⟩
      · rw [decide_eq_false h5] at HF ⊢
        go_wp2_with fail
        go_ret
        exact ⟨by rw [HF.out]; rfl, HB.out⟩
    · have HF : Hid (okRec e q 2 id n d = false) := by show _ = _; rw [HK1.out, decide_eq_false h4]; rfl
      rw [decide_eq_false h4]
      clear HK1
      go_wp2_with fail
      go_ret
      exact ⟨by rw [HF.out]; rfl, HB.out⟩
  have k2b : (k == 2) = false := by rw [beq_eq_false_iff_ne]; exact k2
  by_cases k34 : k = 3 ∨ k = 4
  · have HK1 : Hid (okRec e q k id n d = (decide (n = 0) && decide (d = 0))) := by show _ = _; rw [HK.out, kindB, if_neg k1, if_neg k2, if_pos k34]
    clear HK k1 k2
    by_cases h4 : n = 0
    · subst h4
      by_cases h5 : d = 0
      · subst h5
        rcases k34 with rfl | rfl
        all_goals
          go_wp2_with fail
          go_ret
          exact ⟨by rw [HK1.out]; rfl, HB.out⟩
      · have HF : Hid (okRec e q k id 0 d = false) := by show _ = _; rw [HK1.out, decide_eq_false h5]; rfl
        have h5b : ((d : Int) == 0) = false := by rw [beq_eq_false_iff_ne]; omega
        clear HK1
        rcases k34 with rfl | rfl
        all_goals
          go_wp2_with fail
          go_ret
          exact ⟨by rw [HF.out]; rfl, HB.out⟩
    · have HF : Hid (okRec e q k id n d = false) := by show _ = _; rw [HK1.out, decide_eq_false h4]; rfl
      have h4b : (n == 0) = false := by rw [beq_eq_false_iff_ne]; exact h4
      clear HK1
      rcases k34 with rfl | rfl
      all_goals
        go_wp2_with fail
        go_ret
        exact ⟨by rw [HF.out]; rfl, HB.out⟩
  · have HF : Hid (okRec e q k id n d = false) := by show _ = _; rw [HK.out, kindB, if_neg k1, if_neg k2, if_neg k34]
    have k3b : (k == 3) = false := by rw [beq_eq_false_iff_ne]; omega
    have k4b : (k == 4) = false := by rw [beq_eq_false_iff_ne]; omega
    clear HK k1 k2 k34
    go_wp2_with fail
    go_ret
    exact ⟨by rw [HF.out]; rfl, HB.out⟩

end Go.Proofs.YtpjldfpipchmjavGreatDoor

namespace Go.Proofs.YtpjldfpipchmjavGreatDoor
open Go.RowKit
set_option linter.unusedVariables false

/-- What GetRec answers. -/
def GotR (base : Nat) (s : ByteArray) (v : Value) (w' : World) : Prop :=
  (recOf s = none ∧ v = .tuple #[.agg #[.int .i64 0, .int .i64 0, .int .i64 0, .string ⟨#[]⟩, .int .i64 0, .slice none 0 0], .bool false]) ∨
  ∃ r A C, recOf s = some r ∧ v = .tuple #[.agg #[.int .i64 r.e, .int .i64 r.q, .int .i64 r.k, .string r.id, .int .i64 r.n, .slice A r.zs.length C], .bool true] ∧ Owns w' base A r.zs.length C r.zs

/-- The record that is answered, and whether there is one. -/
def gotV (s : ByteArray) : R × Bool := match recOf s with
  | none => (⟨0, 0, 0, ⟨#[]⟩, 0, []⟩, false)
  | some r => (r, true)

theorem GotR.one {base : Nat} {s : ByteArray} {v : Value} {w' : World} (h : GotR base s v w') : ∃ A C, v = .tuple #[.agg #[.int .i64 (gotV s).1.e, .int .i64 (gotV s).1.q, .int .i64 (gotV s).1.k, .string (gotV s).1.id, .int .i64 (gotV s).1.n, .slice A (gotV s).1.zs.length C], .bool (gotV s).2] ∧ Owns w' base A (gotV s).1.zs.length C (gotV s).1.zs := by
  rcases h with ⟨h1, rfl⟩ | ⟨r, A, C, h1, rfl, ho⟩
  · rw [gotV, h1]
    exact ⟨none, 0, rfl, ⟨⟨rfl, .inl ⟨rfl, rfl⟩⟩, by simp⟩⟩
  · rw [gotV, h1]
    exact ⟨A, C, rfl, ho⟩

theorem gotV_len (s : ByteArray) : (gotV s).1.zs.length ≤ 24 := by
  cases h : recOf s with
  | none => rw [gotV, h]; exact Nat.zero_le _
  | some r =>
    rw [gotV, h]
    exact (okRec_iff (recOf_iff.1 h).1).2.2.2.2.2

/-- A record in a variable of the law's, its bytes in memory of its own from lo on and ahead of it. -/
def RB (W : World) (b lo : Nat) (r : R) (A : Option Addr) (d C : Nat) (zs : List Int) : Prop :=
  BoxN W b 106 [.int .i64 r.e, .int .i64 r.q, .int .i64 r.k, .string r.id, .int .i64 r.n, .slice A d C] ∧ Owns W lo A d C zs ∧ (∀ q, A.map (·.block) = some q → q < b) ∧ lo ≤ b

section
variable {W W' : World} {b lo d C : Nat} {r : R} {A : Option Addr} {zs : List Int}

theorem RB.stays (h : RB W b lo r A d C zs) (hb : Below W.heap.size W W') : RB W' b lo r A d C zs := ⟨h.1.stays hb, h.2.1.below hb, h.2.2⟩

theorem RB.new (r : R) (ho : Owns W lo A d C zs) (hlo : lo ≤ W.heap.size) : RB (W.alloc (.cells #[.int .i64 r.e, .int .i64 r.q, .int .i64 r.k, .string r.id, .int .i64 r.n, .slice A d C] 106)) W.heap.size lo r A d C zs :=
  ⟨BoxN.new _ _ _, ho.below ((Below.refl _ _).alloc (Nat.le_refl _) _), fun q e => (ho.lt q e).2, hlo⟩

theorem RB.grown {x : Option Nat} (h : RB W b lo r A d C zs) (hg : W.grownBy W' x) (hx : ∀ q, x = some q → q < lo ∨ b < q) : RB W' b lo r A d C zs := by
  refine ⟨h.1.grown hg (fun e => by have := hx _ e; have := h.2.2.2; omega), h.2.1.grown hg (fun q e e2 => ?_), h.2.2⟩
  have h1 := hx q e
  have h2 := (h.2.1.lt q e2).1
  have h3 := h.2.2.1 q e2
  omega

theorem RB.marked {zs' : List Int} (h : RB W b lo r A d C zs) (ho : Owns W' lo A d C zs') (hg : W.grownBy W' (A.map (·.block))) : RB W' b lo r A d C zs' :=
  ⟨h.1.grown hg (fun e => by have := h.2.2.1 _ e; omega), ho, h.2.2⟩
end

end Go.Proofs.YtpjldfpipchmjavGreatDoor

namespace Go.Proofs.YtpjldfpipchmjavGreatDoor
open Go.RowKit

/-- What GetBig answers. -/
def gbr (zs : List Int) (at_ k : Int) : Int × Bool :=
  if 1 ≤ k ∧ k ≤ 7 ∧ 0 ≤ at_ ∧ at_ + k ≤ (zs.length : Int) then (gb ((zs.drop at_.toNat).take k.toNat), true) else (0, false)

end Go.Proofs.YtpjldfpipchmjavGreatDoor
