/- What the program's PutFrame answers: the frame's bytes, in memory of its own, or nothing; nothing that was there is written. -/
import Derived.Test.YtpjldfpipchmjawFrOk
import Derived.Test.YtpjldfpipchmjawFrBytes
import Derived.Test.YtpjldfpipchmjawBox4
import Derived.Test.YtpjldfpipchmjawCopyAt
import Derived.Test.YtpjldfpipchmjawPutImpl
import Derived.Deep.RegionWith
namespace Go.Proofs.Ytpjldfpipchmjaw
open Go.RowKit
set_option linter.unusedVariables false

theorem put_to (sa : Option Addr) (len cap n k m : Nat) (zs : List Int) (w : World) (hs : Seg w sa len zs) (hl : len ≤ 1099511627776) (hn : n ≤ 9223372036854775807) (h1 : 1 ≤ k) (h8 : k ≤ 8) (hm : len + k = m) :
    Calls Try.prog 17 #[.slice sa len cap, .int .i64 n, .int .i64 k] w fun e w' => ∃ a' cap', e = .returned (.slice a' m cap') ∧ Owns w' w.heap.size a' m cap' (zs ++ pbl n k k) ∧ Below w.heap.size w w' := by
  subst hm
  exact implPut_yes sa len cap n k zs w hs hl hn h1 h8

set_option maxHeartbeats 800000 in
theorem implHead_any (K F S : Nat) (a : Option Addr) (len cap : Nat) (w : World) (hl : len ≤ 1000) (hK : K ≤ 255) (hF : F ≤ 255) (hS : S ≤ 2147483647) :
    Calls Try.prog 14 #[.agg #[.int .i64 K, .int .i64 F, .int .i64 S, .slice a len cap]] w fun e w' => ∃ a' cap', e = .returned (.slice a' 9 cap') ∧ Owns w' w.heap.size a' 9 cap' (headB K F S len) ∧ Below w.heap.size w w' := by
  have HB0 : Hid (Below w.heap.size w (w.alloc (.cells #[.int .i64 K, .int .i64 F, .int .i64 S, .slice a len cap] 29))) := (Below.refl _ _).alloc (Nat.le_refl _) _
  go_enter Try.func14, Try.ntmps14
  go_wp2_with fail
  refine (put_to none 0 0 len 3 3 [] _ ⟨rfl, by simp, .inl rfl⟩ (by omega) (by omega) (by omega) (by omega) rfl).mono ?_
  rintro e x1 ⟨a1, c1, rfl, ho1, hb1⟩
  have HB1 : Hid (Below w.heap.size w x1) := HB0.out.trans (hb1.mono HB0.out.size)
  have HX1 : Hid (Box4 x1 w.heap.size 29 (.int .i64 K) (.int .i64 F) (.int .i64 S) (.slice a len cap)) := (Box4.new _ _ _ _ _ _).stays hb1
  have HO1 : Hid (Seg x1 a1 3 ([] ++ pbl len 3 3)) := ho1.seg
  clear ho1 hb1
  obtain ⟨q0, q1, q2, q3⟩ := HX1.out.cells
  go_wp2_with fail
  refine (put_to a1 3 c1 K 1 4 _ _ HO1.out (by omega) (by omega) (by omega) (by omega) rfl).mono ?_
  rintro e x2 ⟨a2, c2, rfl, ho2, hb2⟩
  have HB2 : Hid (Below w.heap.size w x2) := HB1.out.trans (hb2.mono HB1.out.size)
  have HX2 : Hid (Box4 x2 w.heap.size 29 (.int .i64 K) (.int .i64 F) (.int .i64 S) (.slice a len cap)) := HX1.out.stays hb2
  have HO2 : Hid (Seg x2 a2 4 ([] ++ pbl len 3 3 ++ pbl K 1 1)) := ho2.seg
  clear ho2 hb2 q0 q1 q2 q3
  obtain ⟨q0, q1, q2, q3⟩ := HX2.out.cells
  go_wp2_with fail
  refine (put_to a2 4 c2 F 1 5 _ _ HO2.out (by omega) (by omega) (by omega) (by omega) rfl).mono ?_
  rintro e x3 ⟨a3, c3, rfl, ho3, hb3⟩
  have HB3 : Hid (Below w.heap.size w x3) := HB2.out.trans (hb3.mono HB2.out.size)
  have HX3 : Hid (Box4 x3 w.heap.size 29 (.int .i64 K) (.int .i64 F) (.int .i64 S) (.slice a len cap)) := HX2.out.stays hb3
  have HO3 : Hid (Seg x3 a3 5 ([] ++ pbl len 3 3 ++ pbl K 1 1 ++ pbl F 1 1)) := ho3.seg
  clear ho3 hb3 q0 q1 q2 q3
  obtain ⟨q0, q1, q2, q3⟩ := HX3.out.cells
  go_wp2_with fail
  refine (put_to a3 5 c3 S 4 9 _ _ HO3.out (by omega) (by omega) (by omega) (by omega) rfl).mono ?_
  rintro e x4 ⟨a4, c4, rfl, ho4, hb4⟩
  have HB4 : Hid (Below w.heap.size w x4) := HB3.out.trans (hb4.mono HB3.out.size)
  have HO4 : Hid (Owns x4 w.heap.size a4 9 c4 (headB K F S len)) := ho4.low HB3.out.size
  clear ho4 hb4 q0 q1 q2 q3
  go_wp2_with fail
  go_ret
  exact ⟨_, _, rfl, HO4.out, HB4.out⟩

set_option maxRecDepth 10000 in
set_option maxHeartbeats 800000 in
theorem implPutF_yes (K F S : Nat) (a : Option Addr) (len cap M : Nat) (zs : List Int) (w : World) (hs : Seg w a len zs) (hl : len ≤ 1000) (hK : K ≤ 255) (hF : F ≤ 255) (hS : S ≤ 2147483647) (hM : M = 9 + len) :
    Calls Try.prog 10 #[.agg #[.int .i64 K, .int .i64 F, .int .i64 S, .slice a len cap]] w fun e w' => ∃ a' cap', e = .returned (.slice a' M cap') ∧ Owns w' w.heap.size a' M cap' (headB K F S len ++ zs) ∧ Below w.heap.size w w' := by
  obtain ⟨i0, hi, hz0, hz1, hz2⟩ := info_parts Try.info5
  have hzl : zs.length = len := hs.1
  have HS : Hid (Seg w a len zs) := hs
  have HB0 : Hid (Below w.heap.size w (w.alloc (.cells #[.int .i64 K, .int .i64 F, .int .i64 S, .slice a len cap] 29))) := (Below.refl _ _).alloc (Nat.le_refl _) _
  have HOk : Hid (okF K F S len = true) := decide_eq_true ⟨⟨by omega, by omega⟩, ⟨by omega, by omega⟩, ⟨by omega, by omega⟩, hl⟩
  have HM : Hid (M = 9 + len) := hM
  have hM9 : (9 : Int) ≤ (M : Int) := by omega
  clear hs hM
  go_enter Try.func10, Try.ntmps10
  go_wp2_with fail
  refine (implFrOk_any K F S a len cap _).mono ?_
  rintro e x1 ⟨rfl, hb1⟩
  rw [HOk.out]
  have HB1 : Hid (Below w.heap.size w x1) := HB0.out.trans (hb1.mono HB0.out.size)
  have HX1 : Hid (Box4 x1 w.heap.size 29 (.int .i64 K) (.int .i64 F) (.int .i64 S) (.slice a len cap)) := (Box4.new _ _ _ _ _ _).stays hb1
  clear hb1
  obtain ⟨q0, q1, q2, q3⟩ := HX1.out.cells
  go_wp2_with (first | (at_make; refine wpList_make_room _ rfl _ _ 22 rfl 5 i0 (.int .u8 0) Try.underlying22 hi hz0 hz1 rfl hz2 _ _ _ _ M M rfl rfl (by have := HM.out; omega) (by have := HM.out; omega) (by omega) (by have := HM.out; omega) ?_; intro x2 hg2 hb2; refine Hid.out ?_))
  refine hidden ?_
  have HB2 : Hid (Below w.heap.size w x2) := HB1.out.trans (hb2.mono HB1.out.size)
  have HX2 : Hid (Box4 x2 w.heap.size 29 (.int .i64 K) (.int .i64 F) (.int .i64 S) (.slice a len cap)) := HX1.out.stays hb2
  have HG2 : Hid (x2.heap[x1.heap.size]? = some (.cells ((List.replicate M (0 : Int)).map (Value.int .u8)).toArray 5 (0, 0))) := by
    show _ = _
    rw [List.map_replicate]
    exact hg2
  have hg1 : x1.heap.size < x2.heap.size := (Array.getElem?_eq_some_iff.1 hg2).1
  have HLo : Hid (w.heap.size < x1.heap.size ∧ x1.heap.size < x2.heap.size) := ⟨HX1.out.lt, hg1⟩
  generalize x1.heap.size = g at *
  clear hg2 hb2 q0 q1 q2 q3 hg1 HX1 HB1
  obtain ⟨q0, q1, q2, q3⟩ := HX2.out.cells
  go_wp2_with fail
  refine (implHead_any K F S a len cap _ hl hK hF hS).mono ?_
  rintro e x3 ⟨a3, c3, rfl, ho3, hb3⟩
  have HB3 : Hid (Below w.heap.size w x3) := HB2.out.trans (hb3.mono HB2.out.size)
  have HX3 : Hid (Box4 x3 w.heap.size 29 (.int .i64 K) (.int .i64 F) (.int .i64 S) (.slice a len cap)) := HX2.out.stays hb3
  have hg3 : x3.heap[g]? = some (.cells ((List.replicate M (0 : Int)).map (Value.int .u8)).toArray 5 (0, 0)) := (hb3.block g HLo.out.2).trans HG2.out
  obtain ⟨x4, hrun4, hg4, hb4, hgr4⟩ := copy_at x3 g 0 M M 9 a3 c3 (headB K F S len) (List.replicate M (0 : Int)) ho3.seg hg3 (by omega) (by simp; omega)
  have HB4 : Hid (Below w.heap.size w x4) := HB3.out.trans (hb4.mono (Nat.le_of_lt HLo.out.1))
  have HX4 : Hid (Box4 x4 w.heap.size 29 (.int .i64 K) (.int .i64 F) (.int .i64 S) (.slice a len cap)) := HX3.out.grown hgr4 (fun e => by injection e with e; have := HLo.out.1; omega)
  have HG4 : Hid (x4.heap[g]? = some (.cells ((headB K F S len ++ List.replicate len (0 : Int)).map (Value.int .u8)).toArray 5 (0, 0))) := by
    show _ = _
    rw [hg4]
    simp [HM.out]
  clear hg3 hg4 hb3 ho3 hb4 hgr4 q0 q1 q2 q3 HX2 HX3 HB2 HG2
  obtain ⟨q0, q1, q2, q3⟩ := HX4.out.cells
  go_wp2_with fail
  clear hrun4
  by_cases h0 : len = 0
  · subst h0
    obtain rfl : M = 9 := by have := HM.out; omega
    obtain rfl : zs = [] := List.eq_nil_of_length_eq_zero hzl
    obtain ⟨x5, hrun5, hg5, hb5, hgr5⟩ := copy_at x4.drew g 0 0 0 0 a cap [] (headB K F S 0 ++ List.replicate 0 (0 : Int)) (HS.out.below HB4.out.drew) HG4.out (by omega) (by simp)
    go_region_with fail
    have HO5 : Hid (Owns x5 w.heap.size (some ⟨g, 0, none⟩) 9 9 (headB K F S 0 ++ [])) := by
      have h := own_of_row hg5 (base := w.heap.size) (Nat.le_of_lt HLo.out.1) (n := 9) (c := 9) (by simp [headB_len]) (by omega) (by unfold maxLen; omega)
      refine ⟨?_, by simpa using headB_range K F S 0⟩
      rw [List.take_of_length_le (by simp [headB_len])] at h
      simpa using h
    have HB5 : Hid (Below w.heap.size w x5) := HB4.out.drew.trans (hb5.mono (Nat.le_of_lt HLo.out.1))
    clear hrun5 hg5 hb5 hgr5 q0 q1 q2 q3
    go_wp2_with fail
    go_ret
    exact ⟨_, _, rfl, HO5.out, HB5.out⟩
  obtain ⟨x5, hrun5, hg5, hb5, hgr5⟩ := copy_at x4.drew g 9 len len len a cap zs (headB K F S len ++ List.replicate len (0 : Int)) (HS.out.below HB4.out.drew) HG4.out (by omega) (by simp [headB_len])
  have hMl : M - 9 = len := by have := HM.out; omega
  have hMn : ¬ M = 9 := by have := HM.out; omega
  go_region_with fail
  have HO5 : Hid (Owns x5 w.heap.size (some ⟨g, 0, none⟩) M M (headB K F S len ++ zs)) := by
    have hM := HM.out
    have hcur : List.take 9 (headB K F S len ++ List.replicate len 0) ++ zs ++ List.drop (9 + len) (headB K F S len ++ List.replicate len 0) = headB K F S len ++ zs := by
      rw [List.take_append_of_le_length (by simp [headB_len]), List.take_of_length_le (by simp [headB_len]), List.drop_of_length_le (by simp [headB_len]), List.append_nil]
    rw [hcur] at hg5
    have h := own_of_row hg5 (base := w.heap.size) (Nat.le_of_lt HLo.out.1) (n := M) (c := M) (by simp [headB_len, hzl]; omega) (by omega) (by unfold maxLen; omega)
    rw [List.take_of_length_le (by simp [headB_len, hzl]; omega)] at h
    refine ⟨h, fun x hx => ?_⟩
    rcases List.mem_append.1 hx with hx | hx
    · exact headB_range K F S len x hx
    · exact HS.out.2.1 x hx
  have HB5 : Hid (Below w.heap.size w x5) := HB4.out.drew.trans (hb5.mono (Nat.le_of_lt HLo.out.1))
  clear hrun5 hg5 hb5 hgr5 q0 q1 q2 q3
  go_wp2_with fail
  go_ret
  exact ⟨_, _, rfl, HO5.out, HB5.out⟩

set_option maxHeartbeats 800000 in
theorem implPutF_no (k f s : Int) (a : Option Addr) (len cap : Nat) (w : World) (h : okF k f s len = false) :
    Calls Try.prog 10 #[.agg #[.int .i64 k, .int .i64 f, .int .i64 s, .slice a len cap]] w fun e w' => ∃ a' cap', e = .returned (.slice a' 0 cap') ∧ Owns w' w.heap.size a' 0 cap' [] ∧ Below w.heap.size w w' := by
  have HB0 : Hid (Below w.heap.size w (w.alloc (.cells #[.int .i64 k, .int .i64 f, .int .i64 s, .slice a len cap] 29))) := (Below.refl _ _).alloc (Nat.le_refl _) _
  have HOk : Hid (okF k f s len = false) := h
  clear h
  go_enter Try.func10, Try.ntmps10
  go_wp2_with fail
  refine (implFrOk_any k f s a len cap _).mono ?_
  rintro e x1 ⟨rfl, hb1⟩
  rw [HOk.out]
  have HB1 : Hid (Below w.heap.size w x1) := HB0.out.trans (hb1.mono HB0.out.size)
  clear hb1
  go_wp2_with fail
  go_ret
  exact ⟨_, _, rfl, ⟨World.ownsRow_lit _ #[] 0 HB1.out.size (Nat.zero_le _) rfl, by simp⟩, HB1.out.alloc HB1.out.size _⟩

theorem implPutFr_any (k f s : Int) (a : Option Addr) (len cap : Nat) (zs : List Int) (w : World) (hs : Seg w a len zs) :
    Calls Try.prog 10 #[.agg #[.int .i64 k, .int .i64 f, .int .i64 s, .slice a len cap]] w fun e w' => ∃ a' cap', e = .returned (.slice a' (putF k f s zs).length cap') ∧ Owns w' w.heap.size a' (putF k f s zs).length cap' (putF k f s zs) ∧ Below w.heap.size w w' := by
  have hz := hs.1
  cases h : okF k f s len with
  | false =>
    have e : putF k f s zs = [] := by unfold putF; rw [hz, h]; rfl
    rw [e]
    exact implPutF_no k f s a len cap w h
  | true =>
    have e : putF k f s zs = headB k.toNat f.toNat s.toNat len ++ zs := by unfold putF; rw [hz, h]; rfl
    have hy := okF_yes h
    obtain ⟨K, rfl⟩ := Int.eq_ofNat_of_zero_le hy.1.1
    obtain ⟨F, rfl⟩ := Int.eq_ofNat_of_zero_le hy.2.1.1
    obtain ⟨S, rfl⟩ := Int.eq_ofNat_of_zero_le hy.2.2.1.1
    rw [e, Int.toNat_natCast, Int.toNat_natCast, Int.toNat_natCast]
    exact implPutF_yes K F S a len cap _ zs w hs (by omega) (by omega) (by omega) (by omega) (by rw [List.length_append, headB_len, hz])

end Go.Proofs.Ytpjldfpipchmjaw
