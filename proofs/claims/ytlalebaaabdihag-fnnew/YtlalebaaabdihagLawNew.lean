/- The law that a new client begins with making its upload, as long as its file. -/
import Derived.Test.YtlalebaaabdihagDrawClN
import Derived.Test.YtlalebaaabdihagClNewI
import Derived.Test.YtlalebaaabdihagClNewS
import Derived.Test.YtlalebaaabdihagNextI
import Derived.Test.YtlalebaaabdihagLawBig
import Derived.BigQuiet
namespace Go.Proofs.Ytlalebaaabdihag
open Go.RowKit
set_option linter.unusedVariables false

set_option maxRecDepth 10000 in
set_option maxHeartbeats 6400000 in
theorem lawNew_any (a : Option Addr) (len cap : Nat) (zs : List Int) (w : World) (hm : len ≤ maxLen) (hs : Seg w a len zs) :
    Calls Try.prog 3 #[.slice a len cap] w fun e w' => e = .returned (.bool true) ∧ Below w.heap.size w w' := by
  have HR : Hid (Seg w a len zs) := hs
  clear hs
  by_cases hbig : (1048576 : Int) < (len : Int)
  · have hd : Hid (decide ((1048576 : Int) < (len : Int)) = true) := by show _ = _; simpa using hbig
    go_enter Try.func3, Try.ntmps3
    go_wp2_with fail
    refine (big_any a len cap w hm).mono ?_
    rintro e w1 ⟨rfl, hw1⟩
    subst w1
    rw [hd.out]
    go_wp2_with fail
    go_ret
    exact ⟨rfl, Below.refl _ _⟩
  have hd : Hid (decide ((1048576 : Int) < (len : Int)) = false) := by show _ = _; simpa using hbig
  have hl : len ≤ 1099511627776 := by omega
  clear hbig
  go_enter Try.func3, Try.ntmps3
  go_wp2_with fail
  refine (big_any a len cap w hm).mono ?_
  rintro e w1 ⟨rfl, hw1⟩
  subst w1
  rw [hd.out]
  clear hd
  go_wp2_with fail
  refine (drawClNew_any a len cap zs w HR.out hl).mono ?_
  rintro e w2 ⟨⟨id, g, n, c, ys, rfl, hid, hn, ho⟩, hb2⟩
  have hmx : 1099511627776 ≤ maxLen := by decide
  have HO2 : Hid (Owns w2 w.heap.size (some ⟨g, 0, none⟩) n c ys) := ho
  have HB2 : Hid (Below w.heap.size w w2) := hb2
  clear ho hb2 HR
  go_wp2_with fail
  refine (implClNew_any id (some ⟨g, 0, none⟩) n c ys w2 HO2.out.seg (by omega) (by omega)).mono ?_
  rintro e w3 ⟨⟨a3, c3, rfl, ho⟩, hb⟩
  obtain ⟨T, hT⟩ : ∃ T, newT id n = T := ⟨_, rfl⟩
  have hI : newI id n = if T = true then id else ⟨#[]⟩ := by rw [newI, hT]
  have hL : newL id n = if T = true then n else 0 := by rw [newL, hT]
  have hZ : newZ id n ys = if T = true then ys else [] := by rw [newZ, hT]
  have hS : newS id n = if T = true then 1 else 0 := by rw [newS, hT]
  have HTT : Hid (okC id n 1 0 = T) := hT
  rw [hL, hZ] at ho
  rw [hI, hL, hS]
  obtain ⟨w4, hw4⟩ : ∃ w4, w3.alloc (.cells #[.string (if T = true then id else ⟨#[]⟩), .slice a3 (if T = true then n else 0) c3, .int .i64 (if T = true then 1 else 0), .int .i64 0] 27) = w4 := ⟨_, rfl⟩
  obtain ⟨b4, hb4⟩ : ∃ b4, w3.heap.size = b4 := ⟨_, rfl⟩
  have hq4 : BoxN w4 b4 27 [.string (if T = true then id else ⟨#[]⟩), .slice a3 (if T = true then n else 0) c3, .int .i64 (if T = true then 1 else 0), .int .i64 0] := by rw [← hw4, ← hb4]; exact BoxN.new _ _ _
  have h34 : Below w3.heap.size w3 w4 := by rw [← hw4]; exact (Below.refl _ _).alloc (Nat.le_refl _) _
  have HQ4 : Hid (BoxN w4 b4 27 [.string (if T = true then id else ⟨#[]⟩), .slice a3 (if T = true then n else 0) c3, .int .i64 (if T = true then 1 else 0), .int .i64 0]) := hq4
  have HO4 : Hid (Owns w4 w2.heap.size a3 (if T = true then n else 0) c3 (if T = true then ys else [])) := ho.below h34
  have H24 : Hid (Below w2.heap.size w2 w4) := hb.trans (h34.mono hb.size)
  have HE4 : Hid (_ = w4) := hw4
  have HEb : Hid (_ = b4) := hb4
  clear hT hI hL hZ hS ho hb hw4 hb4 hq4 h34
  go_upto_region 5 with fail
  rw [HE4.out, HEb.out]
  clear HE4 HEb
  cases T with
  | false =>
    simp only [Bool.false_eq_true, if_false] at HQ4 HO4
    have hwy : wayC ⟨#[]⟩ 0 0 0 = false := by simp [wayC, okC]
    have HN : Hid (askOp ⟨#[]⟩ 0 0 0 = 0 ∧ askI ⟨#[]⟩ 0 0 0 = ⟨#[]⟩ ∧ askN ⟨#[]⟩ 0 [] 0 0 = 0 ∧ askK ⟨#[]⟩ 0 0 0 = 0 ∧ wayC ⟨#[]⟩ 0 0 0 = false) := ⟨if_neg (by rw [hwy]; simp), if_neg (by rw [hwy]; simp), if_neg (by rw [hwy]; simp), if_neg (by rw [hwy]; simp), hwy⟩
    clear hwy
    have c0 := HQ4.out.cell 0 rfl
    have c1 := HQ4.out.cell 1 rfl
    have c2 := HQ4.out.cell 2 rfl
    have c3' := HQ4.out.cell 3 rfl
    go_wp2_with fail
    refine (implNext_any ⟨#[]⟩ a3 0 c3 [] 0 0 w4 HO4.out.seg (Nat.zero_le _) (by omega) (fun _ h => absurd h (by decide))).mono ?_
    rw [HN.out.1, HN.out.2.1, HN.out.2.2.1, HN.out.2.2.2.1, HN.out.2.2.2.2]
    rintro e w5 ⟨⟨a5, c5, rfl, ho5⟩, hb5⟩
    clear ho5 c0 c1 c2 c3' HN
    obtain ⟨w6, hw6⟩ : ∃ w6, w5.alloc (.cells #[.int .i64 0, .string ⟨#[]⟩, .int .i64 0] 30) = w6 := ⟨_, rfl⟩
    obtain ⟨b6, hb6⟩ : ∃ b6, w5.heap.size = b6 := ⟨_, rfl⟩
    have hq6 : BoxN w6 b6 30 [.int .i64 0, .string ⟨#[]⟩, .int .i64 0] := by rw [← hw6, ← hb6]; exact BoxN.new _ _ _
    have h56 : Below w5.heap.size w5 w6 := by rw [← hw6]; exact (Below.refl _ _).alloc (Nat.le_refl _) _
    have HQ6 : Hid (BoxN w6 b6 30 [.int .i64 0, .string ⟨#[]⟩, .int .i64 0]) := hq6
    have H46 : Hid (Below w4.heap.size w4 w6) := hb5.trans (h56.mono hb5.size)
    have HE6 : Hid (_ = w6) := hw6
    have HEb : Hid (_ = b6) := hb6
    clear hw6 hb6 hq6 h56 hb5
    go_upto_region 6 with fail
    rw [HE6.out, HEb.out]
    clear HE6 HEb
    have H26 : Hid (Below w2.heap.size w2 w6) := H24.out.trans (H46.out.mono H24.out.size)
    go_wp2_with fail
    refine (specClNew_any id (some ⟨g, 0, none⟩) n c ys w6 (HO2.out.below H26.out).seg (by omega) (by omega)).mono ?_
    have e1 : newI id n = ⟨#[]⟩ := if_neg (by rw [show newT id n = false from HTT.out]; simp)
    have e2 : newL id n = 0 := if_neg (by rw [show newT id n = false from HTT.out]; simp)
    have e4 : newS id n = 0 := if_neg (by rw [show newT id n = false from HTT.out]; simp)
    rw [e1, e2, e4]
    clear e1 e2 e4
    rintro e w7 ⟨⟨a7, c7, rfl, ho7⟩, hb7⟩
    clear ho7
    obtain ⟨w8, hw8⟩ : ∃ w8, w7.alloc (.cells #[.string ⟨#[]⟩, .slice a7 0 c7, .int .i64 0, .int .i64 0] 27) = w8 := ⟨_, rfl⟩
    obtain ⟨b8, hb8⟩ : ∃ b8, w7.heap.size = b8 := ⟨_, rfl⟩
    have hq8 : BoxN w8 b8 27 [.string ⟨#[]⟩, .slice a7 0 c7, .int .i64 0, .int .i64 0] := by rw [← hw8, ← hb8]; exact BoxN.new _ _ _
    have h78 : Below w7.heap.size w7 w8 := by rw [← hw8]; exact (Below.refl _ _).alloc (Nat.le_refl _) _
    have h68 : Below w6.heap.size w6 w8 := hb7.trans (h78.mono hb7.size)
    have HQ8 : Hid (BoxN w8 b8 27 [.string ⟨#[]⟩, .slice a7 0 c7, .int .i64 0, .int .i64 0] ∧ BoxN w8 b6 30 [.int .i64 0, .string ⟨#[]⟩, .int .i64 0] ∧ BoxN w8 b4 27 [.string ⟨#[]⟩, .slice a3 0 c3, .int .i64 0, .int .i64 0] ∧ Below w.heap.size w w8) := ⟨hq8, HQ6.out.stays h68, HQ4.out.stays (H46.out.trans (h68.mono H46.out.size)), HB2.out.trans ((H26.out.trans (h68.mono H26.out.size)).mono HB2.out.size)⟩
    have HE8 : Hid (_ = w8) := hw8
    have HEb : Hid (_ = b8) := hb8
    clear hw8 hb8 hq8 h78 h68 hb7 HQ6 HQ4 H46 H26 H24 HO4
    go_upto_region 7 with fail
    rw [HE8.out, HEb.out]
    clear HE8 HEb
    have d2 := HQ8.out.1.cell 2 rfl
    have f0 := HQ8.out.2.1.cell 0 rfl
    have f1 := HQ8.out.2.1.cell 1 rfl
    have f2 := HQ8.out.2.1.cell 2 rfl
    have g0 := HQ8.out.2.2.1.cell 0 rfl
    have g1 := HQ8.out.2.2.1.cell 1 rfl
    have g2 := HQ8.out.2.2.1.cell 2 rfl
    have g3 := HQ8.out.2.2.1.cell 3 rfl
    go_wp2_with fail
    go_ret
    exact ⟨rfl, HQ8.out.2.2.2⟩
  | true =>
    simp only [if_true] at HQ4 HO4
    have hwy : wayC id n 1 0 = true := wayC_iff.2 ⟨HTT.out, by decide, by decide⟩
    have HN : Hid (askOp id n 1 0 = 1 ∧ askI id n 1 0 = id ∧ askN id n ys 1 0 = (n : Int) ∧ askK id n 1 0 = 0 ∧ wayC id n 1 0 = true) := ⟨if_pos hwy, if_pos hwy, (if_pos hwy).trans rfl, if_neg (by simp), hwy⟩
    clear hwy
    have c0 := HQ4.out.cell 0 rfl
    have c1 := HQ4.out.cell 1 rfl
    have c2 := HQ4.out.cell 2 rfl
    have c3' := HQ4.out.cell 3 rfl
    go_wp2_with fail
    refine (implNext_any id a3 n c3 ys 1 0 w4 HO4.out.seg (by omega) (by omega) (fun _ h => absurd h (by decide))).mono ?_
    rw [HN.out.1, HN.out.2.1, HN.out.2.2.1, HN.out.2.2.2.1, HN.out.2.2.2.2]
    rintro e w5 ⟨⟨a5, c5, rfl, ho5⟩, hb5⟩
    clear ho5 c0 c1 c2 c3' HN
    obtain ⟨w6, hw6⟩ : ∃ w6, w5.alloc (.cells #[.int .i64 1, .string id, .int .i64 (n : Int)] 30) = w6 := ⟨_, rfl⟩
    obtain ⟨b6, hb6⟩ : ∃ b6, w5.heap.size = b6 := ⟨_, rfl⟩
    have hq6 : BoxN w6 b6 30 [.int .i64 1, .string id, .int .i64 (n : Int)] := by rw [← hw6, ← hb6]; exact BoxN.new _ _ _
    have h56 : Below w5.heap.size w5 w6 := by rw [← hw6]; exact (Below.refl _ _).alloc (Nat.le_refl _) _
    have HQ6 : Hid (BoxN w6 b6 30 [.int .i64 1, .string id, .int .i64 (n : Int)]) := hq6
    have H46 : Hid (Below w4.heap.size w4 w6) := hb5.trans (h56.mono hb5.size)
    have HE6 : Hid (_ = w6) := hw6
    have HEb : Hid (_ = b6) := hb6
    clear hw6 hb6 hq6 h56 hb5
    go_upto_region 6 with fail
    rw [HE6.out, HEb.out]
    clear HE6 HEb
    have H26 : Hid (Below w2.heap.size w2 w6) := H24.out.trans (H46.out.mono H24.out.size)
    go_wp2_with fail
    refine (specClNew_any id (some ⟨g, 0, none⟩) n c ys w6 (HO2.out.below H26.out).seg (by omega) (by omega)).mono ?_
    have e1 : newI id n = id := if_pos HTT.out
    have e2 : newL id n = n := if_pos HTT.out
    have e4 : newS id n = 1 := if_pos HTT.out
    rw [e1, e2, e4]
    clear e1 e2 e4
    rintro e w7 ⟨⟨a7, c7, rfl, ho7⟩, hb7⟩
    clear ho7
    obtain ⟨w8, hw8⟩ : ∃ w8, w7.alloc (.cells #[.string id, .slice a7 n c7, .int .i64 1, .int .i64 0] 27) = w8 := ⟨_, rfl⟩
    obtain ⟨b8, hb8⟩ : ∃ b8, w7.heap.size = b8 := ⟨_, rfl⟩
    have hq8 : BoxN w8 b8 27 [.string id, .slice a7 n c7, .int .i64 1, .int .i64 0] := by rw [← hw8, ← hb8]; exact BoxN.new _ _ _
    have h78 : Below w7.heap.size w7 w8 := by rw [← hw8]; exact (Below.refl _ _).alloc (Nat.le_refl _) _
    have h68 : Below w6.heap.size w6 w8 := hb7.trans (h78.mono hb7.size)
    have HQ8 : Hid (BoxN w8 b8 27 [.string id, .slice a7 n c7, .int .i64 1, .int .i64 0] ∧ BoxN w8 b6 30 [.int .i64 1, .string id, .int .i64 (n : Int)] ∧ BoxN w8 b4 27 [.string id, .slice a3 n c3, .int .i64 1, .int .i64 0] ∧ Below w.heap.size w w8) := ⟨hq8, HQ6.out.stays h68, HQ4.out.stays (H46.out.trans (h68.mono H46.out.size)), HB2.out.trans ((H26.out.trans (h68.mono H26.out.size)).mono HB2.out.size)⟩
    have HE8 : Hid (_ = w8) := hw8
    have HEb : Hid (_ = b8) := hb8
    clear hw8 hb8 hq8 h78 h68 hb7 HQ6 HQ4 H46 H26 H24 HO4
    go_upto_region 7 with fail
    rw [HE8.out, HEb.out]
    clear HE8 HEb
    have d2 := HQ8.out.1.cell 2 rfl
    have f0 := HQ8.out.2.1.cell 0 rfl
    have f1 := HQ8.out.2.1.cell 1 rfl
    have f2 := HQ8.out.2.1.cell 2 rfl
    have g0 := HQ8.out.2.2.1.cell 0 rfl
    have g1 := HQ8.out.2.2.1.cell 1 rfl
    have g2 := HQ8.out.2.2.1.cell 2 rfl
    have g3 := HQ8.out.2.2.1.cell 3 rfl
    have hself : (id.toList == id.toList) = true := by simp
    go_wp2_with fail
    refine (implClOk_any id a3 n c3 1 0 w8 (by omega) (by omega)).mono ?_
    rw [HTT.out]
    rintro e w9 ⟨rfl, hb9⟩
    have HEn : Hid (Below w.heap.size w w9) := HQ8.out.2.2.2.trans (hb9.mono HQ8.out.2.2.2.size)
    clear hb9
    go_wp2_with fail
    go_ret
    exact ⟨rfl, HEn.out⟩

end Go.Proofs.Ytlalebaaabdihag
