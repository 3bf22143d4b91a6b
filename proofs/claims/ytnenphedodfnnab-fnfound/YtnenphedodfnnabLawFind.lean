/- The law on what is found in a table. -/
import Derived.Test.YtnenphedodfnnabDrawFind
import Derived.Test.YtnenphedodfnnabLawBig
import Derived.Test.YtnenphedodfnnabLawFindA
import Derived.Test.YtnenphedodfnnabTimAt
import Derived.Lib.Strings
import Derived.Deep.RegionHeld3
import Derived.Deep.Cut
namespace Go.Proofs.Ytnenphedodfnnab
open Go.RowKit
set_option linter.unusedVariables false

set_option maxRecDepth 10000 in
set_option maxHeartbeats 3200000 in
theorem lawFind_any (a : Option Addr) (len cap : Nat) (zs : List Int) (w : World) (hm : len ≤ maxLen) (hs : Seg w a len zs) :
    Calls Try.prog 6 #[.slice a len cap] w fun e w' => e = .returned (.bool true) ∧ Below w.heap.size w w' := by
  have HS : Hid (Seg w a len zs) := hs
  clear hs
  go_enter Try.func6, Try.ntmps6
  go_wp2_with fail
  refine (big_any a len cap _ hm).mono ?_
  rintro e w1 ⟨rfl, rfl⟩
  by_cases hbig : (1048576 : Int) < (len : Int)
  · go_wp2_with fail
    go_ret
    exact ⟨rfl, Below.refl _ _⟩
  go_wp2_with fail
  refine (drawFind_any a len cap zs _ HS.out (by omega)).mono ?_
  rintro e w2 ⟨m, av, n, cv, xs, x, y, rfl, ⟨hn, hfb, hx, hy⟩, ho2, hb2⟩
  have HO2 : Hid (OwnF w2 w1.heap.size (.slice av n cv) n xs) := ho2
  have HB2 : Hid (Below w1.heap.size w1 w2) := hb2
  have HS2 : Hid (Seg w2 a len zs) := HS.out.below hb2
  clear ho2 hb2 HS
  go_wp2_with fail
  obtain ⟨w3, hw3⟩ : ∃ w3, (w2.alloc (.cells #[.int .i64 m, .slice av n cv] 34)).alloc (.cells #[.string x, .string y] 36) = w3 := ⟨_, rfl⟩
  have hb23 : Below w2.heap.size w2 w3 := by rw [← hw3]; exact ((Below.refl _ _).alloc (Nat.le_refl _) _).alloc (by simp) _
  have HT3 : Hid (Box2 w3 w2.heap.size 34 (.int .i64 m) (.slice av n cv)) := by show Box2 _ _ _ _ _; rw [← hw3]; exact (Box2.new _ _ _ _).alloc _
  have HF3 : Hid (Box2 w3 (w2.heap.size + 1) 36 (.string x) (.string y)) := by show Box2 _ _ _ _ _; rw [← hw3, ← World.size_alloc w2 (.cells #[.int .i64 m, .slice av n cv] 34)]; exact Box2.new _ _ _ _
  have HO3 : Hid (OwnF w3 w1.heap.size (.slice av n cv) n xs) := HO2.out.stays hb23
  have HAll : Hid (∀ W, Below w3.heap.size w3 W → Box2 W w2.heap.size 34 (.int .i64 m) (.slice av n cv) ∧ Box2 W (w2.heap.size + 1) 36 (.string x) (.string y) ∧ OwnF W w1.heap.size (.slice av n cv) n xs ∧ Seg W a len zs ∧ Below w1.heap.size w1 W) := by
    intro W hW
    have hb := hb23.trans (hW.mono hb23.size)
    exact ⟨HT3.out.stays hW, HF3.out.stays hW, HO3.out.stays hW, HS2.out.below hb, HB2.out.trans (hb.mono HB2.out.size)⟩
  rw [hw3]
  have HTF : Hid (w2.heap.size + 1 < w3.heap.size) := HF3.out.lt
  clear hw3 hb23 HO2 HB2 HS2 HT3 HF3
  generalize w2.heap.size = tb at *
  refine (implFind_any m av n cv xs x y w3 HO3.out.flds (by omega) ⟨by unfold maxLen; omega, by unfold maxLen; omega⟩).mono ?_
  rintro e w4 ⟨i, b, rfl, hans, hb4⟩
  have HL4 : Hid (Below w3.heap.size w3 w4) := hb4
  have HA : Hid (FindAns (firstL ++ xs) (x, y) i b) := hans
  clear hans hb4 HO3
  obtain ⟨c0, c1, _, _⟩ := (HAll.out _ HL4.out).1.cells
  obtain ⟨d0, d1, _, _⟩ := (HAll.out _ HL4.out).2.1.cells
  go_wp2_with fail
  refine (specFind_any m av n cv xs x y w4 (HAll.out _ HL4.out).2.2.1.flds (by omega)).mono ?_
  rintro e w5 ⟨j, b', rfl, hans, hb5⟩
  obtain ⟨rfl, rfl⟩ := HA.out.one hans
  have HL : Hid (Below w3.heap.size w3 w5) := HL4.out.trans (hb5.mono HL4.out.size)
  clear hans hb5 HL4 c0 c1 d0 d1
  obtain ⟨c0, c1, _, _⟩ := (HAll.out _ HL.out).1.cells
  obtain ⟨d0, d1, _, _⟩ := (HAll.out _ HL.out).2.1.cells
  have hii : (i != i) = false := by simp
  have hbb : (b != b) = false := by simp
  by_cases hi : 0 < i
  · obtain ⟨y', hat, hyy, hib⟩ := find_at HA.out hi
    have hnl : xs.length = n := (HAll.out _ HL.out).2.2.1.len
    have HAt : Hid (Calls Try.prog 24 #[.agg #[.int .i64 m, .slice av n cv], .int .i64 i] w5 fun e w' => e = .returned (.tuple #[.agg #[.string x, .string y'], .bool true]) ∧ Below w5.heap.size w5 w') := by
      have h := implAt_any m i av n cv xs w5 (HAll.out _ HL.out).2.2.1.flds (by omega) (by omega)
      rw [hat] at h
      exact h
    have HYY : Hid (b = true → y' = y) := hyy
    clear hat hyy hib hnl
    go_wp2_with fail
    refine HAt.out.mono ?_
    rintro e w6 ⟨rfl, hb6⟩
    have HL6 : Hid (Below w3.heap.size w3 w6) := HL.out.trans (hb6.mono HL.out.size)
    clear hb6 HL HAt c0 c1 d0 d1
    obtain ⟨w7, hw7⟩ : ∃ w7, w6.alloc (.cells #[.string x, .string y'] 36) = w7 := ⟨_, rfl⟩
    have HL : Hid (Below w3.heap.size w3 w7) := by rw [← hw7]; exact HL6.out.alloc HL6.out.size _
    have HG : Hid (Box2 w7 w6.heap.size 36 (.string x) (.string y')) := by show Box2 _ _ _ _ _; rw [← hw7]; exact Box2.new _ _ _ _
    obtain ⟨c0, c1, _, _⟩ := (HAll.out _ HL.out).1.cells
    obtain ⟨d0, d1, _, _⟩ := (HAll.out _ HL.out).2.1.cells
    obtain ⟨g0, g1, _, _⟩ := HG.out.cells
    clear HL6
    cases b with
    | true =>
      obtain rfl := HYY.out rfl
      go_upto_region 12 with fail
      clear hw7 HG g0 g1 HYY
      go_wp2_with fail
      refine (at_any a len cap 2 zs _ (HAll.out _ HL.out).2.2.2.1 (by omega) (by omega)).mono ?_
      rintro e u1 ⟨c, rfl, rfl⟩
      have hc : c.toNat < 256 := c.toNat_lt
      obtain ⟨k, hk⟩ : ∃ k : Int, 1 + ((c.toNat : Int) % 61) = k := ⟨_, rfl⟩
      have hk1 : 1 ≤ k := by omega
      have hk2 : k ≤ 61 := by omega
      have hkw : Int.tmod (c.toNat : Int) 61 = (c.toNat : Int) % 61 := Int.tmod_eq_emod_of_nonneg (by omega)
      obtain ⟨hok, hs1, hs2⟩ := first_ok hk1 hk2
      have hk3 : IntKind.i64.wrap (1 + ((c.toNat : Int) % 61)) = k := by
        rw [hk]
        obtain ⟨q, rfl⟩ := Int.eq_ofNat_of_zero_le (show 0 ≤ k by omega)
        exact wrap_i64_small q (by omega)
      go_wp2_with fail
      refine (implFF_any k _).mono ?_
      rintro e u2 ⟨rfl, hb2⟩
      have HL2 : Hid (Below w3.heap.size w3 u2) := HL.out.trans (hb2.mono HL.out.size)
      obtain ⟨⟨⟨fx, fy⟩, fb⟩, hf⟩ : ∃ f, firstAns k = f := ⟨_, rfl⟩
      have HF : Hid (∀ i b, FindAns (firstL ++ xs) (fx, fy) i b → i = k ∧ b = true) := fun i b h => find_first hk1 hk2 (by rw [hf]; exact h)
      rw [hf] at hok hs1 hs2
      rw [hf]
      dsimp only at hok hs1 hs2 ⊢
      subst hok
      clear hb2 hf hk hkw hk3 hc HL c0 c1 d0 d1
      obtain ⟨u3, hu3⟩ : ∃ u3, u2.alloc (.cells #[.string fx, .string fy] 36) = u3 := ⟨_, rfl⟩
      have HL3 : Hid (Below w3.heap.size w3 u3) := by rw [← hu3]; exact HL2.out.alloc HL2.out.size _
      have HG3 : Hid (Box2 u3 u2.heap.size 36 (.string fx) (.string fy)) := by show Box2 _ _ _ _ _; rw [← hu3]; exact Box2.new _ _ _ _
      obtain ⟨e0, e1, _, _⟩ := (HAll.out _ HL3.out).1.cells
      obtain ⟨f0, f1, _, _⟩ := HG3.out.cells
      clear HL2
      go_wp2_with fail
      refine (implFind_any m av n cv xs fx fy _ (HAll.out _ HL3.out).2.2.1.flds (by omega) ⟨by unfold maxLen; omega, by unfold maxLen; omega⟩).mono ?_
      rintro e u4 ⟨i', b', rfl, hans, hb4⟩
      obtain ⟨rfl, rfl⟩ := HF.out _ _ hans
      have HL4 : Hid (Below w3.heap.size w3 u4) := HL3.out.trans (hb4.mono HL3.out.size)
      have hkk : (i' == i') = true := by simp
      clear hans hb4 hu3 HL3 HG3 e0 e1 f0 f1 HF
      go_wp2_with fail
      go_ret
      exact ⟨rfl, (HAll.out _ HL4.out).2.2.2.2⟩
    | false =>
      go_upto_region 12 with fail
      clear hw7 HG g0 g1 HYY
      go_wp2_with fail
      refine (at_any a len cap 2 zs _ (HAll.out _ HL.out).2.2.2.1 (by omega) (by omega)).mono ?_
      rintro e u1 ⟨c, rfl, rfl⟩
      have hc : c.toNat < 256 := c.toNat_lt
      obtain ⟨k, hk⟩ : ∃ k : Int, 1 + ((c.toNat : Int) % 61) = k := ⟨_, rfl⟩
      have hk1 : 1 ≤ k := by omega
      have hk2 : k ≤ 61 := by omega
      have hkw : Int.tmod (c.toNat : Int) 61 = (c.toNat : Int) % 61 := Int.tmod_eq_emod_of_nonneg (by omega)
      obtain ⟨hok, hs1, hs2⟩ := first_ok hk1 hk2
      have hk3 : IntKind.i64.wrap (1 + ((c.toNat : Int) % 61)) = k := by
        rw [hk]
        obtain ⟨q, rfl⟩ := Int.eq_ofNat_of_zero_le (show 0 ≤ k by omega)
        exact wrap_i64_small q (by omega)
      go_wp2_with fail
      refine (implFF_any k _).mono ?_
      rintro e u2 ⟨rfl, hb2⟩
      have HL2 : Hid (Below w3.heap.size w3 u2) := HL.out.trans (hb2.mono HL.out.size)
      obtain ⟨⟨⟨fx, fy⟩, fb⟩, hf⟩ : ∃ f, firstAns k = f := ⟨_, rfl⟩
      have HF : Hid (∀ i b, FindAns (firstL ++ xs) (fx, fy) i b → i = k ∧ b = true) := fun i b h => find_first hk1 hk2 (by rw [hf]; exact h)
      rw [hf] at hok hs1 hs2
      rw [hf]
      dsimp only at hok hs1 hs2 ⊢
      subst hok
      clear hb2 hf hk hkw hk3 hc HL c0 c1 d0 d1
      obtain ⟨u3, hu3⟩ : ∃ u3, u2.alloc (.cells #[.string fx, .string fy] 36) = u3 := ⟨_, rfl⟩
      have HL3 : Hid (Below w3.heap.size w3 u3) := by rw [← hu3]; exact HL2.out.alloc HL2.out.size _
      have HG3 : Hid (Box2 u3 u2.heap.size 36 (.string fx) (.string fy)) := by show Box2 _ _ _ _ _; rw [← hu3]; exact Box2.new _ _ _ _
      obtain ⟨e0, e1, _, _⟩ := (HAll.out _ HL3.out).1.cells
      obtain ⟨f0, f1, _, _⟩ := HG3.out.cells
      clear HL2
      go_wp2_with fail
      refine (implFind_any m av n cv xs fx fy _ (HAll.out _ HL3.out).2.2.1.flds (by omega) ⟨by unfold maxLen; omega, by unfold maxLen; omega⟩).mono ?_
      rintro e u4 ⟨i', b', rfl, hans, hb4⟩
      obtain ⟨rfl, rfl⟩ := HF.out _ _ hans
      have HL4 : Hid (Below w3.heap.size w3 u4) := HL3.out.trans (hb4.mono HL3.out.size)
      have hkk : (i' == i') = true := by simp
      clear hans hb4 hu3 HL3 HG3 e0 e1 f0 f1 HF
      go_wp2_with fail
      go_ret
      exact ⟨rfl, (HAll.out _ HL4.out).2.2.2.2⟩
  · go_upto_region 12 with fail
    go_wp2_with fail
    refine (at_any a len cap 2 zs _ (HAll.out _ HL.out).2.2.2.1 (by omega) (by omega)).mono ?_
    rintro e u1 ⟨c, rfl, rfl⟩
    have hc : c.toNat < 256 := c.toNat_lt
    obtain ⟨k, hk⟩ : ∃ k : Int, 1 + ((c.toNat : Int) % 61) = k := ⟨_, rfl⟩
    have hk1 : 1 ≤ k := by omega
    have hk2 : k ≤ 61 := by omega
    have hkw : Int.tmod (c.toNat : Int) 61 = (c.toNat : Int) % 61 := Int.tmod_eq_emod_of_nonneg (by omega)
    obtain ⟨hok, hs1, hs2⟩ := first_ok hk1 hk2
    have hk3 : IntKind.i64.wrap (1 + ((c.toNat : Int) % 61)) = k := by
      rw [hk]
      obtain ⟨q, rfl⟩ := Int.eq_ofNat_of_zero_le (show 0 ≤ k by omega)
      exact wrap_i64_small q (by omega)
    go_wp2_with fail
    refine (implFF_any k _).mono ?_
    rintro e u2 ⟨rfl, hb2⟩
    have HL2 : Hid (Below w3.heap.size w3 u2) := HL.out.trans (hb2.mono HL.out.size)
    obtain ⟨⟨⟨fx, fy⟩, fb⟩, hf⟩ : ∃ f, firstAns k = f := ⟨_, rfl⟩
    have HF : Hid (∀ i b, FindAns (firstL ++ xs) (fx, fy) i b → i = k ∧ b = true) := fun i b h => find_first hk1 hk2 (by rw [hf]; exact h)
    rw [hf] at hok hs1 hs2
    rw [hf]
    dsimp only at hok hs1 hs2 ⊢
    subst hok
    clear hb2 hf hk hkw hk3 hc HL c0 c1 d0 d1
    obtain ⟨u3, hu3⟩ : ∃ u3, u2.alloc (.cells #[.string fx, .string fy] 36) = u3 := ⟨_, rfl⟩
    have HL3 : Hid (Below w3.heap.size w3 u3) := by rw [← hu3]; exact HL2.out.alloc HL2.out.size _
    have HG3 : Hid (Box2 u3 u2.heap.size 36 (.string fx) (.string fy)) := by show Box2 _ _ _ _ _; rw [← hu3]; exact Box2.new _ _ _ _
    obtain ⟨e0, e1, _, _⟩ := (HAll.out _ HL3.out).1.cells
    obtain ⟨f0, f1, _, _⟩ := HG3.out.cells
    clear HL2
    go_wp2_with fail
    refine (implFind_any m av n cv xs fx fy _ (HAll.out _ HL3.out).2.2.1.flds (by omega) ⟨by unfold maxLen; omega, by unfold maxLen; omega⟩).mono ?_
    rintro e u4 ⟨i', b', rfl, hans, hb4⟩
    obtain ⟨rfl, rfl⟩ := HF.out _ _ hans
    have HL4 : Hid (Below w3.heap.size w3 u4) := HL3.out.trans (hb4.mono HL3.out.size)
    have hkk : (i' == i') = true := by simp
    clear hans hb4 hu3 HL3 HG3 e0 e1 f0 f1 HF
    go_wp2_with fail
    go_ret
    exact ⟨rfl, (HAll.out _ HL4.out).2.2.2.2⟩

end Go.Proofs.Ytnenphedodfnnab
