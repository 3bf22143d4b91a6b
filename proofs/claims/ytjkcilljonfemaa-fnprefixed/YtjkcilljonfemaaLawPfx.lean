/- The law of prefixed numbers: a drawn number comes back of its prefixed bytes, whatever stands in the upper bits; cut it does not. -/
import Derived.Test.YtjkcilljonfemaaDrawPfx
import Derived.Test.YtjkcilljonfemaaPfxImpl
import Derived.Test.YtjkcilljonfemaaGpxImpl
import Derived.Test.YtjkcilljonfemaaPfxBack
namespace Go.Proofs.Ytjkcilljonfemaa
open Go.RowKit
set_option linter.unusedVariables false

set_option maxHeartbeats 400000 in
theorem big_any (a : Option Addr) (len cap : Nat) (w : World) (hl : len ≤ maxLen) :
    Calls Try.prog 4 #[.slice a len cap] w fun e w' => e = .returned (.bool (decide ((1048576 : Int) < (len : Int)))) ∧ w' = w := by
  go_enter Try.func4, Try.ntmps4
  go_wp2
  go_ret
  exact ⟨rfl, rfl⟩

theorem own_cap {w : World} {base n cap : Nat} {a : Option Addr} {xs : List Value} (h : w.ownsRow base 5 1 (.slice a n cap) n xs) : n ≤ cap := by
  rcases h.2 with ⟨e, rfl⟩ | ⟨g, cap', cur, e, _, _, hn, _⟩
  · exact Nat.zero_le _
  · simp only [Value.slice.injEq] at e
    obtain ⟨_, _, rfl⟩ := e
    exact hn

/-- A slice's first k bytes. -/
theorem Seg.take {w : World} {b off len : Nat} {zs : List Int} (h : Seg w (some ⟨b, off, none⟩) len zs) (k : Nat) (hk : k ≤ len) : Seg w (some ⟨b, off, none⟩) k (zs.take k) := by
  refine ⟨by rw [List.length_take, h.1]; omega, fun x hx => h.2.1 x (List.mem_of_mem_take hx), ?_⟩
  rcases h.2.2 with h0 | ⟨b', off', e, hb, hc⟩
  · exact .inl (by omega)
  · cases e
    refine .inr ⟨b, off, rfl, hb, fun i hi => ?_⟩
    rw [hc i (by omega)]
    simp [List.getD_eq_getElem?_getD, hi]

theorem div_cast (V B : Nat) : (V : Int) / 2 ^ B = ((V / 2 ^ B : Nat) : Int) := by simp

/-- What the law asks of a list of bytes, of what stands in it from place n on, and of the number N. -/
structure Back (L : List Int) (n B F N : Nat) : Prop where
  long : n < L.length
  back : getPfx L (n : Int) (B : Int) = ((N : Int), (L.length : Int), true)
  cut : getPfx (L.take (L.length - 1)) (n : Int) (B : Int) = (0, 0, false)
  head : ∃ V : Nat, V ≤ 255 ∧ L.getD n 0 = (V : Int) ∧ V / 2 ^ B = F / 2 ^ B

theorem back_of (ys : List Int) (B F N : Nat) (h1 : 1 ≤ B) (h8 : B ≤ 8) (hF : F ≤ 255) (hN : N ≤ 16777216) : Back (ys ++ pfx B F N) ys.length B F N := by
  have hps := pow_small B h1 h8
  have htop := top_small B F h1 h8 hF
  refine ⟨?_, pfx_back ys B F N h1 h8 hN, pfx_cut ys B F N h1 h8, ⟨_, ?_, pfx_head ys B F N, head_div B F _ (by omega)⟩⟩
  · have : 0 < (pfx B F N).length := by unfold pfx; split <;> simp
    rw [List.length_append]
    omega
  · generalize F / 2 ^ B * 2 ^ B = f at *
    omega

set_option maxRecDepth 10000 in
set_option maxHeartbeats 800000 in
theorem lawPfx_any (a : Option Addr) (len cap : Nat) (zs : List Int) (w : World) (hm : len ≤ maxLen) (hs : Seg w a len zs) :
    Calls Try.prog 3 #[.slice a len cap] w fun e w' => e = .returned (.bool true) ∧ Below w.heap.size w w' := by
  have HS : Hid _ := hs
  clear hs
  by_cases hbig : 1048576 < len
  · have hd : decide ((1048576 : Int) < (len : Int)) = true := by simp; omega
    go_enter Try.func3, Try.ntmps3
    go_wp2_with fail
    refine (big_any a len cap _ hm).mono ?_
    rintro e w1 ⟨rfl, rfl⟩
    rw [hd]
    go_wp2_with fail
    go_ret
    exact ⟨rfl, Below.refl _ _⟩
  · have hd : decide ((1048576 : Int) < (len : Int)) = false := by simp; omega
    have hl : len ≤ 1099511627776 := by omega
    go_enter Try.func3, Try.ntmps3
    go_wp2_with fail
    refine (big_any a len cap _ hm).mono ?_
    rintro e w1 ⟨rfl, rfl⟩
    rw [hd]
    clear hd hbig hm
    go_wp2_with fail
    refine (drawPfx_any a len cap zs _ HS.out hl).mono ?_
    rintro e w2 ⟨g, n, cp, ys, k, f, x, rfl, hn9, hk, hf, hx, ho2, hb2⟩
    have hgl : g < w2.heap.size := (ho2.lt g rfl).2
    have hyl : ys.length = n := ho2.seg.1
    have HO2 : Hid (Owns w2 w1.heap.size (some ⟨g, 0, none⟩) n cp ys) := ho2
    have HB2 : Hid (Below w1.heap.size w1 w2) := hb2
    clear ho2 hb2
    go_wp2_with fail
    refine (implPfx_any _ _ _ _ k f x ys _ HO2.out.seg hgl (by omega)).mono ?_
    rintro e w3 ⟨a3, c3, rfl, ow3, hb3⟩
    have HB3 : Hid (Below w1.heap.size w1 w3) := HB2.out.trans (hb3.mono HB2.out.size)
    clear hb3 HB2 HO2
    by_cases hok : 1 ≤ k ∧ k ≤ 8 ∧ 0 ≤ f ∧ f ≤ 255
    · obtain ⟨B, rfl⟩ := Int.eq_ofNat_of_zero_le (show 0 ≤ k by omega)
      obtain ⟨F, rfl⟩ := Int.eq_ofNat_of_zero_le (show 0 ≤ f by omega)
      have e : putPfx ys B F x = ys ++ pfx B F (min x 16777216).toNat := by rw [putPfx, if_pos hok, Int.toNat_natCast, Int.toNat_natCast]
      rw [e] at ow3 ⊢
      have hbk := back_of ys B F (min x 16777216).toNat (by omega) (by omega) (by omega) (by omega)
      rw [hyl] at hbk
      obtain ⟨N, hN⟩ : ∃ N, (min x 16777216).toNat = N := ⟨_, rfl⟩
      rw [hN] at hbk ow3 ⊢
      have hll : (ys ++ pfx B F N).length ≤ 20 := by have := pfx_len B F N; rw [List.length_append]; omega
      generalize ys ++ pfx B F N = L at *
      have hlong := hbk.long
      have hback := hbk.back
      have hcut := hbk.cut
      obtain ⟨V, hV, hhd, hdv⟩ := hbk.head
      generalize hLl : L.length = ll at *
      obtain ⟨g3, rfl⟩ : ∃ g3, a3 = some ⟨g3, 0, none⟩ := by
        rcases ow3.1.2 with ⟨_, h0⟩ | ⟨g', cap', cur, e, _⟩
        · omega
        · simp only [Value.slice.injEq] at e
          exact ⟨g', e.1⟩
      have hcap := own_cap ow3.1
      have HSeg : Hid (Seg w3 (some ⟨g3, 0, none⟩) ll L) := ow3.seg
      have HBack : Hid (getPfx L (n : Int) (B : Int) = ((N : Int), (ll : Int), true)) := hback
      have HCut : Hid (getPfx (L.take (ll - 1)) (n : Int) (B : Int) = (0, 0, false)) := hcut
      have HHd : Hid (L.getD n 0 = (V : Int)) := hhd
      have HDv : Hid (V / 2 ^ B = F / 2 ^ B) := hdv
      have hk1 : decide ((B : Int) < 1) = false := by simp; omega
      have hk8 : decide ((8 : Int) < (B : Int)) = false := by simp; omega
      have hf1 : decide ((F : Int) < 0) = false := by simp
      have hf8 : decide ((255 : Int) < (F : Int)) = false := by simp; omega
      have hB8 : B ≤ 8 := by omega
      have hB1 : 1 ≤ B := by omega
      have hF8 : F ≤ 255 := by omega
      clear hbk hback hcut hhd hdv ow3 e hok hk hf
      have hcases : (16777216 < x ∧ N = 16777216) ∨ (x < 0 ∧ N = 0) ∨ x = (N : Int) := by omega
      have hNb : N ≤ 16777216 := by omega
      clear hN
      have hcmp : (((V : Int) / 2 ^ B) == ((F : Int) / 2 ^ B)) = true := by
        rw [beq_iff_eq, div_cast, div_cast, HDv.out]
      have HCmp : Hid ((((V : Int) / 2 ^ B) == ((F : Int) / 2 ^ B)) = true) := hcmp
      clear hcmp HDv
      rcases hcases with ⟨hx1, rfl⟩ | ⟨hx1, rfl⟩ | rfl
      all_goals
        go_wp2_with fail
        refine (implGpx_any g3 0 ll c3 (n : Int) (B : Int) L _ HSeg.out hcap (by omega)).mono ?_
        rintro e w4 ⟨rfl, hb4⟩
        rw [HBack.out]
        have HB4 : Hid (Below w1.heap.size w1 w4) := HB3.out.trans (hb4.mono HB3.out.size)
        have HS4 : Hid (Seg w4 (some ⟨g3, 0, none⟩) ll L) := HSeg.out.below hb4
        clear hb4
        go_wp2_with fail
        refine (implGpx_any g3 0 (ll - 1) c3 (n : Int) (B : Int) (L.take (ll - 1)) _ (HS4.out.take (ll - 1) (by omega)) (by omega) (by omega)).mono ?_
        rintro e w5 ⟨rfl, hb5⟩
        rw [HCut.out]
        have HB5 : Hid (Below w1.heap.size w1 w5) := HB4.out.trans (hb5.mono HB4.out.size)
        have hcell : w5.cell? ⟨g3, n, none⟩ = some (.int .u8 (V : Int)) := by
          rcases (HS4.out.below hb5).2.2 with h0 | ⟨b', off', e, _, hc⟩
          · omega
          · cases e
            have := hc n hlong
            rw [HHd.out] at this
            simpa using this
        clear hb5
        go_wp2_with fail
        go_ret
        exact ⟨ret_bool HCmp.out, HB5.out⟩
    · have e : putPfx ys k f x = ys := by rw [putPfx, if_neg hok, List.append_nil]
      rw [e, hyl]
      clear ow3 e
      by_cases h1 : 1 ≤ k
      · by_cases h2 : k ≤ 8
        · by_cases h3 : 0 ≤ f
          · have h4 : 255 < f := by omega
            clear hok
            go_wp2_with fail
            go_ret
            exact ⟨rfl, HB3.out⟩
          · have h4 : f < 0 := by omega
            clear hok h3
            go_wp2_with fail
            go_ret
            exact ⟨rfl, HB3.out⟩
        · have h4 : 8 < k := by omega
          clear hok h2
          go_wp2_with fail
          go_ret
          exact ⟨rfl, HB3.out⟩
      · have h4 : k < 1 := by omega
        clear hok h1
        go_wp2_with fail
        go_ret
        exact ⟨rfl, HB3.out⟩

end Go.Proofs.Ytjkcilljonfemaa
