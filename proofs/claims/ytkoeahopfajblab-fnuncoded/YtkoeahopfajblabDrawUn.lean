/- The draw of bytes that may be the code of a text. For codes of at most 2^40 bytes. -/
import Derived.Test.YtkoeahopfajblabDrawStr
import Derived.Test.YtkoeahopfajblabHufHuff
namespace Go.Proofs.Ytkoeahopfajblab
open Go.RowKit
set_option linter.unusedVariables false

theorem xor_byte (x y : Int) : 0 ≤ bits .xor .u8 x y ∧ bits .xor .u8 x y ≤ 255 := by
  have e : bits .xor .u8 x y = IntKind.u8.wrap (((BitVec.ofInt 8 x ^^^ BitVec.ofInt 8 y).toNat : Nat) : Int) := rfl
  rw [e]
  simp [IntKind.wrap, IntKind.bits, IntKind.signed]
  omega

set_option maxRecDepth 10000 in
set_option maxHeartbeats 1600000 in
theorem drawUn_any (a : Option Addr) (len cap : Nat) (zs : List Int) (w : World) (hs : Seg w a len zs) (hl : len ≤ 1099511627776) :
    Calls Try.prog 10 #[.slice a len cap] w fun e w' => ∃ (a' : Option Addr) (n cp : Nat) (ys : List Int), e = .returned (.slice a' n cp) ∧ n ≤ 400 ∧ Seg w' a' n ys ∧ Below w.heap.size w w' := by
  obtain ⟨i0, hi, hz0, hz1, hz2⟩ := info_parts Try.info5
  have HS : Hid (Seg w a len zs) := hs
  clear hs
  go_enter Try.func10, Try.ntmps10
  go_wp2_with fail
  refine (l1New_any a len cap zs _ HS.out hl).mono ?_
  rintro e w1 ⟨rfl, hc1, hb1⟩
  have HC1 : Hid (Cur w1 w.heap.size w.heap.size a len cap zs) := hc1
  have HB1 : Hid (Below w.heap.size w w1) := hb1
  have hcl : w.heap.size < w1.heap.size := hc1.lt
  clear hc1 hb1
  generalize hcc : w.heap.size = c at *
  have HCC : Hid (w.heap.size = c) := hcc
  clear hcc
  go_wp2_with fail
  refine (l3Some_any c c a len cap zs _ HC1.out hl).mono ?_
  rintro e w2 ⟨s, rfl, hs75, hc2, hg2⟩
  have HC2 : Hid (Cur w2 c c a len cap zs) := hc2
  have HG2 : Hid (w1.grownBy w2 (some c)) := hg2
  have hs2 := hg2.size
  clear hc2 hg2 HC1
  go_wp2_with fail
  refine (specHuff_any s _ (by omega)).mono ?_
  rintro e w3 ⟨o, oa, oc, rfl, ow3, hf3, hb3⟩
  have hol : o.length ≤ 300 := by
    have h0 := hf3.len
    have h1 := bitLen_le s.data.toList
    rw [str_len] at h1
    omega
  have HO3 : Hid (Owns w3 w2.heap.size oa o.length oc o) := ow3
  have HC3 : Hid (Cur w3 c c a len cap zs) := HC2.out.kept (gbelow hb3 none) (by simp)
  have HG3 : Hid (w1.grownBy w3 (some c)) := gtrans HG2.out (gbelow hb3 (some c))
  have hs3 := hb3.size
  clear ow3 hf3 hb3 HC2 HG2 hs75
  obtain ⟨n, hn⟩ : ∃ n, o.length = n := ⟨_, rfl⟩
  rw [hn] at HO3 hol ⊢
  have HN : Hid (o.length = n) := hn
  clear hn
  go_wp2_with fail
  refine (l1Below_any c c a len cap zs _ _ HC3.out hl (by omega) (by omega)).mono ?_
  rintro e w4 ⟨x, rfl, hx0, hx1, hc4, hg4⟩
  have hnb : ∀ k, oa.map (·.block) = some k → k ≠ c := fun k hk => by have := HO3.out.lt k hk; omega
  have HO4 : Hid (Owns w4 w2.heap.size oa n oc o) := by
    refine ⟨HO3.out.1.kept hg4 ?_, HO3.out.2⟩
    cases oa with
    | none => exact .inl rfl
    | some ad => exact .inr (fun e => by
        rcases HO3.out.1.2 with ⟨e', _⟩ | ⟨g', cap', cur, e', _⟩
        · simp at e'
        · simp only [Value.slice.injEq, Option.some.injEq] at e'
          obtain ⟨rfl, _, rfl⟩ := e'
          exact hnb g' rfl (by simpa [Value.ownBlock] using e))
  have HC4 : Hid (Cur w4 c c a len cap zs) := hc4
  have HG4 : Hid (w1.grownBy w4 (some c)) := gtrans HG3.out hg4
  have hs4 := hg4.size
  clear hc4 hg4 HO3 HC3 HG3 hnb
  have hcw : Hid (w.heap.size = c) := HCC
  have HBw : Hid (∀ W : World, w1.grownBy W (some c) → Below c w W) := fun W hW => HB1.out.grown hW (by omega) (fun j hj => by have := Option.some.inj hj; omega)
  have h4 : x = 0 ∨ x = 1 ∨ x = 2 ∨ x = 3 := by omega
  clear hx0 hx1
  rcases h4 with rfl | rfl | rfl | rfl
  · go_wp2_with fail
    refine (l1Some_any c c a len cap zs _ HC4.out hl).mono ?_
    rintro e w5 ⟨g, m, cp, ys, rfl, hm9, hg, ho5, hc5, hg5⟩
    have HG5 : Hid (w1.grownBy w5 (some c)) := gtrans HG4.out hg5
    have HS5 : Hid (Seg w5 (some ⟨g, 0, none⟩) m ys) := ho5.seg
    clear ho5 hc5 hg5
    go_wp2_with fail
    go_ret
    refine ⟨_, m, cp, ys, rfl, by omega, HS5.out, ?_⟩
    rw [hcw.out]
    exact HBw.out _ HG5.out
  · by_cases hn0 : n = 0
    · subst hn0
      go_wp2_with fail
      go_ret
      refine ⟨_, 0, oc, o, rfl, by omega, HO4.out.seg, ?_⟩
      rw [hcw.out]
      exact HBw.out _ HG4.out
    · obtain ⟨g, rfl⟩ : ∃ g, oa = some ⟨g, 0, none⟩ := by
        rcases HO4.out.1.2 with ⟨_, h0⟩ | ⟨g', cap', cur, e, _⟩
        · omega
        · simp only [Value.slice.injEq] at e
          exact ⟨g', e.1⟩
      obtain ⟨m, hnm⟩ : ∃ m, n = m + 1 := ⟨n - 1, by omega⟩
      obtain ⟨X, hX⟩ : ∃ X, w4.cell? ⟨g, m, none⟩ = some (.int .u8 X) := by
        rw [HO4.out.1.cellAt m (by omega)]
        have hml : m < o.length := by have := HN.out; omega
        exact ⟨o[m], by simp [hml]⟩
      have hF : w4.frozen? ⟨g, m, none⟩ = false := HO4.out.1.frozenAt m
      have hgc : g ≠ c := by have := (HO4.out.lt g rfl).1; omega
      have hglt : g < w4.heap.size := (HO4.out.lt g rfl).2
      have HCd : Hid (Cur w4.drew c c a len cap zs) := HC4.out
      have AFT : Hid (∀ W : World, w4.drew.grownBy W (some c) → W.cell? ⟨g, m, none⟩ = some (.int .u8 X) ∧ W.frozen? ⟨g, m, none⟩ = false) := fun W hW => by
        have hb : W.heap[g]? = w4.heap[g]? := hW.block g hglt (fun e => hgc (Option.some.inj e))
        refine ⟨?_, ?_⟩
        · rw [← hX]; simp [World.cell?, hb]
        · rw [← hF]; simp [World.frozen?, hb]
      have hw1 : IntKind.i64.wrap ((n : Int) - 1) = (m : Int) := by
        rw [show ((n : Int) - 1) = (m : Int) by omega]
        exact wrap_i64_small m (by omega)
      have hw2 : wrap64 ((n : Int) - 1) = (m : Int) := by
        rw [show ((n : Int) - 1) = (m : Int) by omega]
        exact wrap64_small m (by omega)
      have hm0 : (0 : Int) ≤ (m : Int) := by omega
      have hm1 : (m : Int) < (n : Int) := by omega
      have hm2 : m < n := by omega
      have hnp : (0 : Int) < (n : Int) := by omega
      have HNM : Hid (n = m + 1) := hnm
      clear hnm hn0
      go_wp2_with fail
      go_region_with (go_at_call 23; refine (l1Below_any c c a len cap zs _ _ HCd.out hl (by omega) (by omega)).mono ?_; rintro e w5 ⟨y, rfl, hy0, hy1, hc5, hg5⟩; have hX5 := (AFT.out _ hg5).1; have hF5 := (AFT.out _ hg5).2)
      all_goals
        have hz := xor_byte X (IntKind.u8.wrap (2 ^ min (IntKind.u64.wrap y).toNat 8))
        generalize bits .xor .u8 X (IntKind.u8.wrap (2 ^ min (IntKind.u64.wrap y).toNat 8)) = Z at *
        generalize IntKind.u8.wrap (2 ^ min (IntKind.u64.wrap y).toNat 8) = Z1
        generalize IntKind.u64.wrap y = Z2
        have hg5' : w4.grownBy w5 (some c) := gtrans (w1 := w4.drew) ⟨rfl, rfl, rfl, Nat.le_refl _, fun _ _ _ => rfl⟩ hg5
        have HO5 : Hid (w5.ownsRow w2.heap.size 5 1 (.slice (some ⟨g, 0, none⟩) n oc) n (o.map (Value.int .u8))) := HO4.out.1.kept hg5' (.inr (fun e => hgc (by simpa [Value.ownBlock] using e)))
        have HG5 : Hid (w1.grownBy w5 (some c)) := gtrans HG4.out hg5'
        have HOs : Hid (Owns (w5.setCell ⟨g, m, none⟩ (.int .u8 Z)) w2.heap.size (some ⟨g, 0, none⟩) n oc (o.set m Z)) := by
          have h := (HO5.out.stored m (.int .u8 Z)).1
          refine ⟨?_, fun x hx => ?_⟩
          · rw [List.map_set]
            simpa using h
          · rcases List.mem_or_eq_of_mem_set hx with h | rfl
            · exact HO4.out.2 x h
            · exact hz
        have HBs : Hid (Below c w (w5.setCell ⟨g, m, none⟩ (.int .u8 Z))) := (HBw.out _ HG5.out).setCell (p := ⟨g, m, none⟩) (by show c ≤ g; have := (HO4.out.lt g rfl).1; omega) _
        clear hg5 hg5' hc5 hX5 hF5 hX hF AFT HCd HC4 HO4 hw1 hw2
        generalize w5.setCell ⟨g, m, none⟩ (.int .u8 Z) = w6 at *
        go_wp2_with fail
        go_ret
        refine ⟨_, n, oc, o.set m Z, rfl, by omega, HOs.out.seg, ?_⟩
        rw [hcw.out]
        exact HBs.out
  · have HN1 : Hid (∀ j v, [Value.int .u8 255][j]? = some v → (w4.alloc (.cells #[.int .u8 255] 5)).cell? ((⟨w4.heap.size, 0, none⟩ : Addr).add j) = some v) := one_new w4 255
    go_wp2_with (at_builtin; refine wpList_append_own _ rfl _ _ 22 rfl w2.heap.size 5 i0 (.int .u8 0) 1 1 Try.underlying22 hi hz0 hz1 hz2 rfl (by decide) (.slice oa n oc) n _ rfl (HO4.out.1.alloc _) ⟨w4.heap.size, 0, none⟩ 1 1 [.int .u8 255] rfl rfl HN1.out (ints_one [255]) (by unfold maxLen; omega) (by omega) (by simp; omega) ?_; intro v5 w5 hown hgrow _; refine Hid.out ?_)
    refine hidden ?_
    have HO5 : Hid (w5.ownsRow w2.heap.size 5 1 v5 (n + 1) ((o ++ [255]).map (Value.int .u8))) := by
      show World.ownsRow _ _ _ _ _ _ _
      rw [List.map_append]
      exact hown
    have HR5 : Hid (∀ x ∈ o ++ [255], (0 : Int) ≤ x ∧ x ≤ 255) := by
      intro x hx
      rcases List.mem_append.1 hx with hx | hx
      · exact HO4.out.2 x hx
      · obtain rfl := List.mem_singleton.1 hx
        omega
    have HB5 : Hid (Below c w w5) := ((HBw.out _ HG4.out).alloc (by omega) _).grown hgrow (by simp; omega) (fun q hq => by have := (HO4.out.1.lt q hq).1; omega)
    clear hown hgrow HN1
    obtain ⟨a', cap', rfl⟩ := shape_of_owns HO5.out
    go_wp2_with fail
    go_ret
    refine ⟨a', n + 1, cap', o ++ [255], rfl, by omega, Owns.seg ⟨HO5.out, HR5.out⟩, ?_⟩
    rw [hcw.out]
    exact HB5.out
  · go_wp2_with fail
    go_ret
    refine ⟨_, n, oc, o, rfl, by omega, HO4.out.seg, ?_⟩
    rw [hcw.out]
    exact HBw.out _ HG4.out

end Go.Proofs.Ytkoeahopfajblab
