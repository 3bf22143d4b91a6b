/- The law on texts in a block: a drawn text comes back of its bytes, with what is behind it left. -/
import Derived.Test.YtljhplddgcmmoabDrawStr
import Derived.Test.YtljhplddgcmmoabLawBig
import Derived.Test.YtljhplddgcmmoabStrPut
import Derived.Test.YtljhplddgcmmoabStrGet
namespace Go.Proofs.Ytljhplddgcmmoab
open Go.RowKit
set_option linter.unusedVariables false

set_option maxRecDepth 10000 in
set_option maxHeartbeats 800000 in
theorem drawPutS_any (a : Option Addr) (len cap : Nat) (zs : List Int) (w : World) (hs : Seg w a len zs) (hl : len ≤ 1099511627776) :
    Calls Try.prog 32 #[.slice a len cap] w fun e w' => ∃ (g n cp : Nat) (ys : List Int) (s : ByteArray), e = .returned (.tuple #[.slice (some ⟨g, 0, none⟩) n cp, .string s]) ∧ n ≤ 9 ∧ s.size ≤ 75 ∧ Owns w' w.heap.size (some ⟨g, 0, none⟩) n cp ys ∧ Below w.heap.size w w' := by
  have HS : Hid _ := hs
  clear hs
  go_enter Try.func32, Try.ntmps32
  go_wp2_with fail
  refine (l1New_any a len cap zs _ HS.out hl).mono ?_
  rintro e w1 ⟨rfl, hc1, hb1⟩
  have HC1 : Hid (Cur w1 w.heap.size w.heap.size a len cap zs) := hc1
  have HB1 : Hid (Below w.heap.size w w1) := hb1
  have hcl : w.heap.size < w1.heap.size := hc1.lt
  clear hc1 hb1
  generalize hcc : w.heap.size = c at *
  have HCC : Hid (w.heap.size = c) := hcc
  clear hcc
  go_wp2_with fail
  refine (l1Some_any c c a len cap zs _ HC1.out hl).mono ?_
  rintro e w2 ⟨g, n, cp, ys, rfl, hn9, hg, ho2, hc2, hg2⟩
  have HC2 : Hid (Cur w2 c c a len cap zs) := hc2
  have HO2 : Hid (Owns w2 w1.heap.size (some ⟨g, 0, none⟩) n cp ys) := ho2
  have HG2 : Hid (w1.grownBy w2 (some c)) := hg2
  have hs2 := hg2.size
  clear hc2 ho2 hg2
  go_wp2_with fail
  refine (l3Some_any c c a len cap zs _ HC2.out hl).mono ?_
  rintro e w3 ⟨s, rfl, hs, hc3, hg3⟩
  have HG3 : Hid (w2.grownBy w3 (some c)) := hg3
  have HO3 : Hid (Owns w3 w1.heap.size (some ⟨g, 0, none⟩) n cp ys) := HO2.out.grown hg3 (by omega)
  clear hc3 hg3
  go_wp2_with fail
  go_ret2
  have hcw : w.heap.size = c := HCC.out
  refine ⟨g, n, cp, ys, s, rfl, hn9, hs, ?_, ?_⟩
  · rw [hcw]
    exact ⟨own_lower HO3.out.1 (by omega), HO3.out.2⟩
  · rw [hcw]
    exact (HB1.out.grown HG2.out (by omega) (fun j hj => by have := Option.some.inj hj; omega)).grown HG3.out (by omega) (fun j hj => by have := Option.some.inj hj; omega)

set_option maxRecDepth 10000 in
set_option maxHeartbeats 1600000 in
theorem lawStr_any (a : Option Addr) (len cap : Nat) (zs : List Int) (w : World) (hm : len ≤ maxLen) (hs : Seg w a len zs) :
    Calls Try.prog 8 #[.slice a len cap] w fun e w' => e = .returned (.bool true) ∧ Below w.heap.size w w' := by
  obtain ⟨i0, hi, hz0, hz1, hz2⟩ := info_parts Try.info5
  have HS : Hid (Seg w a len zs) := hs
  clear hs
  go_enter Try.func8, Try.ntmps8
  go_wp2_with fail
  refine (big_any a len cap _ hm).mono ?_
  rintro e w1 ⟨rfl, rfl⟩
  by_cases hbig : (1048576 : Int) < (len : Int)
  · go_wp2_with fail
    go_ret
    exact ⟨rfl, Below.refl _ _⟩
  go_wp2_with fail
  refine (drawPutS_any a len cap zs _ HS.out (by omega)).mono ?_
  rintro e w2 ⟨g, n, cp, ys, s, rfl, hn9, hs75, ho2, hb2⟩
  have HY : Hid (Seg w2 (some ⟨g, 0, none⟩) n ys) := ho2.seg
  have HYL : Hid (ys.length = n) := ho2.seg.1
  have HB2 : Hid (Below w1.heap.size w1 w2) := hb2
  clear ho2 hb2
  go_wp2_with fail
  refine (implPutS_any (some ⟨g, 0, none⟩) n cp s ys _ HY.out (by omega) (by omega)).mono ?_
  rintro e w3 ⟨q, a3, c3, hq, rfl, ho3, hb3⟩
  have hql := hq.short (by omega)
  have HQ : Hid (StrOf s q) := hq
  have hpl : (ys ++ q).length = n + q.length := by rw [List.length_append, HYL.out]
  have HO3 : Hid (Owns w3 w2.heap.size a3 (ys ++ q).length c3 (ys ++ q)) := ho3
  have HB3 : Hid (Below w1.heap.size w1 w3) := HB2.out.trans (hb3.mono HB2.out.size)
  clear hq ho3 hb3 HB2
  rw [hpl] at HO3 ⊢
  clear hpl
  generalize hqn : q.length = qn at *
  have HQN : Hid (q.length = qn) := hqn
  clear hqn
  have HO4 : Hid ((w3.alloc (.cells #[] 5)).ownsRow w3.heap.size 5 1 (.slice (some ⟨w3.heap.size, 0, none⟩) 0 0) 0 []) := ⟨rfl, .inr ⟨w3.heap.size, 0, #[], rfl, Nat.le_refl _, heap_alloc_new w3 _, Nat.le_refl _, by decide, rfl, rfl⟩⟩
  have hb34 : Below w3.heap.size w3 (w3.alloc (.cells #[] 5)) := (Below.refl _ _).alloc (Nat.le_refl _) _
  have HSrc : Hid (Src Try.prog 1 22 (.slice a3 (n + qn) c3) (n + qn) ((ys ++ q).map (Value.int .u8)) (w3.alloc (.cells #[] 5))) := Src.ofSeg Try.underlying22 (HO3.out.below hb34).seg HO3.out.none
  have HB4 : Hid (Below w1.heap.size w1 (w3.alloc (.cells #[] 5))) := HB3.out.trans (hb34.mono HB3.out.size)
  have HR : Hid (∀ x ∈ ys ++ q, 0 ≤ x ∧ x ≤ 255) := HO3.out.2
  clear hb34
  have hA : 0 + (n + qn) ≤ maxLen := by unfold maxLen; omega
  have hA2 : (0 + (n + qn)) * 1 ≤ 140737488355328 := by omega
  go_wp2_with (at_builtin; refine wpList_append_any rfl _ _ 22 22 rfl w3.heap.size 5 i0 (.int .u8 0) 1 1 Try.underlying22 hi hz0 hz1 hz2 rfl (by decide) w3.heap.size 0 0 [] rfl HO4.out (.slice a3 (n + qn) c3) (n + qn) ((ys ++ q).map (Value.int .u8)) rfl HSrc.out hA hA2 (by simp) ?_; intro v5 w5 hown hgrow; refine Hid.out ?_)
  refine hidden ?_
  rw [Nat.zero_add, List.nil_append] at hown
  have hq0 := HQ.out.pos
  rw [HQN.out] at hq0
  obtain ⟨a5, c5, rfl⟩ := shape_of_owns hown
  have ho5 : Owns w5 w3.heap.size a5 (n + qn) c5 (ys ++ q) := ⟨hown, HR.out⟩
  obtain ⟨g5, rfl, h5a, h5b⟩ := ho5.some (by omega)
  have HO5 : Hid (Owns w5 w3.heap.size (some ⟨g5, 0, none⟩) (n + qn) c5 (ys ++ q)) := ho5
  have hs3 := HB3.out.size
  have HB5 : Hid (Below w1.heap.size w1 w5) := HB4.out.grown hgrow (by simp; omega) (fun k hk => by injection hk with hk; omega)
  clear hown hgrow ho5 HO4 HSrc HB4 HO3 HB3 hA hA2
  have HO6 : Hid ((w5.alloc (.cells #[.int .u8 1, .int .u8 2] 5)).ownsRow w3.heap.size 5 1 (.slice (some ⟨g5, 0, none⟩) (n + qn) c5) (n + qn) ((ys ++ q).map (Value.int .u8))) := HO5.out.1.alloc _
  have HSrc : Hid (Src Try.prog 1 22 (.slice (some ⟨w5.heap.size, 0, none⟩) 2 2) 2 ([1, 2].map (Value.int .u8)) (w5.alloc (.cells #[.int .u8 1, .int .u8 2] 5))) :=
    Src.ofSeg Try.underlying22 ⟨rfl, by simp, .inr ⟨w5.heap.size, 0, rfl, by simp, fun i hi => by
      match i, hi with
      | 0, _ => simp
      | 1, _ => simp⟩⟩ (by simp)
  have HB6 : Hid (Below w1.heap.size w1 (w5.alloc (.cells #[.int .u8 1, .int .u8 2] 5))) := HB5.out.alloc HB5.out.size _
  have hA : (n + qn) + 2 ≤ maxLen := by unfold maxLen; omega
  have hA2 : ((n + qn) + 2) * 1 ≤ 140737488355328 := by omega
  go_wp2_with (at_builtin; refine wpList_append_any rfl _ _ 22 22 rfl w3.heap.size 5 i0 (.int .u8 0) 1 1 Try.underlying22 hi hz0 hz1 hz2 rfl (by decide) g5 (n + qn) c5 ((ys ++ q).map (Value.int .u8)) rfl HO6.out (.slice (some ⟨w5.heap.size, 0, none⟩) 2 2) 2 ([1, 2].map (Value.int .u8)) rfl HSrc.out hA hA2 (by simp; omega) ?_; intro v7 w7 hown hgrow; refine Hid.out ?_)
  refine hidden ?_
  rw [← List.map_append] at hown
  obtain ⟨a7, c7, rfl⟩ := shape_of_owns hown
  have ho7 : Owns w7 w3.heap.size a7 (n + qn + 2) c7 (ys ++ q ++ [1, 2]) := ⟨hown, fun x hx => by
    rcases List.mem_append.1 hx with hx | hx
    · exact HR.out x hx
    · simp at hx
      omega⟩
  obtain ⟨g7, rfl, h7a, h7b⟩ := ho7.some (by omega)
  have HO7 : Hid (Owns w7 w3.heap.size (some ⟨g7, 0, none⟩) (n + qn + 2) c7 (ys ++ q ++ [1, 2])) := ho7
  have HB7 : Hid (Below w1.heap.size w1 w7) := HB6.out.grown hgrow (by simp; omega) (fun k hk => by injection hk with hk; omega)
  have HBack : Hid (GoodS (ys ++ q ++ [1, 2]) (n : Int) s ((n + qn : Nat) : Int)) := by
    have := HQ.out.back (by omega) ys [1, 2]
    rw [HYL.out, HQN.out] at this
    exact this
  clear hown hgrow ho7 HO6 HSrc HB6 HO5 HB5 hA hA2
  go_wp2_with fail
  refine (implGetS_any g7 0 (n + qn + 2) c7 (n : Int) (ys ++ q ++ [1, 2]) _ HO7.out.seg HO7.out.cap (by omega)).mono ?_
  rintro e w8 ⟨t, p, ok, rfl, hget, hb8⟩
  obtain ⟨rfl, rfl, rfl⟩ := hget.one (.inl ⟨rfl, HBack.out⟩)
  have HB8 : Hid (Below w1.heap.size w1 w8) := HB7.out.trans (hb8.mono HB7.out.size)
  clear hget hb8
  have hc1 : (((n + qn : Nat) : Int) == ((n + qn : Nat) : Int)) = true := by simp
  have hc2 : decide (((n + qn : Nat) : Int) ≤ (n : Int) + (t.size : Int) + 5) = true := by simp; omega
  have hc3 : ((n : Int) + (qn : Int) ≤ (n : Int) + (t.size : Int) + 5) = True := by simp; omega
  go_wp2_with fail
  go_ret
  exact ⟨rfl, HB8.out⟩

end Go.Proofs.Ytljhplddgcmmoab
