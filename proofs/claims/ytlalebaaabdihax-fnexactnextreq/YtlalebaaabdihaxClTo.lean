/- What the laws' own functions do with a client: the size, the copy, the comparison. -/
import Derived.Test.YtlalebaaabdihaxBoxN
import Derived.Test.YtlalebaaabdihaxWalkB
import Derived.Deep.CutBlock
namespace Go.Proofs.Ytlalebaaabdihax
open Go.RowKit
set_option linter.unusedVariables false

theorem owns_lowC {w : World} {base lo n cap : Nat} {a : Option Addr} {zs : List Int} (h : Owns w base a n cap zs) (hl : lo ≤ base) : Owns w lo a n cap zs := ⟨own_low h.1 hl, h.2⟩

set_option maxHeartbeats 800000 in
theorem szClient_any (id : ByteArray) (a : Option Addr) (n ca : Nat) (st off : Int) (m : Int) (w : World) (hn : 0 ≤ m) (hn2 : m ≤ 1048576) (hi : id.size ≤ maxLen) (hl : n ≤ maxLen) :
    Calls Try.prog 6 #[.agg #[.string id, .slice a n ca, .int .i64 st, .int .i64 off], .int .i64 m] w fun r w' => (∃ L : Int, r = .returned (.int .i64 L) ∧ (L < 0 ∨ (id.size ≤ 1048576 ∧ n ≤ 1048576 ∧ 0 ≤ L))) ∧ Below w.heap.size w w' := by
  have hm : maxLen < 9223372036854775808 := by decide
  have HB : Hid (Below w.heap.size w (w.alloc (.cells #[.string id, .slice a n ca, .int .i64 st, .int .i64 off] 24))) := (Below.refl _ _).alloc (Nat.le_refl _) _
  by_cases h1 : m - (id.size : Int) < 0
  · go_enter Try.func6, Try.ntmps6
    go_wp2_with fail
    go_ret
    exact ⟨⟨-1, rfl, .inl (by omega)⟩, HB.out⟩
  by_cases h2 : m - (id.size : Int) - (n : Int) < 0
  · go_enter Try.func6, Try.ntmps6
    go_wp2
    go_ret
    exact ⟨⟨-1, rfl, .inl (by omega)⟩, HB.out⟩
  · go_enter Try.func6, Try.ntmps6
    go_wp2
    go_ret
    exact ⟨⟨m - (id.size : Int) - (n : Int), rfl, .inr ⟨by omega, by omega, by omega⟩⟩, HB.out⟩

set_option maxHeartbeats 1600000 in
theorem toClient_any (id : ByteArray) (a : Option Addr) (n ca : Nat) (zs : List Int) (st off : Int) (w : World) (hs : Seg w a n zs) (hl : n ≤ 1048576) :
    Calls Try.prog 8 #[.agg #[.string id, .slice a n ca, .int .i64 st, .int .i64 off]] w fun r w' => (∃ g, r = .returned (.agg #[.string id, .slice (some ⟨g, 0, none⟩) n n, .int .i64 st, .int .i64 off]) ∧ Owns w' w.heap.size (some ⟨g, 0, none⟩) n n zs) ∧ Below w.heap.size w w' := by
  have HS : Hid (Seg w a n zs) := hs
  clear hs
  obtain ⟨W0, hW0⟩ : ∃ W0, (((w.alloc (.cells #[.string id, .slice a n ca, .int .i64 st, .int .i64 off] 24)).alloc (.cells #[.string ⟨#[]⟩, .slice none 0 0, .int .i64 0, .int .i64 0] 30)).alloc (.cells #[.string id, .slice none 0 0, .int .i64 0, .int .i64 0] 30)) = W0 := ⟨_, rfl⟩
  have HE : Hid ((((w.alloc (.cells #[.string id, .slice a n ca, .int .i64 st, .int .i64 off] 24)).alloc (.cells #[.string ⟨#[]⟩, .slice none 0 0, .int .i64 0, .int .i64 0] 30)).alloc (.cells #[.string id, .slice none 0 0, .int .i64 0, .int .i64 0] 30)) = W0) := hW0
  have HB : Hid (Below w.heap.size w W0) := by show Below _ _ _; rw [← hW0]; exact (((Below.refl _ _).alloc (Nat.le_refl _) _).alloc (by simp) _).alloc (by simp; omega) _
  have HZ : Hid (W0.heap.size = w.heap.size + 3) := by show _ = _; rw [← hW0]; simp
  have HL : Hid (BoxN W0 w.heap.size 24 [.string id, .slice a n ca, .int .i64 st, .int .i64 off]) := by
    show BoxN _ _ _ _
    rw [← hW0]
    exact ((BoxN.new w 24 [.string id, .slice a n ca, .int .i64 st, .int .i64 off]).alloc _).alloc _
  have HR : Hid (BoxN W0 (w.heap.size + 1) 30 [.string ⟨#[]⟩, .slice none 0 0, .int .i64 0, .int .i64 0]) := by
    show BoxN _ _ _ _
    rw [← hW0]
    have := (BoxN.new (w.alloc (.cells #[.string id, .slice a n ca, .int .i64 st, .int .i64 off] 24)) 30 [.string ⟨#[]⟩, .slice none 0 0, .int .i64 0, .int .i64 0]).alloc (.cells #[.string id, .slice none 0 0, .int .i64 0, .int .i64 0] 30)
    rw [World.size_alloc] at this
    exact this
  have HO : Hid (BoxN W0 (w.heap.size + 1 + 1) 30 [.string id, .slice none 0 0, .int .i64 0, .int .i64 0]) := by
    show BoxN _ _ _ _
    rw [← hW0]
    have := BoxN.new ((w.alloc (.cells #[.string id, .slice a n ca, .int .i64 st, .int .i64 off] 24)).alloc (.cells #[.string ⟨#[]⟩, .slice none 0 0, .int .i64 0, .int .i64 0] 30)) 30 [.string id, .slice none 0 0, .int .i64 0, .int .i64 0]
    rw [World.size_alloc, World.size_alloc] at this
    exact this
  clear hW0
  go_enter Try.func8, Try.ntmps8
  go_wp2_with fail
  rw [HE.out]
  clear HE
  refine (toByteS_any a n ca zs _ (HS.out.below HB.out) (by omega)).mono ?_
  rintro r x3 ⟨rfl, ho3, hb3⟩
  have r3 := HR.out.stays hb3
  have o3 := HO.out.stays hb3
  have l3 := HL.out.stays hb3
  have l3a := l3.cell 2 rfl
  have l3b := l3.cell 3 rfl
  have HO3 : Hid (Owns x3 W0.heap.size (some ⟨W0.heap.size, 0, none⟩) n n zs) := ⟨ho3, HS.out.2.1⟩
  have HB3 : Hid (Below w.heap.size w x3) := HB.out.trans (hb3.mono HB.out.size)
  have a0 := r3.cell 0 rfl
  have fa0 := r3.frozen 0
  have b0 := o3.cell 0 rfl
  have fb0 := o3.frozen 0
  have a1 := r3.cell 1 rfl
  have fa1 := r3.frozen 1
  have b1 := o3.cell 1 rfl
  have fb1 := o3.frozen 1
  have a2 := r3.cell 2 rfl
  have fa2 := r3.frozen 2
  have b2 := o3.cell 2 rfl
  have fb2 := o3.frozen 2
  have a3 := r3.cell 3 rfl
  have fa3 := r3.frozen 3
  have b3 := o3.cell 3 rfl
  have fb3 := o3.frozen 3
  have hz := HZ.out
  have hA : ((some ⟨W0.heap.size, 0, none⟩ : Option Addr).map (·.block)) ≠ some (w.heap.size + 1) := by simp; omega
  have hB : ((some ⟨W0.heap.size, 0, none⟩ : Option Addr).map (·.block)) ≠ some (w.heap.size + 1 + 1) := by simp; omega
  obtain ⟨X, hX⟩ : ∃ X, ((x3.setCell ⟨w.heap.size + 1 + 1, 1, none⟩ (.slice (some ⟨W0.heap.size, 0, none⟩) n n)).setCell ⟨w.heap.size + 1 + 1, 2, none⟩ (.int .i64 st)).setCell ⟨w.heap.size + 1 + 1, 3, none⟩ (.int .i64 off) = X := ⟨_, rfl⟩
  have HE : Hid (((x3.setCell ⟨w.heap.size + 1 + 1, 1, none⟩ (.slice (some ⟨W0.heap.size, 0, none⟩) n n)).setCell ⟨w.heap.size + 1 + 1, 2, none⟩ (.int .i64 st)).setCell ⟨w.heap.size + 1 + 1, 3, none⟩ (.int .i64 off) = X) := hX
  have HOX : Hid (BoxN X (w.heap.size + 1 + 1) 30 [.string id, .slice (some ⟨W0.heap.size, 0, none⟩) n n, .int .i64 st, .int .i64 off]) := by
    show BoxN _ _ _ _
    rw [← hX]
    exact ((o3.set 1 _).set 2 _).set 3 _
  have HRX : Hid (BoxN X (w.heap.size + 1) 30 [.string ⟨#[]⟩, .slice none 0 0, .int .i64 0, .int .i64 0]) := by
    show BoxN _ _ _ _
    rw [← hX]
    exact ((r3.other (by omega) _).other (by omega) _).other (by omega) _
  have HWX : Hid (Owns X W0.heap.size (some ⟨W0.heap.size, 0, none⟩) n n zs) := by
    show Owns _ _ _ _ _ _
    rw [← hX]
    exact owns_set (owns_set (owns_set HO3.out hB) hB) hB
  have HBX : Hid (Below w.heap.size w X) := by
    show Below _ _ _
    rw [← hX]
    repeat (refine Below.setCell ?_ (by dsimp only; omega) _)
    exact HB3.out
  have HA : Hid (((some ⟨W0.heap.size, 0, none⟩ : Option Addr).map (·.block)) ≠ some (w.heap.size + 1)) := hA
  clear hX hb3 ho3 r3 o3 l3 HR HO HL hA hB hz HO3 HB3
  go_upto_region 6 with fail
  rw [HE.out]
  clear HE a0 a1 a2 a3 b0 b1 b2 b3 fa0 fa1 fa2 fa3 fb0 fb1 fb2 fb3 l3a l3b
  have a0 := HRX.out.cell 0 rfl
  have fa0 := HRX.out.frozen 0
  have b0 := HOX.out.cell 0 rfl
  have a1 := HRX.out.cell 1 rfl
  have fa1 := HRX.out.frozen 1
  have b1 := HOX.out.cell 1 rfl
  have a2 := HRX.out.cell 2 rfl
  have fa2 := HRX.out.frozen 2
  have b2 := HOX.out.cell 2 rfl
  have a3 := HRX.out.cell 3 rfl
  have fa3 := HRX.out.frozen 3
  have b3 := HOX.out.cell 3 rfl
  have HZX : Hid (W0.heap.size = w.heap.size + 3) := HZ.out
  clear HRX HOX
  go_wp2
  refine bodyPost_ret (v := .agg #[.string id, .slice (some ⟨W0.heap.size, 0, none⟩) n n, .int .i64 st, .int .i64 off]) (by simp [results, Try.f8, go_sem, a0, a1, a2, a3]) rfl ?_
  have hz := HZ.out
  refine ⟨⟨_, rfl, ?_⟩, ?_⟩
  · exact owns_lowC (base := W0.heap.size) (owns_set (owns_set (owns_set (owns_set HWX.out HA.out) HA.out) HA.out) HA.out) (by omega)
  · repeat (refine Below.setCell ?_ (by dsimp only; omega) _)
    exact HBX.out

set_option maxHeartbeats 1600000 in
theorem eqClient_same (id : ByteArray) (a b : Option Addr) (n ca cb : Nat) (xs : List Int) (st off : Int) (w : World) (hx : Seg w a n xs) (hy : Seg w b n xs) (hla : n ≤ 1099511627776) :
    Calls Try.prog 12 #[.agg #[.string id, .slice a n ca, .int .i64 st, .int .i64 off], .agg #[.string id, .slice b n cb, .int .i64 st, .int .i64 off]] w fun r w' => r = .returned (.bool true) ∧ Below w.heap.size w w' := by
  have HX : Hid (Seg w a n xs) := hx
  have HY : Hid (Seg w b n xs) := hy
  clear hx hy
  have n2 : (st != st) = false := by simp
  have n3 : (off != off) = false := by simp
  go_enter Try.func12, Try.ntmps12
  go_wp2_with fail
  have hba : Below w.heap.size w ((w.alloc (.cells #[.string id, .slice a n ca, .int .i64 st, .int .i64 off] 30)).alloc (.cells #[.string id, .slice b n cb, .int .i64 st, .int .i64 off] 30)) := ((Below.refl _ _).alloc (Nat.le_refl _) _).alloc (by simp) _
  refine (eqByteS_same a b n ca cb xs _ (HX.out.below hba) (HY.out.below hba) hla).mono ?_
  rintro r x3 ⟨rfl, st3⟩
  have HB3 : Hid (Below w.heap.size w x3) := Still.below st3 hba
  have hst : Below (w.heap.size + 2) ((w.alloc (.cells #[.string id, .slice a n ca, .int .i64 st, .int .i64 off] 30)).alloc (.cells #[.string id, .slice b n cb, .int .i64 st, .int .i64 off] 30)) x3 := Still.below st3 (Below.refl _ _)
  have qa : BoxN x3 w.heap.size 30 [.string id, .slice a n ca, .int .i64 st, .int .i64 off] := ((BoxN.new w 30 [.string id, .slice a n ca, .int .i64 st, .int .i64 off]).alloc _).stays (by simpa using hst)
  have qb : BoxN x3 (w.heap.size + 1) 30 [.string id, .slice b n cb, .int .i64 st, .int .i64 off] := by
    have := BoxN.new (w.alloc (.cells #[.string id, .slice a n ca, .int .i64 st, .int .i64 off] 30)) 30 [.string id, .slice b n cb, .int .i64 st, .int .i64 off]
    rw [World.size_alloc] at this
    exact this.stays (by simpa using hst)
  have a2 := qa.cell 2 rfl
  have a3 := qa.cell 3 rfl
  have b2 := qb.cell 2 rfl
  have b3 := qb.cell 3 rfl
  clear st3 hba hst qa qb
  go_wp2
  go_ret
  exact ⟨rfl, HB3.out⟩

end Go.Proofs.Ytlalebaaabdihax
