/- The program's table of methods, and what its opOf and ReqOk answer under it. From what the row lists of the program's table of methods to its cells: no statement of the program but its table of types. -/
import Derived.Test.YtemcjenpgdieoaaGreatDoorM47
import Derived.Test.YtemcjenpgdieoaaGreatDoorM12
import Derived.Test.YtemcjenpgdieoaaGreatDoorM03
import Derived.Test.YtemcjenpgdieoaaGreatDoorM07
import Derived.LaidLaws
import Derived.LaidHandle
import Derived.Lib.LaidTab
import Derived.Lib.SmallJoins
import Derived.OpenShut
import Derived.ChangeOld
namespace Go.Proofs.YtemcjenpgdieoaaGreatDoor
open Go.RowKit
set_option linter.unusedVariables false

/-- The greatest number of an op as the program's table has it; 0: it has none. -/
def mostT (k : Nat) : Int := if k = 1 ∨ k = 3 then 1000000000 else if k = 4 then 4294967295 else 0

/-- The variable holds the table: seven rows of a word, a name and a bound. -/
def MethT (w : World) : Prop := 0 < w.heap.size ∧ ∀ k : Nat, k ≤ 6 → w.cell? ⟨0, k * 3, none⟩ = some (.string (methT (k : Int))) ∧ w.cell? ⟨0, k * 3 + 1, none⟩ = some (.string (nameT (k : Int))) ∧ w.cell? ⟨0, k * 3 + 2, none⟩ = some (.int .i64 (mostT k))

theorem MethT.below {w W : World} (h : MethT w) (hb : Below w.heap.size w W) : MethT W :=
  ⟨Nat.lt_of_lt_of_le h.1 hb.size, fun k hk => ⟨(hb.cell (p := ⟨0, k * 3, none⟩) h.1).trans (h.2 k hk).1, (hb.cell (p := ⟨0, k * 3 + 1, none⟩) h.1).trans (h.2 k hk).2.1, (hb.cell (p := ⟨0, k * 3 + 2, none⟩) h.1).trans (h.2 k hk).2.2⟩⟩

theorem MethT.of {w0 w W : World} (h : MethT w0) (hb : Below w0.heap.size w0 W) : MethT W := h.below hb

theorem reqB_tab (k : Nat) (h1 : 1 ≤ k) (h6 : k ≤ 6) (s : List UInt8) (n : Int) : reqB (k : Int) s n = (idB s && (decide (0 ≤ n) && decide (n ≤ mostT k))) := by
  have hk : k = 1 ∨ k = 2 ∨ k = 3 ∨ k = 4 ∨ k = 5 ∨ k = 6 := by omega
  have hd : decide (1 ≤ (k : Int) ∧ (k : Int) ≤ 6) = true := decide_eq_true (by omega)
  rw [reqB, hd, Bool.true_and]
  congr 1
  rw [Bool.eq_iff_iff]
  rcases hk with rfl | rfl | rfl | rfl | rfl | rfl
  all_goals
    simp [mostR, mostT]
    try omega

set_option maxRecDepth 10000 in
set_option maxHeartbeats 3200000 in
theorem implReqOk_any (op : Int) (s : ByteArray) (n : Int) (w : World) (hm : s.size ≤ 9223372036854775807) (ht : MethT w) :
    Calls Tryz.prog 53 #[.agg #[.int .i64 op, .string s, .int .i64 n]] w fun e w' => e = .returned (.bool (reqB op s.data.toList n)) ∧ Below w.heap.size w w' := by
  have HB0 : Hid (Below w.heap.size w (w.alloc (.cells #[.int .i64 op, .string s, .int .i64 n] 75))) := (Below.refl _ _).alloc (Nat.le_refl _) _
  have HX0 : Hid (Box3 (w.alloc (.cells #[.int .i64 op, .string s, .int .i64 n] 75)) w.heap.size 75 (.int .i64 op) (.string s) (.int .i64 n)) := Box3.new _ _ _ _ _
  have HT : Hid (MethT w) := ht
  clear ht
  by_cases hop : 1 ≤ op ∧ op ≤ 6
  case neg =>
    have HF : Hid (reqB op s.data.toList n = false) := by show _ = _; rw [reqB, decide_eq_false hop]; rfl
    by_cases h1 : op < 1
    · clear hop
      go_enter Tryz.func53, Tryz.ntmps53
      go_wp2_with fail
      go_ret
      exact ⟨ret_bool' HF.out.symm, HB0.out⟩
    · have h6 : (6 : Int) < op := by omega
      clear hop
      go_enter Tryz.func53, Tryz.ntmps53
      go_wp2_with fail
      go_ret
      exact ⟨ret_bool' HF.out.symm, HB0.out⟩
  obtain ⟨k, rfl⟩ := Int.eq_ofNat_of_zero_le (show 0 ≤ op by omega)
  have hk1 : 1 ≤ k := by omega
  have hk6 : k ≤ 6 := by omega
  have q1 : ¬ (k : Int) < 1 := by omega
  have q6 : ¬ (6 : Int) < (k : Int) := by omega
  have HR : Hid (reqB (k : Int) s.data.toList n = (idB s.data.toList && (decide (0 ≤ n) && decide (n ≤ mostT k)))) := reqB_tab k hk1 hk6 _ _
  clear hop
  go_enter Tryz.func53, Tryz.ntmps53
  go_wp2_with fail
  obtain ⟨w1, hw1⟩ : ∃ w1, w.alloc (.cells #[.int .i64 (k : Int), .string s, .int .i64 n] 75) = w1 := ⟨_, rfl⟩
  rw [hw1] at HB0 HX0 ⊢
  clear hw1
  have HT1 : Hid (MethT w1) := HT.out.below HB0.out
  obtain ⟨c0, c1, c2⟩ := HX0.out.cells
  have hlt1 : w.heap.size < w1.heap.size := HX0.out.lt
  have x0 : ∀ P : Past w1, P.world.cell? ⟨w.heap.size, 0, none⟩ = some (.int .i64 (k : Int)) := fun P => P.cell hlt1 c0
  have x1 : ∀ P : Past w1, P.world.cell? ⟨w.heap.size, 1, none⟩ = some (.string s) := fun P => P.cell hlt1 c1
  have x2 : ∀ P : Past w1, P.world.cell? ⟨w.heap.size, 2, none⟩ = some (.int .i64 n) := fun P => P.cell hlt1 c2
  have x3 : ∀ P : Past w1, P.world.cell? ⟨0, k * 3 + 2, none⟩ = some (.int .i64 (mostT k)) := fun P => P.cell HT1.out.1 (HT1.out.2 k hk6).2.2
  have HI : Hid (∀ W, Calls Tryz.prog 86 #[.string s] W fun e w' => e = .returned (.bool (idB s.data.toList)) ∧ Below W.heap.size W w') := fun W => implId_any s W hm
  have hne := past_some w1
  have tk : (0 : Int) ≤ (k : Int) := by omega
  have tk7 : (k : Int) < 7 := by omega
  clear c0 c1 c2 hlt1 HX0 HT HT1
  generalize idB s.data.toList = b at *
  generalize mostT k = m at *
  cases b
  · refine wp_region_pastO (by kernel_rfl) (by kernel_rfl) fun ops HO => ?_
    iterate 4 (quiet_step ((first | (go_at_call 86; with_reducible exact calls_past (HI.out _)) | fail)))
    iterate 3 (refine quiet_past (by rw [HO.out]; kernel_rfl) ?_)
    iterate 2 (quiet_step ((first | (go_at_call 86; with_reducible exact calls_past (HI.out _)) | fail)))
    iterate 8 (refine quiet_past (by rw [HO.out]; kernel_rfl) ?_)
    repeat (quiet_step ((first | (go_at_call 86; with_reducible exact calls_past (HI.out _)) | fail)))
    refine wpQuiet_nil ?_
    rintro _ ⟨z, rfl⟩
    have HZ : Hid (Below w.heap.size w z.world) := HB0.out.trans (z.below.mono HB0.out.size)
    go_wp2_with fail
    go_ret
    exact ⟨ret_bool' (by rw [HR.out]; rfl), HZ.out⟩
  by_cases hn : 0 ≤ n
  · have HR2 : Hid (reqB (k : Int) s.data.toList n = decide (n ≤ m)) := by show _ = _; rw [HR.out, decide_eq_true hn]; rfl
    have dn : decide (0 ≤ n) = true := by simpa using hn
    refine wp_region_pastO (by kernel_rfl) (by kernel_rfl) fun ops HO => ?_
    iterate 4 (quiet_step ((first | (go_at_call 86; with_reducible exact calls_past (HI.out _)) | fail)))
    iterate 3 (refine quiet_do (by rw [HO.out]; kernel_rfl) (fun K hK => ?_); go_simp; refine hK _ ?_; clear hK K)
    iterate 2 (quiet_step ((first | (go_at_call 86; with_reducible exact calls_past (HI.out _)) | fail)))
    iterate 8 (refine quiet_do (by rw [HO.out]; kernel_rfl) (fun K hK => ?_); go_simp; refine hK _ ?_; clear hK K)
    repeat (quiet_step ((first | (go_at_call 86; with_reducible exact calls_past (HI.out _)) | fail)))
    refine wpQuiet_nil ?_
    rintro _ ⟨z, rfl⟩
    have HZ : Hid (Below w.heap.size w z.world) := HB0.out.trans (z.below.mono HB0.out.size)
    go_wp2_with fail
    go_ret
    exact ⟨ret_bool' HR2.out.symm, HZ.out⟩
  · have HR2 : Hid (reqB (k : Int) s.data.toList n = false) := by show _ = _; rw [HR.out, decide_eq_false hn]; rfl
    have dn : decide (0 ≤ n) = false := by simpa using hn
    have dn2 : (0 ≤ n) = False := by simpa using hn
    refine wp_region_pastO (by kernel_rfl) (by kernel_rfl) fun ops HO => ?_
    iterate 4 (quiet_step ((first | (go_at_call 86; with_reducible exact calls_past (HI.out _)) | fail)))
    iterate 3 (refine quiet_do (by rw [HO.out]; kernel_rfl) (fun K hK => ?_); go_simp; refine hK _ ?_; clear hK K)
    iterate 2 (quiet_step ((first | (go_at_call 86; with_reducible exact calls_past (HI.out _)) | fail)))
    iterate 8 (refine quiet_past (by rw [HO.out]; kernel_rfl) ?_)
    repeat (quiet_step ((first | (go_at_call 86; with_reducible exact calls_past (HI.out _)) | fail)))
    refine wpQuiet_nil ?_
    rintro _ ⟨z, rfl⟩
    have HZ : Hid (Below w.heap.size w z.world) := HB0.out.trans (z.below.mono HB0.out.size)
    go_wp2_with fail
    go_ret
    exact ⟨ret_bool' HR2.out.symm, HZ.out⟩

end Go.Proofs.YtemcjenpgdieoaaGreatDoor

namespace Go.Proofs.YtemcjenpgdieoaaGreatDoor
open Go.RowKit Go.ChangeShapes Go.WideShapes
set_option linter.unusedVariables false

/-- A row of the table, as it is read. -/
def rowD {H : Type} (k : Nat) : DataW H := .agg [.lit (.string (methT (k : Int)).data.toList), .lit (.string (nameT (k : Int)).data.toList), .lit (.int .i64 (mostT k))]

/-- The table, as it is read. -/
def methD {H : Type} : DataW H := .agg ((List.range 7).map rowD)

theorem str_of {H : Type} {enc : TypeId × Value → H} {w : World} {base fuel : Nat} {sp : Nat → Bool} {held : Bool} {x : Value} {m : ByteArray} {p : List MemPlace}
    (h : DataW.trod enc Tryz.prog w base sp held fuel 9 [x] = some (.lit (.string m.data.toList), p)) : x = .string m := by
  obtain ⟨s, e1, e2, _⟩ := DataW.trod_string Tryz.underlying9 h
  simp only [Prod.mk.injEq, DataW.lit.injEq, Lit.string.injEq] at e2
  have : s.data = m.data := Array.ext' e2.1.symm
  cases s
  cases m
  simp only at this
  subst this
  simpa using e1

theorem int_of {H : Type} {enc : TypeId × Value → H} {w : World} {base fuel : Nat} {sp : Nat → Bool} {held : Bool} {x : Value} {n : Int} {p : List MemPlace}
    (h : DataW.trod enc Tryz.prog w base sp held fuel 3 [x] = some (.lit (.int .i64 n), p)) : x = .int .i64 n := by
  obtain ⟨z, e1, e2, _⟩ := DataW.trod_int Tryz.underlying3 h
  simp only [Prod.mk.injEq, DataW.lit.injEq, Lit.int.injEq] at e2
  rw [e2.1.2]
  simpa using e1

theorem methCellsE : Tryz.prog.cellsOf 120 = 3 := by kernel_rfl
theorem methCellsS : Tryz.prog.cellsOf 9 = 1 := by kernel_rfl
theorem methCellsI : Tryz.prog.cellsOf 3 = 1 := by kernel_rfl
theorem methCellsT : Tryz.prog.cellsOf 121 = 21 := by kernel_rfl

theorem three_of {l : List Value} (h : l.length = 3) : ∃ a b c, l = [a, b, c] := by
  rcases l with _ | ⟨a, _ | ⟨b, _ | ⟨c, _ | ⟨d, r⟩⟩⟩⟩
  · cases h
  · cases h
  · cases h
  · exact ⟨a, b, c, rfl⟩
  · exact absurd h (by simp)

theorem row_of {H : Type} {enc : TypeId × Value → H} {w : World} {base fuel : Nat} {sp : Nat → Bool} {held : Bool} {cs : List Value} {k : Nat} {p : List MemPlace}
    (h : DataW.trod enc Tryz.prog w base sp held fuel 120 cs = some (rowD k, p)) : cs = [.string (methT (k : Int)), .string (nameT (k : Int)), .int .i64 (mostT k)] := by
  cases fuel with
  | zero => simp [DataW.trod] at h
  | succ fuel =>
    simp only [DataW.trod, Tryz.underlying120, methCellsE] at h
    split at h
    · rename_i hl
      obtain ⟨a, b, c, rfl⟩ := three_of hl
      simp [methCellsS, methCellsI, rowD, Option.bind_eq_some_iff] at h
      obtain ⟨r1, p1, h1, l, ⟨r2, p2, h2, l2, ⟨r3, p3, h3, rfl⟩, rfl⟩, ⟨e1, e2⟩, _⟩ := h
      simp at e2
      obtain ⟨e2, e3⟩ := e2
      subst e1 e2 e3
      rw [str_of h1, str_of h2, int_of h3]
    · cases h

theorem methG : Tryz.prog.globalNamed "loop.example/g00199/impl.methods" = some 0 := by kernel_rfl
theorem methGT : (Tryz.prog.globals[0]?).map (·.type) = some 121 := by kernel_rfl

theorem methT_of_laid {W : World} {rest : List (String × DataW Unit)} (h : laidMet Tryz.prog (("loop.example/g00199/impl.methods", methD) :: rest) W) : MethT W := by
  obtain ⟨ps, ⟨g', t', cs, fuel, p, q, hg', ht', hvar, hd, _, _⟩, _⟩ := h
  obtain rfl := Option.some.inj (methG.symm.trans hg')
  obtain rfl := Option.some.inj (methGT.symm.trans ht')
  have hcell := fun i => World.var?_cell methG hvar i
  have hrow : ∀ k, k < 7 → (cs.toList.drop (k * 3)).take 3 = [.string (methT (k : Int)), .string (nameT (k : Int)), .int .i64 (mostT k)] := by
    intro k hk
    cases fuel with
    | zero => simp [DataW.trod] at hd
    | succ fuel =>
      simp only [DataW.trod, Tryz.underlying121, methCellsE, methCellsT] at hd
      split at hd
      · obtain ⟨xs, hm, hx⟩ := Option.map_eq_some_iff.1 hd
        have hxs : xs.map (·.1) = (List.range 7).map rowD := by
          have := congrArg Prod.fst hx
          simpa [methD] using this
        obtain ⟨b, hb, hf⟩ := Lib.mapM_at hm k k (by simp [hk])
        have h2 : (xs.map (·.1))[k]? = some b.1 := by simp [hb]
        rw [hxs, List.getElem?_map, List.getElem?_range hk] at h2
        simp only [Option.map_some, Option.some.injEq] at h2
        obtain ⟨b1, b2⟩ := b
        dsimp only at h2
        subst h2
        exact row_of hf
      · cases hd
  refine ⟨?_, fun k hk => ?_⟩
  · have h0 := hrow 0 (by omega)
    have := hcell 0
    have h1 : cs[0]? = some (.string (methT 0)) := by
      have := congrArg (·[0]?) h0
      simpa using this
    rw [h1] at this
    exact lt_of_cell this
  · have h0 := hrow k (by omega)
    rw [hcell, hcell, hcell]
    have h1 := congrArg (·[0]?) h0
    have h2 := congrArg (·[1]?) h0
    have h3 := congrArg (·[2]?) h0
    simp only [List.getElem?_take, List.getElem?_drop] at h1 h2 h3
    simp at h1 h2 h3
    exact ⟨h1, h2, h3⟩

end Go.Proofs.YtemcjenpgdieoaaGreatDoor
