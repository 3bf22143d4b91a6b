/- A header block that is drawn, and how many bytes a part has. -/
import Derived.Test.YtpjldfpipchmjadDoorDrawsB
namespace Go.Proofs.YtpjldfpipchmjadDoor
open Go.RowKit
set_option linter.unusedVariables false

theorem one_of5 {x : Int} (h : x ∈ [(0 : Int), 1, 5, 9, 30]) : ∃ n : Nat, x = (n : Int) ∧ n ≤ 30 := by
  simp only [List.mem_cons, List.not_mem_nil, or_false] at h
  rcases h with h | h | h | h | h
  · exact ⟨0, h, by omega⟩
  · exact ⟨1, h, by omega⟩
  · exact ⟨5, h, by omega⟩
  · exact ⟨9, h, by omega⟩
  · exact ⟨30, h, by omega⟩

set_option maxRecDepth 10000 in
set_option maxHeartbeats 800000 in
theorem drawBlock_any (a : Option Addr) (len cap : Nat) (zs : List Int) (w : World) (hs : Seg w a len zs) (hl : len ≤ 1099511627776) :
    Calls Tryd.prog 7 #[.slice a len cap] w fun e w' => ∃ (g n cp : Nat) (ys : List Int) (x : Int), e = .returned (.tuple #[.slice (some ⟨g, 0, none⟩) n cp, .int .i64 x]) ∧ n ≤ 30 ∧ n ≤ cp ∧ Seg w' (some ⟨g, 0, none⟩) n ys ∧ Below w.heap.size w w' := by
  have HS : Hid (Seg w a len zs) := hs
  clear hs
  go_enter Tryd.func7, Tryd.ntmps7
  go_wp2_with fail
  refine (l1New_any a len cap zs w HS.out hl).mono ?_
  rintro e w1 ⟨rfl, hc1, hb1⟩
  have HB1 : Hid (Below w.heap.size w w1) := hb1
  have HC1 : Hid (Cur w1 w.heap.size w.heap.size a len cap zs) := hc1
  have hcl : w.heap.size < w1.heap.size := hc1.lt
  clear hc1 hb1
  go_wp2_with fail
  refine (l1Int_any _ _ a len cap zs w1.heap.size 5 5 [0, 1, 5, 9, 30] _ (HC1.out.kept (World.grownBy_alloc w1 _ none) (by simp)) hl (heap_alloc_new w1 _) (by omega) rfl (by omega) (by omega)).mono ?_
  rintro e w2 ⟨x, rfl, hx, hc2, hg2⟩
  obtain ⟨n, rfl, hn⟩ := one_of5 hx
  have HB2 : Hid (Below w.heap.size w w2) := (HB1.out.alloc HB1.out.size _).grown hg2 (by simp; omega) (fun k hk => by injection hk with hk; omega)
  have HC2 : Hid (Cur w2 w.heap.size w.heap.size a len cap zs) := hc2
  have hcl2 : w.heap.size < w2.heap.size := hc2.lt
  clear hx hc2 hg2 HC1 HB1
  go_wp2_with fail
  refine (l1Bytes_any _ _ a len cap zs n _ HC2.out hl (by omega)).mono ?_
  rintro e w3 ⟨g, cp, ys, rfl, hg, ho3, hc3, hg3⟩
  have HO3 : Hid (Owns w3 w2.heap.size (some ⟨g, 0, none⟩) n cp ys) := ho3
  have HC3 : Hid (Cur w3 w.heap.size w.heap.size a len cap zs) := hc3
  have HB3 : Hid (Below w.heap.size w w3) := HB2.out.grown hg3 HB2.out.size (fun k hk => by injection hk with hk; omega)
  have hcl3 : w.heap.size < w3.heap.size := hc3.lt
  have HCp : Hid (n ≤ cp) := by
    show _ ≤ _
    rcases ho3.1.2 with ⟨he, h0⟩ | ⟨g', cap', cur, he, _, _, hc, _⟩
    · cases he
    · injection he with _ _ h3
      omega
  clear ho3 hc3 hg3 HC2 HB2
  go_wp2_with fail
  refine (l1Below_any _ _ a len cap zs 12 _ HC3.out hl (by omega) (by omega)).mono ?_
  rintro e w4 ⟨x, rfl, hx0, hx1, hc4, hg4⟩
  have HB4 : Hid (Below w.heap.size w w4) := HB3.out.grown hg4 HB3.out.size (fun k hk => by injection hk with hk; omega)
  have HO4 : Hid (Seg w4 (some ⟨g, 0, none⟩) n ys) := by
    show Seg _ _ _ _
    have h : Owns w4 w2.heap.size (some ⟨g, 0, none⟩) n cp ys := HO3.out.only (b := some ⟨w.heap.size, 0, none⟩) hg4 (.inr (fun h => by simp at h; omega))
    exact h.seg
  clear hc4 hg4 HC3 HO3 HB3
  go_wp2_with fail
  go_ret2
  exact ⟨g, n, cp, ys, _, rfl, hn, HCp.out, HO4.out, HB4.out⟩

end Go.Proofs.YtpjldfpipchmjadDoor
