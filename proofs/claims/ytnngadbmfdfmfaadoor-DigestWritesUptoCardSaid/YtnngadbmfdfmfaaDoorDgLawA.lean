/-
  Helper: the walks of DigestSums, DigestEdges.
-/
import Derived.Test.YtnngadbmfdfmfaaDoorDgAw
namespace Go.Proofs.YtnngadbmfdfmfaaDoor
open Go.RowKit
set_option linter.unusedVariables false
set_option linter.unusedSimpArgs false

/-- a whole struct is loaded behind a guard that lets it -/
theorem load_rowG {w : World} {ops : Array Oper} {rest : List Oper} {o : Oper} {a : Act} {Q : Exit → Act → World → Prop} (hw : Region.wanted o (yielded ops a.tmps) = true) (ty : TypeId) (x : Operand) (ho : o.op = .load ty x)
    (g : Nat) (hx : a.eval x = .pointer (some ⟨g, 0, none⟩)) (t : TypeId) (cs : Array Value) (fr : Nat × Nat) (d : TypeDesc) (hg : w.heap[g]? = some (.cells cs t fr))
    (hu : Tryd.prog.underlying ty = some d) (hd : d.isRow = true) (hi : (Tryd.prog.info? ty).map (·.size) = some cs.size)
    (h : wpList Tryd.prog ops Q rest (a.put o.dst (.agg cs)) w) : wpList Tryd.prog ops Q (o :: rest) a w :=
  wpList_step fun K hK => by rw [if_pos hw]; exact wp_load_row ty x ho g hx t cs fr d hg hu (by cases d <;> first | rfl | cases hd) hi (hK _ _ h)
/-- the sum of a state at a world behind another -/
theorem sumH_at (L : List UInt8) (w w0 : World) (hT : Tabs w0) (hb : Below w0.heap.size w0 w) (hs : L.length ≤ 10000) :
    Calls Tryd.prog 15 #[.agg (HV L).toArray] w fun e w' => e = .returned (.string (mkS (sumF L))) ∧ Below w0.heap.size w0 w' :=
  (sumH_any L w (hT.go hb) hs).mono fun e w' h => ⟨h.1, hb.trans (h.2.mono hb.size)⟩
theorem awake_at (w w0 : World) (hT : Tabs w0) (hb : Below w0.heap.size w0 w) : Calls Tryd.prog 9 #[] w fun e w' => e = .returned (.bool true) ∧ Below w0.heap.size w0 w' :=
  (awake_any w (hT.go hb)).mono fun e w' h => ⟨h.1, hb.trans (h.2.mono hb.size)⟩
/-- the reference's sum at a world behind another -/
theorem ref_at (s : ByteArray) (w w0 : World) (hb : Below w0.heap.size w0 w) (hs : s.size ≤ 10000) :
    Calls Tryd.prog 11 #[.string s] w fun e w' => e = .returned (.string (mkS (sumF s.data.toList))) ∧ Below w0.heap.size w0 w' :=
  (refSum_any s w hs).mono fun e w' h => ⟨h.1, hb.trans (h.2.mono hb.size)⟩
set_option maxRecDepth 100000 in
set_option maxHeartbeats 4000000 in
theorem walkDigestSums (w : World) (hT : Tabs w) (a : ByteArray) (h : a.size ≤ maxLen) : Calls Tryd.prog 3 #[.string a] w fun e w' => e = .returned (.bool true) ∧ Below w.heap.size w w' := by
  have HA := Lib.hid (awake_any w hT)
  unfold maxLen at h
  by_cases hl : a.size ≤ 2000
  · have H1 := Lib.hid (fun W (hW : Below w.heap.size w W) => sum_one a W w hT hW (by omega))
    have H2 := Lib.hid (fun W (hW : Below w.heap.size w W) => ref_at a W w hW (by omega))
    have hlI : ¬ (2000 : Int) < (a.size : Int) := by omega
    clear hT
    generalize mkS (sumF a.data.toList) = r at *
    go_enter Tryd.func3, Tryd.ntmps3
    go_wp2_with fail
    refine HA.out.mono ?_
    rintro e w1 ⟨rfl, hb1⟩
    have hb1h := Lib.hid hb1
    clear hb1
    go_wp2_with fail
    refine (H1.out _ hb1h.out).mono ?_
    rintro e w2 ⟨rfl, hb2⟩
    have hb2h := Lib.hid hb2
    clear hb2
    go_wp2_with fail
    refine (H2.out _ hb2h.out).mono ?_
    rintro e w3 ⟨rfl, hb3⟩
    have hb3h := Lib.hid hb3
    clear hb3
    go_wp2
    go_ret
    exact ⟨rfl, hb3h.out⟩
  · have hlI : (2000 : Int) < (a.size : Int) := by omega
    clear hT
    go_enter Tryd.func3, Tryd.ntmps3
    go_wp2_with fail
    refine HA.out.mono ?_
    rintro e w1 ⟨rfl, hb1⟩
    have hb1h := Lib.hid hb1
    clear hb1
    go_wp2
    go_ret
    exact ⟨rfl, hb1h.out⟩
end Go.Proofs.YtnngadbmfdfmfaaDoor
