/-
  The statement, its second form: whatever the input of bulk at most 1048576, DigestWrites returns true and leaves its arguments as they were. (Where the parts' lengths add up to more than 2^48 bytes, strings.Join itself panics: no other condition.) The frame around the walk.
-/
import Derived.Test.YtnngadbmfdfmfaaDoorRows
import Derived.Test.YtnngadbmfdfmfaaDoorCards
import Derived.Test.YtnngadbmfdfmfaaDoorTie
import Derived.Test.YtnngadbmfdfmfaaDoorDgLawW
import Derived.Test.YtnngadbmfdfmfaaDoorDgFrame
import Derived.WalkKit
import Derived.ProofKit
import Derived.OpenShut
import Derived.ShutString
import Derived.ChangeOld
import Derived.Below
import Derived.Lay
import Derived.LaidOnce
import Derived.SevenTiedAt
import Derived.SliceStrings
import Derived.SizedLaws
import Derived.Deep.DeepHandedRow
namespace Go.Proofs.YtnngadbmfdfmfaaDoor.digestWrites
open Go.ChangeShapes Go.WideShapes Go.ChangeAt Go.RowKit
open Go.ChangeMaps (open_string shut_string)
set_option linter.unusedVariables false

theorem own : ownKnob Tryd.prog.godebug = none := by kernel_rfl
theorem laidOut : laidOutB Tryd.prog = true := by kernel_rfl
theorem cell_spot' {w : World} {x : Addr} {v : Value} (h : w.cell? x = some v) : x = ⟨x.block, x.off, none⟩ ∧ x.block < w.heap.size := by
  unfold World.cell? at h
  obtain ⟨b, o, sp⟩ := x
  cases hb : w.heap[b]? with
  | none => simp [hb] at h
  | some ob =>
    have hlt : b < w.heap.size := (Array.getElem?_eq_some_iff.1 hb).1
    cases sp with
    | none => exact ⟨rfl, hlt⟩
    | some q => cases ob <;> simp [hb] at h
theorem bulk_strs {H : Type} (xs : List ByteArray) : Rows.uptoBulkAll (strs (H := H) xs) = (catS xs).length + xs.length := by
  induction xs with
  | nil => rfl
  | cons x r ih =>
    have e : catS (x :: r) = x.data.toList ++ catS r := by unfold catS; simp
    simp only [strs, List.map_cons, Rows.uptoBulkAll, Rows.uptoBulk] at ih ⊢
    rw [ih, e, List.length_append, List.length_cons]
    omega
set_option maxRecDepth 100000 in
set_option maxHeartbeats 1000000 in
/-- what the walk gives, for every argument of that bulk and every world that holds the tables -/
theorem contract (H : Type) (enc : TypeId × Value → H) (W : World) (base : Nat) (args : Array Value) (ds gs : List (DataW H)) (before : List MemPlace)
    (hval0 : ∀ (j : Nat) t v, Tryd.f6.params[j]? = some t → args[j]? = some v → Value.okWide Tryd.prog W .any base t v)
    (hW : DataW.Whole enc Tryd.prog Tryd.f6.params.toList Rows.digestWritesSpec.vars false W args.toList ds gs before) (hk : Rows.uptoSmall H (ds ++ gs) = true) (hL : laidMetH Tryd.prog Rows.digestWritesUptoRow.laid W) :
    Calls Tryd.prog 6 args W fun e W' => ∃ v, e = .returned v ∧ Rows.digestWritesSpec.post enc Tryd.prog Tryd.f6 false true false false W args v W' := by
  have hval : ∀ (j : Nat) t v, Tryd.f6.params[j]? = some t → args[j]? = some v → Value.okWide Tryd.prog W .any base t v := hval0
  have hW' := hW
  obtain ⟨p, q, hA0, hV, rfl, hfz, hnd⟩ := hW
  have hA : DataW.TrodAll enc Tryd.prog W 0 (fun _ => true) true Tryd.f6.params.toList args.toList ds p := hA0
  rw [Tryd.params6] at hA hval
  obtain ⟨v0, vs0, d0, ds0, p0, q0, hargs, rfl, rfl, h0, r0⟩ := trodAll_cons hA
  obtain ⟨rfl, rfl, rfl⟩ := trodAll_nil r0
  obtain rfl : args = #[v0] := by cases args; simp_all
  obtain ⟨rfl, rfl⟩ := trodVars_none hV
  obtain ⟨a0, len0, cap0, rfl⟩ := okWide_slice Tryd.underlying28 (hval 0 28 v0 rfl rfl)
  have k0 := h0
  have lt0 : ∀ x ∈ p0, x.block < W.heap.size := by obtain ⟨m, hm⟩ := k0; exact DataW.trod_lt m _ _ _ hm
  have hB := of_decide_eq_true hk
  obtain ⟨z0, zn, zc, zr, zl, zb⟩ : ∃ z : List ByteArray, z.length = len0 ∧ len0 ≤ cap0 ∧ Rs W a0 z ∧ (catS z).length ≤ 1048576 ∧ len0 ≤ 1048576 := by
    obtain ⟨fuel, hf⟩ := h0
    rcases open_strings Tryd.underlying28 Tryd.underlying9 (by kernel_rfl) hf with ⟨hcs, _⟩ | ⟨x, l, c, zs, hcs, _, hl, hm, hz, hx, hcell, hwz⟩
    · simp [Value.cells] at hcs
      obtain ⟨rfl, rfl, rfl⟩ := hcs
      exact ⟨[], rfl, Nat.le_refl _, .inl rfl, by simp [catS], by omega⟩
    · simp [Value.cells] at hcs
      obtain ⟨rfl, rfl, rfl⟩ := hcs
      have hz2 : zs.length = cap0 := by simpa using hz
      simp only [Prod.mk.injEq] at hx
      obtain ⟨rfl, _⟩ := hx
      simp only [List.append_nil, Rows.uptoBulkAll, Rows.uptoBulk, bulk_strs] at hB
      have hlen : (zs.take len0).length = len0 := by rw [List.length_take]; omega
      refine ⟨zs.take len0, hlen, hl, ?_, by omega, by omega⟩
      by_cases hn : len0 = 0
      · left; rw [hn]; rfl
      · right
        have e0 : x.add 0 = x := by simp [Addr.add]
        have hx0 := hcell 0 (by omega)
        rw [e0] at hx0
        obtain ⟨ex, hb⟩ := cell_spot' hx0
        refine ⟨x.block, x.off, by rw [← ex], hb, fun i hi => ?_⟩
        have hi2 : i < len0 := by omega
        have h2 := hcell i (by omega)
        have e1 : x.add i = ⟨x.block, x.off + i, none⟩ := by rw [ex]; simp [Addr.add]
        rw [e1] at h2
        rw [h2, List.getD_eq_getElem?_getD, List.getD_eq_getElem?_getD, List.getElem?_take, if_pos hi2]
        rw [List.getElem?_eq_getElem (by omega)]; rfl
  clear hA0 hval0 hB hk
  have hTabs : Tabs W := tabs_laid W hL
  refine (walkDigestWrites W hTabs a0 len0 cap0 z0 zn zc zr zl zb).mono fun e W' ⟨he, hb⟩ => ?_
  subst he
  exact ⟨_, rfl, _, _, _, [], _, [], hW', trodAll_mk1 (shut_bool Tryd.underlying4 _), (trodAll_cons_mk (Below.trod laidOut (by kernel_rfl) (of_decide_eq_true (by kernel_rfl)) k0 hb lt0) trodAll_mk0), rfl, hb.frame _, fun h => by cases h⟩

theorem reads (os : Os) {H : Type} (enc : TypeId × Value → H) : ∃ places, DataW.whole enc Tryd.prog ((World.laidAll Tryd.prog os Rows.digestWritesUptoRow.laid).forCall (fun _ _ => 0) ⟨#[], #[.slice none 0 0], []⟩).memory Tryd.f6.params.toList Rows.digestWritesSpec.vars false #[Value.slice none 0 0].toList 8 = some ([.nil], [], places) :=
  ⟨[], by kernel_rfl⟩
set_option maxRecDepth 100000 in
set_option maxHeartbeats 1000000 in
theorem liftedUpto (os : Os) (started : os.Started) (H : Type) (enc : TypeId × Value → H) (F : Stop.Interp) :
    ReturnsInHanded {} Tryd.checked os 6 .any ((Rows.OpenSpec.upto Rows.digestWritesSpec).preRow enc Tryd.prog Tryd.f6 Rows.digestWritesUptoRow.domain false Rows.digestWritesUptoRow.laid) (((Rows.OpenSpec.upto Rows.digestWritesSpec).at F).post enc Tryd.prog Tryd.f6 false true false false) := by
  obtain ⟨places, hx⟩ := reads os enc
  refine returnsInHanded_of_row (C := Tryd.checked) (s := Rows.OpenSpec.upto Rows.digestWritesSpec) own started (by kernel_rfl) Tryd.func6
    (witness_row_at (enc := enc) (C := Tryd.checked) false (World.laidAll Tryd.prog os Rows.digestWritesUptoRow.laid) #[.slice none 0 0] (World.laidAll_os _ _ _) (by kernel_rfl) (by kernel_rfl) (by kernel_rfl)
      (OpenSpec.preRow_of_cond 8 hx (by kernel_rfl) (fun k hk => by cases hk; kernel_rfl) (by kernel_rfl) (by rw [MakeChecks.laidMetH_plain _ _ _ (by kernel_rfl)]; exact laidMet_laidAll _ (by kernel_rfl) (by kernel_rfl)))) ?_
  intro W base args ds gs before hval hW _ hcond _ hL _ _
  exact contract H enc W base args ds gs before hval hW (hcond _ rfl) hL

theorem saidUpto : Rows.DigestWritesUptoSaid :=
  OpenClaim.holds_of_cond 6 Tryd.f6 rfl rfl rfl rfl rfl rfl rfl ⟨rfl, rfl, rfl, rfl, rfl⟩ rfl rfl rfl rfl rfl (by kernel_rfl) Tryd.func6 (by kernel_rfl)
    (of_decide_eq_true (by kernel_rfl)) (by unfold Func.isWrapper; first | (rw [if_pos (by decide +kernel)]; kernel_rfl) | (rw [if_neg (by decide +kernel)]; exact ⟨rfl, rfl⟩))
    (fun os started H enc _ F => by rw [OpenClaim.pre_eq_preRow]; exact liftedUpto os started H enc F)

theorem plain (f : FuncId) (fn : Func) (hf : Tryd.pinned.checked.prog.funcNamed "rosetta/rosettalaw09.DigestWrites" = some f) (hfn : Tryd.pinned.checked.prog.funcs[f]? = some fn) :
    false = Tryd.pinned.checked.prog.looks [] ∧ ∀ (j : Nat) t, fn.params[j]? = some t → Tryd.pinned.checked.prog.wantsStandIn t = false := by
  obtain rfl : f = 6 := Option.some.inj ((show Tryd.prog.funcNamed "rosetta/rosettalaw09.DigestWrites" = some 6 by kernel_rfl).symm.trans hf) |>.symm
  obtain rfl : fn = Tryd.f6 := (Option.some.inj (Tryd.func6.symm.trans hfn)).symm
  refine ⟨by kernel_rfl, fun j t ht => ?_⟩
  rw [Tryd.params6] at ht
  have hm : t ∈ [28] := by simpa using Array.mem_of_getElem? ht
  have hall : ([28].all fun u => !Tryd.prog.wantsStandIn u) = true := by kernel_rfl
  exact (show Tryd.prog.wantsStandIn t = false by simpa using List.all_eq_true.1 hall t hm)

/-- The given statement, its second form: DigestWrites is true for every input of that bulk, its tables tied to the program's text. -/
theorem cardUpto : Rows.DigestWritesUptoCardSaid :=
  Claim7.holds_tied_plain_at .later [] _ _ _ _ saidUpto (fun _ h => by cases h) (by kernel_rfl) (fun _ h => by cases h) digestWritesUpto_row_tie rfl ⟨rfl, rfl⟩ (by kernel_rfl) rfl plain (by kernel_rfl)
#print axioms cardUpto
end Go.Proofs.YtnngadbmfdfmfaaDoor.digestWrites
