/-
  Helper: the walks of PositionZero and PositionAdds.
-/
import Derived.Test.YtmoljdgalonlpabDoorPosAdd
namespace Go.Proofs.YtmoljdgalonlpabDoor
open Go.RowKit
set_option linter.unusedVariables false

def e0 : ByteArray := ⟨#[]⟩
theorem e0_n : nln e0 = 0 := by decide
theorem e0_rd (w : World) : Rd w none (nln e0) (nlf e0) := .inl e0_n

theorem z_at0 (w : World) : Calls Tryd.prog 5 #[.agg #[.string e0, .slice none 0 0], .int .i64 0] w fun e w' => e = .returned (.tuple #[.int .i64 0, .int .i64 0, .int .i64 0]) ∧ Below w.heap.size w w' := by
  have h := at_some e0 none 0 w (by decide) (e0_rd w) 0 (by decide)
  rw [show cnt e0.data.toList 0 = 0 from by decide, show begS e0 0 = 0 from by decide] at h
  exact h
theorem z_at1 (w : World) : Calls Tryd.prog 5 #[.agg #[.string e0, .slice none 0 0], .int .i64 1] w fun e w' => e = .returned (.tuple #[.int .i64 0, .int .i64 0, .int .i64 2]) ∧ Below w.heap.size w w' :=
  at_none e0 none 0 0 w (by decide) 1 (by decide)
theorem z_line (w : World) (i : Int) : Calls Tryd.prog 6 #[.agg #[.string e0, .slice none 0 0], .int .i64 i] w fun e w' => e = .returned (.tuple #[.string ⟨#[]⟩, .int .i64 (if i = 0 then 0 else 9)]) ∧ Below w.heap.size w w' := by
  by_cases h : i = 0
  · subst h
    have h := line_some e0 none 0 w (by decide) (e0_rd w) 0 (by decide)
    rw [show begS e0 0 = 0 from by decide, show finS e0 0 = 0 from by decide, show nln e0 = 0 from by decide] at h
    exact h
  · rw [if_neg h]
    have h := line_none e0 none 0 w (by decide) i (by rw [e0_n]; omega)
    exact h
theorem z_off (w : World) (i : Int) : Calls Tryd.prog 7 #[.agg #[.string e0, .slice none 0 0], .int .i64 i, .int .i64 0] w fun e w' => e = .returned (.tuple #[.int .i64 0, .int .i64 (if i = 0 then 0 else 9)]) ∧ Below w.heap.size w w' := by
  by_cases h : i = 0
  · subst h
    have h := offset_some e0 none 0 w (by decide) (e0_rd w) 0 (by decide) 0
    rw [show begS e0 0 = 0 from by decide, show finS e0 0 = 0 from by decide] at h
    exact h
  · rw [if_neg h]
    have h := offset_none e0 none 0 w (by decide) i 0 (by rw [e0_n]; omega)
    exact h
theorem z_count (w : World) : Calls Tryd.prog 9 #[.agg #[.string e0, .slice none 0 0]] w fun e w' => e = .returned (.int .i64 1) ∧ Below w.heap.size w w' :=
  count_any e0 none 0 0 w (by decide)

/-- the box of the zero Lines -/
def Zx (w0 : World) (k : Nat) (w : World) : Prop := w.cell? ⟨k, 0, none⟩ = some (.string e0) ∧ w.cell? ⟨k, 1, none⟩ = some (.slice none 0 0) ∧ Kept w0 k none 0 (fun _ => 0) w
theorem Zx.keep {w0 w w' : World} {k : Nat} (h : Zx w0 k w) (hb : Below w.heap.size w w') : Zx w0 k w' := keep2 hb h

set_option maxRecDepth 100000 in
set_option maxHeartbeats 2000000 in
theorem walkPositionZero (w : World) (i : Int) (h : (Lit.int .i64 i).wf = true) :
    Calls Tryd.prog 3 #[.int .i64 i] w fun e w' => e = .returned (.bool true) ∧ Below w.heap.size w w' := by
  have hZ : Zx w w.heap.size (w.alloc (.cells #[.string e0, .slice none 0 0] 24)) := by
    refine ⟨?_, ?_, .inl rfl, (Below.refl _ w).alloc (Nat.le_refl _) _, by simp⟩
    · rw [World.cell?_alloc_at _ _ _ _ rfl]; rfl
    · rw [World.cell?_alloc_at _ _ _ _ rfl]; rfl
  have HL := Lib.hid (fun w => z_line w i)
  have HO := Lib.hid (fun w => z_off w i)
  have key : ∃ ez : Int, ((i = 0 ∧ ez = 0) ∨ (i ≠ 0 ∧ ez = 9)) ∧ Hid (∀ w, Calls Tryd.prog 6 #[.agg #[.string e0, .slice none 0 0], .int .i64 i] w fun e w' => e = .returned (.tuple #[.string ⟨#[]⟩, .int .i64 ez]) ∧ Below w.heap.size w w') ∧
      Hid (∀ w, Calls Tryd.prog 7 #[.agg #[.string e0, .slice none 0 0], .int .i64 i, .int .i64 0] w fun e w' => e = .returned (.tuple #[.int .i64 0, .int .i64 ez]) ∧ Below w.heap.size w w') :=
    ⟨if i = 0 then 0 else 9, by by_cases hi : i = 0 <;> simp [hi], HL.out, HO.out⟩
  clear HL HO h
  obtain ⟨ez, hez, HL, HO⟩ := key
  rcases hez with ⟨hi, rfl⟩ | ⟨hi, rfl⟩
  · have hd : (i != 0) = false := by rw [hi]; rfl
    clear hi
    go_enter Tryd.func3, Tryd.ntmps3
    go_wp2_with fail
    refine (z_at0 _).mono ?_
    rintro e w2 ⟨rfl, h2⟩
    have hZ2 := hZ.keep h2
    clear hZ h2
    obtain ⟨c0, c1, HK⟩ := hZ2
    have HK2 := Lib.hid HK
    clear HK
    go_wp2_with fail
    have hZ : Zx w w.heap.size w2 := ⟨c0, c1, HK2.out⟩
    clear c0 c1 HK2
    refine (z_at1 _).mono ?_
    rintro e w3 ⟨rfl, h2⟩
    obtain ⟨c0, c1, HK⟩ := hZ.keep h2
    have HK2 := Lib.hid HK
    clear HK hZ h2
    go_wp2_with fail
    have hZ : Zx w w.heap.size w3 := ⟨c0, c1, HK2.out⟩
    clear c0 c1 HK2
    refine (HL.out _).mono ?_
    rintro e w4 ⟨rfl, h2⟩
    obtain ⟨c0, c1, HK⟩ := hZ.keep h2
    have HK2 := Lib.hid HK
    clear HK hZ h2
    go_wp2_with fail
    have hZ : Zx w w.heap.size w4 := ⟨c0, c1, HK2.out⟩
    clear c0 c1 HK2
    refine (HO.out _).mono ?_
    rintro e w5 ⟨rfl, h2⟩
    obtain ⟨c0, c1, HK⟩ := hZ.keep h2
    have HK2 := Lib.hid HK
    clear HK hZ h2
    go_wp2_with fail
    have hZ : Zx w w.heap.size w5 := ⟨c0, c1, HK2.out⟩
    clear c0 c1 HK2
    refine (awake_any _).mono ?_
    rintro e w6 ⟨rfl, h2⟩
    obtain ⟨c0, c1, HK⟩ := hZ.keep h2
    have HK2 := Lib.hid HK
    clear HK hZ h2
    go_wp2_with fail
    refine (z_count _).mono ?_
    rintro e w7 ⟨rfl, h7⟩
    go_wp2_with fail
    go_ret
    refine ⟨rfl, ?_⟩
    have hb5 : Below w.heap.size w w6 := HK2.out.2.1
    exact hb5.trans (h7.mono hb5.size)
  · have hd : (i != 0) = true := by rw [bne_iff_ne]; exact hi
    clear hi
    go_enter Tryd.func3, Tryd.ntmps3
    go_wp2_with fail
    refine (z_at0 _).mono ?_
    rintro e w2 ⟨rfl, h2⟩
    have hZ2 := hZ.keep h2
    clear hZ h2
    obtain ⟨c0, c1, HK⟩ := hZ2
    have HK2 := Lib.hid HK
    clear HK
    go_wp2_with fail
    have hZ : Zx w w.heap.size w2 := ⟨c0, c1, HK2.out⟩
    clear c0 c1 HK2
    refine (z_at1 _).mono ?_
    rintro e w3 ⟨rfl, h2⟩
    obtain ⟨c0, c1, HK⟩ := hZ.keep h2
    have HK2 := Lib.hid HK
    clear HK hZ h2
    go_wp2_with fail
    have hZ : Zx w w.heap.size w3 := ⟨c0, c1, HK2.out⟩
    clear c0 c1 HK2
    refine (HL.out _).mono ?_
    rintro e w4 ⟨rfl, h2⟩
    obtain ⟨c0, c1, HK⟩ := hZ.keep h2
    have HK2 := Lib.hid HK
    clear HK hZ h2
    go_wp2_with fail
    have hZ : Zx w w.heap.size w4 := ⟨c0, c1, HK2.out⟩
    clear c0 c1 HK2
    refine (HO.out _).mono ?_
    rintro e w5 ⟨rfl, h2⟩
    obtain ⟨c0, c1, HK⟩ := hZ.keep h2
    have HK2 := Lib.hid HK
    clear HK hZ h2
    go_wp2_with fail
    have hZ : Zx w w.heap.size w5 := ⟨c0, c1, HK2.out⟩
    clear c0 c1 HK2
    refine (awake_any _).mono ?_
    rintro e w6 ⟨rfl, h2⟩
    obtain ⟨c0, c1, HK⟩ := hZ.keep h2
    have HK2 := Lib.hid HK
    clear HK hZ h2
    go_wp2_with fail
    refine (z_count _).mono ?_
    rintro e w7 ⟨rfl, h7⟩
    go_wp2_with fail
    go_ret
    refine ⟨rfl, ?_⟩
    have hb5 : Below w.heap.size w w6 := HK2.out.2.1
    exact hb5.trans (h7.mono hb5.size)

end Go.Proofs.YtmoljdgalonlpabDoor
