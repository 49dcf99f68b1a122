/-
  Helper: decimal.read in sum.
-/
import Derived.Test.YtpankmaljafnnaaGreatDoorDcRnd2
namespace Go.Proofs.YtpankmaljafnnaaGreatDoor
open Go.RowKit
set_option linter.unusedVariables false

theorem e0_list : (⟨#[48, 101, 48]⟩ : ByteArray).data.toList = tD 0 0 := rfl
theorem read_yes (s : ByteArray) (hs : s.size ≤ 100000) (z x : Int) (hC : Cn z x) (hl : s.data.toList = tD z x) (w : World) (hT : Tabs w) : Calls Tryz.prog 43 #[.string s] w (RdYes z x w) := by
  obtain ⟨p, q, f, hV, _, hp, hq, ht⟩ := cutV_parts s
  obtain ⟨t1, t2⟩ := ht z x hl
  obtain ⟨c1, c2, c3, c4⟩ := hC
  refine read_late s p q f z x hV hs hp hq w hT ((sh_body z).2 c2) (sh_small x c3 c4) t1 t2 ?_ (RdYes z x w) (fun h => by omega) (fun _ => fun e w' h => h)
  rcases c1 with ⟨rfl, rfl⟩ | c1
  · right; apply ba_ext; rw [hl]; rfl
  · exact .inl c1
theorem read_none (s : ByteArray) (hs : s.size ≤ 100000) (hn : ∀ z x, Cn z x → s.data.toList ≠ tD z x) (w : World) (hT : Tabs w) : Calls Tryz.prog 43 #[.string s] w (RdNo w) := by
  obtain ⟨p, q, f, hV, hj, hp, hq, ht⟩ := cutV_parts s
  refine read_no s p q f hV hs hp hq w hT ?_
  by_cases v1 : Vld p.data.toList
  · by_cases v2 : Vld q.data.toList
    · right; right
      obtain ⟨z, hz, hpz⟩ := vld_iff _ v1
      obtain ⟨x, hx, hqx⟩ := vld_iff _ v2
      refine ⟨z, x, hz, hx, hpz, hqx, ?_⟩
      have hsl : s.data.toList = tD z x := by rw [hj v1 v2, hpz, hqx]; rfl
      have hbl := (sh_body z).1 hz
      by_cases g : z.natAbs % 10 ≠ 0 ∨ s = ⟨#[48, 101, 48]⟩
      · right
        refine ⟨g, ?_⟩
        refine Classical.byContradiction fun hx2 => ?_
        refine hn z x ⟨?_, hbl, by omega, by omega⟩ hsl
        rcases g with g | g
        · exact .inr g
        · left
          rw [g, e0_list] at hsl
          obtain ⟨y1, y2⟩ := tD_inj hsl
          exact ⟨y1.symm, y2.symm⟩
      · left
        exact ⟨by omega, fun h => g (.inr h)⟩
    · exact .inr (.inl ⟨v1, v2⟩)
  · exact .inl v1
theorem read_any (s : ByteArray) (hs : s.size ≤ 100000) : (∃ z x, Cn z x ∧ s.data.toList = tD z x ∧ ∀ w, Tabs w → Calls Tryz.prog 43 #[.string s] w (RdYes z x w)) ∨ ((∀ z x, Cn z x → s.data.toList ≠ tD z x) ∧ ∀ w, Tabs w → Calls Tryz.prog 43 #[.string s] w (RdNo w)) := by
  by_cases h : ∃ z x, Cn z x ∧ s.data.toList = tD z x
  · obtain ⟨z, x, hC, hl⟩ := h
    exact .inl ⟨z, x, hC, hl, fun w hT => read_yes s hs z x hC hl w hT⟩
  · have hn : ∀ z x, Cn z x → s.data.toList ≠ tD z x := fun z x hC hl => h ⟨z, x, hC, hl⟩
    exact .inr ⟨hn, fun w hT => read_none s hs hn w hT⟩
end Go.Proofs.YtpankmaljafnnaaGreatDoor
