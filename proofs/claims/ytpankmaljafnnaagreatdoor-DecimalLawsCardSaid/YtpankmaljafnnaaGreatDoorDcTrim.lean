/-
  Helper: the walks of bytes.TrimLeft and bytes.TrimRight at one character.
-/
import Derived.Test.YtpankmaljafnnaaGreatDoorDcVal
namespace Go.Proofs.YtpankmaljafnnaaGreatDoor
open Go.RowKit
set_option linter.unusedVariables false

def trimL (l : List UInt8) : List UInt8 := l.dropWhile (· == 48)
def trimR (l : List UInt8) : List UInt8 := (l.reverse.dropWhile (· == 48)).reverse
theorem trimL_len (l : List UInt8) : (trimL l).length ≤ l.length := by
  unfold trimL
  induction l with
  | nil => simp
  | cons c l ih =>
    rw [List.dropWhile_cons]
    split
    · rw [List.length_cons]; omega
    · exact Nat.le_refl _
theorem trimR_len (l : List UInt8) : (trimR l).length ≤ l.length := by
  have := trimL_len l.reverse
  unfold trimL at this
  unfold trimR
  simpa using this
theorem trimR_snoc (l : List UInt8) (c : UInt8) : trimR (l ++ [c]) = if c = 48 then trimR l else l ++ [c] := by
  unfold trimR
  rw [List.reverse_append, List.reverse_singleton, List.singleton_append, List.dropWhile_cons]
  by_cases h : c = 48
  · rw [if_pos (by simp [h]), if_pos h]
  · rw [if_neg (by simp [h]), if_neg h]; simp
theorem trimR_take (l : List UInt8) : ∃ k, trimR l = l.take k ∧ k ≤ l.length ∧ (trimR l).length = k := by
  suffices h : ∀ r : List UInt8, ∃ k, trimR r.reverse = r.reverse.take k ∧ k ≤ r.reverse.length ∧ (trimR r.reverse).length = k by
    have := h l.reverse
    rwa [List.reverse_reverse] at this
  intro r
  induction r with
  | nil => exact ⟨0, by simp [trimR]⟩
  | cons c r ih =>
    obtain ⟨k, h1, h2, h3⟩ := ih
    rw [List.reverse_cons, trimR_snoc]
    by_cases h : c = 48
    · rw [if_pos h]
      refine ⟨k, ?_, by simp at h2 ⊢; omega, h3⟩
      rw [h1, List.take_append_of_le_length h2]
    · rw [if_neg h]
      exact ⟨_, (List.take_length).symm, Nat.le_refl _, rfl⟩
theorem Rb.from {w : World} {a : Option Addr} {l : List UInt8} (h : Rb w a l) (k : Nat) (b : Bool) (hb : b = true → l.length ≤ k) : Rb w (if b = true then a else a.map (·.add k)) (l.drop k) := by
  rcases h with rfl | ⟨g, off, rfl, hlt, hc⟩
  · left; simp
  · cases b with
    | true => left; exact List.drop_eq_nil_of_le (hb rfl)
    | false =>
      refine .inr ⟨g, off + k, ?_, hlt, fun i hi => ?_⟩
      · rw [if_neg (by decide)]
        show some ((⟨g, off, none⟩ : Addr).add k) = _
        cases k <;> simp [Addr.add]
      · rw [List.length_drop] at hi
        rw [Nat.add_assoc, hc (k + i) (by omega), List.getD_eq_getElem?_getD, List.getD_eq_getElem?_getD, List.getElem?_drop]
theorem Rb.tail {w : World} {b off c : Nat} {x : UInt8} {l : List UInt8} (h : Rb w (some ⟨b, off, none⟩) (x :: l)) (hc : l.length + 1 ≤ c) : Rb w (if c = 1 then some ⟨b, off, none⟩ else some ⟨b, off + 1, none⟩) l := by
  have := h.from 1 (decide (c = 1)) (fun g => by have := of_decide_eq_true g; rw [List.length_cons]; omega)
  have e : (if decide (c = 1) = true then some (⟨b, off, none⟩ : Addr) else (some (⟨b, off, none⟩ : Addr)).map (·.add 1)) = if c = 1 then some ⟨b, off, none⟩ else some ⟨b, off + 1, none⟩ := by
    by_cases g : c = 1
    · rw [if_pos (decide_eq_true g), if_pos g]
    · rw [if_neg (by simpa using g), if_neg g]; rfl
  rw [e] at this
  exact this
/-- a slice that reads as a list comes back, the world is as it was -/
def SlP (r : List UInt8) (w : World) (e : Ending) (w' : World) : Prop := ∃ a c, e = .returned (.slice a r.length c) ∧ r.length ≤ c ∧ Rb w' a r ∧ w = w'
set_option maxRecDepth 100000 in
set_option maxHeartbeats 2000000 in
theorem trimLB_any (l : List UInt8) (a : Option Addr) (cap : Nat) (w : World) (hs : l.length ≤ 1000000) (hcap : l.length ≤ cap) (hr : Rb w a l) :
    Calls Tryz.prog 83 #[.slice a l.length cap, .int .u8 48] w (SlP (trimL l) w) := by
  have HR : Hid (Rb w a l) := hr
  have HF : Hid (∀ a c (r : List UInt8), r = trimL l → r.length ≤ c → Rb w a r → SlP (trimL l) w (.returned (.slice a r.length c)) w) := fun a c r h1 h2 h3 => by subst h1; exact ⟨a, c, rfl, h2, h3, rfl⟩
  clear hr
  generalize SlP (trimL l) w = Po at *
  go_enter Tryz.func83, Tryz.ntmps83
  go_wp2
  go_loop [0] (fun s => ∃ (x : Option Addr) (r : List UInt8) (c : Nat), s = .slice x r.length c ∧ r.length ≤ c ∧ r.length ≤ 1000000 ∧ Hid (Rb w x r ∧ trimL r = trimL l)) (fun s => match s with | .slice _ n _ => n | _ => 0)
  case atStart => exact ⟨a, l, cap, rfl, hcap, hs, HR.out, rfl⟩
  case round =>
    obtain ⟨x, r, c, rfl, hrc, hrs, HI⟩ := hrel
    cases r with
    | nil =>
      have hfin := Lib.hid (HF.out none 0 [] (by rw [← HI.out.2]; rfl) (Nat.le_refl _) (.inl rfl))
      clear HF HI
      go_wp2
      exact hfin.out
    | cons d r =>
      obtain ⟨g, off, rfl, hlt, hcell⟩ := HI.out.1.at 0 (by simp)
      have hcell2 : w.cell? ⟨g, off, none⟩ = some (.int .u8 (d.toNat : Int)) := hcell
      clear hcell
      have hT := HI.out.1
      by_cases hd : d = 48
      · have e48 : ((d.toNat : Int) == 48) = true := by rw [hd]; rfl
        have hI2 : Hid (trimL r = trimL l) := by
          have := HI.out.2
          rw [hd] at this
          exact this
        have hTl := Lib.hid (hT.tail hrc)
        clear HF HI hT hd
        have hl : (d :: r).length = r.length + 1 := rfl
        rw [hl] at hrc hrs ⊢
        generalize d.toNat = dn at *
        generalize hrn : r.length = rn at *
        have hrnh := Lib.hid hrn
        clear hrn
        have p1 : (0 : Int) < ((rn + 1 : Nat) : Int) := by omega
        go_wp2
        refine ⟨⟨_, r, c - 1, by rw [hrnh.out], by rw [hrnh.out]; omega, by rw [hrnh.out]; omega, hTl.out, hI2.out⟩, ?_⟩
        show rn < rn + 1
        omega
      · have e48 : ((d.toNat : Int) == 48) = false := by
          rw [beq_eq_false_iff_ne]
          intro g
          exact hd (UInt8.toNat_inj.1 (by have : (48 : UInt8).toNat = 48 := rfl; omega))
        have hfin := Lib.hid (HF.out _ c (d :: r) (by rw [← HI.out.2]; unfold trimL; rw [List.dropWhile_cons, if_neg (by simp [hd])]) hrc hT)
        clear HF HI hT hd
        have hl : (d :: r).length = r.length + 1 := rfl
        rw [hl] at hrc hrs hfin ⊢
        generalize d.toNat = dn at *
        generalize r.length = rn at *
        go_wp2
        exact hfin.out
set_option maxRecDepth 100000 in
set_option maxHeartbeats 2000000 in
theorem trimRB_any (l : List UInt8) (a : Option Addr) (cap : Nat) (w : World) (hs : l.length ≤ 1000000) (hcap : l.length ≤ cap) (hr : Rb w a l) :
    Calls Tryz.prog 87 #[.slice a l.length cap, .int .u8 48] w (SlP (trimR l) w) := by
  have HR : Hid (Rb w a l) := hr
  have HF : Hid (∀ n, n ≤ l.length → trimR l = l.take n → SlP (trimR l) w (.returned (.slice a n cap)) w) := fun n h1 h2 => by
    have h3 : (trimR l).length = n := by rw [h2, List.length_take]; omega
    rw [← h3]
    exact ⟨a, cap, rfl, by omega, by rw [h2]; exact hr.take n, rfl⟩
  clear hr
  generalize SlP (trimR l) w = Po at *
  go_enter Tryz.func87, Tryz.ntmps87
  go_wp2
  go_loop [0] (fun s => ∃ n : Nat, s = .slice a n cap ∧ n ≤ l.length ∧ Hid (trimR (l.take n) = trimR l)) (fun s => match s with | .slice _ n _ => n | _ => 0)
  case atStart => exact ⟨l.length, rfl, Nat.le_refl _, by rw [List.take_length]; rfl⟩
  case round =>
    obtain ⟨n, rfl, hn, HI⟩ := hrel
    cases n with
    | zero =>
      have hfin := Lib.hid (HF.out 0 (Nat.zero_le _) (by rw [← HI.out]; rfl))
      clear HF HI
      go_wp2
      exact hfin.out
    | succ n =>
      obtain ⟨g, off, rfl, hlt, hcell⟩ := HR.out.at n (by omega)
      have e1 : ((n + 1 : Nat) : Int) - 1 = (n : Int) := by omega
      have p1 : (0 : Int) < ((n + 1 : Nat) : Int) := by omega
      have htk : l.take (n + 1) = l.take n ++ [l.getD n 0] := by
        rw [List.take_add_one, List.getD_eq_getElem?_getD, List.getElem?_eq_getElem (by omega)]; rfl
      have hI := HI.out
      rw [htk, trimR_snoc] at hI
      by_cases hd : l.getD n 0 = 48
      · have e48 : (((l.getD n 0).toNat : Int) == 48) = true := by rw [hd]; rfl
        rw [if_pos hd] at hI
        have hI2 := Lib.hid hI
        clear HF HI hd htk hI
        generalize (l.getD n 0).toNat = dn at *
        have hnl : n ≤ l.length := by omega
        go_wp2
        go_round
        case rel => exact ⟨n, rfl, hnl, hI2⟩
        case measure => show n < n + 1; omega
      · have e48 : (((l.getD n 0).toNat : Int) == 48) = false := by
          rw [beq_eq_false_iff_ne]
          intro g
          exact hd (UInt8.toNat_inj.1 (by have : (48 : UInt8).toNat = 48 := rfl; omega))
        rw [if_neg hd, ← htk] at hI
        have hfin := Lib.hid (HF.out (n + 1) hn hI.symm)
        clear HF HI hd htk hI
        generalize (l.getD n 0).toNat = dn at *
        go_wp2
        exact hfin.out
set_option maxRecDepth 100000 in
set_option maxHeartbeats 1000000 in
theorem trimL_any (l : List UInt8) (a : Option Addr) (cap : Nat) (w : World) (hs : l.length ≤ 1000000) (hcap : l.length ≤ cap) (hr : Rb w a l) :
    Calls Tryz.prog 65 #[.slice a l.length cap, .string ⟨#[48]⟩] w (SlP (trimL l) w) := by
  have HT := Lib.hid (trimLB_any l a cap w hs hcap hr)
  have H0 : Hid (l.length = 0 → SlP (trimL l) w (.returned (.slice none 0 0)) w) := fun h => by
    obtain rfl := List.eq_nil_of_length_eq_zero h
    exact ⟨none, 0, rfl, Nat.le_refl _, .inl rfl, rfl⟩
  have HF2 : Hid (∀ a c, (trimL l).length ≤ c → Rb w a (trimL l) → SlP (trimL l) w (.returned (.slice a (trimL l).length c)) w) := fun a c h1 h2 => ⟨a, c, rfl, h1, h2, rfl⟩
  unfold SlP at HT
  generalize SlP (trimL l) w = Po at *
  generalize hz : trimL l = z at *
  generalize l.length = n at *
  clear hz
  by_cases h : n = 0
  · subst h
    go_enter Tryz.func65, Tryz.ntmps65
    go_wp2
    exact H0.out (by trivial)
  · have hn : ((n : Int) == 0) = false := by rw [beq_eq_false_iff_ne]; omega
    go_enter Tryz.func65, Tryz.ntmps65
    go_wp2_with fail
    refine HT.out.mono ?_
    rintro e w' ⟨a2, c, rfl, h1, h2, rfl⟩
    have hfin := Lib.hid (HF2.out a2 c h1 h2)
    go_wp2
    exact hfin.out
set_option maxRecDepth 100000 in
set_option maxHeartbeats 1000000 in
theorem trimR_any (l : List UInt8) (a : Option Addr) (cap : Nat) (w : World) (hs : l.length ≤ 1000000) (hcap : l.length ≤ cap) (hr : Rb w a l) :
    Calls Tryz.prog 66 #[.slice a l.length cap, .string ⟨#[48]⟩] w (SlP (trimR l) w) := by
  have HT := Lib.hid (trimRB_any l a cap w hs hcap hr)
  have HF : Hid (∀ a c, (trimR l).length ≤ c → Rb w a (trimR l) → SlP (trimR l) w (.returned (.slice a (trimR l).length c)) w) := fun a c h1 h2 => ⟨a, c, rfl, h1, h2, rfl⟩
  have H0 : Hid (l.length = 0 → SlP (trimR l) w (.returned (.slice a 0 cap)) w) := fun h => by
    obtain rfl := List.eq_nil_of_length_eq_zero h
    exact ⟨a, cap, rfl, Nat.zero_le _, .inl rfl, rfl⟩
  unfold SlP at HT
  generalize SlP (trimR l) w = Po at *
  generalize hz : trimR l = z at *
  generalize l.length = n at *
  clear hz
  by_cases h : n = 0
  · subst h
    go_enter Tryz.func66, Tryz.ntmps66
    go_wp2
    exact H0.out (by trivial)
  · have hn : ((n : Int) == 0) = false := by rw [beq_eq_false_iff_ne]; omega
    go_enter Tryz.func66, Tryz.ntmps66
    go_wp2_with fail
    refine HT.out.mono ?_
    rintro e w' ⟨a2, c, rfl, h1, h2, rfl⟩
    have hfin := Lib.hid (HF.out a2 c h1 h2)
    go_wp2
    exact hfin.out
end Go.Proofs.YtpankmaljafnnaaGreatDoor
