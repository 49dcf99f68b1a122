/-
  Helper: the digests of "abc" and of the empty string.
-/
import Derived.Test.YtnngadbmfdfmfaaDoorDgHex
namespace Go.Proofs.YtnngadbmfdfmfaaDoor
set_option linter.unusedVariables false

theorem wd_next (M : Nat → UInt8) (t : Nat) (a b c d r : BitVec 32) (h : ¬ t < 16) (ha : wd M (t - 16) = a) (hb : wd M (t - 15) = b) (hc : wd M (t - 7) = c) (hd : wd M (t - 2) = d) (hr : a + s0 b + c + s1 d = r) : wd M t = r := by
  rw [wd_hi M t h, ha, hb, hc, hd, hr]
def V8 (v : Nat → BitVec 32) (a b c d e f g h : BitVec 32) : Prop := v 0 = a ∧ v 1 = b ∧ v 2 = c ∧ v 3 = d ∧ v 4 = e ∧ v 5 = f ∧ v 6 = g ∧ v 7 = h
theorem V8.next {M : Nat → UInt8} {s : Nat → BitVec 32} {t : Nat} {a b c d e f g h : BitVec 32} (hv : V8 (rnd M s t) a b c d e f g h) (k x : BitVec 32) (hk : kc t = k) (hx : wd M t = x) (y z : BitVec 32)
    (hy : h + S1 e + ch e f g + k + x + (S0 a + mj a b c) = y) (hz : d + (h + S1 e + ch e f g + k + x) = z) : V8 (rnd M s (t + 1)) y a b c z e f g := by
  obtain ⟨h0, h1, h2, h3, h4, h5, h6, h7⟩ := hv
  refine ⟨?_, h0, h1, h2, ?_, h4, h5, h6⟩
  · rw [← hy, ← h0, ← h1, ← h2, ← h4, ← h5, ← h6, ← h7, ← hk, ← hx]; rfl
  · rw [← hz, ← h3, ← h4, ← h5, ← h6, ← h7, ← hk, ← hx]; rfl
theorem hexS_congr {F G : Nat → BitVec 32} : ∀ n, (∀ i, i < n → F i = G i) → hexS F n = hexS G n
  | 0, _ => rfl
  | n + 1, h => by simp only [hexS]; rw [hexS_congr n (fun i hi => h i (by omega)), h n (by omega)]

def La : List UInt8 := [97, 98, 99]
def Ma : Nat → UInt8 := blk (La ++ padB 3) 0
theorem wa0 : wd Ma 0 = 0x61626380 := by rw [wd_lo _ _ (by decide)]; decide +kernel
theorem wa1 : wd Ma 1 = 0x00000000 := by rw [wd_lo _ _ (by decide)]; decide +kernel
theorem wa2 : wd Ma 2 = 0x00000000 := by rw [wd_lo _ _ (by decide)]; decide +kernel
theorem wa3 : wd Ma 3 = 0x00000000 := by rw [wd_lo _ _ (by decide)]; decide +kernel
theorem wa4 : wd Ma 4 = 0x00000000 := by rw [wd_lo _ _ (by decide)]; decide +kernel
theorem wa5 : wd Ma 5 = 0x00000000 := by rw [wd_lo _ _ (by decide)]; decide +kernel
theorem wa6 : wd Ma 6 = 0x00000000 := by rw [wd_lo _ _ (by decide)]; decide +kernel
theorem wa7 : wd Ma 7 = 0x00000000 := by rw [wd_lo _ _ (by decide)]; decide +kernel
theorem wa8 : wd Ma 8 = 0x00000000 := by rw [wd_lo _ _ (by decide)]; decide +kernel
theorem wa9 : wd Ma 9 = 0x00000000 := by rw [wd_lo _ _ (by decide)]; decide +kernel
theorem wa10 : wd Ma 10 = 0x00000000 := by rw [wd_lo _ _ (by decide)]; decide +kernel
theorem wa11 : wd Ma 11 = 0x00000000 := by rw [wd_lo _ _ (by decide)]; decide +kernel
theorem wa12 : wd Ma 12 = 0x00000000 := by rw [wd_lo _ _ (by decide)]; decide +kernel
theorem wa13 : wd Ma 13 = 0x00000000 := by rw [wd_lo _ _ (by decide)]; decide +kernel
theorem wa14 : wd Ma 14 = 0x00000000 := by rw [wd_lo _ _ (by decide)]; decide +kernel
theorem wa15 : wd Ma 15 = 0x00000018 := by rw [wd_lo _ _ (by decide)]; decide +kernel
theorem wa16 : wd Ma 16 = 0x61626380 := wd_next Ma 16 0x61626380 0x00000000 0x00000000 0x00000000 _ (by decide) wa0 wa1 wa9 wa14 (by decide +kernel)
theorem wa17 : wd Ma 17 = 0x000f0000 := wd_next Ma 17 0x00000000 0x00000000 0x00000000 0x00000018 _ (by decide) wa1 wa2 wa10 wa15 (by decide +kernel)
theorem wa18 : wd Ma 18 = 0x7da86405 := wd_next Ma 18 0x00000000 0x00000000 0x00000000 0x61626380 _ (by decide) wa2 wa3 wa11 wa16 (by decide +kernel)
theorem wa19 : wd Ma 19 = 0x600003c6 := wd_next Ma 19 0x00000000 0x00000000 0x00000000 0x000f0000 _ (by decide) wa3 wa4 wa12 wa17 (by decide +kernel)
theorem wa20 : wd Ma 20 = 0x3e9d7b78 := wd_next Ma 20 0x00000000 0x00000000 0x00000000 0x7da86405 _ (by decide) wa4 wa5 wa13 wa18 (by decide +kernel)
theorem wa21 : wd Ma 21 = 0x0183fc00 := wd_next Ma 21 0x00000000 0x00000000 0x00000000 0x600003c6 _ (by decide) wa5 wa6 wa14 wa19 (by decide +kernel)
theorem wa22 : wd Ma 22 = 0x12dcbfdb := wd_next Ma 22 0x00000000 0x00000000 0x00000018 0x3e9d7b78 _ (by decide) wa6 wa7 wa15 wa20 (by decide +kernel)
theorem wa23 : wd Ma 23 = 0xe2e2c38e := wd_next Ma 23 0x00000000 0x00000000 0x61626380 0x0183fc00 _ (by decide) wa7 wa8 wa16 wa21 (by decide +kernel)
theorem wa24 : wd Ma 24 = 0xc8215c1a := wd_next Ma 24 0x00000000 0x00000000 0x000f0000 0x12dcbfdb _ (by decide) wa8 wa9 wa17 wa22 (by decide +kernel)
theorem wa25 : wd Ma 25 = 0xb73679a2 := wd_next Ma 25 0x00000000 0x00000000 0x7da86405 0xe2e2c38e _ (by decide) wa9 wa10 wa18 wa23 (by decide +kernel)
theorem wa26 : wd Ma 26 = 0xe5bc3909 := wd_next Ma 26 0x00000000 0x00000000 0x600003c6 0xc8215c1a _ (by decide) wa10 wa11 wa19 wa24 (by decide +kernel)
theorem wa27 : wd Ma 27 = 0x32663c5b := wd_next Ma 27 0x00000000 0x00000000 0x3e9d7b78 0xb73679a2 _ (by decide) wa11 wa12 wa20 wa25 (by decide +kernel)
theorem wa28 : wd Ma 28 = 0x9d209d67 := wd_next Ma 28 0x00000000 0x00000000 0x0183fc00 0xe5bc3909 _ (by decide) wa12 wa13 wa21 wa26 (by decide +kernel)
theorem wa29 : wd Ma 29 = 0xec8726cb := wd_next Ma 29 0x00000000 0x00000000 0x12dcbfdb 0x32663c5b _ (by decide) wa13 wa14 wa22 wa27 (by decide +kernel)
theorem wa30 : wd Ma 30 = 0x702138a4 := wd_next Ma 30 0x00000000 0x00000018 0xe2e2c38e 0x9d209d67 _ (by decide) wa14 wa15 wa23 wa28 (by decide +kernel)
theorem wa31 : wd Ma 31 = 0xd3b7973b := wd_next Ma 31 0x00000018 0x61626380 0xc8215c1a 0xec8726cb _ (by decide) wa15 wa16 wa24 wa29 (by decide +kernel)
theorem wa32 : wd Ma 32 = 0x93f5997f := wd_next Ma 32 0x61626380 0x000f0000 0xb73679a2 0x702138a4 _ (by decide) wa16 wa17 wa25 wa30 (by decide +kernel)
theorem wa33 : wd Ma 33 = 0x3b68ba73 := wd_next Ma 33 0x000f0000 0x7da86405 0xe5bc3909 0xd3b7973b _ (by decide) wa17 wa18 wa26 wa31 (by decide +kernel)
theorem wa34 : wd Ma 34 = 0xaff4ffc1 := wd_next Ma 34 0x7da86405 0x600003c6 0x32663c5b 0x93f5997f _ (by decide) wa18 wa19 wa27 wa32 (by decide +kernel)
theorem wa35 : wd Ma 35 = 0xf10a5c62 := wd_next Ma 35 0x600003c6 0x3e9d7b78 0x9d209d67 0x3b68ba73 _ (by decide) wa19 wa20 wa28 wa33 (by decide +kernel)
theorem wa36 : wd Ma 36 = 0x0a8b3996 := wd_next Ma 36 0x3e9d7b78 0x0183fc00 0xec8726cb 0xaff4ffc1 _ (by decide) wa20 wa21 wa29 wa34 (by decide +kernel)
theorem wa37 : wd Ma 37 = 0x72af830a := wd_next Ma 37 0x0183fc00 0x12dcbfdb 0x702138a4 0xf10a5c62 _ (by decide) wa21 wa22 wa30 wa35 (by decide +kernel)
theorem wa38 : wd Ma 38 = 0x9409e33e := wd_next Ma 38 0x12dcbfdb 0xe2e2c38e 0xd3b7973b 0x0a8b3996 _ (by decide) wa22 wa23 wa31 wa36 (by decide +kernel)
theorem wa39 : wd Ma 39 = 0x24641522 := wd_next Ma 39 0xe2e2c38e 0xc8215c1a 0x93f5997f 0x72af830a _ (by decide) wa23 wa24 wa32 wa37 (by decide +kernel)
theorem wa40 : wd Ma 40 = 0x9f47bf94 := wd_next Ma 40 0xc8215c1a 0xb73679a2 0x3b68ba73 0x9409e33e _ (by decide) wa24 wa25 wa33 wa38 (by decide +kernel)
theorem wa41 : wd Ma 41 = 0xf0a64f5a := wd_next Ma 41 0xb73679a2 0xe5bc3909 0xaff4ffc1 0x24641522 _ (by decide) wa25 wa26 wa34 wa39 (by decide +kernel)
theorem wa42 : wd Ma 42 = 0x3e246a79 := wd_next Ma 42 0xe5bc3909 0x32663c5b 0xf10a5c62 0x9f47bf94 _ (by decide) wa26 wa27 wa35 wa40 (by decide +kernel)
theorem wa43 : wd Ma 43 = 0x27333ba3 := wd_next Ma 43 0x32663c5b 0x9d209d67 0x0a8b3996 0xf0a64f5a _ (by decide) wa27 wa28 wa36 wa41 (by decide +kernel)
theorem wa44 : wd Ma 44 = 0x0c4763f2 := wd_next Ma 44 0x9d209d67 0xec8726cb 0x72af830a 0x3e246a79 _ (by decide) wa28 wa29 wa37 wa42 (by decide +kernel)
theorem wa45 : wd Ma 45 = 0x840abf27 := wd_next Ma 45 0xec8726cb 0x702138a4 0x9409e33e 0x27333ba3 _ (by decide) wa29 wa30 wa38 wa43 (by decide +kernel)
theorem wa46 : wd Ma 46 = 0x7a290d5d := wd_next Ma 46 0x702138a4 0xd3b7973b 0x24641522 0x0c4763f2 _ (by decide) wa30 wa31 wa39 wa44 (by decide +kernel)
theorem wa47 : wd Ma 47 = 0x065c43da := wd_next Ma 47 0xd3b7973b 0x93f5997f 0x9f47bf94 0x840abf27 _ (by decide) wa31 wa32 wa40 wa45 (by decide +kernel)
theorem wa48 : wd Ma 48 = 0xfb3e89cb := wd_next Ma 48 0x93f5997f 0x3b68ba73 0xf0a64f5a 0x7a290d5d _ (by decide) wa32 wa33 wa41 wa46 (by decide +kernel)
theorem wa49 : wd Ma 49 = 0xcc7617db := wd_next Ma 49 0x3b68ba73 0xaff4ffc1 0x3e246a79 0x065c43da _ (by decide) wa33 wa34 wa42 wa47 (by decide +kernel)
theorem wa50 : wd Ma 50 = 0xb9e66c34 := wd_next Ma 50 0xaff4ffc1 0xf10a5c62 0x27333ba3 0xfb3e89cb _ (by decide) wa34 wa35 wa43 wa48 (by decide +kernel)
theorem wa51 : wd Ma 51 = 0xa9993667 := wd_next Ma 51 0xf10a5c62 0x0a8b3996 0x0c4763f2 0xcc7617db _ (by decide) wa35 wa36 wa44 wa49 (by decide +kernel)
theorem wa52 : wd Ma 52 = 0x84badedd := wd_next Ma 52 0x0a8b3996 0x72af830a 0x840abf27 0xb9e66c34 _ (by decide) wa36 wa37 wa45 wa50 (by decide +kernel)
theorem wa53 : wd Ma 53 = 0xc21462bc := wd_next Ma 53 0x72af830a 0x9409e33e 0x7a290d5d 0xa9993667 _ (by decide) wa37 wa38 wa46 wa51 (by decide +kernel)
theorem wa54 : wd Ma 54 = 0x1487472c := wd_next Ma 54 0x9409e33e 0x24641522 0x065c43da 0x84badedd _ (by decide) wa38 wa39 wa47 wa52 (by decide +kernel)
theorem wa55 : wd Ma 55 = 0xb20f7a99 := wd_next Ma 55 0x24641522 0x9f47bf94 0xfb3e89cb 0xc21462bc _ (by decide) wa39 wa40 wa48 wa53 (by decide +kernel)
theorem wa56 : wd Ma 56 = 0xef57b9cd := wd_next Ma 56 0x9f47bf94 0xf0a64f5a 0xcc7617db 0x1487472c _ (by decide) wa40 wa41 wa49 wa54 (by decide +kernel)
theorem wa57 : wd Ma 57 = 0xebe6b238 := wd_next Ma 57 0xf0a64f5a 0x3e246a79 0xb9e66c34 0xb20f7a99 _ (by decide) wa41 wa42 wa50 wa55 (by decide +kernel)
theorem wa58 : wd Ma 58 = 0x9fe3095e := wd_next Ma 58 0x3e246a79 0x27333ba3 0xa9993667 0xef57b9cd _ (by decide) wa42 wa43 wa51 wa56 (by decide +kernel)
theorem wa59 : wd Ma 59 = 0x78bc8d4b := wd_next Ma 59 0x27333ba3 0x0c4763f2 0x84badedd 0xebe6b238 _ (by decide) wa43 wa44 wa52 wa57 (by decide +kernel)
theorem wa60 : wd Ma 60 = 0xa43fcf15 := wd_next Ma 60 0x0c4763f2 0x840abf27 0xc21462bc 0x9fe3095e _ (by decide) wa44 wa45 wa53 wa58 (by decide +kernel)
theorem wa61 : wd Ma 61 = 0x668b2ff8 := wd_next Ma 61 0x840abf27 0x7a290d5d 0x1487472c 0x78bc8d4b _ (by decide) wa45 wa46 wa54 wa59 (by decide +kernel)
theorem wa62 : wd Ma 62 = 0xeeaba2cc := wd_next Ma 62 0x7a290d5d 0x065c43da 0xb20f7a99 0xa43fcf15 _ (by decide) wa46 wa47 wa55 wa60 (by decide +kernel)
theorem wa63 : wd Ma 63 = 0x12b1edeb := wd_next Ma 63 0x065c43da 0xfb3e89cb 0xef57b9cd 0x668b2ff8 _ (by decide) wa47 wa48 wa56 wa61 (by decide +kernel)
theorem va0 : V8 (rnd Ma (fa (fun _ => 0)) 0) 0x6a09e667 0xbb67ae85 0x3c6ef372 0xa54ff53a 0x510e527f 0x9b05688c 0x1f83d9ab 0x5be0cd19 := by refine ⟨?_, ?_, ?_, ?_, ?_, ?_, ?_, ?_⟩ <;> decide +kernel
theorem va1 : V8 (rnd Ma (fa (fun _ => 0)) 1) 0x5d6aebcd 0x6a09e667 0xbb67ae85 0x3c6ef372 0xfa2a4622 0x510e527f 0x9b05688c 0x1f83d9ab := va0.next 0x428a2f98 0x61626380 (by decide +kernel) wa0 _ _ (by decide +kernel) (by decide +kernel)
theorem va2 : V8 (rnd Ma (fa (fun _ => 0)) 2) 0x5a6ad9ad 0x5d6aebcd 0x6a09e667 0xbb67ae85 0x78ce7989 0xfa2a4622 0x510e527f 0x9b05688c := va1.next 0x71374491 0x00000000 (by decide +kernel) wa1 _ _ (by decide +kernel) (by decide +kernel)
theorem va3 : V8 (rnd Ma (fa (fun _ => 0)) 3) 0xc8c347a7 0x5a6ad9ad 0x5d6aebcd 0x6a09e667 0xf92939eb 0x78ce7989 0xfa2a4622 0x510e527f := va2.next 0xb5c0fbcf 0x00000000 (by decide +kernel) wa2 _ _ (by decide +kernel) (by decide +kernel)
theorem va4 : V8 (rnd Ma (fa (fun _ => 0)) 4) 0xd550f666 0xc8c347a7 0x5a6ad9ad 0x5d6aebcd 0x24e00850 0xf92939eb 0x78ce7989 0xfa2a4622 := va3.next 0xe9b5dba5 0x00000000 (by decide +kernel) wa3 _ _ (by decide +kernel) (by decide +kernel)
theorem va5 : V8 (rnd Ma (fa (fun _ => 0)) 5) 0x04409a6a 0xd550f666 0xc8c347a7 0x5a6ad9ad 0x43ada245 0x24e00850 0xf92939eb 0x78ce7989 := va4.next 0x3956c25b 0x00000000 (by decide +kernel) wa4 _ _ (by decide +kernel) (by decide +kernel)
theorem va6 : V8 (rnd Ma (fa (fun _ => 0)) 6) 0x2b4209f5 0x04409a6a 0xd550f666 0xc8c347a7 0x714260ad 0x43ada245 0x24e00850 0xf92939eb := va5.next 0x59f111f1 0x00000000 (by decide +kernel) wa5 _ _ (by decide +kernel) (by decide +kernel)
theorem va7 : V8 (rnd Ma (fa (fun _ => 0)) 7) 0xe5030380 0x2b4209f5 0x04409a6a 0xd550f666 0x9b27a401 0x714260ad 0x43ada245 0x24e00850 := va6.next 0x923f82a4 0x00000000 (by decide +kernel) wa6 _ _ (by decide +kernel) (by decide +kernel)
theorem va8 : V8 (rnd Ma (fa (fun _ => 0)) 8) 0x85a07b5f 0xe5030380 0x2b4209f5 0x04409a6a 0x0c657a79 0x9b27a401 0x714260ad 0x43ada245 := va7.next 0xab1c5ed5 0x00000000 (by decide +kernel) wa7 _ _ (by decide +kernel) (by decide +kernel)
theorem va9 : V8 (rnd Ma (fa (fun _ => 0)) 9) 0x8e04ecb9 0x85a07b5f 0xe5030380 0x2b4209f5 0x32ca2d8c 0x0c657a79 0x9b27a401 0x714260ad := va8.next 0xd807aa98 0x00000000 (by decide +kernel) wa8 _ _ (by decide +kernel) (by decide +kernel)
theorem va10 : V8 (rnd Ma (fa (fun _ => 0)) 10) 0x8c87346b 0x8e04ecb9 0x85a07b5f 0xe5030380 0x1cc92596 0x32ca2d8c 0x0c657a79 0x9b27a401 := va9.next 0x12835b01 0x00000000 (by decide +kernel) wa9 _ _ (by decide +kernel) (by decide +kernel)
theorem va11 : V8 (rnd Ma (fa (fun _ => 0)) 11) 0x4798a3f4 0x8c87346b 0x8e04ecb9 0x85a07b5f 0x436b23e8 0x1cc92596 0x32ca2d8c 0x0c657a79 := va10.next 0x243185be 0x00000000 (by decide +kernel) wa10 _ _ (by decide +kernel) (by decide +kernel)
theorem va12 : V8 (rnd Ma (fa (fun _ => 0)) 12) 0xf71fc5a9 0x4798a3f4 0x8c87346b 0x8e04ecb9 0x816fd6e9 0x436b23e8 0x1cc92596 0x32ca2d8c := va11.next 0x550c7dc3 0x00000000 (by decide +kernel) wa11 _ _ (by decide +kernel) (by decide +kernel)
theorem va13 : V8 (rnd Ma (fa (fun _ => 0)) 13) 0x87912990 0xf71fc5a9 0x4798a3f4 0x8c87346b 0x1e578218 0x816fd6e9 0x436b23e8 0x1cc92596 := va12.next 0x72be5d74 0x00000000 (by decide +kernel) wa12 _ _ (by decide +kernel) (by decide +kernel)
theorem va14 : V8 (rnd Ma (fa (fun _ => 0)) 14) 0xd932eb16 0x87912990 0xf71fc5a9 0x4798a3f4 0x745a48de 0x1e578218 0x816fd6e9 0x436b23e8 := va13.next 0x80deb1fe 0x00000000 (by decide +kernel) wa13 _ _ (by decide +kernel) (by decide +kernel)
theorem va15 : V8 (rnd Ma (fa (fun _ => 0)) 15) 0xc0645fde 0xd932eb16 0x87912990 0xf71fc5a9 0x0b92f20c 0x745a48de 0x1e578218 0x816fd6e9 := va14.next 0x9bdc06a7 0x00000000 (by decide +kernel) wa14 _ _ (by decide +kernel) (by decide +kernel)
theorem va16 : V8 (rnd Ma (fa (fun _ => 0)) 16) 0xb0fa238e 0xc0645fde 0xd932eb16 0x87912990 0x07590dcd 0x0b92f20c 0x745a48de 0x1e578218 := va15.next 0xc19bf174 0x00000018 (by decide +kernel) wa15 _ _ (by decide +kernel) (by decide +kernel)
theorem va17 : V8 (rnd Ma (fa (fun _ => 0)) 17) 0x21da9a9b 0xb0fa238e 0xc0645fde 0xd932eb16 0x8034229c 0x07590dcd 0x0b92f20c 0x745a48de := va16.next 0xe49b69c1 0x61626380 (by decide +kernel) wa16 _ _ (by decide +kernel) (by decide +kernel)
theorem va18 : V8 (rnd Ma (fa (fun _ => 0)) 18) 0xc2fbd9d1 0x21da9a9b 0xb0fa238e 0xc0645fde 0x846ee454 0x8034229c 0x07590dcd 0x0b92f20c := va17.next 0xefbe4786 0x000f0000 (by decide +kernel) wa17 _ _ (by decide +kernel) (by decide +kernel)
theorem va19 : V8 (rnd Ma (fa (fun _ => 0)) 19) 0xfe777bbf 0xc2fbd9d1 0x21da9a9b 0xb0fa238e 0xcc899961 0x846ee454 0x8034229c 0x07590dcd := va18.next 0x0fc19dc6 0x7da86405 (by decide +kernel) wa18 _ _ (by decide +kernel) (by decide +kernel)
theorem va20 : V8 (rnd Ma (fa (fun _ => 0)) 20) 0xe1f20c33 0xfe777bbf 0xc2fbd9d1 0x21da9a9b 0xb0638179 0xcc899961 0x846ee454 0x8034229c := va19.next 0x240ca1cc 0x600003c6 (by decide +kernel) wa19 _ _ (by decide +kernel) (by decide +kernel)
theorem va21 : V8 (rnd Ma (fa (fun _ => 0)) 21) 0x9dc68b63 0xe1f20c33 0xfe777bbf 0xc2fbd9d1 0x8ada8930 0xb0638179 0xcc899961 0x846ee454 := va20.next 0x2de92c6f 0x3e9d7b78 (by decide +kernel) wa20 _ _ (by decide +kernel) (by decide +kernel)
theorem va22 : V8 (rnd Ma (fa (fun _ => 0)) 22) 0xc2606d6d 0x9dc68b63 0xe1f20c33 0xfe777bbf 0xe1257970 0x8ada8930 0xb0638179 0xcc899961 := va21.next 0x4a7484aa 0x0183fc00 (by decide +kernel) wa21 _ _ (by decide +kernel) (by decide +kernel)
theorem va23 : V8 (rnd Ma (fa (fun _ => 0)) 23) 0xa7a3623f 0xc2606d6d 0x9dc68b63 0xe1f20c33 0x49f5114a 0xe1257970 0x8ada8930 0xb0638179 := va22.next 0x5cb0a9dc 0x12dcbfdb (by decide +kernel) wa22 _ _ (by decide +kernel) (by decide +kernel)
theorem va24 : V8 (rnd Ma (fa (fun _ => 0)) 24) 0xc5d53d8d 0xa7a3623f 0xc2606d6d 0x9dc68b63 0xaa47c347 0x49f5114a 0xe1257970 0x8ada8930 := va23.next 0x76f988da 0xe2e2c38e (by decide +kernel) wa23 _ _ (by decide +kernel) (by decide +kernel)
theorem va25 : V8 (rnd Ma (fa (fun _ => 0)) 25) 0x1c2c2838 0xc5d53d8d 0xa7a3623f 0xc2606d6d 0x2823ef91 0xaa47c347 0x49f5114a 0xe1257970 := va24.next 0x983e5152 0xc8215c1a (by decide +kernel) wa24 _ _ (by decide +kernel) (by decide +kernel)
theorem va26 : V8 (rnd Ma (fa (fun _ => 0)) 26) 0xcde8037d 0x1c2c2838 0xc5d53d8d 0xa7a3623f 0x14383d8e 0x2823ef91 0xaa47c347 0x49f5114a := va25.next 0xa831c66d 0xb73679a2 (by decide +kernel) wa25 _ _ (by decide +kernel) (by decide +kernel)
theorem va27 : V8 (rnd Ma (fa (fun _ => 0)) 27) 0xb62ec4bc 0xcde8037d 0x1c2c2838 0xc5d53d8d 0xc74c6516 0x14383d8e 0x2823ef91 0xaa47c347 := va26.next 0xb00327c8 0xe5bc3909 (by decide +kernel) wa26 _ _ (by decide +kernel) (by decide +kernel)
theorem va28 : V8 (rnd Ma (fa (fun _ => 0)) 28) 0x77d37528 0xb62ec4bc 0xcde8037d 0x1c2c2838 0xedffbff8 0xc74c6516 0x14383d8e 0x2823ef91 := va27.next 0xbf597fc7 0x32663c5b (by decide +kernel) wa27 _ _ (by decide +kernel) (by decide +kernel)
theorem va29 : V8 (rnd Ma (fa (fun _ => 0)) 29) 0x363482c9 0x77d37528 0xb62ec4bc 0xcde8037d 0x6112a3b7 0xedffbff8 0xc74c6516 0x14383d8e := va28.next 0xc6e00bf3 0x9d209d67 (by decide +kernel) wa28 _ _ (by decide +kernel) (by decide +kernel)
theorem va30 : V8 (rnd Ma (fa (fun _ => 0)) 30) 0xa0060b30 0x363482c9 0x77d37528 0xb62ec4bc 0xade79437 0x6112a3b7 0xedffbff8 0xc74c6516 := va29.next 0xd5a79147 0xec8726cb (by decide +kernel) wa29 _ _ (by decide +kernel) (by decide +kernel)
theorem va31 : V8 (rnd Ma (fa (fun _ => 0)) 31) 0xea992a22 0xa0060b30 0x363482c9 0x77d37528 0x0109ab3a 0xade79437 0x6112a3b7 0xedffbff8 := va30.next 0x06ca6351 0x702138a4 (by decide +kernel) wa30 _ _ (by decide +kernel) (by decide +kernel)
theorem va32 : V8 (rnd Ma (fa (fun _ => 0)) 32) 0x73b33bf5 0xea992a22 0xa0060b30 0x363482c9 0xba591112 0x0109ab3a 0xade79437 0x6112a3b7 := va31.next 0x14292967 0xd3b7973b (by decide +kernel) wa31 _ _ (by decide +kernel) (by decide +kernel)
theorem va33 : V8 (rnd Ma (fa (fun _ => 0)) 33) 0x98e12507 0x73b33bf5 0xea992a22 0xa0060b30 0x9cd9f5f6 0xba591112 0x0109ab3a 0xade79437 := va32.next 0x27b70a85 0x93f5997f (by decide +kernel) wa32 _ _ (by decide +kernel) (by decide +kernel)
theorem va34 : V8 (rnd Ma (fa (fun _ => 0)) 34) 0xfe604df5 0x98e12507 0x73b33bf5 0xea992a22 0x59249dd3 0x9cd9f5f6 0xba591112 0x0109ab3a := va33.next 0x2e1b2138 0x3b68ba73 (by decide +kernel) wa33 _ _ (by decide +kernel) (by decide +kernel)
theorem va35 : V8 (rnd Ma (fa (fun _ => 0)) 35) 0xa9a7738c 0xfe604df5 0x98e12507 0x73b33bf5 0x085f3833 0x59249dd3 0x9cd9f5f6 0xba591112 := va34.next 0x4d2c6dfc 0xaff4ffc1 (by decide +kernel) wa34 _ _ (by decide +kernel) (by decide +kernel)
theorem va36 : V8 (rnd Ma (fa (fun _ => 0)) 36) 0x65a0cfe4 0xa9a7738c 0xfe604df5 0x98e12507 0xf4b002d6 0x085f3833 0x59249dd3 0x9cd9f5f6 := va35.next 0x53380d13 0xf10a5c62 (by decide +kernel) wa35 _ _ (by decide +kernel) (by decide +kernel)
theorem va37 : V8 (rnd Ma (fa (fun _ => 0)) 37) 0x41a65cb1 0x65a0cfe4 0xa9a7738c 0xfe604df5 0x0772a26b 0xf4b002d6 0x085f3833 0x59249dd3 := va36.next 0x650a7354 0x0a8b3996 (by decide +kernel) wa36 _ _ (by decide +kernel) (by decide +kernel)
theorem va38 : V8 (rnd Ma (fa (fun _ => 0)) 38) 0x34df1604 0x41a65cb1 0x65a0cfe4 0xa9a7738c 0xa507a53d 0x0772a26b 0xf4b002d6 0x085f3833 := va37.next 0x766a0abb 0x72af830a (by decide +kernel) wa37 _ _ (by decide +kernel) (by decide +kernel)
theorem va39 : V8 (rnd Ma (fa (fun _ => 0)) 39) 0x6dc57a8a 0x34df1604 0x41a65cb1 0x65a0cfe4 0xf0781bc8 0xa507a53d 0x0772a26b 0xf4b002d6 := va38.next 0x81c2c92e 0x9409e33e (by decide +kernel) wa38 _ _ (by decide +kernel) (by decide +kernel)
theorem va40 : V8 (rnd Ma (fa (fun _ => 0)) 40) 0x79ea687a 0x6dc57a8a 0x34df1604 0x41a65cb1 0x1efbc0a0 0xf0781bc8 0xa507a53d 0x0772a26b := va39.next 0x92722c85 0x24641522 (by decide +kernel) wa39 _ _ (by decide +kernel) (by decide +kernel)
theorem va41 : V8 (rnd Ma (fa (fun _ => 0)) 41) 0xd6670766 0x79ea687a 0x6dc57a8a 0x34df1604 0x26352d63 0x1efbc0a0 0xf0781bc8 0xa507a53d := va40.next 0xa2bfe8a1 0x9f47bf94 (by decide +kernel) wa40 _ _ (by decide +kernel) (by decide +kernel)
theorem va42 : V8 (rnd Ma (fa (fun _ => 0)) 42) 0xdf46652f 0xd6670766 0x79ea687a 0x6dc57a8a 0x838b2711 0x26352d63 0x1efbc0a0 0xf0781bc8 := va41.next 0xa81a664b 0xf0a64f5a (by decide +kernel) wa41 _ _ (by decide +kernel) (by decide +kernel)
theorem va43 : V8 (rnd Ma (fa (fun _ => 0)) 43) 0x17aa0dfe 0xdf46652f 0xd6670766 0x79ea687a 0xdecd4715 0x838b2711 0x26352d63 0x1efbc0a0 := va42.next 0xc24b8b70 0x3e246a79 (by decide +kernel) wa42 _ _ (by decide +kernel) (by decide +kernel)
theorem va44 : V8 (rnd Ma (fa (fun _ => 0)) 44) 0x9d4baf93 0x17aa0dfe 0xdf46652f 0xd6670766 0xfda24c2e 0xdecd4715 0x838b2711 0x26352d63 := va43.next 0xc76c51a3 0x27333ba3 (by decide +kernel) wa43 _ _ (by decide +kernel) (by decide +kernel)
theorem va45 : V8 (rnd Ma (fa (fun _ => 0)) 45) 0x26628815 0x9d4baf93 0x17aa0dfe 0xdf46652f 0xa80f11f0 0xfda24c2e 0xdecd4715 0x838b2711 := va44.next 0xd192e819 0x0c4763f2 (by decide +kernel) wa44 _ _ (by decide +kernel) (by decide +kernel)
theorem va46 : V8 (rnd Ma (fa (fun _ => 0)) 46) 0x72ab4b91 0x26628815 0x9d4baf93 0x17aa0dfe 0xb7755da1 0xa80f11f0 0xfda24c2e 0xdecd4715 := va45.next 0xd6990624 0x840abf27 (by decide +kernel) wa45 _ _ (by decide +kernel) (by decide +kernel)
theorem va47 : V8 (rnd Ma (fa (fun _ => 0)) 47) 0xa14c14b0 0x72ab4b91 0x26628815 0x9d4baf93 0xd57b94a9 0xb7755da1 0xa80f11f0 0xfda24c2e := va46.next 0xf40e3585 0x7a290d5d (by decide +kernel) wa46 _ _ (by decide +kernel) (by decide +kernel)
theorem va48 : V8 (rnd Ma (fa (fun _ => 0)) 48) 0x4172328d 0xa14c14b0 0x72ab4b91 0x26628815 0xfecf0bc6 0xd57b94a9 0xb7755da1 0xa80f11f0 := va47.next 0x106aa070 0x065c43da (by decide +kernel) wa47 _ _ (by decide +kernel) (by decide +kernel)
theorem va49 : V8 (rnd Ma (fa (fun _ => 0)) 49) 0x05757ceb 0x4172328d 0xa14c14b0 0x72ab4b91 0xbd714038 0xfecf0bc6 0xd57b94a9 0xb7755da1 := va48.next 0x19a4c116 0xfb3e89cb (by decide +kernel) wa48 _ _ (by decide +kernel) (by decide +kernel)
theorem va50 : V8 (rnd Ma (fa (fun _ => 0)) 50) 0xf11bfaa8 0x05757ceb 0x4172328d 0xa14c14b0 0x6e5c390c 0xbd714038 0xfecf0bc6 0xd57b94a9 := va49.next 0x1e376c08 0xcc7617db (by decide +kernel) wa49 _ _ (by decide +kernel) (by decide +kernel)
theorem va51 : V8 (rnd Ma (fa (fun _ => 0)) 51) 0x7a0508a1 0xf11bfaa8 0x05757ceb 0x4172328d 0x52f1ccf7 0x6e5c390c 0xbd714038 0xfecf0bc6 := va50.next 0x2748774c 0xb9e66c34 (by decide +kernel) wa50 _ _ (by decide +kernel) (by decide +kernel)
theorem va52 : V8 (rnd Ma (fa (fun _ => 0)) 52) 0x886e7a22 0x7a0508a1 0xf11bfaa8 0x05757ceb 0x49231c1e 0x52f1ccf7 0x6e5c390c 0xbd714038 := va51.next 0x34b0bcb5 0xa9993667 (by decide +kernel) wa51 _ _ (by decide +kernel) (by decide +kernel)
theorem va53 : V8 (rnd Ma (fa (fun _ => 0)) 53) 0x101fd28f 0x886e7a22 0x7a0508a1 0xf11bfaa8 0x529e7d00 0x49231c1e 0x52f1ccf7 0x6e5c390c := va52.next 0x391c0cb3 0x84badedd (by decide +kernel) wa52 _ _ (by decide +kernel) (by decide +kernel)
theorem va54 : V8 (rnd Ma (fa (fun _ => 0)) 54) 0xf5702fdb 0x101fd28f 0x886e7a22 0x7a0508a1 0x9f4787c3 0x529e7d00 0x49231c1e 0x52f1ccf7 := va53.next 0x4ed8aa4a 0xc21462bc (by decide +kernel) wa53 _ _ (by decide +kernel) (by decide +kernel)
theorem va55 : V8 (rnd Ma (fa (fun _ => 0)) 55) 0x3ec45cdb 0xf5702fdb 0x101fd28f 0x886e7a22 0xe50e1b4f 0x9f4787c3 0x529e7d00 0x49231c1e := va54.next 0x5b9cca4f 0x1487472c (by decide +kernel) wa54 _ _ (by decide +kernel) (by decide +kernel)
theorem va56 : V8 (rnd Ma (fa (fun _ => 0)) 56) 0x38cc9913 0x3ec45cdb 0xf5702fdb 0x101fd28f 0x54cb266b 0xe50e1b4f 0x9f4787c3 0x529e7d00 := va55.next 0x682e6ff3 0xb20f7a99 (by decide +kernel) wa55 _ _ (by decide +kernel) (by decide +kernel)
theorem va57 : V8 (rnd Ma (fa (fun _ => 0)) 57) 0xfcd1887b 0x38cc9913 0x3ec45cdb 0xf5702fdb 0x9b5e906c 0x54cb266b 0xe50e1b4f 0x9f4787c3 := va56.next 0x748f82ee 0xef57b9cd (by decide +kernel) wa56 _ _ (by decide +kernel) (by decide +kernel)
theorem va58 : V8 (rnd Ma (fa (fun _ => 0)) 58) 0xc062d46f 0xfcd1887b 0x38cc9913 0x3ec45cdb 0x7e44008e 0x9b5e906c 0x54cb266b 0xe50e1b4f := va57.next 0x78a5636f 0xebe6b238 (by decide +kernel) wa57 _ _ (by decide +kernel) (by decide +kernel)
theorem va59 : V8 (rnd Ma (fa (fun _ => 0)) 59) 0xffb70472 0xc062d46f 0xfcd1887b 0x38cc9913 0x6d83bfc6 0x7e44008e 0x9b5e906c 0x54cb266b := va58.next 0x84c87814 0x9fe3095e (by decide +kernel) wa58 _ _ (by decide +kernel) (by decide +kernel)
theorem va60 : V8 (rnd Ma (fa (fun _ => 0)) 60) 0xb6ae8fff 0xffb70472 0xc062d46f 0xfcd1887b 0xb21bad3d 0x6d83bfc6 0x7e44008e 0x9b5e906c := va59.next 0x8cc70208 0x78bc8d4b (by decide +kernel) wa59 _ _ (by decide +kernel) (by decide +kernel)
theorem va61 : V8 (rnd Ma (fa (fun _ => 0)) 61) 0xb85e2ce9 0xb6ae8fff 0xffb70472 0xc062d46f 0x961f4894 0xb21bad3d 0x6d83bfc6 0x7e44008e := va60.next 0x90befffa 0xa43fcf15 (by decide +kernel) wa60 _ _ (by decide +kernel) (by decide +kernel)
theorem va62 : V8 (rnd Ma (fa (fun _ => 0)) 62) 0x04d24d6c 0xb85e2ce9 0xb6ae8fff 0xffb70472 0x948d25b6 0x961f4894 0xb21bad3d 0x6d83bfc6 := va61.next 0xa4506ceb 0x668b2ff8 (by decide +kernel) wa61 _ _ (by decide +kernel) (by decide +kernel)
theorem va63 : V8 (rnd Ma (fa (fun _ => 0)) 63) 0xd39a2165 0x04d24d6c 0xb85e2ce9 0xb6ae8fff 0xfb121210 0x948d25b6 0x961f4894 0xb21bad3d := va62.next 0xbef9a3f7 0xeeaba2cc (by decide +kernel) wa62 _ _ (by decide +kernel) (by decide +kernel)
theorem va64 : V8 (rnd Ma (fa (fun _ => 0)) 64) 0x506e3058 0xd39a2165 0x04d24d6c 0xb85e2ce9 0x5ef50f24 0xfb121210 0x948d25b6 0x961f4894 := va63.next 0xc67178f2 0x12b1edeb (by decide +kernel) wa63 _ _ (by decide +kernel) (by decide +kernel)
theorem suma : sumF La = [98, 97, 55, 56, 49, 54, 98, 102, 56, 102, 48, 49, 99, 102, 101, 97, 52, 49, 52, 49, 52, 48, 100, 101, 53, 100, 97, 101, 50, 50, 50, 51, 98, 48, 48, 51, 54, 49, 97, 51, 57, 54, 49, 55, 55, 97, 57, 99, 98, 52, 49, 48, 102, 102, 54, 49, 102, 50, 48, 48, 49, 53, 97, 100] := by
  have h : hexS (wordsF (La ++ padB La.length)) 8 = hexS (fun i => [0xba7816bf, 0x8f01cfea, 0x414140de, 0x5dae2223, 0xb00361a3, 0x96177a9c, 0xb410ff61, 0xf20015ad].getD i 0) 8 := hexS_congr 8 fun i hi => by
    obtain ⟨h0, h1, h2, h3, h4, h5, h6, h7⟩ := va64
    have e : wordsF (La ++ padB La.length) i = fs i + (0 + rnd Ma (fa (fun _ => 0)) 64 i) := rfl
    rw [e]
    have hi8 : i = 0 ∨ i = 1 ∨ i = 2 ∨ i = 3 ∨ i = 4 ∨ i = 5 ∨ i = 6 ∨ i = 7 := by omega
    rcases hi8 with rfl | rfl | rfl | rfl | rfl | rfl | rfl | rfl
    · rw [h0]; decide +kernel
    · rw [h1]; decide +kernel
    · rw [h2]; decide +kernel
    · rw [h3]; decide +kernel
    · rw [h4]; decide +kernel
    · rw [h5]; decide +kernel
    · rw [h6]; decide +kernel
    · rw [h7]; decide +kernel
  unfold sumF
  rw [h]
  decide +kernel
def Le : List UInt8 := []
def Me : Nat → UInt8 := blk (Le ++ padB 0) 0
theorem we0 : wd Me 0 = 0x80000000 := by rw [wd_lo _ _ (by decide)]; decide +kernel
theorem we1 : wd Me 1 = 0x00000000 := by rw [wd_lo _ _ (by decide)]; decide +kernel
theorem we2 : wd Me 2 = 0x00000000 := by rw [wd_lo _ _ (by decide)]; decide +kernel
theorem we3 : wd Me 3 = 0x00000000 := by rw [wd_lo _ _ (by decide)]; decide +kernel
theorem we4 : wd Me 4 = 0x00000000 := by rw [wd_lo _ _ (by decide)]; decide +kernel
theorem we5 : wd Me 5 = 0x00000000 := by rw [wd_lo _ _ (by decide)]; decide +kernel
theorem we6 : wd Me 6 = 0x00000000 := by rw [wd_lo _ _ (by decide)]; decide +kernel
theorem we7 : wd Me 7 = 0x00000000 := by rw [wd_lo _ _ (by decide)]; decide +kernel
theorem we8 : wd Me 8 = 0x00000000 := by rw [wd_lo _ _ (by decide)]; decide +kernel
theorem we9 : wd Me 9 = 0x00000000 := by rw [wd_lo _ _ (by decide)]; decide +kernel
theorem we10 : wd Me 10 = 0x00000000 := by rw [wd_lo _ _ (by decide)]; decide +kernel
theorem we11 : wd Me 11 = 0x00000000 := by rw [wd_lo _ _ (by decide)]; decide +kernel
theorem we12 : wd Me 12 = 0x00000000 := by rw [wd_lo _ _ (by decide)]; decide +kernel
theorem we13 : wd Me 13 = 0x00000000 := by rw [wd_lo _ _ (by decide)]; decide +kernel
theorem we14 : wd Me 14 = 0x00000000 := by rw [wd_lo _ _ (by decide)]; decide +kernel
theorem we15 : wd Me 15 = 0x00000000 := by rw [wd_lo _ _ (by decide)]; decide +kernel
theorem we16 : wd Me 16 = 0x80000000 := wd_next Me 16 0x80000000 0x00000000 0x00000000 0x00000000 _ (by decide) we0 we1 we9 we14 (by decide +kernel)
theorem we17 : wd Me 17 = 0x00000000 := wd_next Me 17 0x00000000 0x00000000 0x00000000 0x00000000 _ (by decide) we1 we2 we10 we15 (by decide +kernel)
theorem we18 : wd Me 18 = 0x00205000 := wd_next Me 18 0x00000000 0x00000000 0x00000000 0x80000000 _ (by decide) we2 we3 we11 we16 (by decide +kernel)
theorem we19 : wd Me 19 = 0x00000000 := wd_next Me 19 0x00000000 0x00000000 0x00000000 0x00000000 _ (by decide) we3 we4 we12 we17 (by decide +kernel)
theorem we20 : wd Me 20 = 0x22000800 := wd_next Me 20 0x00000000 0x00000000 0x00000000 0x00205000 _ (by decide) we4 we5 we13 we18 (by decide +kernel)
theorem we21 : wd Me 21 = 0x00000000 := wd_next Me 21 0x00000000 0x00000000 0x00000000 0x00000000 _ (by decide) we5 we6 we14 we19 (by decide +kernel)
theorem we22 : wd Me 22 = 0x05089542 := wd_next Me 22 0x00000000 0x00000000 0x00000000 0x22000800 _ (by decide) we6 we7 we15 we20 (by decide +kernel)
theorem we23 : wd Me 23 = 0x80000000 := wd_next Me 23 0x00000000 0x00000000 0x80000000 0x00000000 _ (by decide) we7 we8 we16 we21 (by decide +kernel)
theorem we24 : wd Me 24 = 0x58080000 := wd_next Me 24 0x00000000 0x00000000 0x00000000 0x05089542 _ (by decide) we8 we9 we17 we22 (by decide +kernel)
theorem we25 : wd Me 25 = 0x0040a000 := wd_next Me 25 0x00000000 0x00000000 0x00205000 0x80000000 _ (by decide) we9 we10 we18 we23 (by decide +kernel)
theorem we26 : wd Me 26 = 0x00162505 := wd_next Me 26 0x00000000 0x00000000 0x00000000 0x58080000 _ (by decide) we10 we11 we19 we24 (by decide +kernel)
theorem we27 : wd Me 27 = 0x66001800 := wd_next Me 27 0x00000000 0x00000000 0x22000800 0x0040a000 _ (by decide) we11 we12 we20 we25 (by decide +kernel)
theorem we28 : wd Me 28 = 0xd6222580 := wd_next Me 28 0x00000000 0x00000000 0x00000000 0x00162505 _ (by decide) we12 we13 we21 we26 (by decide +kernel)
theorem we29 : wd Me 29 = 0x14225508 := wd_next Me 29 0x00000000 0x00000000 0x05089542 0x66001800 _ (by decide) we13 we14 we22 we27 (by decide +kernel)
theorem we30 : wd Me 30 = 0xd645f95c := wd_next Me 30 0x00000000 0x00000000 0x80000000 0xd6222580 _ (by decide) we14 we15 we23 we28 (by decide +kernel)
theorem we31 : wd Me 31 = 0xc9282000 := wd_next Me 31 0x00000000 0x80000000 0x58080000 0x14225508 _ (by decide) we15 we16 we24 we29 (by decide +kernel)
theorem we32 : wd Me 32 = 0xc3f10094 := wd_next Me 32 0x80000000 0x00000000 0x0040a000 0xd645f95c _ (by decide) we16 we17 we25 we30 (by decide +kernel)
theorem we33 : wd Me 33 = 0x284ca766 := wd_next Me 33 0x00000000 0x00205000 0x00162505 0xc9282000 _ (by decide) we17 we18 we26 we31 (by decide +kernel)
theorem we34 : wd Me 34 = 0x06886dc6 := wd_next Me 34 0x00205000 0x00000000 0x66001800 0xc3f10094 _ (by decide) we18 we19 we27 we32 (by decide +kernel)
theorem we35 : wd Me 35 = 0xa37bf116 := wd_next Me 35 0x00000000 0x22000800 0xd6222580 0x284ca766 _ (by decide) we19 we20 we28 we33 (by decide +kernel)
theorem we36 : wd Me 36 = 0x717cbe96 := wd_next Me 36 0x22000800 0x00000000 0x14225508 0x06886dc6 _ (by decide) we20 we21 we29 we34 (by decide +kernel)
theorem we37 : wd Me 37 = 0xfec2d74a := wd_next Me 37 0x00000000 0x05089542 0xd645f95c 0xa37bf116 _ (by decide) we21 we22 we30 we35 (by decide +kernel)
theorem we38 : wd Me 38 = 0xa7b67f00 := wd_next Me 38 0x05089542 0x80000000 0xc9282000 0x717cbe96 _ (by decide) we22 we23 we31 we36 (by decide +kernel)
theorem we39 : wd Me 39 = 0x811596a2 := wd_next Me 39 0x80000000 0x58080000 0xc3f10094 0xfec2d74a _ (by decide) we23 we24 we32 we37 (by decide +kernel)
theorem we40 : wd Me 40 = 0x98a6e768 := wd_next Me 40 0x58080000 0x0040a000 0x284ca766 0xa7b67f00 _ (by decide) we24 we25 we33 we38 (by decide +kernel)
theorem we41 : wd Me 41 = 0x03b20c82 := wd_next Me 41 0x0040a000 0x00162505 0x06886dc6 0x811596a2 _ (by decide) we25 we26 we34 we39 (by decide +kernel)
theorem we42 : wd Me 42 = 0x5d1da7c9 := wd_next Me 42 0x00162505 0x66001800 0xa37bf116 0x98a6e768 _ (by decide) we26 we27 we35 we40 (by decide +kernel)
theorem we43 : wd Me 43 = 0xb156b935 := wd_next Me 43 0x66001800 0xd6222580 0x717cbe96 0x03b20c82 _ (by decide) we27 we28 we36 we41 (by decide +kernel)
theorem we44 : wd Me 44 = 0xc3ddca11 := wd_next Me 44 0xd6222580 0x14225508 0xfec2d74a 0x5d1da7c9 _ (by decide) we28 we29 we37 we42 (by decide +kernel)
theorem we45 : wd Me 45 = 0x249c107f := wd_next Me 45 0x14225508 0xd645f95c 0xa7b67f00 0xb156b935 _ (by decide) we29 we30 we38 we43 (by decide +kernel)
theorem we46 : wd Me 46 = 0xc48d24ef := wd_next Me 46 0xd645f95c 0xc9282000 0x811596a2 0xc3ddca11 _ (by decide) we30 we31 we39 we44 (by decide +kernel)
theorem we47 : wd Me 47 = 0x5de54c30 := wd_next Me 47 0xc9282000 0xc3f10094 0x98a6e768 0x249c107f _ (by decide) we31 we32 we40 we45 (by decide +kernel)
theorem we48 : wd Me 48 = 0xdefece65 := wd_next Me 48 0xc3f10094 0x284ca766 0x03b20c82 0xc48d24ef _ (by decide) we32 we33 we41 we46 (by decide +kernel)
theorem we49 : wd Me 49 = 0x2ca1480d := wd_next Me 49 0x284ca766 0x06886dc6 0x5d1da7c9 0x5de54c30 _ (by decide) we33 we34 we42 we47 (by decide +kernel)
theorem we50 : wd Me 50 = 0x3c15332c := wd_next Me 50 0x06886dc6 0xa37bf116 0xb156b935 0xdefece65 _ (by decide) we34 we35 we43 we48 (by decide +kernel)
theorem we51 : wd Me 51 = 0x01cec9ad := wd_next Me 51 0xa37bf116 0x717cbe96 0xc3ddca11 0x2ca1480d _ (by decide) we35 we36 we44 we49 (by decide +kernel)
theorem we52 : wd Me 52 = 0x160cccd0 := wd_next Me 52 0x717cbe96 0xfec2d74a 0x249c107f 0x3c15332c _ (by decide) we36 we37 we45 we50 (by decide +kernel)
theorem we53 : wd Me 53 = 0x0bacda98 := wd_next Me 53 0xfec2d74a 0xa7b67f00 0xc48d24ef 0x01cec9ad _ (by decide) we37 we38 we46 we51 (by decide +kernel)
theorem we54 : wd Me 54 = 0x361b8fe0 := wd_next Me 54 0xa7b67f00 0x811596a2 0x5de54c30 0x160cccd0 _ (by decide) we38 we39 we47 we52 (by decide +kernel)
theorem we55 : wd Me 55 = 0xd2320ba6 := wd_next Me 55 0x811596a2 0x98a6e768 0xdefece65 0x0bacda98 _ (by decide) we39 we40 we48 we53 (by decide +kernel)
theorem we56 : wd Me 56 = 0x029b7007 := wd_next Me 56 0x98a6e768 0x03b20c82 0x2ca1480d 0x361b8fe0 _ (by decide) we40 we41 we49 we54 (by decide +kernel)
theorem we57 : wd Me 57 = 0x7546587c := wd_next Me 57 0x03b20c82 0x5d1da7c9 0x3c15332c 0xd2320ba6 _ (by decide) we41 we42 we50 we55 (by decide +kernel)
theorem we58 : wd Me 58 = 0x07f54f39 := wd_next Me 58 0x5d1da7c9 0xb156b935 0x01cec9ad 0x029b7007 _ (by decide) we42 we43 we51 we56 (by decide +kernel)
theorem we59 : wd Me 59 = 0xf808ddc3 := wd_next Me 59 0xb156b935 0xc3ddca11 0x160cccd0 0x7546587c _ (by decide) we43 we44 we52 we57 (by decide +kernel)
theorem we60 : wd Me 60 = 0xdcca7608 := wd_next Me 60 0xc3ddca11 0x249c107f 0x0bacda98 0x07f54f39 _ (by decide) we44 we45 we53 we58 (by decide +kernel)
theorem we61 : wd Me 61 = 0x5e427188 := wd_next Me 61 0x249c107f 0xc48d24ef 0x361b8fe0 0xf808ddc3 _ (by decide) we45 we46 we54 we59 (by decide +kernel)
theorem we62 : wd Me 62 = 0x44bcec5d := wd_next Me 62 0xc48d24ef 0x5de54c30 0xd2320ba6 0xdcca7608 _ (by decide) we46 we47 we55 we60 (by decide +kernel)
theorem we63 : wd Me 63 = 0x3b5ec49b := wd_next Me 63 0x5de54c30 0xdefece65 0x029b7007 0x5e427188 _ (by decide) we47 we48 we56 we61 (by decide +kernel)
theorem ve0 : V8 (rnd Me (fa (fun _ => 0)) 0) 0x6a09e667 0xbb67ae85 0x3c6ef372 0xa54ff53a 0x510e527f 0x9b05688c 0x1f83d9ab 0x5be0cd19 := by refine ⟨?_, ?_, ?_, ?_, ?_, ?_, ?_, ?_⟩ <;> decide +kernel
theorem ve1 : V8 (rnd Me (fa (fun _ => 0)) 1) 0x7c08884d 0x6a09e667 0xbb67ae85 0x3c6ef372 0x18c7e2a2 0x510e527f 0x9b05688c 0x1f83d9ab := ve0.next 0x428a2f98 0x80000000 (by decide +kernel) we0 _ _ (by decide +kernel) (by decide +kernel)
theorem ve2 : V8 (rnd Me (fa (fun _ => 0)) 2) 0x9ce564d0 0x7c08884d 0x6a09e667 0xbb67ae85 0x2001b256 0x18c7e2a2 0x510e527f 0x9b05688c := ve1.next 0x71374491 0x00000000 (by decide +kernel) we1 _ _ (by decide +kernel) (by decide +kernel)
theorem ve3 : V8 (rnd Me (fa (fun _ => 0)) 3) 0xc4ac5526 0x9ce564d0 0x7c08884d 0x6a09e667 0x6fdb22fa 0x2001b256 0x18c7e2a2 0x510e527f := ve2.next 0xb5c0fbcf 0x00000000 (by decide +kernel) we2 _ _ (by decide +kernel) (by decide +kernel)
theorem ve4 : V8 (rnd Me (fa (fun _ => 0)) 4) 0x4c23eacb 0xc4ac5526 0x9ce564d0 0x7c08884d 0x3037e1b5 0x6fdb22fa 0x2001b256 0x18c7e2a2 := ve3.next 0xe9b5dba5 0x00000000 (by decide +kernel) we3 _ _ (by decide +kernel) (by decide +kernel)
theorem ve5 : V8 (rnd Me (fa (fun _ => 0)) 5) 0x4366f730 0x4c23eacb 0xc4ac5526 0x9ce564d0 0xe7d0641e 0x3037e1b5 0x6fdb22fa 0x2001b256 := ve4.next 0x3956c25b 0x00000000 (by decide +kernel) we4 _ _ (by decide +kernel) (by decide +kernel)
theorem ve6 : V8 (rnd Me (fa (fun _ => 0)) 6) 0x292e3b42 0x4366f730 0x4c23eacb 0xc4ac5526 0x4f6540fa 0xe7d0641e 0x3037e1b5 0x6fdb22fa := ve5.next 0x59f111f1 0x00000000 (by decide +kernel) we5 _ _ (by decide +kernel) (by decide +kernel)
theorem ve7 : V8 (rnd Me (fa (fun _ => 0)) 7) 0xf0205590 0x292e3b42 0x4366f730 0x4c23eacb 0x82ede06f 0x4f6540fa 0xe7d0641e 0x3037e1b5 := ve6.next 0x923f82a4 0x00000000 (by decide +kernel) we6 _ _ (by decide +kernel) (by decide +kernel)
theorem ve8 : V8 (rnd Me (fa (fun _ => 0)) 8) 0x7ad5b1b6 0xf0205590 0x292e3b42 0x4366f730 0x53f94dcb 0x82ede06f 0x4f6540fa 0xe7d0641e := ve7.next 0xab1c5ed5 0x00000000 (by decide +kernel) we7 _ _ (by decide +kernel) (by decide +kernel)
theorem ve9 : V8 (rnd Me (fa (fun _ => 0)) 9) 0xf52d63a5 0x7ad5b1b6 0xf0205590 0x292e3b42 0x7aafc618 0x53f94dcb 0x82ede06f 0x4f6540fa := ve8.next 0xd807aa98 0x00000000 (by decide +kernel) we8 _ _ (by decide +kernel) (by decide +kernel)
theorem ve10 : V8 (rnd Me (fa (fun _ => 0)) 10) 0xefe8bf51 0xf52d63a5 0x7ad5b1b6 0xf0205590 0x53072289 0x7aafc618 0x53f94dcb 0x82ede06f := ve9.next 0x12835b01 0x00000000 (by decide +kernel) we9 _ _ (by decide +kernel) (by decide +kernel)
theorem ve11 : V8 (rnd Me (fa (fun _ => 0)) 11) 0x158bb921 0xefe8bf51 0xf52d63a5 0x7ad5b1b6 0xe23643ce 0x53072289 0x7aafc618 0x53f94dcb := ve10.next 0x243185be 0x00000000 (by decide +kernel) we10 _ _ (by decide +kernel) (by decide +kernel)
theorem ve12 : V8 (rnd Me (fa (fun _ => 0)) 12) 0xf5434c40 0x158bb921 0xefe8bf51 0xf52d63a5 0xd7e07c92 0xe23643ce 0x53072289 0x7aafc618 := ve11.next 0x550c7dc3 0x00000000 (by decide +kernel) we11 _ _ (by decide +kernel) (by decide +kernel)
theorem ve13 : V8 (rnd Me (fa (fun _ => 0)) 13) 0x2102d2cd 0xf5434c40 0x158bb921 0xefe8bf51 0xcdfdfe52 0xd7e07c92 0xe23643ce 0x53072289 := ve12.next 0x72be5d74 0x00000000 (by decide +kernel) we12 _ _ (by decide +kernel) (by decide +kernel)
theorem ve14 : V8 (rnd Me (fa (fun _ => 0)) 14) 0x45c013a7 0x2102d2cd 0xf5434c40 0x158bb921 0x2b427296 0xcdfdfe52 0xd7e07c92 0xe23643ce := ve13.next 0x80deb1fe 0x00000000 (by decide +kernel) we13 _ _ (by decide +kernel) (by decide +kernel)
theorem ve15 : V8 (rnd Me (fa (fun _ => 0)) 15) 0xb88afddb 0x45c013a7 0x2102d2cd 0xf5434c40 0x1ccfac39 0x2b427296 0xcdfdfe52 0xd7e07c92 := ve14.next 0x9bdc06a7 0x00000000 (by decide +kernel) we14 _ _ (by decide +kernel) (by decide +kernel)
theorem ve16 : V8 (rnd Me (fa (fun _ => 0)) 16) 0xb40085b5 0xb88afddb 0x45c013a7 0x2102d2cd 0x5cb8e863 0x1ccfac39 0x2b427296 0xcdfdfe52 := ve15.next 0xc19bf174 0x00000000 (by decide +kernel) we15 _ _ (by decide +kernel) (by decide +kernel)
theorem ve17 : V8 (rnd Me (fa (fun _ => 0)) 17) 0x470d554a 0xb40085b5 0xb88afddb 0x45c013a7 0x70d43aa7 0x5cb8e863 0x1ccfac39 0x2b427296 := ve16.next 0xe49b69c1 0x80000000 (by decide +kernel) we16 _ _ (by decide +kernel) (by decide +kernel)
theorem ve18 : V8 (rnd Me (fa (fun _ => 0)) 18) 0xdd999a2b 0x470d554a 0xb40085b5 0xb88afddb 0x608c93d3 0x70d43aa7 0x5cb8e863 0x1ccfac39 := ve17.next 0xefbe4786 0x00000000 (by decide +kernel) we17 _ _ (by decide +kernel) (by decide +kernel)
theorem ve19 : V8 (rnd Me (fa (fun _ => 0)) 19) 0x3067996a 0xdd999a2b 0x470d554a 0xb40085b5 0xd398dcea 0x608c93d3 0x70d43aa7 0x5cb8e863 := ve18.next 0x0fc19dc6 0x00205000 (by decide +kernel) we18 _ _ (by decide +kernel) (by decide +kernel)
theorem ve20 : V8 (rnd Me (fa (fun _ => 0)) 20) 0x0a480908 0x3067996a 0xdd999a2b 0x470d554a 0x900d27ac 0xd398dcea 0x608c93d3 0x70d43aa7 := ve19.next 0x240ca1cc 0x00000000 (by decide +kernel) we19 _ _ (by decide +kernel) (by decide +kernel)
theorem ve21 : V8 (rnd Me (fa (fun _ => 0)) 21) 0x75c7f0d8 0x0a480908 0x3067996a 0xdd999a2b 0x39953ccd 0x900d27ac 0xd398dcea 0x608c93d3 := ve20.next 0x2de92c6f 0x22000800 (by decide +kernel) we20 _ _ (by decide +kernel) (by decide +kernel)
theorem ve22 : V8 (rnd Me (fa (fun _ => 0)) 22) 0x99a6cb19 0x75c7f0d8 0x0a480908 0x3067996a 0xc287981e 0x39953ccd 0x900d27ac 0xd398dcea := ve21.next 0x4a7484aa 0x00000000 (by decide +kernel) we21 _ _ (by decide +kernel) (by decide +kernel)
theorem ve23 : V8 (rnd Me (fa (fun _ => 0)) 23) 0x404d8054 0x99a6cb19 0x75c7f0d8 0x0a480908 0xb1653710 0xc287981e 0x39953ccd 0x900d27ac := ve22.next 0x5cb0a9dc 0x05089542 (by decide +kernel) we22 _ _ (by decide +kernel) (by decide +kernel)
theorem ve24 : V8 (rnd Me (fa (fun _ => 0)) 24) 0x985bed55 0x404d8054 0x99a6cb19 0x75c7f0d8 0x2c2c028d 0xb1653710 0xc287981e 0x39953ccd := ve23.next 0x76f988da 0x80000000 (by decide +kernel) we23 _ _ (by decide +kernel) (by decide +kernel)
theorem ve25 : V8 (rnd Me (fa (fun _ => 0)) 25) 0x7af6d48d 0x985bed55 0x404d8054 0x99a6cb19 0xf55f8c25 0x2c2c028d 0xb1653710 0xc287981e := ve24.next 0x983e5152 0x58080000 (by decide +kernel) we24 _ _ (by decide +kernel) (by decide +kernel)
theorem ve26 : V8 (rnd Me (fa (fun _ => 0)) 26) 0xc5b814ae 0x7af6d48d 0x985bed55 0x404d8054 0xe57ac3f4 0xf55f8c25 0x2c2c028d 0xb1653710 := ve25.next 0xa831c66d 0x0040a000 (by decide +kernel) we25 _ _ (by decide +kernel) (by decide +kernel)
theorem ve27 : V8 (rnd Me (fa (fun _ => 0)) 27) 0x2c8b2ab9 0xc5b814ae 0x7af6d48d 0x985bed55 0x9f934283 0xe57ac3f4 0xf55f8c25 0x2c2c028d := ve26.next 0xb00327c8 0x00162505 (by decide +kernel) we26 _ _ (by decide +kernel) (by decide +kernel)
theorem ve28 : V8 (rnd Me (fa (fun _ => 0)) 28) 0x6d8cc697 0x2c8b2ab9 0xc5b814ae 0x7af6d48d 0x66ed54fa 0x9f934283 0xe57ac3f4 0xf55f8c25 := ve27.next 0xbf597fc7 0x66001800 (by decide +kernel) we27 _ _ (by decide +kernel) (by decide +kernel)
theorem ve29 : V8 (rnd Me (fa (fun _ => 0)) 29) 0x64bc9e1c 0x6d8cc697 0x2c8b2ab9 0xc5b814ae 0x95696b75 0x66ed54fa 0x9f934283 0xe57ac3f4 := ve28.next 0xc6e00bf3 0xd6222580 (by decide +kernel) we28 _ _ (by decide +kernel) (by decide +kernel)
theorem ve30 : V8 (rnd Me (fa (fun _ => 0)) 30) 0x72d3a00d 0x64bc9e1c 0x6d8cc697 0x2c8b2ab9 0xb04ab22d 0x95696b75 0x66ed54fa 0x9f934283 := ve29.next 0xd5a79147 0x14225508 (by decide +kernel) we29 _ _ (by decide +kernel) (by decide +kernel)
theorem ve31 : V8 (rnd Me (fa (fun _ => 0)) 31) 0xa0bb0cdf 0x72d3a00d 0x64bc9e1c 0x6d8cc697 0x564a6626 0xb04ab22d 0x95696b75 0x66ed54fa := ve30.next 0x06ca6351 0xd645f95c (by decide +kernel) we30 _ _ (by decide +kernel) (by decide +kernel)
theorem ve32 : V8 (rnd Me (fa (fun _ => 0)) 32) 0x11e7025f 0xa0bb0cdf 0x72d3a00d 0x64bc9e1c 0xbbd7846c 0x564a6626 0xb04ab22d 0x95696b75 := ve31.next 0x14292967 0xc9282000 (by decide +kernel) we31 _ _ (by decide +kernel) (by decide +kernel)
theorem ve33 : V8 (rnd Me (fa (fun _ => 0)) 33) 0xe390f3b6 0x11e7025f 0xa0bb0cdf 0x72d3a00d 0xccd25d8b 0xbbd7846c 0x564a6626 0xb04ab22d := ve32.next 0x27b70a85 0xc3f10094 (by decide +kernel) we32 _ _ (by decide +kernel) (by decide +kernel)
theorem ve34 : V8 (rnd Me (fa (fun _ => 0)) 34) 0xa141b695 0xe390f3b6 0x11e7025f 0xa0bb0cdf 0x0bc457df 0xccd25d8b 0xbbd7846c 0x564a6626 := ve33.next 0x2e1b2138 0x284ca766 (by decide +kernel) we33 _ _ (by decide +kernel) (by decide +kernel)
theorem ve35 : V8 (rnd Me (fa (fun _ => 0)) 35) 0x44a181a7 0xa141b695 0xe390f3b6 0x11e7025f 0x6973aac2 0x0bc457df 0xccd25d8b 0xbbd7846c := ve34.next 0x4d2c6dfc 0x06886dc6 (by decide +kernel) we34 _ _ (by decide +kernel) (by decide +kernel)
theorem ve36 : V8 (rnd Me (fa (fun _ => 0)) 36) 0x641fe878 0x44a181a7 0xa141b695 0xe390f3b6 0x3a705ea9 0x6973aac2 0x0bc457df 0xccd25d8b := ve35.next 0x53380d13 0xa37bf116 (by decide +kernel) we35 _ _ (by decide +kernel) (by decide +kernel)
theorem ve37 : V8 (rnd Me (fa (fun _ => 0)) 37) 0xa096535d 0x641fe878 0x44a181a7 0xa141b695 0xfac06aed 0x3a705ea9 0x6973aac2 0x0bc457df := ve36.next 0x650a7354 0x717cbe96 (by decide +kernel) we36 _ _ (by decide +kernel) (by decide +kernel)
theorem ve38 : V8 (rnd Me (fa (fun _ => 0)) 38) 0x56e3dc4e 0xa096535d 0x641fe878 0x44a181a7 0xe807ea7f 0xfac06aed 0x3a705ea9 0x6973aac2 := ve37.next 0x766a0abb 0xfec2d74a (by decide +kernel) we37 _ _ (by decide +kernel) (by decide +kernel)
theorem ve39 : V8 (rnd Me (fa (fun _ => 0)) 39) 0x9e58e42f 0x56e3dc4e 0xa096535d 0x641fe878 0x85a71424 0xe807ea7f 0xfac06aed 0x3a705ea9 := ve38.next 0x81c2c92e 0xa7b67f00 (by decide +kernel) we38 _ _ (by decide +kernel) (by decide +kernel)
theorem ve40 : V8 (rnd Me (fa (fun _ => 0)) 40) 0x499911b1 0x9e58e42f 0x56e3dc4e 0xa096535d 0x716bb025 0x85a71424 0xe807ea7f 0xfac06aed := ve39.next 0x92722c85 0x811596a2 (by decide +kernel) we39 _ _ (by decide +kernel) (by decide +kernel)
theorem ve41 : V8 (rnd Me (fa (fun _ => 0)) 41) 0xfe86c833 0x499911b1 0x9e58e42f 0x56e3dc4e 0x849879df 0x716bb025 0x85a71424 0xe807ea7f := ve40.next 0xa2bfe8a1 0x98a6e768 (by decide +kernel) we40 _ _ (by decide +kernel) (by decide +kernel)
theorem ve42 : V8 (rnd Me (fa (fun _ => 0)) 42) 0x2298f88e 0xfe86c833 0x499911b1 0x9e58e42f 0xf5c58ae9 0x849879df 0x716bb025 0x85a71424 := ve41.next 0xa81a664b 0x03b20c82 (by decide +kernel) we41 _ _ (by decide +kernel) (by decide +kernel)
theorem ve43 : V8 (rnd Me (fa (fun _ => 0)) 43) 0xdbb545ab 0x2298f88e 0xfe86c833 0x499911b1 0xe0403eb9 0xf5c58ae9 0x849879df 0x716bb025 := ve42.next 0xc24b8b70 0x5d1da7c9 (by decide +kernel) we42 _ _ (by decide +kernel) (by decide +kernel)
theorem ve44 : V8 (rnd Me (fa (fun _ => 0)) 44) 0xe8e34752 0xdbb545ab 0x2298f88e 0xfe86c833 0x29426caa 0xe0403eb9 0xf5c58ae9 0x849879df := ve43.next 0xc76c51a3 0xb156b935 (by decide +kernel) we43 _ _ (by decide +kernel) (by decide +kernel)
theorem ve45 : V8 (rnd Me (fa (fun _ => 0)) 45) 0xa40972d4 0xe8e34752 0xdbb545ab 0x2298f88e 0xaa2c1810 0x29426caa 0xe0403eb9 0xf5c58ae9 := ve44.next 0xd192e819 0xc3ddca11 (by decide +kernel) we44 _ _ (by decide +kernel) (by decide +kernel)
theorem ve46 : V8 (rnd Me (fa (fun _ => 0)) 46) 0x32fa442b 0xa40972d4 0xe8e34752 0xdbb545ab 0xd285c679 0xaa2c1810 0x29426caa 0xe0403eb9 := ve45.next 0xd6990624 0x249c107f (by decide +kernel) we45 _ _ (by decide +kernel) (by decide +kernel)
theorem ve47 : V8 (rnd Me (fa (fun _ => 0)) 47) 0x54982d6c 0x32fa442b 0xa40972d4 0xe8e34752 0x8a6a82b2 0xd285c679 0xaa2c1810 0x29426caa := ve46.next 0xf40e3585 0xc48d24ef (by decide +kernel) we46 _ _ (by decide +kernel) (by decide +kernel)
theorem ve48 : V8 (rnd Me (fa (fun _ => 0)) 48) 0x365a34cd 0x54982d6c 0x32fa442b 0xa40972d4 0xcbb3f8eb 0x8a6a82b2 0xd285c679 0xaa2c1810 := ve47.next 0x106aa070 0x5de54c30 (by decide +kernel) we47 _ _ (by decide +kernel) (by decide +kernel)
theorem ve49 : V8 (rnd Me (fa (fun _ => 0)) 49) 0x62a82a5e 0x365a34cd 0x54982d6c 0x32fa442b 0x4cab6d8a 0xcbb3f8eb 0x8a6a82b2 0xd285c679 := ve48.next 0x19a4c116 0xdefece65 (by decide +kernel) we48 _ _ (by decide +kernel) (by decide +kernel)
theorem ve50 : V8 (rnd Me (fa (fun _ => 0)) 50) 0x9798f5ed 0x62a82a5e 0x365a34cd 0x54982d6c 0xe90aa770 0x4cab6d8a 0xcbb3f8eb 0x8a6a82b2 := ve49.next 0x1e376c08 0x2ca1480d (by decide +kernel) we49 _ _ (by decide +kernel) (by decide +kernel)
theorem ve51 : V8 (rnd Me (fa (fun _ => 0)) 51) 0xc163cb21 0x9798f5ed 0x62a82a5e 0x365a34cd 0x36068bde 0xe90aa770 0x4cab6d8a 0xcbb3f8eb := ve50.next 0x2748774c 0x3c15332c (by decide +kernel) we50 _ _ (by decide +kernel) (by decide +kernel)
theorem ve52 : V8 (rnd Me (fa (fun _ => 0)) 52) 0xd55e06c2 0xc163cb21 0x9798f5ed 0x62a82a5e 0xa194d14f 0x36068bde 0xe90aa770 0x4cab6d8a := ve51.next 0x34b0bcb5 0x01cec9ad (by decide +kernel) we51 _ _ (by decide +kernel) (by decide +kernel)
theorem ve53 : V8 (rnd Me (fa (fun _ => 0)) 53) 0xb1b29c90 0xd55e06c2 0xc163cb21 0x9798f5ed 0x43a5def8 0xa194d14f 0x36068bde 0xe90aa770 := ve52.next 0x391c0cb3 0x160cccd0 (by decide +kernel) we52 _ _ (by decide +kernel) (by decide +kernel)
theorem ve54 : V8 (rnd Me (fa (fun _ => 0)) 54) 0x3a0e9477 0xb1b29c90 0xd55e06c2 0xc163cb21 0xfd99936e 0x43a5def8 0xa194d14f 0x36068bde := ve53.next 0x4ed8aa4a 0x0bacda98 (by decide +kernel) we53 _ _ (by decide +kernel) (by decide +kernel)
theorem ve55 : V8 (rnd Me (fa (fun _ => 0)) 55) 0x2caf58ca 0x3a0e9477 0xb1b29c90 0xd55e06c2 0xe588e598 0xfd99936e 0x43a5def8 0xa194d14f := ve54.next 0x5b9cca4f 0x361b8fe0 (by decide +kernel) we54 _ _ (by decide +kernel) (by decide +kernel)
theorem ve56 : V8 (rnd Me (fa (fun _ => 0)) 56) 0x01638014 0x2caf58ca 0x3a0e9477 0xb1b29c90 0xadf94e0a 0xe588e598 0xfd99936e 0x43a5def8 := ve55.next 0x682e6ff3 0xd2320ba6 (by decide +kernel) we55 _ _ (by decide +kernel) (by decide +kernel)
theorem ve57 : V8 (rnd Me (fa (fun _ => 0)) 57) 0x7ec75212 0x01638014 0x2caf58ca 0x3a0e9477 0x7951a330 0xadf94e0a 0xe588e598 0xfd99936e := ve56.next 0x748f82ee 0x029b7007 (by decide +kernel) we56 _ _ (by decide +kernel) (by decide +kernel)
theorem ve58 : V8 (rnd Me (fa (fun _ => 0)) 58) 0xe7ec45bc 0x7ec75212 0x01638014 0x2caf58ca 0xe2a91edc 0x7951a330 0xadf94e0a 0xe588e598 := ve57.next 0x78a5636f 0x7546587c (by decide +kernel) we57 _ _ (by decide +kernel) (by decide +kernel)
theorem ve59 : V8 (rnd Me (fa (fun _ => 0)) 59) 0xe923abc6 0xe7ec45bc 0x7ec75212 0x01638014 0x08e0e6ea 0xe2a91edc 0x7951a330 0xadf94e0a := ve58.next 0x84c87814 0x07f54f39 (by decide +kernel) we58 _ _ (by decide +kernel) (by decide +kernel)
theorem ve60 : V8 (rnd Me (fa (fun _ => 0)) 60) 0x04441c0e 0xe923abc6 0xe7ec45bc 0x7ec75212 0xaaefa044 0x08e0e6ea 0xe2a91edc 0x7951a330 := ve59.next 0x8cc70208 0xf808ddc3 (by decide +kernel) we59 _ _ (by decide +kernel) (by decide +kernel)
theorem ve61 : V8 (rnd Me (fa (fun _ => 0)) 61) 0xf41fc3ea 0x04441c0e 0xe923abc6 0xe7ec45bc 0x1c71eb3c 0xaaefa044 0x08e0e6ea 0xe2a91edc := ve60.next 0x90befffa 0xdcca7608 (by decide +kernel) we60 _ _ (by decide +kernel) (by decide +kernel)
theorem ve62 : V8 (rnd Me (fa (fun _ => 0)) 62) 0x5e8d0156 0xf41fc3ea 0x04441c0e 0xe923abc6 0x8511bf70 0x1c71eb3c 0xaaefa044 0x08e0e6ea := ve61.next 0xa4506ceb 0x5e427188 (by decide +kernel) we61 _ _ (by decide +kernel) (by decide +kernel)
theorem ve63 : V8 (rnd Me (fa (fun _ => 0)) 63) 0xdd946d8f 0x5e8d0156 0xf41fc3ea 0x04441c0e 0xc9962ac0 0x8511bf70 0x1c71eb3c 0xaaefa044 := ve62.next 0xbef9a3f7 0x44bcec5d (by decide +kernel) we62 _ _ (by decide +kernel) (by decide +kernel)
theorem ve64 : V8 (rnd Me (fa (fun _ => 0)) 64) 0x79a6dddb 0xdd946d8f 0x5e8d0156 0xf41fc3ea 0xd69fef65 0xc9962ac0 0x8511bf70 0x1c71eb3c := ve63.next 0xc67178f2 0x3b5ec49b (by decide +kernel) we63 _ _ (by decide +kernel) (by decide +kernel)
theorem sume : sumF Le = [101, 51, 98, 48, 99, 52, 52, 50, 57, 56, 102, 99, 49, 99, 49, 52, 57, 97, 102, 98, 102, 52, 99, 56, 57, 57, 54, 102, 98, 57, 50, 52, 50, 55, 97, 101, 52, 49, 101, 52, 54, 52, 57, 98, 57, 51, 52, 99, 97, 52, 57, 53, 57, 57, 49, 98, 55, 56, 53, 50, 98, 56, 53, 53] := by
  have h : hexS (wordsF (Le ++ padB Le.length)) 8 = hexS (fun i => [0xe3b0c442, 0x98fc1c14, 0x9afbf4c8, 0x996fb924, 0x27ae41e4, 0x649b934c, 0xa495991b, 0x7852b855].getD i 0) 8 := hexS_congr 8 fun i hi => by
    obtain ⟨h0, h1, h2, h3, h4, h5, h6, h7⟩ := ve64
    have e : wordsF (Le ++ padB Le.length) i = fs i + (0 + rnd Me (fa (fun _ => 0)) 64 i) := rfl
    rw [e]
    have hi8 : i = 0 ∨ i = 1 ∨ i = 2 ∨ i = 3 ∨ i = 4 ∨ i = 5 ∨ i = 6 ∨ i = 7 := by omega
    rcases hi8 with rfl | rfl | rfl | rfl | rfl | rfl | rfl | rfl
    · rw [h0]; decide +kernel
    · rw [h1]; decide +kernel
    · rw [h2]; decide +kernel
    · rw [h3]; decide +kernel
    · rw [h4]; decide +kernel
    · rw [h5]; decide +kernel
    · rw [h6]; decide +kernel
    · rw [h7]; decide +kernel
  unfold sumF
  rw [h]
  decide +kernel
end Go.Proofs.YtnngadbmfdfmfaaDoor
