package digest

import (
	"crypto/sha256"
	"encoding"
	"encoding/binary"
	"encoding/hex"
	"testing"
)

// TestGreatLengths continues a state as if great numbers of bytes had been written, since to write them takes too long: as many as a length of 32 bits does not hold, also if it counts bits, are within the document's bound.
func TestGreatLengths(t *testing.T) { // P9.1
	for _, length := range []uint64{0, 64, 1 << 24, 1<<28 - 64, 1 << 28, 1<<29 - 64, 1 << 29, 1<<29 + 64, 1<<31 - 64, 1 << 31, 1 << 32} {
		for _, s := range []string{"", "abc", string(make([]byte, 200))} {
			h := Hash{length: length}
			for i := range h.added {
				h.added[i] = uint32(i)<<29 + uint32(length>>6)*3
			}
			// The form of the library's state: a mark, the state of 8 words, the rest of a block, the number of bytes.
			state := []byte("sha\x03")
			for i, added := range h.added {
				state = binary.BigEndian.AppendUint32(state, firstState[i]+added)
			}
			state = append(state, make([]byte, blockSize)...)
			state = binary.BigEndian.AppendUint64(state, length)
			library := sha256.New()
			if err := library.(encoding.BinaryUnmarshaler).UnmarshalBinary(state); err != nil {
				t.Fatal(err)
			}
			library.Write([]byte(s))
			if got, want := h.Write(s).Sum(), hex.EncodeToString(library.Sum(nil)); got != want {
				t.Errorf("after %d bytes, %q: %s; want %s", length, s, got, want)
			}
		}
	}
}
