package sha

import "math/bits"

const (
	block       = 64 // bytes that are taken in at once
	lengthBytes = 8  // the length in bits, at the end of the last block
)

// round has the constants of FIPS 180-4, section 4.2.2.
var round = [64]uint32{
	0x428a2f98, 0x71374491, 0xb5c0fbcf, 0xe9b5dba5, 0x3956c25b, 0x59f111f1, 0x923f82a4, 0xab1c5ed5,
	0xd807aa98, 0x12835b01, 0x243185be, 0x550c7dc3, 0x72be5d74, 0x80deb1fe, 0x9bdc06a7, 0xc19bf174,
	0xe49b69c1, 0xefbe4786, 0x0fc19dc6, 0x240ca1cc, 0x2de92c6f, 0x4a7484aa, 0x5cb0a9dc, 0x76f988da,
	0x983e5152, 0xa831c66d, 0xb00327c8, 0xbf597fc7, 0xc6e00bf3, 0xd5a79147, 0x06ca6351, 0x14292967,
	0x27b70a85, 0x2e1b2138, 0x4d2c6dfc, 0x53380d13, 0x650a7354, 0x766a0abb, 0x81c2c92e, 0x92722c85,
	0xa2bfe8a1, 0xa81a664b, 0xc24b8b70, 0xc76c51a3, 0xd192e819, 0xd6990624, 0xf40e3585, 0x106aa070,
	0x19a4c116, 0x1e376c08, 0x2748774c, 0x34b0bcb5, 0x391c0cb3, 0x4ed8aa4a, 0x5b9cca4f, 0x682e6ff3,
	0x748f82ee, 0x78a5636f, 0x84c87814, 0x8cc70208, 0x90befffa, 0xa4506ceb, 0xbef9a3f7, 0xc67178f2,
}

type state [8]uint32

func start() state {
	return state{0x6a09e667, 0xbb67ae85, 0x3c6ef372, 0xa54ff53a, 0x510e527f, 0x9b05688c, 0x1f83d9ab, 0x5be0cd19}
}

// digest takes bytes in piece by piece, so that parts need not be joined in memory first.
type digest struct {
	value state
	rest  [block]byte // the bytes that do not fill a block yet
	held  int         // how many these are
	count uint64      // the bytes taken in, in all
}

func (d *digest) take(p []byte) {
	d.count += uint64(len(p))
	if d.held > 0 {
		n := copy(d.rest[d.held:], p)
		p = p[n:]
		d.held += n
		if d.held < block {
			return
		}
		d.value = d.value.after(d.rest[:])
	}
	for len(p) >= block {
		d.value = d.value.after(p[:block])
		p = p[block:]
	}
	d.held = copy(d.rest[:], p)
}

func (d *digest) end() []byte {
	length := d.count * 8
	var tail [block + lengthBytes]byte
	tail[0] = 0x80
	n := 1 + (2*block-1-lengthBytes-d.held)%block
	for i := range lengthBytes {
		tail[n+i] = byte(length >> (56 - 8*i))
	}
	d.take(tail[:n+lengthBytes])
	out := make([]byte, 0, size)
	for _, x := range d.value {
		out = append(out, byte(x>>24), byte(x>>16), byte(x>>8), byte(x))
	}
	return out
}

// after returns the state that follows s by one block.
func (s state) after(p []byte) state {
	w := schedule(p)
	a, b, c, d, e, f, g, h := s[0], s[1], s[2], s[3], s[4], s[5], s[6], s[7]
	for i, x := range w {
		s1 := turn(e, 6) ^ turn(e, 11) ^ turn(e, 25)
		t1 := h + s1 + (e&f ^ ^e&g) + round[i] + x
		s0 := turn(a, 2) ^ turn(a, 13) ^ turn(a, 22)
		t2 := s0 + (a&b ^ a&c ^ b&c)
		h, g, f, e = g, f, e, d+t1
		d, c, b, a = c, b, a, t1+t2
	}
	return state{s[0] + a, s[1] + b, s[2] + c, s[3] + d, s[4] + e, s[5] + f, s[6] + g, s[7] + h}
}

func schedule(p []byte) [64]uint32 {
	var w [64]uint32
	for i := range 16 {
		w[i] = uint32(p[4*i])<<24 | uint32(p[4*i+1])<<16 | uint32(p[4*i+2])<<8 | uint32(p[4*i+3])
	}
	for i := 16; i < len(w); i++ {
		x, y := w[i-15], w[i-2]
		s0 := turn(x, 7) ^ turn(x, 18) ^ x>>3
		s1 := turn(y, 17) ^ turn(y, 19) ^ y>>10
		w[i] = w[i-16] + s0 + w[i-7] + s1
	}
	return w
}

func turn(x uint32, right int) uint32 { return bits.RotateLeft32(x, -right) }
