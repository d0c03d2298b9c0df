package sign

import "math/bits"

const (
	size     = 32 // bytes of a number, and of a point
	words    = 4
	wordBits = 64
	numBits  = words * wordBits
)

// number is a number modulo n, from 0 to n - 1, its lowest word first.
type number [words]uint64

// order is n, which is 2^252 + 27742317777372353535851937790883648493: so many points are multiples of curve.Start.
var order = number{0x5812631a5cf5d3ed, 0x14def9dea2f79cd6, 0, 1 << 60}

// plus returns a + b, whose sum fits into the words as both are below n.
func (a number) plus(b number) number {
	var sum, rest number
	var carry, borrow uint64
	for i := range words {
		sum[i], carry = bits.Add64(a[i], b[i], carry)
		rest[i], borrow = bits.Sub64(sum[i], order[i], borrow)
	}
	if borrow == 1 { // the sum is below n
		return sum
	}
	return rest
}

// times returns a times b.
func (a number) times(b number) number {
	var out number
	for i := range numBits {
		k := numBits - 1 - i
		out = out.plus(out)
		if b[k/wordBits]>>(k%wordBits)&1 == 1 {
			out = out.plus(a)
		}
	}
	return out
}

// modulo returns the number in bytes of any length, the lowest first.
func modulo(p []byte) number {
	var out number
	for i := range 8 * len(p) {
		k := 8*len(p) - 1 - i
		out = out.plus(out).plus(number{uint64(p[k/8] >> (k % 8) & 1)})
	}
	return out
}

// bytes returns a in 32 bytes, the lowest first.
func (a number) bytes() [size]byte {
	var out [size]byte
	for i := range out {
		out[i] = byte(a[i/8] >> (i % 8 * 8))
	}
	return out
}
