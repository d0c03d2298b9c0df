package term

// The bytes of an index are a letter, the number, and zero bytes.
const (
	letter  = 'T'
	numFrom = 1
	numSize = 8
	numEnd  = numFrom + numSize
	size    = 32
)

// Bytes returns the 32 bytes that stand for the index i.
func Bytes(i int) []byte {
	out := make([]byte, size)
	out[0] = letter
	for k := range numSize {
		out[numFrom+k] = byte(uint64(i) >> (8 * k))
	}
	return out
}

// Place returns the index of the term for which p stands, or false if it stands for none.
func (b *Table) Place(p []byte) (int, bool) {
	if len(p) < size || p[0] != letter || !zero(p[numEnd:]) {
		return 0, false
	}
	var n uint64
	for k, c := range p[numFrom:numEnd] {
		n |= uint64(c) << (8 * k)
	}
	if n >= uint64(b.Len()) {
		return 0, false
	}
	return int(n), true
}

// Read returns the index of the term for which p stands; if it stands for none, that of the Raw term of these bytes.
func (b *Table) Read(p []byte) int {
	if i, ok := b.Place(p); ok {
		return i
	}
	return b.Put(Term{Kind: Raw, Text: string(p)})
}

func zero(p []byte) bool {
	for _, c := range p {
		if c != 0 {
			return false
		}
	}
	return true
}
