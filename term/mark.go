package term

import (
	"strconv"
	"strings"

	"pawl/api"
)

const colon = ":"

// Mark returns p behind its length, so that it can be told from what follows it.
func Mark(p []byte) string { return strconv.Itoa(len(p)) + colon + string(p) }

// Parts returns the parts whose Marks, one behind the other, are s, or ErrForm if there are none.
func Parts(s string) ([]string, api.Errno) {
	var parts []string
	for s != "" {
		part, rest, ok := cut(s)
		if !ok {
			return nil, api.ErrForm
		}
		parts = append(parts, strings.Clone(part))
		s = rest
	}
	return parts, api.OK
}

// cut returns the part with whose Mark s begins, and what follows it.
func cut(s string) (part, rest string, ok bool) {
	digits, after, ok := strings.Cut(s, colon)
	if !ok {
		return "", "", false
	}
	n, err := strconv.Atoi(digits)
	if err != nil || n < 0 || n > len(after) {
		return "", "", false
	}
	if strconv.Itoa(n) != digits { // Mark writes no sign and no zeros ahead of a number
		return "", "", false
	}
	return after[:n], after[n:], true
}
