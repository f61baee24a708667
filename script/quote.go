package script

import "strings"

const (
	firstPlain = ' ' // of the bytes that may stand in a quoted text
	lastPlain  = '~'

	hexDigits = "0123456789abcdef"

	markSize = 2 // bytes of the escape of a mark
	hexSize  = 4 // bytes of an escape by digits
)

// Quote is the one form of a text in quotes.
func Quote(s string) string {
	var b strings.Builder
	b.WriteByte('"')
	for i := range len(s) {
		switch c := s[i]; {
		case !isPlain(c):
			b.WriteString(`\x`)
			b.WriteByte(hexDigits[c>>4])
			b.WriteByte(hexDigits[c&0xf])
		case c == '"', c == '\\':
			b.WriteByte('\\')
			fallthrough
		default:
			b.WriteByte(c)
		}
	}
	b.WriteByte('"')
	return b.String()
}

// unquoted is the text that a quoted one stands for with which s begins, and how
// many bytes that one has; 0: there is none.
func unquoted(s string) (string, int) {
	var b strings.Builder
	size := 0
bytes:
	for i := 1; i < len(s); i++ {
		c := s[i]
		switch {
		case c == '"':
			size = i + 1
			break bytes
		case !isPlain(c):
			break bytes
		case c == '\\':
			meant, n := escaped(s[i:])
			if n == 0 {
				break bytes
			}
			c = meant
			i += n - 1
		}
		b.WriteByte(c)
	}
	if size == 0 {
		return "", 0
	}
	return b.String(), size
}

// escaped is the byte that an escape stands for with which s begins, and how many
// bytes that has; 0: there is none.
func escaped(s string) (byte, int) {
	if len(s) < markSize {
		return 0, 0
	}
	c, size := s[1], markSize
	switch c {
	case 'x':
		var ok bool
		if c, ok = hexByte(s[markSize:]); !ok {
			return 0, 0
		}
		size = hexSize
		fallthrough
	case '"', '\\':
		return c, size
	}
	return 0, 0
}

// hexByte is the byte of the number that the first two digits of s are.
func hexByte(s string) (byte, bool) {
	if len(s) < hexSize-markSize {
		return 0, false
	}
	high, low := strings.IndexByte(hexDigits, s[0]), strings.IndexByte(hexDigits, s[1])
	return byte(high<<4 | low), high >= 0 && low >= 0
}

func isPlain(c byte) bool { return firstPlain <= c && c <= lastPlain }
