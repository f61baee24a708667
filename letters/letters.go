// Package letters is what several layers do with the letters of a text.
package letters

// Small is the text, in memory of its own, with a to z for A to Z. All other
// bytes stay: what Unicode takes for letters beyond these has no small form here,
// and a text need not be Unicode's.
func Small(s string) string {
	b := []byte(s)
	for i, c := range b {
		if 'A' <= c && c <= 'Z' {
			b[i] = c - 'A' + 'a'
		}
	}
	return string(b)
}
