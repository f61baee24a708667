package script_test

import (
	"math/rand"
	"slices"
	"strings"
	"testing"

	"herald/script"
)

// silent are lines that say nothing.
func silent() []string {
	return []string{"", "#", "##", "# ", "#server 3", "#world", "#end", "#\"", "#\\x4", "#\t\r", "#\x00\xff\xc8", "#\u00e9", remarkOf(mostLine)}
}

// talks are right texts' lines.
func talks() [][]string {
	l := fullLines()
	return [][]string{nil, {"answers"}, someLines(), l, slices.Concat([]string{"log"}, l, l, []string{"still", "server 3"}), slices.Concat(l, someLines())}
}

// TestSilentLines: between any two lines, in a world too, ahead of all and behind
// them.
func TestSilentLines(t *testing.T) {
	for _, l := range talks() {
		want, ok := holdParse(t, lined(l...))
		if !ok {
			t.Fatalf("P26.1: Parse(%s) is refused", shown(lined(l...)))
		}
		for _, s := range silent() {
			for at := range len(l) + 1 {
				for _, more := range [][]string{{s}, {s, s}, {"", s}, {s, "", "#", ""}} {
					lines := slices.Insert(slices.Clone(l), at, more...)
					for _, text := range []string{lined(lines...), strings.Join(lines, "\n")} {
						if got, e := script.Parse(text); e != 0 || !same(got, want) {
							t.Fatalf("P26.3: with %s at %d: Parse(%s) = %s, %d, want %s", shown(s), at, shown(text), brief(got), e, brief(want))
						}
					}
				}
			}
		}
	}
}

// TestSilentEverywhere: laid between all lines, and taken away one by one.
func TestSilentEverywhere(t *testing.T) {
	r := rand.New(rand.NewSource(261))
	for range 15 {
		for _, l := range talks() {
			want, _ := holdParse(t, lined(l...))
			var lines []string
			var away []int // places of those that can be taken away
			for _, line := range append(slices.Clone(l), "") {
				for range r.Intn(4) {
					away = append(away, len(lines))
					lines = append(lines, silent()[r.Intn(len(silent())-1)])
				}
				lines = append(lines, line)
			}
			lines = lines[:len(lines)-1]
			for len(away) > 0 {
				if got, ok := holdParse(t, lined(lines...)); !ok || !same(got, want) {
					t.Fatalf("P26.3: Parse(%s) = %s, want %s", shown(lined(lines...)), brief(got), brief(want))
				}
				k := r.Intn(len(away))
				at := away[k]
				lines = slices.Delete(lines, at, at+1)
				away = slices.Delete(away, k, k+1)
				for i := range away {
					if away[i] > at {
						away[i]--
					}
				}
			}
			if !slices.Equal(lines, l) {
				t.Fatalf("the test took away too much: %q", lines)
			}
		}
	}
}

// TestNotSilent: a blank ahead, a # behind, or something in the line.
func TestNotSilent(t *testing.T) {
	for _, s := range []string{" ", " #", "\t#", "answers#", "answers #", "answers # x", "server 3 #", "server #", "forge 0 \"a\" #", "forge 0 \"a\"#", "\\#", "\"#\"", "//", ";", "-", "\r", "\x00"} {
		for _, l := range talks() {
			for at := range len(l) + 1 {
				wantRefused(t, scriptError, lined(slices.Insert(slices.Clone(l), at, s)...))
			}
		}
	}
	// A # in a quoted text is a byte of it, a line that ends in quotes doesn't go on.
	wantParse(t, `forge 0 "#"`, forged(0, "#"))
	wantParse(t, "forge 0 \"# #\"\n#\"", forged(0, "# #"))
	wantRefused(t, scriptError, "forge 0 \"\n#\"")
	wantRefused(t, scriptError, "forge 0 \"a\n\"")
	wantRefused(t, scriptError, "server\n3")
	wantRefused(t, scriptError, "server \n3")
}

// TestTextsBehindOneAnother: the one's commands and then the other's.
func TestTextsBehindOneAnother(t *testing.T) {
	texts := []string{"", "\n", "#\n", "#", "answers", "answers\n", "\n\nlog\n#x\n", "server 3\n#"}
	for _, l := range talks() {
		texts = append(texts, lined(l...), strings.Join(l, "\n"))
	}
	for _, a := range texts {
		first, _ := holdParse(t, a)
		for _, b := range texts {
			second, _ := holdParse(t, b)
			if a != "" && !strings.HasSuffix(a, "\n") {
				continue
			}
			want := slices.Concat(first, second)
			if got, ok := holdParse(t, a+b); !ok || !same(got, want) {
				t.Errorf("P26.3: Parse(%s) behind %s = %s, want %s", shown(b), shown(a), brief(got), brief(want))
			}
		}
	}
}

// TestCutTexts: a script is its first lines and then the others, wherever it is cut,
// but in a world.
func TestCutTexts(t *testing.T) {
	l := slices.Concat(someLines(), fullLines(), someLines())
	begin, end := len(someLines()), len(someLines())+len(fullLines())
	whole, _ := holdParse(t, lined(l...))
	for at := range len(l) + 1 {
		a, okA := holdParse(t, lined(l[:at]...))
		b, okB := holdParse(t, lined(l[at:]...))
		if isOutside := at <= begin || at >= end; okA != isOutside || okB != isOutside {
			t.Errorf("P26.3: cut at %d the pieces are taken: %v, %v", at, okA, okB)
		}
		if okA && okB && !same(slices.Concat(a, b), whole) {
			t.Errorf("P26.3: cut at %d: %s and %s", at, brief(a), brief(b))
		}
	}
}
