package script_test

import (
	"runtime"
	"slices"
	"strings"
	"testing"

	"herald/api"
	"herald/script"
)

func longText(n int) string { return strings.Repeat("a", n) }

// remarkOf is a line of so many bytes, 1 at least, that says nothing.
func remarkOf(n int) string { return "#" + strings.Repeat("x", n-1) }

// forgeOf is a line of so many bytes, and what it says.
func forgeOf(n int) (string, script.Command) {
	bytes := longText(n - len(`forge 0 ""`))
	return `forge 0 "` + bytes + `"`, forged(0, bytes)
}

// textOf is a text of so many bytes whose lines have at most so many.
func textOf(n, most int) string {
	var b strings.Builder
	for b.Len() < n {
		b.WriteString(remarkOf(min(most, max(1, n-b.Len()-1))))
		if b.Len() < n {
			b.WriteString("\n")
		}
	}
	return b.String()
}

// TestMostOfALine: in the first line, in the last, between others.
func TestMostOfALine(t *testing.T) {
	log := script.Command{Kind: log}
	for n := mostLine - 2; n <= mostLine+2; n++ {
		line, c := forgeOf(n)
		texts := map[string][]script.Command{
			line: {c}, line + "\n": {c}, lined("log", line, "log"): {log, c, log}, "log\n" + line: {log, c},
			remarkOf(n): nil, remarkOf(n) + "\n": nil, lined("log", remarkOf(n), "log"): {log, log},
		}
		for text, want := range texts {
			if n <= mostLine {
				wantParse(t, text, want...)
			} else {
				wantRefused(t, longError, text)
			}
		}
		if n <= mostLine {
			wantPrint(t, line+"\n", c)
			wantPrint(t, lined("log", line, "log"), log, c, log)
		} else {
			wantUnprinted(t, longError, c)
			wantUnprinted(t, longError, log, c, log)
		}
	}
	for _, wrong := range []string{"a", " ", "\"", "\xff", "\x00"} { // in bytes, of any sort
		wantRefused(t, scriptError, strings.Repeat(wrong, mostLine))
		wantRefused(t, longError, strings.Repeat(wrong, mostLine+1))
	}
	wantRefused(t, longError, lined(longText(mostLine+1), "x"))
	wantRefused(t, longError, lined("x", longText(mostLine+1)))
}

// TestMostLines: with and without the last byte 10; empty ones, remarks and commands
// count alike.
func TestMostLines(t *testing.T) {
	for n := mostLines - 2; n <= mostLines+2; n++ {
		for _, line := range []string{"", "#", "log"} {
			ends := strings.Repeat(line+"\n", n)
			var want []script.Command
			if line == "log" {
				want = slices.Repeat([]script.Command{{Kind: log}}, n)
			}
			more := slices.Concat(want, []script.Command{{Kind: still}})
			if n <= mostLines {
				wantParse(t, ends, want...)
			} else {
				wantRefused(t, longError, ends)
			}
			if n < mostLines {
				wantParse(t, ends+"still", more...)
				wantParse(t, ends+"still\n", more...)
			} else {
				wantRefused(t, longError, ends+"still")
				wantRefused(t, longError, ends+"still\n")
			}
		}
		l := slices.Repeat([]script.Command{{Kind: log}}, n)
		if n <= mostLines {
			wantPrint(t, strings.Repeat("log\n", n), l...)
		} else {
			wantUnprinted(t, longError, l...)
		}
	}
	// A world's lines count one by one.
	lines := exampleLines()
	for n := mostLines - 2; n <= mostLines+2; n++ {
		w := exampleWorld()
		w.Origins = slices.Repeat([]string{"o"}, n-len(lines)+1)
		text := lined(slices.Concat(lines[:6], slices.Repeat([]string{`origin "o"`}, n-len(lines)+1), lines[7:])...)
		if n <= mostLines {
			wantParse(t, text, worldOf(w))
			wantPrint(t, text, worldOf(w))
		} else {
			wantRefused(t, longError, text)
			wantUnprinted(t, longError, worldOf(w))
		}
	}
}

// TestMostBytes: with and without the last byte 10, in many lines and in few.
func TestMostBytes(t *testing.T) {
	for n := mostBytes - 3; n <= mostBytes+3; n++ {
		for _, most := range []int{100, 1000, mostLine} {
			for _, text := range []string{textOf(n, most), textOf(n-1, most) + "\n"} {
				if len(text) != n {
					t.Fatalf("it has %d bytes, not %d", len(text), n)
				}
				if n <= mostBytes {
					wantParse(t, text)
				} else {
					wantRefused(t, longError, text)
				}
			}
		}
	}
	// Printed, with the ends of the lines: 64 lines of 1001 bytes, and two for the rest.
	line, c := forgeOf(1000)
	for n := mostBytes - 3; n <= mostBytes+3; n++ {
		for _, size := range []int{11, 500, 700, 1000} {
			first, a := forgeOf(size)
			second, b := forgeOf(n - 64*1001 - size - 2)
			l := append(slices.Repeat([]script.Command{c}, 64), a, b)
			text := strings.Repeat(line+"\n", 64) + lined(first, second)
			if len(text) != n {
				t.Fatalf("it has %d bytes, not %d", len(text), n)
			}
			if n <= mostBytes {
				wantPrint(t, text, l...)
			} else {
				wantUnprinted(t, longError, l...)
			}
		}
	}
}

// TestLongAheadOfScript: a limit comes ahead of the form.
func TestLongAheadOfScript(t *testing.T) {
	for _, wrong := range []string{"no", " ", "forge 0 \"a", "\xff", "world", "end"} {
		wantRefused(t, scriptError, wrong)
		wantRefused(t, longError, wrong+strings.Repeat("\n", mostLines+1))
		wantRefused(t, scriptError, wrong+strings.Repeat("\n", mostLines))
		wantRefused(t, longError, strings.Repeat("\n", mostLines)+wrong)
		wantRefused(t, scriptError, strings.Repeat("\n", mostLines-1)+wrong)
		wantRefused(t, longError, lined(wrong, remarkOf(mostLine+1)))
		wantRefused(t, scriptError, lined(wrong, remarkOf(mostLine)))
		wantRefused(t, longError, lined(remarkOf(mostLine+1), wrong))
		wantRefused(t, longError, wrong+"\n"+textOf(mostBytes-len(wrong), 1000))
		wantRefused(t, scriptError, wrong+"\n"+textOf(mostBytes-len(wrong)-1, 1000))
	}
}

// TestReadButNotPrinted: what Parse reads may be too long for Print: never the other
// way round.
func TestReadButNotPrinted(t *testing.T) {
	line, c := forgeOf(mostLine)
	wantParse(t, line, c)
	for _, n := range []int{1020, 1021, 1022} {
		c := forged(0, strings.Repeat("\x00", n))
		if n <= 1021 { // 8, 2 and four for each
			wantPrint(t, `forge 0 "`+strings.Repeat(`\x00`, n)+"\"\n", c)
		} else {
			wantUnprinted(t, longError, c)
		}
	}
	// Each page's line stays short, but with all of them there are too many bytes.
	w := exampleWorld()
	w.Pages = slices.Repeat([]api.Page{{Choices: []api.Choice{{Body: strings.Repeat("\xff", 1000)}}}}, 16)
	if _, ok := holdPrint(t, []script.Command{worldOf(w)}); !ok {
		t.Error("16 pages are too many")
	}
	w.Pages = append(w.Pages, w.Pages[0])
	wantUnprinted(t, longError, worldOf(w))
}

// TestTooLongIsCheap: what can't be printed isn't laid out.
func TestTooLongIsCheap(t *testing.T) {
	body := strings.Repeat("\x00", 1<<24)
	fields := slices.Repeat([]api.Field{{Name: body, Value: body}}, 100)
	page := api.Page{Authority: body, Path: body, Vary: body, Choices: []api.Choice{{Value: body, Body: body}}}
	commands := map[string]script.Command{
		"forge": forged(0, body), "put": putOf(page), "ask": asked(api.Request{Method: body, Fields: fields, Body: body}),
		"world": worldOf(api.World{Pages: slices.Repeat([]api.Page{page}, 1000), Origins: slices.Repeat([]string{body}, 1000)}),
	}
	for name, c := range commands {
		l := slices.Repeat([]script.Command{c}, 50)
		var before, after runtime.MemStats
		runtime.ReadMemStats(&before)
		s, e := script.Print(l)
		runtime.ReadMemStats(&after)
		if s != "" || e != longError {
			t.Errorf("P26.1: Print of a too long %s: %s, %d", name, shown(s), e)
		}
		if used := after.TotalAlloc - before.TotalAlloc; used > 1<<20 {
			t.Errorf("Print of a too long %s uses %d bytes", name, used)
		}
	}
}
