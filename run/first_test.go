package run_test

import (
	"slices"
	"strings"
	"testing"

	"herald/run"
	"herald/script"
)

// wholeScripts are right ones, with every kind of command, refused moves, deaths, and
// more lines than may be told.
func wholeScripts() [][]string {
	dying := met(getA, "client 0", `forge 0 "xxxxxxxxx"`, "toclient -1", "dead", "answers", `forge 1 "xxxxxxxxx"`, "toserver -1", "dead", "still", "rounds 3", "trace server")
	return [][]string{
		world(), behind(story()...), behind(slices.Concat(story(), story())...), dying,
		talkative(20, slices.Concat(many(20, "answers"), story())...),
	}
}

// TestFirstCommands is P27.3, for every count of commands: each tells something, behind
// what is told ahead of it.
func TestFirstCommands(t *testing.T) {
	for _, lines := range wholeScripts() {
		l, e := script.Parse(lined(lines...))
		if e != 0 {
			t.Fatal(e)
		}
		all := play(t, lines)
		before := ""
		for n := 1; n <= len(l); n++ {
			text, e := script.Print(l[:n])
			if e != 0 {
				t.Fatal(e)
			}
			first, e := run.Play(text)
			if e != 0 || !strings.HasPrefix(all, first) || !strings.HasPrefix(first, before) || len(first) == len(before) {
				t.Fatalf("P27.3: the first %d commands of %s: %d; %s", n, shown(lined(lines...)), e, unlike(first, all))
			}
			before = first
		}
		if before != all {
			t.Errorf("P27.2: %s: %s", shown(lined(lines...)), unlike(before, all))
		}
	}
}

// TestForms is P27.2, of scripts that are written otherwise: with lines that say
// nothing, bytes by their numbers, and no end of the last line.
func TestForms(t *testing.T) {
	for _, lines := range wholeScripts() {
		all := play(t, lines)
		other := strings.Join(lines, "\n# \"\n\n")
		other = strings.NewReplacer(`"x"`, `"\x78"`, `"/a"`, `"\x2f\x61"`, `"https"`, `"http\x73"`).Replace(other)
		for _, text := range []string{other, "\n\n#\xff\n" + other + "\n#"} {
			if got, ok := hold(t, text); !ok || got != all {
				t.Errorf("P27.2: %s: %s", shown(text), unlike(got, all))
			}
		}
	}
}

// TestTwice is P27.4.
func TestTwice(t *testing.T) {
	for _, lines := range wholeScripts() {
		text := lined(lines...)
		want := play(t, lines)
		for range 5 {
			if got, e := run.Play(text); e != 0 || got != want {
				t.Fatalf("P27.4: %s: %d; %s", shown(text), e, unlike(got, want))
			}
		}
	}
}
