package run_test

import (
	"slices"
	"strings"
	"testing"
)

// The document's ten examples of the whole.

func TestFirstExample(t *testing.T) {
	wantTold(t, world(), "ok")
	wantTold(t, behind("still"), "ok", "ok no")
	wantTold(t, behind("rounds 3", "still"), "ok", "ok 0", "ok yes")
}

// second is the lines of the second example, and what they tell.
func second() (lines, told []string) {
	return behind(getA, "rounds 9", "answers", "log", "cache"), []string{
		"ok", "ok 1", "ok 0",
		"ok 1", `answer 1 direct 1 200 "A"`,
		"ok 2", "serve 1 1", "push 2 1",
		"ok 1 48 0",
	}
}

// wantBehindSecond is wantTold behind the second example.
func wantBehindSecond(t *testing.T, lines []string, want ...string) {
	t.Helper()
	first, told := second()
	wantTold(t, append(first, lines...), append(told, want...)...)
}

func TestSecondExample(t *testing.T) {
	lines, told := second()
	wantTold(t, lines[:len(lines)-2], told[:5]...)
	wantTold(t, lines[:len(lines)-1], told[:8]...)
	wantBehindSecond(t, nil)
}

func TestThirdExample(t *testing.T) {
	lines := []string{getB, "answers"}
	want := []string{"ok 2", "ok 2", `answer 1 direct 1 200 "A"`, `answer 2 cached 2 200 "B"`}
	wantBehindSecond(t, lines, want...)
	lines = append(lines, getB, "rounds 9", "answers")
	want = append(want, "ok 3", "ok 0", "ok 3", `answer 1 direct 1 200 "A"`, `answer 2 cached 2 200 "B"`, `answer 3 direct 3 200 "B"`)
	wantBehindSecond(t, lines, want...)
}

func TestFourthExample(t *testing.T) {
	lines := []string{`put "x" "/b" 200 "" "" "B2"`, getB, getB, "rounds 9", "answers"}
	wantBehindSecond(t, lines, "ok 2", "ok 2", "ok 3", "ok 0", "ok 3",
		`answer 1 direct 1 200 "A"`, `answer 2 cached 2 200 "B"`, `answer 3 direct 3 200 "B2"`)
}

func TestFifthExample(t *testing.T) {
	wantBehindSecond(t, []string{"tick 10", getB, "answers"}, "ok", "ok 2", "ok 2", `answer 1 direct 1 200 "A"`, `answer 2 cached 2 200 "B"`)
	wantBehindSecond(t, []string{"tick 11", getB, "answers", "rounds 9", "answers"}, "ok", "ok 2",
		"ok 1", `answer 1 direct 1 200 "A"`,
		"ok 0",
		"ok 2", `answer 1 direct 1 200 "A"`, `answer 2 direct 3 200 "B"`)
}

// resets are the RST_STREAM that a script's client sent, and their codes.
func resets(t *testing.T, lines []string) []string {
	t.Helper()
	told, ok := hold(t, lined(append(slices.Clone(lines), "trace client")...))
	if !ok {
		t.Fatalf("P27.1: %s is no script", shown(lined(lines...)))
	}
	var all []string
	for line := range strings.Lines(told) {
		if strings.HasPrefix(line, "sent 3 ") {
			all = append(all, strings.TrimSpace(line))
		}
	}
	return all
}

func wantResets(t *testing.T, lines []string, want ...string) {
	t.Helper()
	if got := resets(t, lines); !slices.Equal(got, want) {
		t.Errorf("P27.1: behind %s the client sent %q, want %q", shown(lined(lines...)), got, want)
	}
}

func TestSixthExample(t *testing.T) {
	lines := append(worldBut(originLine, `origin "https://y"`), getA, "rounds 9", "cache")
	wantTold(t, lines, "ok", "ok 1", "ok 0", "ok 0 0 0")
	wantResets(t, lines, "sent 3 0 2 code 1")
}

func TestSeventhExample(t *testing.T) {
	lines := append(worldBut(confLine, "conf 4 1000 10 0"), getA, "rounds 9", "cache")
	wantTold(t, lines, "ok", "ok 1", "ok 0", "ok 0 0 0")
	wantResets(t, lines, "sent 3 0 2 code 7")
	lines = append(worldBut(confLine, "conf 0 1000 10 4"), getA, "rounds 9", "cache", "log")
	wantTold(t, lines, "ok", "ok 1", "ok 0", "ok 0 0 0", "ok 2", "serve 1 1", "push 2 1")
	wantResets(t, lines)
}

func TestEighthExample(t *testing.T) {
	wantTold(t, behind("client 0", "toserver 10", "toserver -1"), "ok", "ok 33", "ok 10", "ok 23")
}

func TestNinthExample(t *testing.T) {
	forged := `forge 0 "\x00\x00\x00\x05\x00\x00\x00\x00\x01"`
	wantTold(t, behind("rounds 3", getA, "client 0", forged, "toclient -1", "dead", "answers"),
		"ok", "ok 0", "ok 1", "ok 18", "ok", "ok 9", "ok client 6", "ok 1", "answer 1 failed 6")
}

func TestTenthExample(t *testing.T) {
	lines := append(worldBut(clientLine, "client 4096 0 2147483647 65535 16384 2147483647"), getA, "rounds 9", "log")
	wantTold(t, lines, "ok", "ok 1", "ok 0", "ok 1", "serve 1 1")
}
