package run_test

import (
	"fmt"
	"slices"
	"strings"
	"testing"
)

// TestNoCommands: scripts without any.
func TestNoCommands(t *testing.T) {
	for _, s := range []string{"", "\n", "\n\n\n", "#", "#\n", "# world\n\n#", strings.Repeat("\n", mostLines), strings.Repeat("\n", mostLines+1), "#" + strings.Repeat("x", mostLine-1), "#" + strings.Repeat("x", mostLine)} {
		wantRefused(t, s)
	}
}

// TestNotParsed: texts that script refuses, wherever the wrong line stands.
func TestNotParsed(t *testing.T) {
	for _, line := range []string{
		"x", "server", "server 03", "server -0", "server  3", "server 3 ", " server 3", "server 9223372036854775808", "servers 3", "trace", "trace pipes", "end",
		`ask "GET"`, `forge 0 "a`, `forge 0 "\q"`, "answers 1", "rounds", "Still", "dead\r", "\tlog", `cache "x"`, "world ", "ok", "no 3", "\x00", "\xff", " #", " ",
	} {
		all := behind(story()...)
		for _, i := range []int{0, 1, 5, len(world()), len(all) - 1, len(all)} {
			wantRefused(t, lined(slices.Insert(slices.Clone(all), i, line)...))
		}
	}
}

// TestBrokenWorlds: a line too few, or in another place.
func TestBrokenWorlds(t *testing.T) {
	taken := 0
	for i := range world() {
		text := lined(slices.Delete(world(), i, i+1)...) + "still\n"
		if _, ok := hold(t, text); ok { // pages, rules and origins may be none
			taken++
		}
		for k := range i {
			l := world()
			l[i], l[k] = l[k], l[i]
			hold(t, lined(l...))
		}
	}
	if taken != 4 {
		t.Errorf("P27.1: %d worlds with a line too few are taken", taken)
	}
}

// TestFirstIsWorld: any other command ahead of the world, and none.
func TestFirstIsWorld(t *testing.T) {
	for _, line := range story() {
		wantRefused(t, line)
		wantRefused(t, lined(line))
		wantRefused(t, lined(append([]string{line}, behind("still")...)...))
	}
	wantTold(t, append([]string{"", "# a world comes", ""}, behind("", "still", "#")...), "ok", "ok no")
}

// TestSecondWorld: wherever it stands, and whatever it is.
func TestSecondWorld(t *testing.T) {
	for _, second := range [][]string{world(), worldBut(pageA, pageB), worldBut(originLine, `origin "x"`)} {
		all := behind(story()...)
		for i := len(world()); i <= len(all); i++ {
			wantRefused(t, lined(slices.Insert(slices.Clone(all), i, second...)...))
		}
		wantRefused(t, lined(slices.Concat(second, world())...))
		wantRefused(t, lined(slices.Concat(world(), second, second)...))
	}
}

// numbered is the line with another number at a place.
func numbered(line string, at int, n int64) string {
	words := strings.Split(line, " ")
	words[1+at] = fmt.Sprint(n)
	return strings.Join(words, " ")
}

// TestWorldNumbers: each number of a world, at both of its ends and beyond.
func TestWorldNumbers(t *testing.T) {
	sets := [][2]int64{{0, 65536}, {0, 1}, {0, top}, {0, top}, {16384, 65536}, {1024, top}}
	confs := [][2]int64{{0, 64}, {0, 1 << 60}, {0, 1 << 60}, {0, 64}}
	for line, ends := range map[string][][2]int64{serverLine: sets, clientLine: sets, confLine: confs} {
		for at, x := range ends {
			for _, n := range []int64{x[0], x[0] + 1, x[1] - 1, x[1]} {
				wantTold(t, append(worldBut(line, numbered(line, at, n)), "dead"), "ok", "ok")
			}
			for _, n := range []int64{x[0] - 1, x[1] + 1, -longest - 1, longest} {
				wantRefused(t, lined(worldBut(line, numbered(line, at, n))...))
			}
		}
	}
}

// each is a line for each number from 0 on, in which it stands for %d.
func each(n int, line string) string {
	var l []string
	for i := range n {
		l = append(l, fmt.Sprintf(line, i))
	}
	return strings.Join(l, "\n")
}

// TestWorldLists: pages, rules and origins, as many as may be, and one more.
func TestWorldLists(t *testing.T) {
	for _, c := range []struct {
		name, old, some, more string
	}{
		{"pages", pageA, each(63, `page "y" "/%d" 200 "" "" ""`), `page "y" "/more" 200 "" "" ""`},
		{"rules", ruleLine, each(64, `rule "y" "/%d" "x" "/b"`), `rule "y" "/more"`},
		{"origins", originLine, each(16, `origin "https://x%d"`), `origin "https://more"`},
		{"choices", pageA, `page "x" "/a" 200 "a"` + strings.ReplaceAll(each(8, ` "%d" ""`), "\n", ""), `page "x" "/c" 200 "a"` + strings.ReplaceAll(each(9, ` "%d" ""`), "\n", "")},
		{"pushes", ruleLine, `rule "x" "/a"` + strings.ReplaceAll(each(8, ` "x" "/%d"`), "\n", ""), `rule "x" "/b"` + strings.ReplaceAll(each(9, ` "x" "/%d"`), "\n", "")},
		{"pages twice", pageA, pageA, `page "x" "/a" 404 "" "" ""`},
		{"rules twice", ruleLine, ruleLine, `rule "x" "/a"`},
		{"origins twice", originLine, originLine, `origin "HTTPS://X:443"`},
		{"wrong page", pageA, pageA, `page "x" "a" 200 "" "" ""`},
		{"wrong rule", ruleLine, ruleLine, `rule "x" "a"`},
		{"wrong origin", originLine, originLine, `origin "x"`},
	} {
		wantTold(t, append(worldBut(c.old, c.some), "still"), "ok", "ok no")
		wantRefused(t, lined(append(worldBut(c.old, c.some+"\n"+c.more), "still")...))
		if c.name != "choices" && c.name != "pushes" {
			wantRefused(t, lined(worldBut(c.old, c.more+"\n"+c.some)...))
		}
	}
}

// TestScriptsLimits: as long as a script may be, by its bytes, its lines and one line,
// and one more of each.
func TestScriptsLimits(t *testing.T) {
	head := lined(behind("dead")...)
	lines := strings.Count(head, "\n")
	wantSame := func(text string) {
		t.Helper()
		if told, ok := hold(t, text); !ok || told != "ok\nok\n" {
			t.Errorf("P27.1: of %d bytes: %s, %t", len(text), shown(told), ok)
		}
	}
	wantSame(head + strings.Repeat("\n", mostLines-lines))
	wantSame(head + strings.Repeat("\n", mostLines-lines-1) + "# the last")
	wantRefused(t, head+strings.Repeat("\n", mostLines-lines+1))
	wantRefused(t, head+strings.Repeat("\n", mostLines-lines)+"#")

	long := "#" + strings.Repeat("-", mostLine-1) + "\n"
	wantSame(long + head + long)
	wantSame(strings.TrimSuffix(long+head+long, "\n"))
	wantRefused(t, "#"+long+head)
	wantRefused(t, head+"#"+strings.TrimSuffix(long, "\n"))

	most := head + strings.Repeat(long, (mostBytes-len(head))/len(long))
	most += "#" + strings.Repeat("-", mostBytes-len(most)-1)
	wantSame(most)
	wantRefused(t, most+"-")
}
